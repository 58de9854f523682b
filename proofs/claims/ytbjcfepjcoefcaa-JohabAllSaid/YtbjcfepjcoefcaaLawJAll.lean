/-
  The law JohabAll (a closed sentence) holds: all pairs are the document's, 11,223 of them; no two have one sign.
  Conditions: none beyond the row's own.
-/
import Derived.Test.YtbjcfepjcoefcaaJc6
import Derived.ChangeMaps
namespace Go.Proofs.Ytbjcfepjcoefcaa.johabAll
open Go Go.Proofs.Ytbjcfepjcoefcaa Go.ChangeShapes Go.WideShapes Go.ChangeAt Go.RowKit
open Go.ChangeMaps (open_string shut_string)
set_option linter.unusedSimpArgs false
set_option linter.unusedVariables false

theorem own : ownKnob Try.prog.godebug = none := by kernel_rfl
theorem pairsJ_succ (b k : Nat) : pairsJ b (k + 1) = pairsJ b k ++ pairJ (b + k) := rfl
theorem pairsJ_at (q : Nat) (hq : q < 32768) (hs : signJ (32768 + q) ≠ 0) : (pairsJ 32768 q).length < 11223 ∧ (pairsJ 32768 32768)[(pairsJ 32768 q).length]? = some ((((32768 + q : Nat) : Int)), signJ (32768 + q)) := by
  have h := pairsJ_add 32768 (q + 1) (32768 - (q + 1))
  rw [show q + 1 + (32768 - (q + 1)) = 32768 from by omega, pairsJ_succ 32768 q, pairJ_yes hs] at h
  have hc := pairsJ_count
  rw [h] at hc ⊢
  refine ⟨by simp at hc; omega, ?_⟩
  rw [List.append_assoc, List.getElem?_append_right (Nat.le_refl _)]
  simp
theorem signJ_bd (c : Nat) (h : c < 65536) : 0 ≤ signJ c ∧ signJ c ≤ 55203 := by
  by_cases hs : signJ c = 0
  · omega
  · obtain ⟨_, h2, h3, _⟩ := okJ_at c h hs
    omega
theorem sum_bd : ∀ q : Nat, q ≤ 32768 → 0 ≤ sumR signJ q 32768 ∧ sumR signJ q 32768 ≤ 55203 * q
  | 0, _ => by simp [sumR]
  | q + 1, h => by
    have ih := sum_bd q (by omega)
    have := signJ_bd (32768 + q) (by omega)
    rw [sumR]
    omega
def nid (n : Nat) : Int := n
theorem nid_sum (b : Nat) : ∀ k : Nat, 2 * sumR nid k b = (k : Int) * (2 * b - 1) + (k : Int) * k
  | 0 => by simp [sumR]
  | k + 1 => by
    have ih := nid_sum b k
    rw [sumR, Int.mul_add, ih]
    unfold nid
    have e : ((k + 1 : Nat) : Int) = (k : Int) + 1 := by omega
    have e2 : ((b + k : Nat) : Int) = (b : Int) + k := by omega
    rw [e, e2]
    simp only [Int.add_mul, Int.mul_add, Int.mul_sub, Int.one_mul, Int.mul_one]
    omega
theorem nid_lo (k : Nat) (h : k ≤ 51) : 0 ≤ sumR nid k 12593 ∧ sumR nid k 12593 ≤ 12650 * k := by
  have h1 := nid_sum 12593 k
  have h2 : (k : Int) * k ≤ 51 * (k : Int) := Int.mul_le_mul_of_nonneg_right (by omega) (by omega)
  have h3 : 0 ≤ (k : Int) * k := Int.mul_nonneg (by omega) (by omega)
  omega
theorem nid_hi (k : Nat) (h : k ≤ 11172) : 0 ≤ sumR nid k 44032 ∧ sumR nid k 44032 ≤ 60000 * k := by
  have h1 := nid_sum 44032 k
  have h2 : (k : Int) * k ≤ 11172 * (k : Int) := Int.mul_le_mul_of_nonneg_right (by omega) (by omega)
  have h3 : 0 ≤ (k : Int) * k := Int.mul_nonneg (by omega) (by omega)
  omega
theorem nid_all : sumR nid 51 12593 + sumR nid 11172 44032 = 554970228 := by
  have h1 := nid_sum 12593 51
  have h2 := nid_sum 44032 11172
  omega
def L0 : List Pr := pairsJ 32768 32768
set_option maxRecDepth 100000 in
set_option maxHeartbeats 4000000 in
theorem walk (W : World) : Calls Try.prog 6 #[] W fun e w' => e = .returned (.bool true) ∧ Ext W w' := by
  obtain ⟨m, hm⟩ : ∃ m : Nat, m = 11223 := ⟨_, rfl⟩
  have HP : Hid (∀ w, Calls Try.prog 13 #[] w fun e w' => ∃ a cap, e = .returned (.slice a m cap) ∧ IsPairs w' a m cap L0 ∧ Ext w w') := fun w => by
    have h := pairs_all w
    rw [pairsJ_all, pairsJ_count, ← hm] at h
    exact h
  have hm1 : ((m : Int) != 11223) = false := by rw [hm]; decide
  have hm2 : ((m : Int) == 11223) = true := by rw [hm]; decide
  have HM := Lib.hid hm
  clear hm
  have HR := Lib.hid (fun (c : Nat) (h : c < 65536) w => rsignj c w h)
  have HA := Lib.hid (fun w => awake6 w)
  go_enter Try.func6, Try.ntmps6
  go_wp2_with (go_at_call 13; refine (HP.out _).mono ?_; rintro e w1 ⟨a, cap, rfl, hl, hb1⟩)
  go_loopw [2, 3, 4] (fun k s c wr => ∃ (q n : Nat) (t : Int), q ≤ 32768 ∧ c = .int .i64 ((32768 + q : Nat) : Int) ∧ k = .int .i64 n ∧ s = .int .i64 t ∧ Hid (n = (pairsJ 32768 q).length) ∧ Hid (t = sumR signJ q 32768) ∧ Ext w1 wr) (fun _ _ c _ => 65536 - (intOf c).toNat)
  case atStart => exact ⟨0, 0, 0, by omega, rfl, rfl, rfl, rfl, rfl, Ext.refl _⟩
  case round =>
    obtain ⟨q, n, t, hq, rfl, rfl, rfl, HN, HT, hx⟩ := hrel
    obtain ⟨c, hc⟩ : ∃ c, c = 32768 + q := ⟨_, rfl⟩
    rw [← hc]
    by_cases hlt : c < 65536
    · have h8 : (c : Int) < 65536 := by omega
      have hsb := sum_bd q hq
      have hgb := signJ_bd c hlt
      rw [← HT.out] at hsb
      have t0 : 0 ≤ t := hsb.1
      have t1 : t ≤ 1808891904 := by omega
      clear hsb
      have HB := Lib.hid (HR.out c hlt)
      by_cases hs : signJ c = 0
      · have HN2 : Hid (n = (pairsJ 32768 (q + 1)).length) := by
          show _ = _
          rw [pairsJ, ← hc, pairJ_no hs, List.append_nil]
          exact HN.out
        have HT2 : Hid (t = sumR signJ (q + 1) 32768) := by
          show _ = _
          rw [sumR, ← hc, hs, ← HT.out]
          omega
        rw [hs] at HB
        clear hs hgb
        have HC := Lib.hid hc
        clear hc
        go_wp2_with (go_at_call 8; refine (HB.out _).mono ?_; rintro e w2 ⟨rfl, hb2⟩)
        go_roundw
        case rel => exact ⟨q + 1, n, t, by have := HC.out; omega, by have := HC.out; rw [show 32768 + (q + 1) = c + 1 from by omega]; go_num, rfl, rfl, HN2, HT2, hx.trans hb2⟩
        case measure => simp [intOf]; omega
      · obtain ⟨hn, hat⟩ := pairsJ_at q (by omega) (by rw [← hc]; exact hs)
        rw [← HN.out] at hn hat
        rw [← HM.out] at hn
        rw [← hc] at hat
        obtain ⟨x, off, rfl, hxl, hcell⟩ := pairs_at hl (by omega)
        have hce := hcell n _ hat
        have hs1 : (signJ c == 0) = false := beq_false_of_ne hs
        have HN2 : Hid (n + 1 = (pairsJ 32768 (q + 1)).length) := by
          show _ = _
          rw [pairsJ, ← hc, pairJ_yes hs, List.length_append, ← HN.out]
          rfl
        have HT2 : Hid (t + signJ c = sumR signJ (q + 1) 32768) := by
          show _ = _
          rw [sumR, ← hc, ← HT.out]
        generalize signJ c = s at *
        have HCE := Lib.hid hce
        have HC := Lib.hid hc
        have hn2 : decide (m ≤ n) = false := decide_eq_false (by omega)
        have hn3 : (n : Int) < 20000 := by have := HM.out; omega
        obtain ⟨g0, g1⟩ := hgb
        clear hs hc hat hcell hce
        go_wp2_with (go_at_call 8; refine (HB.out _).mono ?_; rintro e w2 ⟨rfl, hb2⟩; have hx2 := hx.trans hb2; have d0 := (World.cell?_of_block (hx2.block x hxl)).trans HCE.out.1; have d1 := (World.cell?_of_block (hx2.block x hxl)).trans HCE.out.2)
        go_roundw
        case rel => exact ⟨q + 1, n + 1, t + s, by have := HC.out; omega, by have := HC.out; rw [show 32768 + (q + 1) = c + 1 from by omega]; go_num, by go_num, rfl, HN2, HT2, hx2⟩
        case measure => simp [intOf]; omega
    · have hq2 : q = 32768 := by omega
      subst hq2
      have hn : n = m := by rw [HN.out, pairsJ_count, HM.out]
      have ht : t = 554970228 := by rw [HT.out, sum_J]
      subst hn ht hc
      clear hl HN HT
      have hx1 := hb1.trans hx
      clear hb1 hx
      go_wp2
      go_loop [6, 7] (fun s p => ∃ (j : Nat) (t : Int), j ≤ 51 ∧ p = .int .i64 ((12593 + j : Nat) : Int) ∧ s = .int .i64 t ∧ Hid (t = sumR nid j 12593)) (fun _ p => 12644 - (intOf p).toNat)
      case atStart => exact ⟨0, 0, by omega, rfl, rfl, rfl⟩
      case round =>
        obtain ⟨j, t, hj, rfl, rfl, HT⟩ := hrel
        obtain ⟨c, hc⟩ : ∃ c, c = 12593 + j := ⟨_, rfl⟩
        rw [← hc]
        have hbd := nid_lo j hj
        rw [← HT.out] at hbd
        obtain ⟨t0, t1⟩ := hbd
        have t2 : t ≤ 645150 := by omega
        by_cases hlt : j < 51
        · have h8 : (c : Int) ≤ 12643 := by omega
          have HT2 : Hid (t + (c : Int) = sumR nid (j + 1) 12593) := by
            show _ = _
            rw [sumR, ← hc, ← HT.out]
            rfl
          have HC := Lib.hid hc
          clear hc t1
          go_wp2
          go_round
          case rel => exact ⟨j + 1, t + c, by omega, by have := HC.out; rw [show 12593 + (j + 1) = c + 1 from by omega]; go_num, rfl, HT2⟩
          case measure => simp [intOf]; omega
        · have hj2 : j = 51 := by omega
          subst hj2
          subst hc
          have HT51 : Hid (t = sumR nid 51 12593) := HT.out
          clear HT t1
          go_wp2
          go_loop [6, 8] (fun s p => ∃ (j : Nat) (r : Int), j ≤ 11172 ∧ p = .int .i64 ((44032 + j : Nat) : Int) ∧ s = .int .i64 (t + r) ∧ Hid (r = sumR nid j 44032)) (fun _ p => 55204 - (intOf p).toNat)
          case atStart => exact ⟨0, 0, by omega, rfl, by rw [Int.add_zero], rfl⟩
          case round =>
            obtain ⟨j, r, hj, rfl, rfl, HT⟩ := hrel
            obtain ⟨c, hc⟩ : ∃ c, c = 44032 + j := ⟨_, rfl⟩
            rw [← hc]
            have hbd := nid_hi j hj
            rw [← HT.out] at hbd
            obtain ⟨r0, r1⟩ := hbd
            have r2 : r ≤ 670320000 := by omega
            by_cases hlt : j < 11172
            · have h8 : (c : Int) ≤ 55203 := by omega
              have HT2 : Hid (r + (c : Int) = sumR nid (j + 1) 44032) := by
                show _ = _
                rw [sumR, ← hc, ← HT.out]
                rfl
              have HC := Lib.hid hc
              clear hc r1
              go_wp2
              go_round
              case rel => exact ⟨j + 1, r + c, by omega, by have := HC.out; rw [show 44032 + (j + 1) = c + 1 from by omega]; go_num, by rw [Int.add_assoc], HT2⟩
              case measure => simp [intOf]; omega
            · have hj2 : j = 11172 := by omega
              subst hj2
              subst hc
              have hs : t + r = 554970228 := by rw [HT51.out, HT.out, nid_all]
              clear HT HT51 r1
              rw [hs]
              clear hs
              go_wp2_with (go_at_call 9; refine (HA.out _).mono ?_; rintro e w4 ⟨rfl, hb4⟩)
              go_ret
              exact ⟨rfl, hx1.trans hb4⟩
set_option maxRecDepth 100000 in
theorem lifted (os : Os) (started : os.Started) (H : Type) (enc : TypeId × Value → H) :
    ReturnsInHanded {} Try.checked os 6 .any (Rows.johabAllSpec.pre6 enc Try.prog Try.f6 Rows.johabAllRow.domain false) (Rows.johabAllSpec.post enc Try.prog Try.f6 false true false false) := by
  refine returnsInHanded_of_change (C := Try.checked) own started (by kernel_rfl) Try.func6
    (ChangeSpec.witness6 (enc := enc) (C := Try.checked) false ⟨#[], #[], []⟩ 8 (by kernel_rfl) (by kernel_rfl) (by kernel_rfl) (by kernel_rfl)) ?_
  intro W base args ds gs before hval0 hW hcnd _
  have hval : ∀ (j : Nat) t v, Try.f6.params[j]? = some t → args[j]? = some v → Value.okWide Try.prog W .any base t v := hval0
  have hW' := hW
  obtain ⟨p, q, hA0, hV, rfl, hfz, hnd⟩ := hW
  have hA : DataW.TrodAll enc Try.prog W 0 (fun _ => true) true Try.f6.params.toList args.toList ds p := hA0
  rw [Try.params6] at hA hval
  obtain ⟨hnil, rfl, rfl⟩ := trodAll_nil hA
  obtain rfl : args = #[] := by cases args; simp_all
  obtain ⟨rfl, rfl⟩ := trodVars_none hV
  clear hA0 hval0
  try simp only [List.append_nil] at hW'
  refine (walk W).mono fun e W' ⟨he, bel⟩ => ?_
  subst he
  exact ⟨_, rfl, _, _, _, [], [], [], hW', trodAll_mk1 (shut_bool Try.underlying4 _), trodAll_mk0, rfl, bel.frame _, fun h => by cases h⟩

theorem over : Rows.johabAllRow.holds Try.pinned (OpenSpec.ofChange Rows.johabAllSpec) :=
  OpenClaim.holds_of_wide 6 Try.f6 rfl rfl rfl rfl rfl rfl rfl ⟨rfl, rfl, rfl, rfl, rfl⟩ rfl rfl rfl rfl rfl (by kernel_rfl) Try.func6 (by kernel_rfl)
    (of_decide_eq_true (by kernel_rfl)) (by unfold Func.isWrapper; first | (rw [if_pos (by decide +kernel)]; kernel_rfl) | (rw [if_neg (by decide +kernel)]; exact ⟨rfl, rfl⟩))
    (fun os started H enc _ => lifted os started H enc)

/-- THE STATEMENT. -/
theorem proved : Rows.JohabAllSaid := over
#print axioms proved

end Go.Proofs.Ytbjcfepjcoefcaa.johabAll
