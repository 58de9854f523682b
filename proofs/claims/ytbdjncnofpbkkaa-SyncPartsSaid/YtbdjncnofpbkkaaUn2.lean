/-
  Layer 11, the program: sounds, Extra, Clean, Put, Drop.
-/
import Derived.Test.YtbdjncnofpbkkaaByU
namespace Go.Proofs.Ytbdjncnofpbkkaa
open Go Go.ChangeShapes Go.WideShapes Go.ChangeAt Go.RowKit
set_option linter.unusedSimpArgs false
set_option linter.unusedVariables false

set_option maxRecDepth 100000 in
set_option maxHeartbeats 1000000 in
theorem clooks (s : ByteArray) (i : Nat) (w : World) (h : i < s.size) (hs : s.size ≤ 1000000) : Calls Try.prog 28 #[.string s, .int .i64 i] w fun e w' => e = .returned (.bool (looksU (s.data.toList.drop i))) ∧ w = w' := by
  have hii : (i : Int) < s.size := by omega
  by_cases hx : s[i].toNat = 255
  · have g0 : ((s[i].toNat : Int) != 255) = false := by rw [hx]; rfl
    have hwk : IntKind.i64.wrap ((i : Int) + 1) = (i : Int) + 1 := IntWalk.i64_in _ (by omega)
    by_cases h2 : i + 1 < s.size
    · have h2i : (i : Int) + 1 < s.size := by omega
      have g1 : ((i : Int) + 1 == (s.size : Int)) = false := beq_false_of_ne (by omega)
      have hk1 : ((i : Int) + 1).toNat = i + 1 := by omega
      have hk2 : ¬ (i : Int) + 1 < 0 := by omega
      rw [looks_more s i h hx h2]
      have hy := s[i + 1].toNat_lt
      by_cases y0 : s[i + 1].toNat = 0
      · have g2 : ((s[i + 1].toNat : Int) == 0) = true := by rw [y0]; rfl
        rw [decide_eq_true (.inl y0)]
        clear y0 hx hy
        go_enter Try.func28, Try.ntmps28
        go_wp2
        go_ret
        exact ⟨rfl, rfl⟩
      · have g2 : ((s[i + 1].toNat : Int) == 0) = false := beq_false_of_ne (by omega)
        by_cases y1 : 224 ≤ s[i + 1].toNat
        · have g3 : (224 : Int) ≤ s[i + 1].toNat := by omega
          rw [decide_eq_true (.inr y1)]
          clear y0 y1 hx hy
          go_enter Try.func28, Try.ntmps28
          go_wp2
          go_ret
          exact ⟨rfl, rfl⟩
        · have g3 : ¬ (224 : Int) ≤ s[i + 1].toNat := by omega
          have g4 : decide ((224 : Int) ≤ s[i + 1].toNat) = false := decide_eq_false g3
          rw [decide_eq_false (by omega)]
          clear y0 y1 hx hy
          go_enter Try.func28, Try.ntmps28
          go_wp2
          go_ret
          exact ⟨rfl, rfl⟩
    · have g1 : ((i : Int) + 1 == (s.size : Int)) = true := beq_iff_eq.2 (by omega)
      rw [looks_last s i h hx h2]
      clear hx h2
      go_enter Try.func28, Try.ntmps28
      go_wp2
      go_ret
      exact ⟨rfl, rfl⟩
  · have g0 : ((s[i].toNat : Int) != 255) = true := by rw [bne, beq_false_of_ne (by omega)]; rfl
    rw [looks_no s i h hx]
    clear hx
    go_enter Try.func28, Try.ntmps28
    go_wp2
    go_ret
    exact ⟨rfl, rfl⟩
theorem extra_step (s : ByteArray) (k : Nat) (hk : k < s.size) : extraU (s.data.toList.drop k) = (if looksU (s.data.toList.drop k) then 1 else 0) + extraU (s.data.toList.drop (k + 1)) := by rw [ul_at s k hk, extraU_cons]
set_option maxRecDepth 100000 in
set_option maxHeartbeats 1000000 in
theorem cextra (s : ByteArray) (w : World) (hs : s.size ≤ 2000) : Calls Try.prog 16 #[.string s] w fun e w' => e = .returned (.int .i64 (extraU s.data.toList)) ∧ Ext w w' := by
  have HL := Lib.hid (fun k w hk => clooks s k w hk (by omega))
  have HStep := Lib.hid (fun k hk => extra_step s k hk)
  have HEnd : Hid (extraU (s.data.toList.drop s.size) = 0) := by show _ = _; rw [ul_end s s.size (by omega)]; rfl
  obtain ⟨N, hN⟩ : ∃ N, N = extraU s.data.toList := ⟨_, rfl⟩
  have H0 : Hid (0 + extraU (s.data.toList.drop 0) = N) := by show _ = _; rw [hN, Nat.zero_add]; rfl
  rw [← hN]
  clear hN
  go_enter Try.func16, Try.ntmps16
  go_wp2
  go_loopw [3, 7] (fun x i wr => ∃ (k e : Nat), k ≤ s.size ∧ e ≤ k ∧ x = .int .i64 e ∧ i = .int .i64 k ∧ wr = w ∧ Hid (e + extraU (s.data.toList.drop k) = N)) (fun _ i _ => s.size - (intOf i).toNat)
  case atStart => exact ⟨0, 0, by omega, by omega, rfl, rfl, rfl, H0⟩
  case round =>
    obtain ⟨k, x, hk, hxk, rfl, rfl, rfl, HN⟩ := hrel
    clear H0
    by_cases hlt : k < s.size
    · have hki : (k : Int) < s.size := by omega
      have HLk := Lib.hid (fun w => HL.out k w hlt)
      have hst := HStep.out k hlt
      cases hb : looksU (s.data.toList.drop k) with
      | true =>
        rw [hb] at HLk hst
        have HN2 : Hid (x + 1 + extraU (s.data.toList.drop (k + 1)) = N) := by
          show _ = N
          have := HN.out
          rw [hst] at this
          simp at this
          omega
        clear HL HStep HEnd HN hst hb
        go_wp2_with (go_at_call 28; refine (HLk.out _).mono ?_; rintro e w1 ⟨rfl, rfl⟩)
        go_roundw
        case rel => exact ⟨k + 1, x + 1, by omega, by omega, by first | rfl | go_num, by first | rfl | go_num, by first | rfl | trivial, HN2⟩
        case measure => simp [intOf]; omega
      | false =>
        rw [hb] at HLk hst
        have HN2 : Hid (x + extraU (s.data.toList.drop (k + 1)) = N) := by
          show _ = N
          have := HN.out
          rw [hst] at this
          simp at this
          omega
        clear HL HStep HEnd HN hst hb
        go_wp2_with (go_at_call 28; refine (HLk.out _).mono ?_; rintro e w1 ⟨rfl, rfl⟩)
        go_roundw
        case rel => exact ⟨k + 1, x, by omega, by omega, rfl, by first | rfl | go_num, by first | rfl | trivial, HN2⟩
        case measure => simp [intOf]; omega
    · have hke : k = s.size := by omega
      subst hke
      have hki : ¬ (s.size : Int) < s.size := by omega
      have hx : x = N := by
        have := HN.out
        rw [HEnd.out] at this
        omega
      subst hx
      clear HL HStep HEnd HN
      go_wp2
      go_ret
      exact ⟨rfl, Ext.refl _⟩
set_option maxRecDepth 100000 in
theorem cclean (s : ByteArray) (w : World) (hs : s.size ≤ 2000) : Calls Try.prog 11 #[.string s] w fun e w' => e = .returned (.bool (decide (extraU s.data.toList = 0))) ∧ Ext w w' := by
  have HE := Lib.hid (fun w => cextra s w hs)
  generalize extraU s.data.toList = N at HE ⊢
  by_cases h : N = 0
  · have g : ((N : Int) == 0) = true := by rw [h]; rfl
    rw [decide_eq_true h]
    clear h
    go_enter Try.func11, Try.ntmps11
    go_wp2_with (go_at_call 16; refine (HE.out _).mono ?_; rintro e w1 ⟨rfl, hb1⟩)
    go_ret
    exact ⟨by first | rfl | (simp [g]; done), hb1⟩
  · have g : ((N : Int) == 0) = false := beq_false_of_ne (by omega)
    rw [decide_eq_false h]
    clear h
    go_enter Try.func11, Try.ntmps11
    go_wp2_with (go_at_call 16; refine (HE.out _).mono ?_; rintro e w1 ⟨rfl, hb1⟩)
    go_ret
    exact ⟨by first | rfl | (simp [g]; done), hb1⟩
set_option maxRecDepth 100000 in
set_option maxHeartbeats 4000000 in
theorem cput (s : ByteArray) (w : World) (hs : s.size ≤ 2000) : Calls Try.prog 12 #[.string s] w fun e w' => e = .returned (.string (bsU (putU s.data.toList))) ∧ Ext w w' := by
  have HE := Lib.hid (fun w => cextra s w hs)
  have HL := Lib.hid (fun k w hk => clooks s k w hk (by omega))
  have HStep : Hid (∀ k (hk : k < s.size), putU (s.data.toList.drop k) = s[k] :: (if looksU (s.data.toList.drop k) then 0 :: putU (s.data.toList.drop (k + 1)) else putU (s.data.toList.drop (k + 1)))) := fun k hk => by rw [ul_at s k hk, putU_cons]
  have HEnd : Hid (putU (s.data.toList.drop s.size) = []) := by show _ = _; rw [ul_end s s.size (by omega)]; rfl
  have hN := extra_le11 s.data.toList
  have hN2 : extraU s.data.toList ≤ s.size := hN
  generalize extraU s.data.toList = N at HE hN2
  obtain ⟨R, hR⟩ : ∃ R, R = putU s.data.toList := ⟨_, rfl⟩
  have H0 : Hid ([] ++ putU (s.data.toList.drop 0) = R) := hR.symm
  rw [← hR]
  obtain ⟨i0, hi, hz0, hz1, hz2⟩ := info_parts_u8U
  clear hR hN
  go_enter Try.func12, Try.ntmps12
  go_wp2_with (go_at_call 16; refine (HE.out _).mono ?_; rintro e w1 ⟨rfl, hb1⟩; obtain ⟨wm, hmk, hown, hgm⟩ := make_rowU (s.size + N) (by omega) w1; rw [show (((s.size + N : Nat)) : Int) = (s.size : Int) + N by omega] at hmk)
  have hxm : Ext w wm := hb1.trans (Below.grown (Ext.refl w1) hgm (Nat.le_refl _) (by rintro k ⟨⟩))
  have hlm : w1.heap.size ≤ wm.heap.size := (Below.grown (Ext.refl w1) hgm (Nat.le_refl _) (by rintro k ⟨⟩) : Ext w1 wm).size
  have ho0 := hown w1.heap.size (Nat.le_refl _)
  have hxb : Ext w1 wm := Below.grown (Ext.refl w1) hgm (Nat.le_refl _) (by rintro k ⟨⟩)
  have HB1 := Lib.hid hb1
  clear hown hgm hmk hxm hb1 HE
  go_loopw [3, 13] (fun v i wr => ∃ (k : Nat) (dn : List UInt8), k ≤ s.size ∧ i = .int .i64 k ∧ wr.ownsRow w1.heap.size 5 1 v dn.length (Lib.byteCells dn) ∧ Ext w1 wr ∧ dn.length ≤ 2 * k ∧ Hid (dn ++ putU (s.data.toList.drop k) = R)) (fun _ i _ => s.size - (intOf i).toNat)
  case atStart => exact ⟨0, [], by omega, rfl, ho0, hxb, by decide, H0⟩
  case round =>
    obtain ⟨k, dn, hk, rfl, ho, hx, hdl, HA⟩ := hrel
    clear ho0 hxb H0
    have hle := hx.size
    by_cases hlt : k < s.size
    · have hki : (k : Int) < s.size := by omega
      have HLk := Lib.hid (fun w => HL.out k w hlt)
      have HS1 := Lib.hid (HStep.out k hlt)
      cases hb : looksU (s.data.toList.drop k) with
      | true =>
        rw [hb] at HLk HS1
        have HN : Hid ((dn ++ [s[k]] ++ [0]) ++ putU (s.data.toList.drop (k + 1)) = R) := by
          show _ = R
          rw [← HA.out, HS1.out, if_pos rfl]
          simp
        clear HL HStep HEnd HA HS1 hb
        go_wp2_with (first
          | (at_builtin; refine wpList_append_own _ rfl _ _ 52 rfl w1.heap.size 5 i0 (.int .u8 0) 1 1 Try.underlying52 hi hz0 hz1 hz2 rfl (by decide) _ _ _ rfl (ho.alloc _) ⟨wr.heap.size, 0, none⟩ 1 1 [.int .u8 (s[k].toNat : Int)] rfl rfl (cell_one_newU _ _ _) (fun x hx => by simp at hx; subst hx; rfl) (by unfold maxLen; omega) (by omega) (by simp; omega) ?_; intro v2 w2 ho2 hgrow2 hnil2; have hx2 : Ext w1 w2 := hx.own ho (Nat.le_refl _) hgrow2; have hle2 := hx2.size; clear hgrow2 hnil2)
          | (go_at_call 28; refine (HLk.out _).mono ?_; rintro e w3 ⟨rfl, rfl⟩)
          | (at_builtin; refine wpList_append_own _ rfl _ _ 52 rfl w1.heap.size 5 i0 (.int .u8 0) 1 1 Try.underlying52 hi hz0 hz1 hz2 rfl (by decide) _ _ _ rfl (ho2.alloc _) ⟨w2.heap.size, 0, none⟩ 1 1 [.int .u8 0] rfl rfl (cell_one_newU _ _ _) (fun x hx => by simp at hx; subst hx; rfl) (by unfold maxLen; omega) (by omega) (by simp; omega) ?_; intro v4 w4 ho4 hgrow4 hnil4; have hx4 : Ext w1 w4 := hx2.own ho2 (Nat.le_refl _) hgrow4; clear hgrow4 hnil4))
        go_roundw
        case rel =>
          refine ⟨k + 1, dn ++ [s[k]] ++ [0], by omega, by first | rfl | go_num, ?_, hx4, by simp; omega, HN⟩
          rw [byteCells_appU, byteCells_appU, List.length_append, List.length_append]
          exact ho4
        case measure => simp [intOf]; omega
      | false =>
        rw [hb] at HLk HS1
        have HN : Hid ((dn ++ [s[k]]) ++ putU (s.data.toList.drop (k + 1)) = R) := by
          show _ = R
          rw [← HA.out, HS1.out, if_neg (by decide)]
          simp
        clear HL HStep HEnd HA HS1 hb
        go_wp2_with (first
          | (at_builtin; refine wpList_append_own _ rfl _ _ 52 rfl w1.heap.size 5 i0 (.int .u8 0) 1 1 Try.underlying52 hi hz0 hz1 hz2 rfl (by decide) _ _ _ rfl (ho.alloc _) ⟨wr.heap.size, 0, none⟩ 1 1 [.int .u8 (s[k].toNat : Int)] rfl rfl (cell_one_newU _ _ _) (fun x hx => by simp at hx; subst hx; rfl) (by unfold maxLen; omega) (by omega) (by simp; omega) ?_; intro v2 w2 ho2 hgrow2 hnil2; have hx2 : Ext w1 w2 := hx.own ho (Nat.le_refl _) hgrow2; have hle2 := hx2.size; clear hgrow2 hnil2)
          | (go_at_call 28; refine (HLk.out _).mono ?_; rintro e w3 ⟨rfl, rfl⟩))
        go_roundw
        case rel =>
          refine ⟨k + 1, dn ++ [s[k]], by omega, by first | rfl | go_num, ?_, hx2, by simp; omega, HN⟩
          rw [byteCells_appU, List.length_append]
          exact ho2
        case measure => simp [intOf]; omega
    · have hke : k = s.size := by omega
      subst hke
      have hki : ¬ (s.size : Int) < s.size := by omega
      have hr : dn = R := by
        have := HA.out
        rw [HEnd.out, List.append_nil] at this
        exact this
      subst hr
      have hst := own_stringU ho
      clear HL HStep HEnd HA ho
      go_wp2
      go_ret
      exact ⟨rfl, HB1.out.trans hx⟩
/-- What is still to come of what is kept, at a place. -/
def restU (l : List UInt8) (k : Nat) : List UInt8 := if 0 < k ∧ (l.getD (k - 1) 1).toNat = 255 ∧ (l.getD k 1).toNat = 0 then dropU (l.drop (k + 1)) else dropU (l.drop k)
theorem getD_out (l : List UInt8) (k : Nat) (h : l.length ≤ k) : l.getD k 1 = 1 := by
  rw [List.getD_eq_getElem?_getD, List.getElem?_eq_none h]
  rfl
theorem getD_one (s : ByteArray) (k : Nat) (h : k < s.size) : s.data.toList.getD k 1 = s[k] := by
  have e := ul_at s k h
  have h2 : (s.data.toList.drop k)[0]? = some s[k] := by rw [e]; rfl
  rw [List.getElem?_drop] at h2
  rw [List.getD_eq_getElem?_getD, show s.data.toList[k]? = some s[k] from h2]
  rfl
theorem rest_skip (s : ByteArray) (k : Nat) (h : k < s.size) (h0 : 0 < k) (h1 : (s[k - 1]'(by omega)).toNat = 255) (h2 : s[k].toNat = 0) : restU s.data.toList k = restU s.data.toList (k + 1) := by
  have e1 := getD_one s (k - 1) (by omega)
  have e2 := getD_one s k h
  unfold restU
  rw [if_pos ⟨h0, by rw [e1]; exact h1, by rw [e2]; exact h2⟩, if_neg]
  rintro ⟨_, h3, _⟩
  rw [Nat.add_sub_cancel, e2, h2] at h3
  cases h3
theorem rest_keep (s : ByteArray) (k : Nat) (h : k < s.size) (hn : ¬ (0 < k ∧ (s.data.toList.getD (k - 1) 1).toNat = 255 ∧ s[k].toNat = 0)) : restU s.data.toList k = s[k] :: restU s.data.toList (k + 1) := by
  have e2 := getD_one s k h
  have hn2 : ¬ (0 < k ∧ (s.data.toList.getD (k - 1) 1).toNat = 255 ∧ (s.data.toList.getD k 1).toNat = 0) := by rw [e2]; exact hn
  unfold restU
  rw [if_neg hn2, Nat.add_sub_cancel, e2]
  by_cases hx : s[k].toNat = 255 ∧ (s.data.toList.getD (k + 1) 1).toNat = 0
  · rw [if_pos ⟨by omega, hx.1, hx.2⟩]
    have h3 : k + 1 < s.size := by
      rcases Nat.lt_or_ge (k + 1) s.size with h3 | h3
      · exact h3
      · have := hx.2
        rw [getD_out _ _ (show s.data.toList.length ≤ k + 1 from h3)] at this
        cases this
    have h4 := getD_one s (k + 1) h3
    exact dropU_at2 s k h hx.1 h3 (by rw [← h4]; exact hx.2)
  · rw [if_neg (fun e => hx ⟨e.2.1, e.2.2⟩)]
    refine dropU_at s k h ?_
    rintro ⟨h3, h4, h5⟩
    exact hx ⟨h3, by rw [getD_one s (k + 1) h4]; exact h5⟩
/-- Is the byte at a place a 0 behind FF? -/
def putAt (s : ByteArray) (k : Nat) : Prop := 0 < k ∧ (s.data.toList.getD (k - 1) 1).toNat = 255 ∧ (s.data.toList.getD k 1).toNat = 0
instance (s : ByteArray) (k : Nat) : Decidable (putAt s k) := inferInstanceAs (Decidable (_ ∧ _))
set_option maxRecDepth 100000 in
set_option maxHeartbeats 1000000 in
theorem cputd (s : ByteArray) (k : Nat) (w : World) (h : k < s.size) (hs : s.size ≤ 1000000) : Calls Try.prog 29 #[.string s, .int .i64 k] w fun e w' => e = .returned (.bool (decide (putAt s k))) ∧ w = w' := by
  have hki : (k : Int) < s.size := by omega
  have hg := getD_one s k h
  by_cases h0 : 0 < k
  · have h0i : (0 : Int) < k := by omega
    have hkm : k - 1 < s.size := by omega
    have hg2 := getD_one s (k - 1) hkm
    have hw : IntKind.i64.wrap ((k : Int) - 1) = (k : Int) - 1 := IntWalk.i64_in _ (by omega)
    have hw1 : ((k : Int) - 1).toNat = k - 1 := by omega
    have hw2 : ¬ (k : Int) - 1 < 0 := by omega
    have hw3 : (k : Int) - 1 < s.size := by omega
    by_cases hy : s[k].toNat = 0
    · have g1 : ((s[k].toNat : Int) == 0) = true := by rw [hy]; rfl
      by_cases hz : (s[k - 1]'hkm).toNat = 255
      · have g2 : (((s[k - 1]'hkm).toNat : Int) == 255) = true := by rw [hz]; rfl
        rw [decide_eq_true (show putAt s k from ⟨h0, by rw [hg2]; exact hz, by rw [hg]; exact hy⟩)]
        clear hg hg2 hy hz
        go_enter Try.func29, Try.ntmps29
        go_wp2
        go_ret
        exact ⟨rfl, rfl⟩
      · have g2 : (((s[k - 1]'hkm).toNat : Int) == 255) = false := beq_false_of_ne (by omega)
        rw [decide_eq_false (fun e : putAt s k => hz (by rw [← hg2]; exact e.2.1))]
        clear hg hg2 hy hz
        go_enter Try.func29, Try.ntmps29
        go_wp2
        go_ret
        exact ⟨rfl, rfl⟩
    · have g1 : ((s[k].toNat : Int) == 0) = false := beq_false_of_ne (by omega)
      rw [decide_eq_false (fun e : putAt s k => hy (by rw [← hg]; exact e.2.2))]
      clear hg hg2 hy
      go_enter Try.func29, Try.ntmps29
      go_wp2
      go_ret
      exact ⟨rfl, rfl⟩
  · have h0i : ¬ (0 : Int) < k := by omega
    rw [decide_eq_false (fun e : putAt s k => h0 e.1)]
    clear hg h0
    go_enter Try.func29, Try.ntmps29
    go_wp2
    go_ret
    exact ⟨rfl, rfl⟩
theorem rest_skip9 (s : ByteArray) (k : Nat) (h : k < s.size) (hp : putAt s k) : restU s.data.toList k = restU s.data.toList (k + 1) :=
  rest_skip s k h hp.1 (by rw [← getD_one s (k - 1) (by omega)]; exact hp.2.1) (by rw [← getD_one s k h]; exact hp.2.2)
theorem rest_keep9 (s : ByteArray) (k : Nat) (h : k < s.size) (hp : ¬ putAt s k) : restU s.data.toList k = s[k] :: restU s.data.toList (k + 1) :=
  rest_keep s k h (fun e => hp ⟨e.1, e.2.1, by rw [getD_one s k h]; exact e.2.2⟩)
set_option maxRecDepth 100000 in
set_option maxHeartbeats 4000000 in
theorem cdrop (s : ByteArray) (w : World) (hs : s.size ≤ 4000) : Calls Try.prog 14 #[.string s] w fun e w' => e = .returned (.string (bsU (dropU s.data.toList))) ∧ Ext w w' := by
  have HSk := Lib.hid (fun k h hp => rest_skip9 s k h hp)
  have HKe := Lib.hid (fun k h hp => rest_keep9 s k h hp)
  have HP := Lib.hid (fun k w h => cputd s k w h (by omega))
  have HEnd : Hid (restU s.data.toList s.size = []) := by
    show _ = _
    unfold restU
    rw [if_neg, ul_end s s.size (by omega)]
    · rfl
    · rintro ⟨_, _, h⟩
      rw [getD_out _ _ (show s.data.toList.length ≤ s.size from Nat.le_refl _)] at h
      cases h
  obtain ⟨R, hR⟩ : ∃ R, R = dropU s.data.toList := ⟨_, rfl⟩
  have H0 : Hid ([] ++ restU s.data.toList 0 = R) := by
    show _ = _
    unfold restU
    rw [if_neg (fun h => absurd h.1 (by decide)), hR]
    rfl
  rw [← hR]
  obtain ⟨i0, hi, hz0, hz1, hz2⟩ := info_parts_u8U
  obtain ⟨wm, hmk, hown, hgm⟩ := make_rowU s.size (by omega) w
  have HM := Lib.hid hown
  have HGm := Lib.hid hgm
  clear hR hown hgm
  go_enter Try.func14, Try.ntmps14
  go_wp2
  have hxm : Ext w wm := Below.grown (Ext.refl w) HGm.out (Nat.le_refl _) (by rintro k ⟨⟩)
  have ho0 := HM.out w.heap.size (Nat.le_refl _)
  clear HM HGm hmk
  go_loopw [3, 10] (fun v i wr => ∃ (k : Nat) (dn : List UInt8), k ≤ s.size ∧ i = .int .i64 k ∧ wr.ownsRow w.heap.size 5 1 v dn.length (Lib.byteCells dn) ∧ Ext w wr ∧ dn.length ≤ k ∧ Hid (dn ++ restU s.data.toList k = R)) (fun _ i _ => s.size - (intOf i).toNat)
  case atStart => exact ⟨0, [], by omega, rfl, ho0, hxm, by decide, H0⟩
  case round =>
    obtain ⟨k, dn, hk, rfl, ho, hx, hdl, HA⟩ := hrel
    clear ho0 hxm H0
    have hle := hx.size
    by_cases hlt : k < s.size
    · have hki : (k : Int) < s.size := by omega
      have HPk := Lib.hid (fun w => HP.out k w hlt)
      by_cases hp : putAt s k
      · rw [decide_eq_true hp] at HPk
        have HN : Hid (dn ++ restU s.data.toList (k + 1) = R) := by show _ = _; rw [← HSk.out k hlt hp]; exact HA.out
        clear HSk HKe HP HEnd HA hp
        go_wp2_with (go_at_call 29; refine (HPk.out _).mono ?_; rintro e w3 ⟨rfl, rfl⟩)
        go_roundw
        case rel => exact ⟨k + 1, dn, by omega, by first | rfl | go_num, ho, hx, by omega, HN⟩
        case measure => simp [intOf]; omega
      · rw [decide_eq_false hp] at HPk
        have HN : Hid ((dn ++ [s[k]]) ++ restU s.data.toList (k + 1) = R) := by
          show _ = _
          rw [← HA.out, HKe.out k hlt hp]
          simp
        clear HSk HKe HP HEnd HA hp
        go_wp2_with (first
          | (go_at_call 29; refine (HPk.out _).mono ?_; rintro e w3 ⟨rfl, rfl⟩)
          | (at_builtin; refine wpList_append_own _ rfl _ _ 52 rfl w.heap.size 5 i0 (.int .u8 0) 1 1 Try.underlying52 hi hz0 hz1 hz2 rfl (by decide) _ _ _ rfl (ho.alloc _) ⟨wr.heap.size, 0, none⟩ 1 1 [.int .u8 (s[k].toNat : Int)] rfl rfl (cell_one_newU _ _ _) (fun x hx => by simp at hx; subst hx; rfl) (by unfold maxLen; omega) (by omega) (by simp; omega) ?_; intro v2 w2 ho2 hgrow2 hnil2; have hx2 : Ext w w2 := hx.own ho (Nat.le_refl _) hgrow2; clear hgrow2 hnil2))
        go_roundw
        case rel =>
          refine ⟨k + 1, dn ++ [s[k]], by omega, by first | rfl | go_num, ?_, hx2, by simp; omega, HN⟩
          rw [byteCells_appU, List.length_append]
          exact ho2
        case measure => simp [intOf]; omega
    · have hke : k = s.size := by omega
      subst hke
      have hki : ¬ (s.size : Int) < s.size := by omega
      have hr : dn = R := by
        have := HA.out
        rw [HEnd.out, List.append_nil] at this
        exact this
      subst hr
      have hst := own_stringU ho
      clear HSk HKe HP HEnd HA ho
      go_wp2
      go_ret
      exact ⟨rfl, hx⟩
end Go.Proofs.Ytbdjncnofpbkkaa
