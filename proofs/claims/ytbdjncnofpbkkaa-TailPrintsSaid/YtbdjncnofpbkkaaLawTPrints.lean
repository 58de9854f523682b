/-
  The law TailPrints holds at every tail: its bytes, or what is wrong with it, are the document's; what is printed is read as it was.
  Conditions: none beyond the row's own.
-/
import Derived.Test.YtbdjncnofpbkkaaTa9
import Derived.Test.YtbdjncnofpbkkaaTa2
import Derived.ChangeMaps
import Derived.BigRegion
import Derived.Deep.RegionHeld3
namespace Go.Proofs.Ytbdjncnofpbkkaa.tailPrints
open Go Go.Proofs.Ytbdjncnofpbkkaa Go.ChangeShapes Go.WideShapes Go.ChangeAt Go.RowKit
open Go.ChangeMaps (open_string shut_string)
set_option linter.unusedSimpArgs false
set_option linter.unusedVariables false

theorem laidOut : laidOutB Try.prog = true := by kernel_rfl
theorem own : ownKnob Try.prog.godebug = none := by kernel_rfl
theorem at_text (T : TailZ) (z : Int) (h0 : 0 ≤ z) (h5 : z < 5) (w : World) : (Instr.index 34 (.agg #[.string T.t0, .string T.t1, .string T.t2, .string T.t3, .string T.t4]) (.int .i64 z)).run Try.prog w = .ok (.string (T.tx z)) w := by
  obtain rfl | rfl | rfl | rfl | rfl : z = 0 ∨ z = 1 ∨ z = 2 ∨ z = 3 ∨ z = 4 := by omega
  all_goals rfl
set_option maxRecDepth 100000 in
set_option maxHeartbeats 8000000 in
theorem walk (T : TailZ) (hb : 0 ≤ T.track ∧ T.track < 256 ∧ 0 ≤ T.genre ∧ T.genre < 256) (W : World) : Calls Try.prog 7 #[.agg (tailA T)] W fun e w' => e = .returned (.bool true) ∧ Ext W w' := by
  have HA := Lib.hid (fun w => awake12 w)
  have HO := Lib.hid (fun w => rof T w hb.1 hb.2.1 hb.2.2.1 hb.2.2.2)
  have HIx := Lib.hid (fun z h0 h5 w => at_text T z h0 h5 w)
  have HTA := Lib.hid (heap_alloc_new W (.cells (tailA T) 31))
  have HX0 := Lib.hid ((Ext.refl W).alloc (.cells (tailA T) 31))
  unfold tailA at HTA HX0 HO ⊢
  unfold refA at HO
  obtain ⟨a0, a1, a2, a3, a4, a5, a6⟩ := facts7 HTA.out
  go_enter Try.func7, Try.ntmps7
  go_wp2_with (go_at_call 19; refine (HO.out _).mono ?_; rintro e w1 ⟨rfl, hb1⟩; have HRB := Lib.hid (heap_alloc_new w1 (.cells #[.string T.t0, .string T.t1, .string T.t2, .string T.t3, .string T.t4, .int .i64 T.track, .int .i64 T.genre] 36)); obtain ⟨r0, r1, r2, r3, r4, r5, r6⟩ := facts7 HRB.out; have hx1 := hb1.alloc (.cells #[.string T.t0, .string T.t1, .string T.t2, .string T.t3, .string T.t4, .int .i64 T.track, .int .i64 T.genre] 36))
  have hA1 := (hx1.block W.heap.size (by simp)).trans HTA.out
  have hX1 := HX0.out.trans hx1
  have hlA : W.heap.size < (w1.alloc (.cells #[.string T.t0, .string T.t1, .string T.t2, .string T.t3, .string T.t4, .int .i64 T.track, .int .i64 T.genre] 36)).heap.size := lt_of_block hA1
  have hlB := lt_of_block HRB.out
  have hB1 := HRB.out
  obtain ⟨a, ha⟩ : ∃ a, a = W.heap.size := ⟨_, rfl⟩
  obtain ⟨c, hc⟩ : ∃ c, c = w1.heap.size := ⟨_, rfl⟩
  obtain ⟨v, hv⟩ : ∃ v, v = w1.alloc (.cells #[.string T.t0, .string T.t1, .string T.t2, .string T.t3, .string T.t4, .int .i64 T.track, .int .i64 T.genre] 36) := ⟨_, rfl⟩
  rw [← hv, ← ha] at hA1 hlA
  rw [← hv] at hX1 hlB hB1 ⊢
  rw [← hc] at hlB hB1 ⊢
  rw [← ha]
  have HAk := Lib.hid hA1
  have HBk := Lib.hid hB1
  have HXv := Lib.hid hX1
  clear ha hc hv hA1 hB1 hX1 hx1 hb1 HRB HTA HX0 HO a0 a1 a2 a3 a4 a5 a6 r0 r1 r2 r3 r4 r5 r6
  have hBy : ByT T := hb
  go_loopw [16] (fun i wr => ∃ z : Int, 0 ≤ z ∧ z ≤ 5 ∧ i = .int .i64 z ∧ wr = v ∧ Hid (∀ y, 0 ≤ y → y < z → (T.tx y).size ≤ 500)) (fun i _ => 5 - (intOf i).toNat)
  case atStart => exact ⟨0, by omega, by omega, rfl, rfl, fun y h0 h1 => absurd h0 (by omega)⟩
  case round =>
    obtain ⟨z, hz0, hz5, rfl, rfl, HZ⟩ := hrel
    by_cases hz : z < 5
    · have hix := fun w => HIx.out z hz0 hz w
      by_cases hl : 500 < (T.tx z).size
      · have hli : (500 : Int) < (T.tx z).size := by omega
        generalize T.tx z = x at hix hl hli
        clear HIx HZ
        go_wp2_with (go_at_call 17; refine (HA.out _).mono ?_; rintro e w2 ⟨rfl, hb2⟩)
        go_ret
        exact ⟨rfl, HXv.out.trans hb2⟩
      · have hli : ¬ (500 : Int) < (T.tx z).size := by omega
        have HZ2 : Hid (∀ y, 0 ≤ y → y < z + 1 → (T.tx y).size ≤ 500) := fun y h0 h1 => by
          by_cases e : y = z
          · subst e; omega
          · exact HZ.out y h0 (by omega)
        generalize T.tx z = x at hix hl hli
        clear HIx HZ HA
        go_wp2
        go_roundw
        case rel => exact ⟨z + 1, by omega, by omega, by first | rfl | go_num, by first | rfl | trivial, HZ2⟩
        case measure => simp [intOf]; omega
    · have hze : z = 5 := by omega
      subst hze
      clear HIx
      have hsz : ∀ y, (T.tx y).size ≤ 1000 := fun y => by
        by_cases h0 : 0 ≤ y ∧ y < 5
        · have := HZ.out y h0.1 h0.2; omega
        · have e : T.tx y = T.t4 := by
            unfold TailZ.tx
            rw [if_neg (by omega), if_neg (by omega), if_neg (by omega), if_neg (by omega)]
          have := HZ.out 4 (by omega) (by omega)
          rw [e]
          show T.t4.size ≤ 1000
          have e4 : T.tx 4 = T.t4 := rfl
          rw [e4] at this
          omega
      clear HZ
      have HCk := Lib.hid (fun w => rcheck T w (fun y => by have := hsz y; omega))
      have HCc := Lib.hid (fun w => ccheck12 T w hBy)
      have HRp := Lib.hid (fun w => rprint T w hsz)
      unfold refA at HCk HRp
      unfold tailA at HCc
      obtain ⟨k0, k1, k2, k3, k4, k5, k6⟩ := facts7 HAk.out
      by_cases hg : GoodT T
      · have HP := Lib.hid (fun w => cprint_ok T w hBy hg)
        have HPa : Hid (∀ w, Calls Try.prog 18 #[.string (printZ T)] w fun e w' => e = .returned (.tuple #[.agg (tailA T), .bool true]) ∧ Ext w w') := fun w => by
          have := cparse_yes (printZ T) w (tag_print0 T hg)
          rwa [parse_print T hg hb.1 hb.2.1 hb.2.2.1 hb.2.2.2] at this
        have hs128 := print_size T hg
        rw [check_zero T hg] at HCk HCc
        unfold tailA at HP HPa
        generalize printZ T = P at HP HPa HRp hs128
        have hs128i : (P.size : Int) = 128 := by omega
        clear hg hsz hb
        go_wp2_with (first
          | (go_at_call 22; refine (HP.out _).mono ?_; rintro e w2 ⟨rfl, hb2⟩; have HFk := Lib.hid (heap_alloc_new w2 (.cells #[.int .i64 0, .int .i64 0] 43)); have hx2 := hb2.alloc (.cells #[.int .i64 0, .int .i64 0] 43); obtain ⟨k0, k1, k2, k3, k4, k5, k6⟩ := facts7 ((hx2.block a hlA).trans HAk.out); obtain ⟨r0, r1, r2, r3, r4, r5, r6⟩ := facts7 ((hx2.block c hlB).trans HBk.out))
          | (go_at_call 23; refine (HCk.out _).mono ?_; rintro e w3 ⟨rfl, hb3⟩; clear k0 k1 k2 k3 k4 k5 k6 r0 r1 r2 r3 r4 r5 r6))
        obtain ⟨⟨f0, f1⟩, _⟩ := facts2 ((hb3.block w2.heap.size (by simp)).trans HFk.out)
        obtain ⟨k0, k1, k2, k3, k4, k5, k6⟩ := facts7 (((hx2.trans hb3).block a hlA).trans HAk.out)
        go_region_with (go_at_call 24; refine (HCc.out _).mono ?_; rintro e w4 ⟨rfl, hb4⟩; obtain ⟨⟨g0, g1⟩, _⟩ := facts2 (((hb3.drew.trans hb4).block w2.heap.size (by simp)).trans HFk.out))
        all_goals
          have hx24 := ((hx2.trans hb3).drew).trans hb4
          clear f0 f1 g0 g1 k0 k1 k2 k3 k4 k5 k6 hb2 hb3 hb4 hx2 HFk HP HCk HCc
          go_wp2_with (first
            | (go_at_call 18; refine (HPa.out _).mono ?_; rintro e w5 ⟨rfl, hb5⟩; have HGk := Lib.hid (heap_alloc_new w5 (.cells #[.string T.t0, .string T.t1, .string T.t2, .string T.t3, .string T.t4, .int .u8 T.track, .int .u8 T.genre] 31)); have hx5 := (hx24.trans hb5).alloc (.cells #[.string T.t0, .string T.t1, .string T.t2, .string T.t3, .string T.t4, .int .u8 T.track, .int .u8 T.genre] 31); have hlG := lt_of_block HGk.out)
            | (go_at_call 17; refine (HA.out _).mono ?_; rintro e w6 ⟨rfl, hb6⟩; obtain ⟨r0, r1, r2, r3, r4, r5, r6⟩ := facts7 (((hx5.trans hb6).block c hlB).trans HBk.out))
            | (go_at_call 25; refine (HRp.out _).mono ?_; rintro e w7 ⟨rfl, hb7⟩; clear r0 r1 r2 r3 r4 r5 r6; obtain ⟨n0, n1, n2, n3, n4, n5, n6⟩ := facts7 (((hb6.trans hb7).block w5.heap.size hlG).trans HGk.out); obtain ⟨k0, k1, k2, k3, k4, k5, k6⟩ := facts7 ((((hx5.trans hb6).trans hb7).block a hlA).trans HAk.out)))
          go_ret
          exact ⟨by first | (simp; done) | rfl, HXv.out.trans ((hx5.trans hb6).trans hb7)⟩
      · have hne : (checkZ T).1 ≠ 0 := fun e => hg ((check_good T).1 e)
        have HP := Lib.hid (fun w => cprint_bad T w hBy hg)
        unfold tailA at HP
        generalize (checkZ T).1 = er at HP HCk HCc hne
        generalize (checkZ T).2 = pl at HP HCk HCc
        have g00 : (er != 0) = true := by rw [bne, beq_false_of_ne hne]; rfl
        have ge1 : (er == er) = true := beq_self_eq_true er
        have ge2 : (pl == pl) = true := beq_self_eq_true pl
        clear hg hsz hb hne HRp
        go_wp2_with (first
          | (go_at_call 22; refine (HP.out _).mono ?_; rintro e w2 ⟨rfl, hb2⟩; have HFk := Lib.hid (heap_alloc_new w2 (.cells #[.int .i64 er, .int .i64 pl] 43)); have hx2 := hb2.alloc (.cells #[.int .i64 er, .int .i64 pl] 43); obtain ⟨k0, k1, k2, k3, k4, k5, k6⟩ := facts7 ((hx2.block a hlA).trans HAk.out); obtain ⟨r0, r1, r2, r3, r4, r5, r6⟩ := facts7 ((hx2.block c hlB).trans HBk.out))
          | (go_at_call 23; refine (HCk.out _).mono ?_; rintro e w3 ⟨rfl, hb3⟩; clear k0 k1 k2 k3 k4 k5 k6 r0 r1 r2 r3 r4 r5 r6))
        obtain ⟨⟨f0, f1⟩, _⟩ := facts2 ((hb3.block w2.heap.size (by simp)).trans HFk.out)
        obtain ⟨k0, k1, k2, k3, k4, k5, k6⟩ := facts7 (((hx2.trans hb3).block a hlA).trans HAk.out)
        go_region_with (go_at_call 24; refine (HCc.out _).mono ?_; rintro e w4 ⟨rfl, hb4⟩; obtain ⟨⟨g0, g1⟩, _⟩ := facts2 (((hb3.drew.trans hb4).block w2.heap.size (by simp)).trans HFk.out))
        all_goals
          have hx24 := ((hx2.trans hb3).drew).trans hb4
          clear f0 f1 g0 g1 k0 k1 k2 k3 k4 k5 k6 hb2 hb3 hb4 hx2 HFk HP HCk HCc
          go_wp2_with (go_at_call 17; refine (HA.out _).mono ?_; rintro e w6 ⟨rfl, hb6⟩)
          go_ret
          exact ⟨by first | (simp; done) | rfl, HXv.out.trans (hx24.trans hb6)⟩
set_option maxRecDepth 100000 in
theorem lifted (os : Os) (started : os.Started) (H : Type) (enc : TypeId × Value → H) :
    ReturnsInHanded {} Try.checked os 7 .any (Rows.tailPrintsSpec.pre6 enc Try.prog Try.f7 Rows.tailPrintsRow.domain false) (Rows.tailPrintsSpec.post enc Try.prog Try.f7 false true false false) := by
  refine returnsInHanded_of_change (C := Try.checked) own started (by kernel_rfl) Try.func7
    (ChangeSpec.witness6 (enc := enc) (C := Try.checked) false ⟨#[], #[.agg #[.string ByteArray.empty, .string ByteArray.empty, .string ByteArray.empty, .string ByteArray.empty, .string ByteArray.empty, .int .u8 0, .int .u8 0]], []⟩ 8 (by kernel_rfl) (by kernel_rfl) (by kernel_rfl) (by kernel_rfl)) ?_
  intro W base args ds gs before hval0 hW hcnd _
  have hval : ∀ (j : Nat) t v, Try.f7.params[j]? = some t → args[j]? = some v → Value.okWide Try.prog W .any base t v := hval0
  have hW' := hW
  obtain ⟨p, q, hA0, hV, rfl, hfz, hnd⟩ := hW
  have hA : DataW.TrodAll enc Try.prog W 0 (fun _ => true) true Try.f7.params.toList args.toList ds p := hA0
  rw [Try.params7] at hA hval
  obtain ⟨v0, vs0, d0, ds0, p0, q0, hargs, rfl, rfl, h0, r0⟩ := trodAll_cons hA
  obtain ⟨rfl, rfl, rfl⟩ := trodAll_nil r0
  obtain rfl : args = #[v0] := by cases args; simp_all
  obtain ⟨rfl, rfl⟩ := trodVars_none hV
  have k0 := h0
  have lt0 : ∀ x ∈ p0, x.block < W.heap.size := by obtain ⟨m, hm⟩ := k0; exact DataW.trod_lt m _ _ _ hm
  obtain ⟨a0, rfl, w0⟩ := open_tail (hval 0 31 v0 rfl rfl) h0
  clear hA0 hval0
  refine (walk a0 w0 W).mono fun e W' ⟨he, bel⟩ => ?_
  subst he
  exact ⟨_, rfl, _, _, _, [], _, [], hW', trodAll_mk1 (shut_bool Try.underlying4 _), (trodAll_cons_mk (Below.trod laidOut (by kernel_rfl) (of_decide_eq_true (by kernel_rfl)) k0 bel lt0) trodAll_mk0), rfl, bel.frame _, fun h => by cases h⟩

theorem and2 {a b : Bool} (ha : a = true) (hb : b = true) : (a && b) = true := by rw [ha, hb]; rfl
set_option maxHeartbeats 40000000 in
theorem closed : joinedFacts Try.pinned.checked.prog 7 Try.f7 Rows.tailPrintsSpec Rows.tailPrintsRow = true := by
  unfold joinedFacts
  repeat' with_reducible refine and2 ?_ ?_
  all_goals as_aux_lemma => kernel_rfl
theorem over : Rows.tailPrintsRow.holds Try.pinned (OpenSpec.ofChange Rows.tailPrintsSpec) :=
  OpenClaim.holds_of_wide 7 Try.f7 rfl rfl rfl rfl rfl rfl rfl ⟨rfl, rfl, rfl, rfl, rfl⟩ rfl rfl rfl rfl rfl (by kernel_rfl) Try.func7 closed
    (of_decide_eq_true (by kernel_rfl)) (by unfold Func.isWrapper; first | (rw [if_pos (by decide +kernel)]; kernel_rfl) | (rw [if_neg (by decide +kernel)]; exact ⟨rfl, rfl⟩))
    (fun os started H enc _ => lifted os started H enc)

/-- THE STATEMENT. -/
theorem proved : Rows.TailPrintsSaid := over
#print axioms proved

end Go.Proofs.Ytbdjncnofpbkkaa.tailPrints
