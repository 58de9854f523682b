/-
  The law PointCuts holds at every list of numbers and every text: of two texts, one behind the other, the first made of signs, what is wrong is wrong in the second, so many bytes further.
  Conditions: none beyond the row's own.
-/
import Derived.Test.YtdegnjbpjffgmaaDoorLawCutsA
import Derived.ChangeMaps
import Derived.ChangeSlices
import Derived.ChangeOld
import Derived.Deep.RegionHeld3
import Derived.Deep.RegionWith
import Derived.IntWalk
namespace Go.Proofs.YtdegnjbpjffgmaaDoor.pointCuts
open Go Go.Proofs.YtdegnjbpjffgmaaDoor Go.ChangeShapes Go.WideShapes Go.ChangeAt Go.RowKit
open Go.ChangeMaps (open_string shut_string)
set_option linter.unusedSimpArgs false
set_option linter.unusedVariables false

set_option maxRecDepth 100000 in
set_option maxHeartbeats 2000000 in
theorem walk_good (a : Option Addr) (len cap : Nat) (s : ByteArray) (w : World) (hT : Tabs w) (h0 : ¬ 200 < (len : Int)) (h : ¬ 500 < (s.size : Int)) (u : ByteArray) (hu : u.size ≤ 800)
    (X : ∀ w1, Ext w w1 → Calls Tryd.prog 8 #[.slice a len cap] w1 fun e w' => e = .returned (.tuple #[.string u, .bool true]) ∧ Ext w1 w')
    (F : ∀ w1, Tabs w1 → Calls Tryd.prog 21 #[.string s] w1 fun e w' => e = .returned (.agg #[.int .i64 0, .int .i64 0]) ∧ Ext w1 w')
    (G : ∀ w1, Tabs w1 → Calls Tryd.prog 21 #[.string (u ++ s)] w1 fun e w' => e = .returned (.agg #[.int .i64 0, .int .i64 (0)]) ∧ Ext w1 w') :
    Calls Tryd.prog 7 #[.slice a len cap, .string s] w fun e w' => e = .returned (.bool true) ∧ Ext w w' := by
  have HX := Lib.hid X
  have HF := Lib.hid F
  have HG := Lib.hid G
  have HT := Lib.hid hT
  clear X hT F G
  go_enter Tryd.func7, Tryd.ntmps7
  go_wp2_with (first | (go_at_call 8; refine (HX.out _ (Ext.refl _)).mono ?_; rintro e w1 ⟨rfl, hb1⟩; have T1 := HT.out.ext hb1) | (with_reducible (go_at_call 21; refine (HF.out _ T1).mono ?_); rintro e w2 ⟨rfl, hb2⟩; have T2 := T1.ext hb2) | (with_reducible (go_at_call 21; refine (HG.out _ T2).mono ?_); rintro e w3 ⟨rfl, hb3⟩))
  have hC := Two.made 0 0 0 (0) (hb1.trans (hb2.trans hb3)) (T2.ext hb3)
  obtain ⟨W, hW⟩ : ∃ W, W = (w3.alloc (.cells #[.int .i64 0, .int .i64 0] 30)).alloc (.cells #[.int .i64 0, .int .i64 (0)] 30) := ⟨_, rfl⟩
  rw [← hW] at hC ⊢
  generalize w3.heap.size + 1 = g at hC ⊢
  generalize w3.heap.size = f at hC ⊢
  clear hW hb1 hb2 hb3 T1 T2
  obtain ⟨q0, q1, q2, q3⟩ := hC.cells
  have hC2 := hC.ext (Ext.drew (Ext.refl _))
  clear hC
  have hC := hC2
  clear hC2
  refine wp_region_held_drew (S := (fun W' => W'.cell? ⟨f, 0, none⟩ = some (.int .i64 0) ∧ W'.cell? ⟨f, 1, none⟩ = some (.int .i64 0) ∧ W'.cell? ⟨g, 0, none⟩ = some (.int .i64 0) ∧ W'.cell? ⟨g, 1, none⟩ = some (.int .i64 0))) (by kernel_rfl) ?_ (fun hHeld => ?_)
  · (try dsimp only); go_keep
  refine wpAnyH_ready (rs := [0]) (by kernel_rfl) (by simp) ?_
  refine' AllReadyH.cons (o := _) ?hix0 (fun K hK => ?hk0x0) AllReadyH.nil
  case hix0 => exact rfl
  go_simp
  go_at_call 11
  refine (awake_yes _ hC.tb).mono ?_
  rintro e wx ⟨rfl, hbx⟩
  have hC' := hC.ext hbx
  clear hC hbx
  have hC := hC'
  clear hC'
  obtain ⟨q0, q1, q2, q3⟩ := hC.cells
  try go_wp2_with fail
  refine hK.out _ _ ?hS0x0 (fun hHeld => ?restx0)
  case hS0x0 => (try dsimp only); go_keep
  clear hK K
  try simp only [Act.put, List.setIfInBounds_toArray, List.set_cons_zero, List.set_cons_succ]
  refine' wpAnyH_take (i := 1) (oi := { dst := some 33, op := _, type := _, pos := _, after := _, guard := _ }) (v := _) ?hix1 (by kernel_rfl) ?hfx1 ?hrx1 ?hqx1 ?hyx1 ?hsx1 ?restx1
  case hix1 => exact rfl
  case hfx1 => kernel_rfl
  case hrx1 => kernel_rfl
  case hqx1 => exact fun _ _ _ h => h
  case hsx1 => assumption
  case hyx1 =>
    refine Or.inl ⟨by kernel_rfl, ?_⟩
    intro w hSw
    try dsimp only at hSw
    go_simp
    try with_reducible rfl
  try simp only [Act.put, List.setIfInBounds_toArray, List.set_cons_zero, List.set_cons_succ]
  refine' wpAnyH_take (i := 2) (oi := { dst := some 34, op := _, type := _, pos := _, after := _, guard := _ }) (v := _) ?hix2 (by kernel_rfl) ?hfx2 ?hrx2 ?hqx2 ?hyx2 ?hsx2 ?restx2
  case hix2 => exact rfl
  case hfx2 => kernel_rfl
  case hrx2 => kernel_rfl
  case hqx2 => exact fun _ _ _ h => h
  case hsx2 => assumption
  case hyx2 =>
    refine Or.inl ⟨by kernel_rfl, ?_⟩
    intro w hSw
    try dsimp only at hSw
    go_simp
    try with_reducible rfl
  try simp only [Act.put, List.setIfInBounds_toArray, List.set_cons_zero, List.set_cons_succ]
  refine' wpAnyH_take (i := 4) (oi := { dst := some 36, op := _, type := _, pos := _, after := _, guard := _ }) (v := _) ?hix4 (by kernel_rfl) ?hfx4 ?hrx4 ?hqx4 ?hyx4 ?hsx4 ?restx4
  case hix4 => exact rfl
  case hfx4 => kernel_rfl
  case hrx4 => kernel_rfl
  case hqx4 => exact fun _ _ _ h => h
  case hsx4 => assumption
  case hyx4 =>
    refine Or.inl ⟨by kernel_rfl, ?_⟩
    intro w hSw
    try dsimp only at hSw
    go_simp
    try with_reducible rfl
  try simp only [Act.put, List.setIfInBounds_toArray, List.set_cons_zero, List.set_cons_succ]
  refine wpAnyH_ready (rs := [3]) (by kernel_rfl) (by simp) ?_
  refine' AllReadyH.cons (o := _) ?hix3 (fun K hK => ?hk0x3) AllReadyH.nil
  case hix3 => exact rfl
  go_simp
  go_at_call 16
  refine (bad_no _ _ _ (by decide)).mono ?_
  rintro e wx ⟨rfl, hbx⟩
  have hC' := hC.ext hbx
  clear hC hbx
  have hC := hC'
  clear hC'
  obtain ⟨q0, q1, q2, q3⟩ := hC.cells
  try go_wp2_with fail
  refine hK.out _ _ ?hS0x3 (fun hHeld => ?restx3)
  case hS0x3 => (try dsimp only); go_keep
  clear hK K
  try simp only [Act.put, List.setIfInBounds_toArray, List.set_cons_zero, List.set_cons_succ]
  refine wpAnyH_ready (rs := [5]) (by kernel_rfl) (by simp) ?_
  refine' AllReadyH.cons (o := _) ?hix5 (fun K hK => ?hk0x5) AllReadyH.nil
  case hix5 => exact rfl
  go_simp
  go_at_call 16
  refine (bad_no _ _ _ (by decide)).mono ?_
  rintro e wx ⟨rfl, hbx⟩
  have hC' := hC.ext hbx
  clear hC hbx
  have hC := hC'
  clear hC'
  obtain ⟨q0, q1, q2, q3⟩ := hC.cells
  try go_wp2_with fail
  refine hK.out _ _ ?hS0x5 (fun hHeld => ?restx5)
  case hS0x5 => (try dsimp only); go_keep
  clear hK K
  try simp only [Act.put, List.setIfInBounds_toArray, List.set_cons_zero, List.set_cons_succ]
  refine' wpAnyH_take (i := 6) (oi := { dst := some 38, op := _, type := _, pos := _, after := _, guard := _ }) (v := _) ?hix6 (by kernel_rfl) ?hfx6 ?hrx6 ?hqx6 ?hyx6 ?hsx6 ?restx6
  case hix6 => exact rfl
  case hfx6 => kernel_rfl
  case hrx6 => kernel_rfl
  case hqx6 => exact fun _ _ _ h => h
  case hsx6 => assumption
  case hyx6 =>
    refine Or.inl ⟨by kernel_rfl, ?_⟩
    intro w hSw
    try dsimp only at hSw
    go_simp
    try with_reducible rfl
  try simp only [Act.put, List.setIfInBounds_toArray, List.set_cons_zero, List.set_cons_succ]
  refine' wpAnyH_take (i := 7) (oi := { dst := some 39, op := _, type := _, pos := _, after := _, guard := _ }) (v := _) ?hix7 (by kernel_rfl) ?hfx7 ?hrx7 ?hqx7 ?hyx7 ?hsx7 ?restx7
  case hix7 => exact rfl
  case hfx7 => kernel_rfl
  case hrx7 => kernel_rfl
  case hqx7 => exact fun _ _ _ h => h
  case hsx7 => assumption
  case hyx7 =>
    refine Or.inl ⟨by kernel_rfl, ?_⟩
    intro w hSw
    try dsimp only at hSw
    go_simp
    try with_reducible rfl
  try simp only [Act.put, List.setIfInBounds_toArray, List.set_cons_zero, List.set_cons_succ]
  refine' wpAnyH_take (i := 8) (oi := { dst := some 40, op := _, type := _, pos := _, after := _, guard := _ }) (v := _) ?hix8 (by kernel_rfl) ?hfx8 ?hrx8 ?hqx8 ?hyx8 ?hsx8 ?restx8
  case hix8 => exact rfl
  case hfx8 => kernel_rfl
  case hrx8 => kernel_rfl
  case hqx8 => exact fun _ _ _ h => h
  case hsx8 => assumption
  case hyx8 =>
    refine Or.inl ⟨by kernel_rfl, ?_⟩
    intro w hSw
    try dsimp only at hSw
    go_simp
    try with_reducible rfl
  try simp only [Act.put, List.setIfInBounds_toArray, List.set_cons_zero, List.set_cons_succ]
  refine' wpAnyH_take (i := 9) (oi := { dst := some 41, op := _, type := _, pos := _, after := _, guard := _ }) (v := _) ?hix9 (by kernel_rfl) ?hfx9 ?hrx9 ?hqx9 ?hyx9 ?hsx9 ?restx9
  case hix9 => exact rfl
  case hfx9 => kernel_rfl
  case hrx9 => kernel_rfl
  case hqx9 => exact fun _ _ _ h => h
  case hsx9 => assumption
  case hyx9 =>
    refine Or.inl ⟨by kernel_rfl, ?_⟩
    intro w hSw
    try dsimp only at hSw
    go_simp
    try with_reducible rfl
  try simp only [Act.put, List.setIfInBounds_toArray, List.set_cons_zero, List.set_cons_succ]
  refine wpAnyH_ready (rs := [10]) (by kernel_rfl) (by simp) ?_
  refine' AllReadyH.cons (o := _) ?hix10 (fun K hK => ?hk0x10) AllReadyH.nil
  case hix10 => exact rfl
  go_simp
  go_at_call 16
  refine (bad_no _ _ _ (by decide)).mono ?_
  rintro e wx ⟨rfl, hbx⟩
  have hC' := hC.ext hbx
  clear hC hbx
  have hC := hC'
  clear hC'
  obtain ⟨q0, q1, q2, q3⟩ := hC.cells
  try go_wp2_with fail
  refine hK.out _ _ ?hS0x10 (fun hHeld => ?restx10)
  case hS0x10 => (try dsimp only); go_keep
  clear hK K
  try simp only [Act.put, List.setIfInBounds_toArray, List.set_cons_zero, List.set_cons_succ]
  refine' wpAnyH_take (i := 11) (oi := { dst := some 43, op := _, type := _, pos := _, after := _, guard := _ }) (v := _) ?hix11 (by kernel_rfl) ?hfx11 ?hrx11 ?hqx11 ?hyx11 ?hsx11 ?restx11
  case hix11 => exact rfl
  case hfx11 => kernel_rfl
  case hrx11 => kernel_rfl
  case hqx11 => exact fun _ _ _ h => h
  case hsx11 => assumption
  case hyx11 =>
    refine Or.inl ⟨by kernel_rfl, ?_⟩
    intro w hSw
    try dsimp only at hSw
    go_simp
    try with_reducible rfl
  try simp only [Act.put, List.setIfInBounds_toArray, List.set_cons_zero, List.set_cons_succ]
  refine' wpAnyH_take (i := 12) (oi := { dst := some 44, op := _, type := _, pos := _, after := _, guard := _ }) (v := _) ?hix12 (by kernel_rfl) ?hfx12 ?hrx12 ?hqx12 ?hyx12 ?hsx12 ?restx12
  case hix12 => exact rfl
  case hfx12 => kernel_rfl
  case hrx12 => kernel_rfl
  case hqx12 => exact fun _ _ _ h => h
  case hsx12 => assumption
  case hyx12 =>
    refine Or.inl ⟨by kernel_rfl, ?_⟩
    intro w hSw
    try dsimp only at hSw
    go_simp
    try with_reducible rfl
  try simp only [Act.put, List.setIfInBounds_toArray, List.set_cons_zero, List.set_cons_succ]
  refine' wpAnyH_take (i := 13) (oi := { dst := some 45, op := _, type := _, pos := _, after := _, guard := _ }) (v := undef) ?hix13 (by kernel_rfl) ?hfx13 ?hrx13 ?hqx13 ?hyx13 ?hsx13 ?restx13
  case hix13 => exact rfl
  case hfx13 => kernel_rfl
  case hrx13 => kernel_rfl
  case hqx13 => exact fun _ _ _ h => h
  case hsx13 => assumption
  case hyx13 => exact Or.inr ⟨by kernel_rfl, rfl⟩
  try simp only [Act.put, List.setIfInBounds_toArray, List.set_cons_zero, List.set_cons_succ]
  refine' wpAnyH_take (i := 14) (oi := { dst := some 46, op := _, type := _, pos := _, after := _, guard := _ }) (v := undef) ?hix14 (by kernel_rfl) ?hfx14 ?hrx14 ?hqx14 ?hyx14 ?hsx14 ?restx14
  case hix14 => exact rfl
  case hfx14 => kernel_rfl
  case hrx14 => kernel_rfl
  case hqx14 => exact fun _ _ _ h => h
  case hsx14 => assumption
  case hyx14 => exact Or.inr ⟨by kernel_rfl, rfl⟩
  try simp only [Act.put, List.setIfInBounds_toArray, List.set_cons_zero, List.set_cons_succ]
  refine' wpAnyH_take (i := 15) (oi := { dst := some 47, op := _, type := _, pos := _, after := _, guard := _ }) (v := undef) ?hix15 (by kernel_rfl) ?hfx15 ?hrx15 ?hqx15 ?hyx15 ?hsx15 ?restx15
  case hix15 => exact rfl
  case hfx15 => kernel_rfl
  case hrx15 => kernel_rfl
  case hqx15 => exact fun _ _ _ h => h
  case hsx15 => assumption
  case hyx15 => exact Or.inr ⟨by kernel_rfl, rfl⟩
  try simp only [Act.put, List.setIfInBounds_toArray, List.set_cons_zero, List.set_cons_succ]
  refine' wpAnyH_take (i := 16) (oi := { dst := some 48, op := _, type := _, pos := _, after := _, guard := _ }) (v := undef) ?hix16 (by kernel_rfl) ?hfx16 ?hrx16 ?hqx16 ?hyx16 ?hsx16 ?restx16
  case hix16 => exact rfl
  case hfx16 => kernel_rfl
  case hrx16 => kernel_rfl
  case hqx16 => exact fun _ _ _ h => h
  case hsx16 => assumption
  case hyx16 => exact Or.inr ⟨by kernel_rfl, rfl⟩
  try simp only [Act.put, List.setIfInBounds_toArray, List.set_cons_zero, List.set_cons_succ]
  refine' wpAnyH_take (i := 17) (oi := { dst := some 49, op := _, type := _, pos := _, after := _, guard := _ }) (v := undef) ?hix17 (by kernel_rfl) ?hfx17 ?hrx17 ?hqx17 ?hyx17 ?hsx17 ?restx17
  case hix17 => exact rfl
  case hfx17 => kernel_rfl
  case hrx17 => kernel_rfl
  case hqx17 => exact fun _ _ _ h => h
  case hsx17 => assumption
  case hyx17 => exact Or.inr ⟨by kernel_rfl, rfl⟩
  try simp only [Act.put, List.setIfInBounds_toArray, List.set_cons_zero, List.set_cons_succ]
  refine' wpAnyH_take (i := 18) (oi := { dst := some 50, op := _, type := _, pos := _, after := _, guard := _ }) (v := undef) ?hix18 (by kernel_rfl) ?hfx18 ?hrx18 ?hqx18 ?hyx18 ?hsx18 ?restx18
  case hix18 => exact rfl
  case hfx18 => kernel_rfl
  case hrx18 => kernel_rfl
  case hqx18 => exact fun _ _ _ h => h
  case hsx18 => assumption
  case hyx18 => exact Or.inr ⟨by kernel_rfl, rfl⟩
  try simp only [Act.put, List.setIfInBounds_toArray, List.set_cons_zero, List.set_cons_succ]
  refine' wpAnyH_take (i := 19) (oi := { dst := some 51, op := _, type := _, pos := _, after := _, guard := _ }) (v := undef) ?hix19 (by kernel_rfl) ?hfx19 ?hrx19 ?hqx19 ?hyx19 ?hsx19 ?restx19
  case hix19 => exact rfl
  case hfx19 => kernel_rfl
  case hrx19 => kernel_rfl
  case hqx19 => exact fun _ _ _ h => h
  case hsx19 => assumption
  case hyx19 => exact Or.inr ⟨by kernel_rfl, rfl⟩
  try simp only [Act.put, List.setIfInBounds_toArray, List.set_cons_zero, List.set_cons_succ]
  refine' wpAnyH_take (i := 20) (oi := { dst := some 52, op := _, type := _, pos := _, after := _, guard := _ }) (v := undef) ?hix20 (by kernel_rfl) ?hfx20 ?hrx20 ?hqx20 ?hyx20 ?hsx20 ?restx20
  case hix20 => exact rfl
  case hfx20 => kernel_rfl
  case hrx20 => kernel_rfl
  case hqx20 => exact fun _ _ _ h => h
  case hsx20 => assumption
  case hyx20 => exact Or.inr ⟨by kernel_rfl, rfl⟩
  try simp only [Act.put, List.setIfInBounds_toArray, List.set_cons_zero, List.set_cons_succ]
  refine' wpAnyH_take (i := 21) (oi := { dst := some 53, op := _, type := _, pos := _, after := _, guard := _ }) (v := _) ?hix21 (by kernel_rfl) ?hfx21 ?hrx21 ?hqx21 ?hyx21 ?hsx21 ?restx21
  case hix21 => exact rfl
  case hfx21 => kernel_rfl
  case hrx21 => kernel_rfl
  case hqx21 => exact fun _ _ _ h => h
  case hsx21 => assumption
  case hyx21 =>
    refine Or.inl ⟨by kernel_rfl, ?_⟩
    intro w hSw
    try dsimp only at hSw
    go_simp
    try with_reducible rfl
  try simp only [Act.put, List.setIfInBounds_toArray, List.set_cons_zero, List.set_cons_succ]
  refine' wpAnyH_take (i := 22) (oi := { dst := some 54, op := _, type := _, pos := _, after := _, guard := _ }) (v := _) ?hix22 (by kernel_rfl) ?hfx22 ?hrx22 ?hqx22 ?hyx22 ?hsx22 ?restx22
  case hix22 => exact rfl
  case hfx22 => kernel_rfl
  case hrx22 => kernel_rfl
  case hqx22 => exact fun _ _ _ h => h
  case hsx22 => assumption
  case hyx22 =>
    refine Or.inl ⟨by kernel_rfl, ?_⟩
    intro w hSw
    try dsimp only at hSw
    go_simp
    try with_reducible rfl
  try simp only [Act.put, List.setIfInBounds_toArray, List.set_cons_zero, List.set_cons_succ]
  refine' wpAnyH_take (i := 23) (oi := { dst := some 4, op := _, type := _, pos := _, after := _, guard := _ }) (v := _) ?hix23 (by kernel_rfl) ?hfx23 ?hrx23 ?hqx23 ?hyx23 ?hsx23 ?restx23
  case hix23 => exact rfl
  case hfx23 => kernel_rfl
  case hrx23 => kernel_rfl
  case hqx23 => exact fun _ _ _ h => h
  case hsx23 => assumption
  case hyx23 =>
    refine Or.inl ⟨by kernel_rfl, ?_⟩
    intro w hSw
    try dsimp only at hSw
    go_simp
    try with_reducible rfl
  try simp only [Act.put, List.setIfInBounds_toArray, List.set_cons_zero, List.set_cons_succ]
  refine wpAnyH_done (by kernel_rfl) ?_ _
  all_goals go_wp2
  all_goals go_ret
  all_goals exact ⟨by first | rfl | kernel_rfl, hC.ex⟩
end Go.Proofs.YtdegnjbpjffgmaaDoor.pointCuts
