/-
  The law WideMarks holds at every text: whether a mark stands ahead of any bytes, and which, and the text behind it, are the document's.
  Conditions: none beyond the row's own.
-/
import Derived.Test.YtdbjjadgmfgjfaaDoorWdR3
import Derived.ChangeMaps
namespace Go.Proofs.YtdbjjadgmfgjfaaDoor.wideMarks
open Go Go.Proofs.YtdbjjadgmfgjfaaDoor Go.ChangeShapes Go.WideShapes Go.ChangeAt Go.RowKit
open Go.ChangeMaps (open_string shut_string)
set_option linter.unusedSimpArgs false
set_option linter.unusedVariables false

theorem walk_long (s : ByteArray) (w : World) (hT : Tabs w) (h : 2000 < (s.size : Int)) :
    Calls Tryd.prog 5 #[.string s] w fun e w' => e = .returned (.bool true) ∧ Ext w w' := by
  go_enter Tryd.func5, Tryd.ntmps5
  go_wp2_with (go_at_call 7; refine (awake3 _ hT).mono ?_; rintro e w2 ⟨rfl, hb2⟩)
  go_ret
  exact ⟨rfl, hb2⟩
set_option maxRecDepth 100000 in
set_option maxHeartbeats 4000000 in
theorem walk_nil (w : World) (hT : Tabs w) :
    Calls Tryd.prog 5 #[.string ⟨#[]⟩] w fun e w' => e = .returned (.bool true) ∧ Ext w w' := by
  have HT := Lib.hid hT
  have HM := Lib.hid (fun w => mark_no ⟨#[]⟩ w (by decide) (by decide) (by decide))
  clear hT
  go_enter Tryd.func5, Tryd.ntmps5
  go_wp2_with (first
    | (go_at_call 15; refine (HM.out _).mono ?_; rintro e w1 ⟨rfl, hb1⟩)
    | (go_at_call 16; refine (marked_nil _).mono ?_; rintro e w2 ⟨rfl, hb2⟩; have hC := Fx.made HT.out (hb1.trans hb2) 0 0))
  obtain ⟨f, hf⟩ : ∃ f, f = w2.heap.size := ⟨_, rfl⟩
  rw [← hf] at hC ⊢
  clear hf hb1 hb2
  have hC2 := hC.ext (Ext.drew (Ext.refl _))
  clear hC
  have hC := hC2
  clear hC2
  obtain ⟨q0, q1⟩ := hC.cells
  refine wp_region_held_drew (S := (fun W' => W'.cell? ⟨f, 0, none⟩ = some (.int .i64 0) ∧ W'.cell? ⟨f, 1, none⟩ = some (.int .i64 0))) (by kernel_rfl) ?_ (fun hHeld => ?_)
  · (try dsimp only); go_keep
  refine wpAnyH_ready (rs := [0]) (by kernel_rfl) (by simp) ?_
  refine' AllReadyH.cons (o := _) ?hixa0 (fun K hK => ?hk0xa0) AllReadyH.nil
  case hixa0 => exact rfl
  go_simp
  go_at_call 7
  refine (awake3 _ hC.tb).mono ?_
  rintro e wx ⟨rfl, hbx⟩
  have hC' := hC.ext hbx
  clear hC hbx
  have hC := hC'
  clear hC'
  obtain ⟨q0, q1⟩ := hC.cells
  try go_wp2_with fail
  refine hK.out _ _ ?hS0xa0 (fun hHeld => ?restxa0)
  case hS0xa0 => (try dsimp only); go_keep
  clear hK K
  try simp only [Act.put, List.setIfInBounds_toArray, List.set_cons_zero, List.set_cons_succ]
  refine' wpAnyH_take (i := 1) (oi := { dst := some 67, op := _, type := _, pos := _, after := _, guard := _ }) (v := _) ?hixa1 (by kernel_rfl) ?hfxa1 ?hrxa1 ?hqxa1 ?hyxa1 ?hsxa1 ?restxa1
  case hixa1 => exact rfl
  case hfxa1 => kernel_rfl
  case hrxa1 => kernel_rfl
  case hqxa1 => exact fun _ _ _ h => h
  case hsxa1 => assumption
  case hyxa1 =>
    refine Or.inl ⟨by kernel_rfl, ?_⟩
    intro w hSw
    try dsimp only at hSw
    go_simp
    try with_reducible rfl
  try simp only [Act.put, List.setIfInBounds_toArray, List.set_cons_zero, List.set_cons_succ]
  refine' wpAnyH_take (i := 2) (oi := { dst := some 68, op := _, type := _, pos := _, after := _, guard := _ }) (v := _) ?hixa2 (by kernel_rfl) ?hfxa2 ?hrxa2 ?hqxa2 ?hyxa2 ?hsxa2 ?restxa2
  case hixa2 => exact rfl
  case hfxa2 => kernel_rfl
  case hrxa2 => kernel_rfl
  case hqxa2 => exact fun _ _ _ h => h
  case hsxa2 => assumption
  case hyxa2 =>
    refine Or.inl ⟨by kernel_rfl, ?_⟩
    intro w hSw
    try dsimp only at hSw
    go_simp
    try with_reducible rfl
  try simp only [Act.put, List.setIfInBounds_toArray, List.set_cons_zero, List.set_cons_succ]
  refine' wpAnyH_take (i := 3) (oi := { dst := some 69, op := _, type := _, pos := _, after := _, guard := _ }) (v := _) ?hixa3 (by kernel_rfl) ?hfxa3 ?hrxa3 ?hqxa3 ?hyxa3 ?hsxa3 ?restxa3
  case hixa3 => exact rfl
  case hfxa3 => kernel_rfl
  case hrxa3 => kernel_rfl
  case hqxa3 => exact fun _ _ _ h => h
  case hsxa3 => assumption
  case hyxa3 =>
    refine Or.inl ⟨by kernel_rfl, ?_⟩
    intro w hSw
    try dsimp only at hSw
    go_simp
    try with_reducible rfl
  try simp only [Act.put, List.setIfInBounds_toArray, List.set_cons_zero, List.set_cons_succ]
  refine' wpAnyH_take (i := 4) (oi := { dst := some 70, op := _, type := _, pos := _, after := _, guard := _ }) (v := _) ?hixa4 (by kernel_rfl) ?hfxa4 ?hrxa4 ?hqxa4 ?hyxa4 ?hsxa4 ?restxa4
  case hixa4 => exact rfl
  case hfxa4 => kernel_rfl
  case hrxa4 => kernel_rfl
  case hqxa4 => exact fun _ _ _ h => h
  case hsxa4 => assumption
  case hyxa4 =>
    refine Or.inl ⟨by kernel_rfl, ?_⟩
    intro w hSw
    try dsimp only at hSw
    go_simp
    try with_reducible rfl
  try simp only [Act.put, List.setIfInBounds_toArray, List.set_cons_zero, List.set_cons_succ]
  refine' wpAnyH_take (i := 5) (oi := { dst := some 71, op := _, type := _, pos := _, after := _, guard := _ }) (v := _) ?hixa5 (by kernel_rfl) ?hfxa5 ?hrxa5 ?hqxa5 ?hyxa5 ?hsxa5 ?restxa5
  case hixa5 => exact rfl
  case hfxa5 => kernel_rfl
  case hrxa5 => kernel_rfl
  case hqxa5 => exact fun _ _ _ h => h
  case hsxa5 => assumption
  case hyxa5 =>
    refine Or.inl ⟨by kernel_rfl, ?_⟩
    intro w hSw
    try dsimp only at hSw
    go_simp
    try with_reducible rfl
  try simp only [Act.put, List.setIfInBounds_toArray, List.set_cons_zero, List.set_cons_succ]
  refine' wpAnyH_take (i := 6) (oi := { dst := some 72, op := _, type := _, pos := _, after := _, guard := _ }) (v := _) ?hixa6 (by kernel_rfl) ?hfxa6 ?hrxa6 ?hqxa6 ?hyxa6 ?hsxa6 ?restxa6
  case hixa6 => exact rfl
  case hfxa6 => kernel_rfl
  case hrxa6 => kernel_rfl
  case hqxa6 => exact fun _ _ _ h => h
  case hsxa6 => assumption
  case hyxa6 =>
    refine Or.inl ⟨by kernel_rfl, ?_⟩
    intro w hSw
    try dsimp only at hSw
    go_simp
    try with_reducible rfl
  try simp only [Act.put, List.setIfInBounds_toArray, List.set_cons_zero, List.set_cons_succ]
  refine' wpAnyH_take (i := 7) (oi := { dst := some 73, op := _, type := _, pos := _, after := _, guard := _ }) (v := _) ?hixa7 (by kernel_rfl) ?hfxa7 ?hrxa7 ?hqxa7 ?hyxa7 ?hsxa7 ?restxa7
  case hixa7 => exact rfl
  case hfxa7 => kernel_rfl
  case hrxa7 => kernel_rfl
  case hqxa7 => exact fun _ _ _ h => h
  case hsxa7 => assumption
  case hyxa7 =>
    refine Or.inl ⟨by kernel_rfl, ?_⟩
    intro w hSw
    try dsimp only at hSw
    go_simp
    try with_reducible rfl
  try simp only [Act.put, List.setIfInBounds_toArray, List.set_cons_zero, List.set_cons_succ]
  refine' wpAnyH_take (i := 8) (oi := { dst := some 74, op := _, type := _, pos := _, after := _, guard := _ }) (v := _) ?hixa8 (by kernel_rfl) ?hfxa8 ?hrxa8 ?hqxa8 ?hyxa8 ?hsxa8 ?restxa8
  case hixa8 => exact rfl
  case hfxa8 => kernel_rfl
  case hrxa8 => kernel_rfl
  case hqxa8 => exact fun _ _ _ h => h
  case hsxa8 => assumption
  case hyxa8 =>
    refine Or.inl ⟨by kernel_rfl, ?_⟩
    intro w hSw
    try dsimp only at hSw
    go_simp
    try with_reducible rfl
  try simp only [Act.put, List.setIfInBounds_toArray, List.set_cons_zero, List.set_cons_succ]
  refine' wpAnyH_take (i := 9) (oi := { dst := some 75, op := _, type := _, pos := _, after := _, guard := _ }) (v := _) ?hixa9 (by kernel_rfl) ?hfxa9 ?hrxa9 ?hqxa9 ?hyxa9 ?hsxa9 ?restxa9
  case hixa9 => exact rfl
  case hfxa9 => kernel_rfl
  case hrxa9 => kernel_rfl
  case hqxa9 => exact fun _ _ _ h => h
  case hsxa9 => assumption
  case hyxa9 =>
    refine Or.inl ⟨by kernel_rfl, ?_⟩
    intro w hSw
    try dsimp only at hSw
    go_simp
    try with_reducible rfl
  try simp only [Act.put, List.setIfInBounds_toArray, List.set_cons_zero, List.set_cons_succ]
  refine wpAnyH_ready (rs := [10]) (by kernel_rfl) (by simp) ?_
  refine' AllReadyH.cons (o := _) ?hixa10 (fun K hK => ?hk0xa10) AllReadyH.nil
  case hixa10 => exact rfl
  go_simp
  go_at_call 12
  refine (bad_no _ _ _ (by decide)).mono ?_
  rintro e wx ⟨rfl, hbx⟩
  have hC' := hC.ext hbx
  clear hC hbx
  have hC := hC'
  clear hC'
  obtain ⟨q0, q1⟩ := hC.cells
  try go_wp2_with fail
  refine hK.out _ _ ?hS0xa10 (fun hHeld => ?restxa10)
  case hS0xa10 => (try dsimp only); go_keep
  clear hK K
  try simp only [Act.put, List.setIfInBounds_toArray, List.set_cons_zero, List.set_cons_succ]
  refine' wpAnyH_take (i := 11) (oi := { dst := some 77, op := _, type := _, pos := _, after := _, guard := _ }) (v := _) ?hixa11 (by kernel_rfl) ?hfxa11 ?hrxa11 ?hqxa11 ?hyxa11 ?hsxa11 ?restxa11
  case hixa11 => exact rfl
  case hfxa11 => kernel_rfl
  case hrxa11 => kernel_rfl
  case hqxa11 => exact fun _ _ _ h => h
  case hsxa11 => assumption
  case hyxa11 =>
    refine Or.inl ⟨by kernel_rfl, ?_⟩
    intro w hSw
    try dsimp only at hSw
    go_simp
    try with_reducible rfl
  try simp only [Act.put, List.setIfInBounds_toArray, List.set_cons_zero, List.set_cons_succ]
  refine' wpAnyH_take (i := 12) (oi := { dst := some 78, op := _, type := _, pos := _, after := _, guard := _ }) (v := _) ?hixa12 (by kernel_rfl) ?hfxa12 ?hrxa12 ?hqxa12 ?hyxa12 ?hsxa12 ?restxa12
  case hixa12 => exact rfl
  case hfxa12 => kernel_rfl
  case hrxa12 => kernel_rfl
  case hqxa12 => exact fun _ _ _ h => h
  case hsxa12 => assumption
  case hyxa12 =>
    refine Or.inl ⟨by kernel_rfl, ?_⟩
    intro w hSw
    try dsimp only at hSw
    go_simp
    try with_reducible rfl
  try simp only [Act.put, List.setIfInBounds_toArray, List.set_cons_zero, List.set_cons_succ]
  refine' wpAnyH_take (i := 13) (oi := { dst := some 79, op := _, type := _, pos := _, after := _, guard := _ }) (v := _) ?hixa13 (by kernel_rfl) ?hfxa13 ?hrxa13 ?hqxa13 ?hyxa13 ?hsxa13 ?restxa13
  case hixa13 => exact rfl
  case hfxa13 => kernel_rfl
  case hrxa13 => kernel_rfl
  case hqxa13 => exact fun _ _ _ h => h
  case hsxa13 => assumption
  case hyxa13 =>
    refine Or.inl ⟨by kernel_rfl, ?_⟩
    intro w hSw
    try dsimp only at hSw
    go_simp
    try with_reducible rfl
  try simp only [Act.put, List.setIfInBounds_toArray, List.set_cons_zero, List.set_cons_succ]
  refine' wpAnyH_take (i := 14) (oi := { dst := some 80, op := _, type := _, pos := _, after := _, guard := _ }) (v := undef) ?hixa14 (by kernel_rfl) ?hfxa14 ?hrxa14 ?hqxa14 ?hyxa14 ?hsxa14 ?restxa14
  case hixa14 => exact rfl
  case hfxa14 => kernel_rfl
  case hrxa14 => kernel_rfl
  case hqxa14 => exact fun _ _ _ h => h
  case hsxa14 => assumption
  case hyxa14 => exact Or.inr ⟨by kernel_rfl, rfl⟩
  try simp only [Act.put, List.setIfInBounds_toArray, List.set_cons_zero, List.set_cons_succ]
  refine' wpAnyH_take (i := 15) (oi := { dst := some 81, op := _, type := _, pos := _, after := _, guard := _ }) (v := undef) ?hixa15 (by kernel_rfl) ?hfxa15 ?hrxa15 ?hqxa15 ?hyxa15 ?hsxa15 ?restxa15
  case hixa15 => exact rfl
  case hfxa15 => kernel_rfl
  case hrxa15 => kernel_rfl
  case hqxa15 => exact fun _ _ _ h => h
  case hsxa15 => assumption
  case hyxa15 => exact Or.inr ⟨by kernel_rfl, rfl⟩
  try simp only [Act.put, List.setIfInBounds_toArray, List.set_cons_zero, List.set_cons_succ]
  refine' wpAnyH_take (i := 16) (oi := { dst := some 82, op := _, type := _, pos := _, after := _, guard := _ }) (v := undef) ?hixa16 (by kernel_rfl) ?hfxa16 ?hrxa16 ?hqxa16 ?hyxa16 ?hsxa16 ?restxa16
  case hixa16 => exact rfl
  case hfxa16 => kernel_rfl
  case hrxa16 => kernel_rfl
  case hqxa16 => exact fun _ _ _ h => h
  case hsxa16 => assumption
  case hyxa16 => exact Or.inr ⟨by kernel_rfl, rfl⟩
  try simp only [Act.put, List.setIfInBounds_toArray, List.set_cons_zero, List.set_cons_succ]
  refine' wpAnyH_take (i := 17) (oi := { dst := some 83, op := _, type := _, pos := _, after := _, guard := _ }) (v := undef) ?hixa17 (by kernel_rfl) ?hfxa17 ?hrxa17 ?hqxa17 ?hyxa17 ?hsxa17 ?restxa17
  case hixa17 => exact rfl
  case hfxa17 => kernel_rfl
  case hrxa17 => kernel_rfl
  case hqxa17 => exact fun _ _ _ h => h
  case hsxa17 => assumption
  case hyxa17 => exact Or.inr ⟨by kernel_rfl, rfl⟩
  try simp only [Act.put, List.setIfInBounds_toArray, List.set_cons_zero, List.set_cons_succ]
  refine' wpAnyH_take (i := 18) (oi := { dst := some 84, op := _, type := _, pos := _, after := _, guard := _ }) (v := undef) ?hixa18 (by kernel_rfl) ?hfxa18 ?hrxa18 ?hqxa18 ?hyxa18 ?hsxa18 ?restxa18
  case hixa18 => exact rfl
  case hfxa18 => kernel_rfl
  case hrxa18 => kernel_rfl
  case hqxa18 => exact fun _ _ _ h => h
  case hsxa18 => assumption
  case hyxa18 => exact Or.inr ⟨by kernel_rfl, rfl⟩
  try simp only [Act.put, List.setIfInBounds_toArray, List.set_cons_zero, List.set_cons_succ]
  refine' wpAnyH_take (i := 19) (oi := { dst := some 85, op := _, type := _, pos := _, after := _, guard := _ }) (v := undef) ?hixa19 (by kernel_rfl) ?hfxa19 ?hrxa19 ?hqxa19 ?hyxa19 ?hsxa19 ?restxa19
  case hixa19 => exact rfl
  case hfxa19 => kernel_rfl
  case hrxa19 => kernel_rfl
  case hqxa19 => exact fun _ _ _ h => h
  case hsxa19 => assumption
  case hyxa19 => exact Or.inr ⟨by kernel_rfl, rfl⟩
  try simp only [Act.put, List.setIfInBounds_toArray, List.set_cons_zero, List.set_cons_succ]
  refine' wpAnyH_take (i := 20) (oi := { dst := some 86, op := _, type := _, pos := _, after := _, guard := _ }) (v := undef) ?hixa20 (by kernel_rfl) ?hfxa20 ?hrxa20 ?hqxa20 ?hyxa20 ?hsxa20 ?restxa20
  case hixa20 => exact rfl
  case hfxa20 => kernel_rfl
  case hrxa20 => kernel_rfl
  case hqxa20 => exact fun _ _ _ h => h
  case hsxa20 => assumption
  case hyxa20 => exact Or.inr ⟨by kernel_rfl, rfl⟩
  try simp only [Act.put, List.setIfInBounds_toArray, List.set_cons_zero, List.set_cons_succ]
  refine' wpAnyH_take (i := 21) (oi := { dst := some 87, op := _, type := _, pos := _, after := _, guard := _ }) (v := _) ?hixa21 (by kernel_rfl) ?hfxa21 ?hrxa21 ?hqxa21 ?hyxa21 ?hsxa21 ?restxa21
  case hixa21 => exact rfl
  case hfxa21 => kernel_rfl
  case hrxa21 => kernel_rfl
  case hqxa21 => exact fun _ _ _ h => h
  case hsxa21 => assumption
  case hyxa21 =>
    refine Or.inl ⟨by kernel_rfl, ?_⟩
    intro w hSw
    try dsimp only at hSw
    go_simp
    try with_reducible rfl
  try simp only [Act.put, List.setIfInBounds_toArray, List.set_cons_zero, List.set_cons_succ]
  refine' wpAnyH_take (i := 22) (oi := { dst := some 88, op := _, type := _, pos := _, after := _, guard := _ }) (v := _) ?hixa22 (by kernel_rfl) ?hfxa22 ?hrxa22 ?hqxa22 ?hyxa22 ?hsxa22 ?restxa22
  case hixa22 => exact rfl
  case hfxa22 => kernel_rfl
  case hrxa22 => kernel_rfl
  case hqxa22 => exact fun _ _ _ h => h
  case hsxa22 => assumption
  case hyxa22 =>
    refine Or.inl ⟨by kernel_rfl, ?_⟩
    intro w hSw
    try dsimp only at hSw
    go_simp
    try with_reducible rfl
  try simp only [Act.put, List.setIfInBounds_toArray, List.set_cons_zero, List.set_cons_succ]
  refine' wpAnyH_take (i := 23) (oi := { dst := some 2, op := _, type := _, pos := _, after := _, guard := _ }) (v := _) ?hixa23 (by kernel_rfl) ?hfxa23 ?hrxa23 ?hqxa23 ?hyxa23 ?hsxa23 ?restxa23
  case hixa23 => exact rfl
  case hfxa23 => kernel_rfl
  case hrxa23 => kernel_rfl
  case hqxa23 => exact fun _ _ _ h => h
  case hsxa23 => assumption
  case hyxa23 =>
    refine Or.inl ⟨by kernel_rfl, ?_⟩
    intro w hSw
    try dsimp only at hSw
    go_simp
    try with_reducible rfl
  try simp only [Act.put, List.setIfInBounds_toArray, List.set_cons_zero, List.set_cons_succ]
  refine wpAnyH_done (by kernel_rfl) ?_ _
  go_wp2
  go_ret
  exact ⟨rfl, hC.ex⟩
/-! MADE by a program: the walks with a mark, and without one -/
set_option maxRecDepth 100000 in
set_option maxHeartbeats 4000000 in
theorem walk_no1 (s : ByteArray) (w : World) (hT : Tabs w) (hl : (s.size : Int) ≤ 2000) (h00 : 0 < s.size) (hz : ¬ (2 : Int) ≤ s.size)
    (h1 : s.toList.isEmpty = false) (h2 : (s.toList == []) = false) (h3 : ¬ s.toList = [])
    (M : ∀ w, Calls Tryd.prog 15 #[.string s] w fun e w' => e = .returned (.tuple #[.bool false, .bool false]) ∧ Ext w w')
    (K : ∀ w, Calls Tryd.prog 16 #[.string s] w fun e w' => e = .returned (.tuple #[.string ⟨#[]⟩, .agg #[.int .i64 2, .int .i64 0]]) ∧ Ext w w') :
    Calls Tryd.prog 5 #[.string s] w fun e w' => e = .returned (.bool true) ∧ Ext w w' := by
  have HT := Lib.hid hT
  have HM := Lib.hid M
  have HK := Lib.hid K
  have HF := Lib.hid (fun w => lawfault_yes 0 (by decide) w)
  clear hT M K
  go_enter Tryd.func5, Tryd.ntmps5
  go_wp2_with (first
    | (go_at_call 15; refine (HM.out _).mono ?_; rintro e w1 ⟨rfl, hb1⟩)
    | (go_at_call 16; refine (HK.out _).mono ?_; rintro e w2 ⟨rfl, hb2⟩; have hC := Fx.made HT.out (hb1.trans hb2) 2 0))
  obtain ⟨f, hf⟩ : ∃ f, f = w2.heap.size := ⟨_, rfl⟩
  rw [← hf] at hC ⊢
  clear hf hb1 hb2
  have hC2 := hC.ext (Ext.drew (Ext.refl _))
  clear hC
  have hC := hC2
  clear hC2
  obtain ⟨q0, q1⟩ := hC.cells
  refine wp_region_held_drew (S := (fun W' => W'.cell? ⟨f, 0, none⟩ = some (.int .i64 2) ∧ W'.cell? ⟨f, 1, none⟩ = some (.int .i64 0))) (by kernel_rfl) ?_ (fun hHeld => ?_)
  · (try dsimp only); go_keep
  refine wpAnyH_ready (rs := [0]) (by kernel_rfl) (by simp) ?_
  refine' AllReadyH.cons (o := _) ?hixb0 (fun K hK => ?hk0xb0) AllReadyH.nil
  case hixb0 => exact rfl
  go_simp
  go_at_call 7
  refine (awake3 _ hC.tb).mono ?_
  rintro e wx ⟨rfl, hbx⟩
  have hC' := hC.ext hbx
  clear hC hbx
  have hC := hC'
  clear hC'
  obtain ⟨q0, q1⟩ := hC.cells
  try go_wp2_with fail
  refine hK.out _ _ ?hS0xb0 (fun hHeld => ?restxb0)
  case hS0xb0 => (try dsimp only); go_keep
  clear hK K
  try simp only [Act.put, List.setIfInBounds_toArray, List.set_cons_zero, List.set_cons_succ]
  refine' wpAnyH_take (i := 1) (oi := { dst := some 67, op := _, type := _, pos := _, after := _, guard := _ }) (v := _) ?hixb1 (by kernel_rfl) ?hfxb1 ?hrxb1 ?hqxb1 ?hyxb1 ?hsxb1 ?restxb1
  case hixb1 => exact rfl
  case hfxb1 => kernel_rfl
  case hrxb1 => kernel_rfl
  case hqxb1 => exact fun _ _ _ h => h
  case hsxb1 => assumption
  case hyxb1 =>
    refine Or.inl ⟨by kernel_rfl, ?_⟩
    intro w hSw
    try dsimp only at hSw
    go_simp
    try with_reducible rfl
  try simp only [Act.put, List.setIfInBounds_toArray, List.set_cons_zero, List.set_cons_succ]
  refine' wpAnyH_take (i := 2) (oi := { dst := some 68, op := _, type := _, pos := _, after := _, guard := _ }) (v := _) ?hixb2 (by kernel_rfl) ?hfxb2 ?hrxb2 ?hqxb2 ?hyxb2 ?hsxb2 ?restxb2
  case hixb2 => exact rfl
  case hfxb2 => kernel_rfl
  case hrxb2 => kernel_rfl
  case hqxb2 => exact fun _ _ _ h => h
  case hsxb2 => assumption
  case hyxb2 =>
    refine Or.inl ⟨by kernel_rfl, ?_⟩
    intro w hSw
    try dsimp only at hSw
    go_simp
    try with_reducible rfl
  try simp only [Act.put, List.setIfInBounds_toArray, List.set_cons_zero, List.set_cons_succ]
  refine' wpAnyH_take (i := 3) (oi := { dst := some 69, op := _, type := _, pos := _, after := _, guard := _ }) (v := _) ?hixb3 (by kernel_rfl) ?hfxb3 ?hrxb3 ?hqxb3 ?hyxb3 ?hsxb3 ?restxb3
  case hixb3 => exact rfl
  case hfxb3 => kernel_rfl
  case hrxb3 => kernel_rfl
  case hqxb3 => exact fun _ _ _ h => h
  case hsxb3 => assumption
  case hyxb3 =>
    refine Or.inl ⟨by kernel_rfl, ?_⟩
    intro w hSw
    try dsimp only at hSw
    go_simp
    try with_reducible rfl
  try simp only [Act.put, List.setIfInBounds_toArray, List.set_cons_zero, List.set_cons_succ]
  refine' wpAnyH_take (i := 4) (oi := { dst := some 70, op := _, type := _, pos := _, after := _, guard := _ }) (v := _) ?hixb4 (by kernel_rfl) ?hfxb4 ?hrxb4 ?hqxb4 ?hyxb4 ?hsxb4 ?restxb4
  case hixb4 => exact rfl
  case hfxb4 => kernel_rfl
  case hrxb4 => kernel_rfl
  case hqxb4 => exact fun _ _ _ h => h
  case hsxb4 => assumption
  case hyxb4 =>
    refine Or.inl ⟨by kernel_rfl, ?_⟩
    intro w hSw
    try dsimp only at hSw
    go_simp
    try with_reducible rfl
  try simp only [Act.put, List.setIfInBounds_toArray, List.set_cons_zero, List.set_cons_succ]
  refine' wpAnyH_take (i := 5) (oi := { dst := some 71, op := _, type := _, pos := _, after := _, guard := _ }) (v := _) ?hixb5 (by kernel_rfl) ?hfxb5 ?hrxb5 ?hqxb5 ?hyxb5 ?hsxb5 ?restxb5
  case hixb5 => exact rfl
  case hfxb5 => kernel_rfl
  case hrxb5 => kernel_rfl
  case hqxb5 => exact fun _ _ _ h => h
  case hsxb5 => assumption
  case hyxb5 =>
    refine Or.inl ⟨by kernel_rfl, ?_⟩
    intro w hSw
    try dsimp only at hSw
    go_simp
    try with_reducible rfl
  try simp only [Act.put, List.setIfInBounds_toArray, List.set_cons_zero, List.set_cons_succ]
  refine' wpAnyH_take (i := 6) (oi := { dst := some 72, op := _, type := _, pos := _, after := _, guard := _ }) (v := _) ?hixb6 (by kernel_rfl) ?hfxb6 ?hrxb6 ?hqxb6 ?hyxb6 ?hsxb6 ?restxb6
  case hixb6 => exact rfl
  case hfxb6 => kernel_rfl
  case hrxb6 => kernel_rfl
  case hqxb6 => exact fun _ _ _ h => h
  case hsxb6 => assumption
  case hyxb6 =>
    refine Or.inl ⟨by kernel_rfl, ?_⟩
    intro w hSw
    try dsimp only at hSw
    go_simp
    try with_reducible rfl
  try simp only [Act.put, List.setIfInBounds_toArray, List.set_cons_zero, List.set_cons_succ]
  refine' wpAnyH_take (i := 7) (oi := { dst := some 73, op := _, type := _, pos := _, after := _, guard := _ }) (v := _) ?hixb7 (by kernel_rfl) ?hfxb7 ?hrxb7 ?hqxb7 ?hyxb7 ?hsxb7 ?restxb7
  case hixb7 => exact rfl
  case hfxb7 => kernel_rfl
  case hrxb7 => kernel_rfl
  case hqxb7 => exact fun _ _ _ h => h
  case hsxb7 => assumption
  case hyxb7 =>
    refine Or.inl ⟨by kernel_rfl, ?_⟩
    intro w hSw
    try dsimp only at hSw
    go_simp
    try with_reducible rfl
  try simp only [Act.put, List.setIfInBounds_toArray, List.set_cons_zero, List.set_cons_succ]
  refine' wpAnyH_take (i := 8) (oi := { dst := some 74, op := _, type := _, pos := _, after := _, guard := _ }) (v := _) ?hixb8 (by kernel_rfl) ?hfxb8 ?hrxb8 ?hqxb8 ?hyxb8 ?hsxb8 ?restxb8
  case hixb8 => exact rfl
  case hfxb8 => kernel_rfl
  case hrxb8 => kernel_rfl
  case hqxb8 => exact fun _ _ _ h => h
  case hsxb8 => assumption
  case hyxb8 =>
    refine Or.inl ⟨by kernel_rfl, ?_⟩
    intro w hSw
    try dsimp only at hSw
    go_simp
    try with_reducible rfl
  try simp only [Act.put, List.setIfInBounds_toArray, List.set_cons_zero, List.set_cons_succ]
  refine' wpAnyH_take (i := 9) (oi := { dst := some 75, op := _, type := _, pos := _, after := _, guard := _ }) (v := undef) ?hixb9 (by kernel_rfl) ?hfxb9 ?hrxb9 ?hqxb9 ?hyxb9 ?hsxb9 ?restxb9
  case hixb9 => exact rfl
  case hfxb9 => kernel_rfl
  case hrxb9 => kernel_rfl
  case hqxb9 => exact fun _ _ _ h => h
  case hsxb9 => assumption
  case hyxb9 => exact Or.inr ⟨by kernel_rfl, rfl⟩
  try simp only [Act.put, List.setIfInBounds_toArray, List.set_cons_zero, List.set_cons_succ]
  refine' wpAnyH_take (i := 10) (oi := { dst := some 76, op := _, type := _, pos := _, after := _, guard := _ }) (v := undef) ?hixb10 (by kernel_rfl) ?hfxb10 ?hrxb10 ?hqxb10 ?hyxb10 ?hsxb10 ?restxb10
  case hixb10 => exact rfl
  case hfxb10 => kernel_rfl
  case hrxb10 => kernel_rfl
  case hqxb10 => exact fun _ _ _ h => h
  case hsxb10 => assumption
  case hyxb10 => exact Or.inr ⟨by kernel_rfl, rfl⟩
  try simp only [Act.put, List.setIfInBounds_toArray, List.set_cons_zero, List.set_cons_succ]
  refine' wpAnyH_take (i := 11) (oi := { dst := some 77, op := _, type := _, pos := _, after := _, guard := _ }) (v := undef) ?hixb11 (by kernel_rfl) ?hfxb11 ?hrxb11 ?hqxb11 ?hyxb11 ?hsxb11 ?restxb11
  case hixb11 => exact rfl
  case hfxb11 => kernel_rfl
  case hrxb11 => kernel_rfl
  case hqxb11 => exact fun _ _ _ h => h
  case hsxb11 => assumption
  case hyxb11 => exact Or.inr ⟨by kernel_rfl, rfl⟩
  try simp only [Act.put, List.setIfInBounds_toArray, List.set_cons_zero, List.set_cons_succ]
  refine' wpAnyH_take (i := 12) (oi := { dst := some 78, op := _, type := _, pos := _, after := _, guard := _ }) (v := _) ?hixb12 (by kernel_rfl) ?hfxb12 ?hrxb12 ?hqxb12 ?hyxb12 ?hsxb12 ?restxb12
  case hixb12 => exact rfl
  case hfxb12 => kernel_rfl
  case hrxb12 => kernel_rfl
  case hqxb12 => exact fun _ _ _ h => h
  case hsxb12 => assumption
  case hyxb12 =>
    refine Or.inl ⟨by kernel_rfl, ?_⟩
    intro w hSw
    try dsimp only at hSw
    go_simp
    try with_reducible rfl
  try simp only [Act.put, List.setIfInBounds_toArray, List.set_cons_zero, List.set_cons_succ]
  refine' wpAnyH_take (i := 13) (oi := { dst := some 79, op := _, type := _, pos := _, after := _, guard := _ }) (v := _) ?hixb13 (by kernel_rfl) ?hfxb13 ?hrxb13 ?hqxb13 ?hyxb13 ?hsxb13 ?restxb13
  case hixb13 => exact rfl
  case hfxb13 => kernel_rfl
  case hrxb13 => kernel_rfl
  case hqxb13 => exact fun _ _ _ h => h
  case hsxb13 => assumption
  case hyxb13 =>
    refine Or.inl ⟨by kernel_rfl, ?_⟩
    intro w hSw
    try dsimp only at hSw
    go_simp
    try with_reducible rfl
  try simp only [Act.put, List.setIfInBounds_toArray, List.set_cons_zero, List.set_cons_succ]
  refine' wpAnyH_take (i := 14) (oi := { dst := some 80, op := _, type := _, pos := _, after := _, guard := _ }) (v := _) ?hixb14 (by kernel_rfl) ?hfxb14 ?hrxb14 ?hqxb14 ?hyxb14 ?hsxb14 ?restxb14
  case hixb14 => exact rfl
  case hfxb14 => kernel_rfl
  case hrxb14 => kernel_rfl
  case hqxb14 => exact fun _ _ _ h => h
  case hsxb14 => assumption
  case hyxb14 =>
    refine Or.inl ⟨by kernel_rfl, ?_⟩
    intro w hSw
    try dsimp only at hSw
    go_simp
    try with_reducible rfl
  try simp only [Act.put, List.setIfInBounds_toArray, List.set_cons_zero, List.set_cons_succ]
  refine' wpAnyH_take (i := 15) (oi := { dst := some 81, op := _, type := _, pos := _, after := _, guard := _ }) (v := _) ?hixb15 (by kernel_rfl) ?hfxb15 ?hrxb15 ?hqxb15 ?hyxb15 ?hsxb15 ?restxb15
  case hixb15 => exact rfl
  case hfxb15 => kernel_rfl
  case hrxb15 => kernel_rfl
  case hqxb15 => exact fun _ _ _ h => h
  case hsxb15 => assumption
  case hyxb15 =>
    refine Or.inl ⟨by kernel_rfl, ?_⟩
    intro w hSw
    try dsimp only at hSw
    go_simp
    try with_reducible rfl
  try simp only [Act.put, List.setIfInBounds_toArray, List.set_cons_zero, List.set_cons_succ]
  refine' wpAnyH_take (i := 16) (oi := { dst := some 82, op := _, type := _, pos := _, after := _, guard := _ }) (v := _) ?hixb16 (by kernel_rfl) ?hfxb16 ?hrxb16 ?hqxb16 ?hyxb16 ?hsxb16 ?restxb16
  case hixb16 => exact rfl
  case hfxb16 => kernel_rfl
  case hrxb16 => kernel_rfl
  case hqxb16 => exact fun _ _ _ h => h
  case hsxb16 => assumption
  case hyxb16 =>
    refine Or.inl ⟨by kernel_rfl, ?_⟩
    intro w hSw
    try dsimp only at hSw
    go_simp
    try with_reducible rfl
  try simp only [Act.put, List.setIfInBounds_toArray, List.set_cons_zero, List.set_cons_succ]
  refine' wpAnyH_take (i := 17) (oi := { dst := some 83, op := _, type := _, pos := _, after := _, guard := _ }) (v := _) ?hixb17 (by kernel_rfl) ?hfxb17 ?hrxb17 ?hqxb17 ?hyxb17 ?hsxb17 ?restxb17
  case hixb17 => exact rfl
  case hfxb17 => kernel_rfl
  case hrxb17 => kernel_rfl
  case hqxb17 => exact fun _ _ _ h => h
  case hsxb17 => assumption
  case hyxb17 =>
    refine Or.inl ⟨by kernel_rfl, ?_⟩
    intro w hSw
    try dsimp only at hSw
    go_simp
    try with_reducible rfl
  try simp only [Act.put, List.setIfInBounds_toArray, List.set_cons_zero, List.set_cons_succ]
  refine wpAnyH_ready (rs := [18]) (by kernel_rfl) (by simp) ?_
  refine' AllReadyH.cons (o := _) ?hixb18 (fun K hK => ?hk0xb18) AllReadyH.nil
  case hixb18 => exact rfl
  go_simp
  go_at_call 10
  refine (HF.out _).mono ?_
  rintro e wx ⟨rfl, hbx⟩
  have hC' := hC.ext hbx
  clear hC hbx
  have hC := hC'
  clear hC'
  obtain ⟨q0, q1⟩ := hC.cells
  try go_wp2_with fail
  refine hK.out _ _ ?hS0xb18 (fun hHeld => ?restxb18)
  case hS0xb18 => (try dsimp only); go_keep
  clear hK K
  try simp only [Act.put, List.setIfInBounds_toArray, List.set_cons_zero, List.set_cons_succ]
  refine' wpAnyH_take (i := 19) (oi := { dst := some 85, op := _, type := _, pos := _, after := _, guard := _ }) (v := _) ?hixb19 (by kernel_rfl) ?hfxb19 ?hrxb19 ?hqxb19 ?hyxb19 ?hsxb19 ?restxb19
  case hixb19 => exact rfl
  case hfxb19 => kernel_rfl
  case hrxb19 => kernel_rfl
  case hqxb19 => exact fun _ _ _ h => h
  case hsxb19 => assumption
  case hyxb19 =>
    refine Or.inl ⟨by kernel_rfl, ?_⟩
    intro w hSw
    try dsimp only at hSw
    go_simp
    try with_reducible rfl
  try simp only [Act.put, List.setIfInBounds_toArray, List.set_cons_zero, List.set_cons_succ]
  refine' wpAnyH_take (i := 20) (oi := { dst := some 86, op := _, type := _, pos := _, after := _, guard := _ }) (v := _) ?hixb20 (by kernel_rfl) ?hfxb20 ?hrxb20 ?hqxb20 ?hyxb20 ?hsxb20 ?restxb20
  case hixb20 => exact rfl
  case hfxb20 => kernel_rfl
  case hrxb20 => kernel_rfl
  case hqxb20 => exact fun _ _ _ h => h
  case hsxb20 => assumption
  case hyxb20 =>
    refine Or.inl ⟨by kernel_rfl, ?_⟩
    intro w hSw
    try dsimp only at hSw
    go_simp
    try with_reducible rfl
  try simp only [Act.put, List.setIfInBounds_toArray, List.set_cons_zero, List.set_cons_succ]
  refine' wpAnyH_take (i := 21) (oi := { dst := some 87, op := _, type := _, pos := _, after := _, guard := _ }) (v := _) ?hixb21 (by kernel_rfl) ?hfxb21 ?hrxb21 ?hqxb21 ?hyxb21 ?hsxb21 ?restxb21
  case hixb21 => exact rfl
  case hfxb21 => kernel_rfl
  case hrxb21 => kernel_rfl
  case hqxb21 => exact fun _ _ _ h => h
  case hsxb21 => assumption
  case hyxb21 =>
    refine Or.inl ⟨by kernel_rfl, ?_⟩
    intro w hSw
    try dsimp only at hSw
    go_simp
    try with_reducible rfl
  try simp only [Act.put, List.setIfInBounds_toArray, List.set_cons_zero, List.set_cons_succ]
  refine' wpAnyH_take (i := 22) (oi := { dst := some 88, op := _, type := _, pos := _, after := _, guard := _ }) (v := _) ?hixb22 (by kernel_rfl) ?hfxb22 ?hrxb22 ?hqxb22 ?hyxb22 ?hsxb22 ?restxb22
  case hixb22 => exact rfl
  case hfxb22 => kernel_rfl
  case hrxb22 => kernel_rfl
  case hqxb22 => exact fun _ _ _ h => h
  case hsxb22 => assumption
  case hyxb22 =>
    refine Or.inl ⟨by kernel_rfl, ?_⟩
    intro w hSw
    try dsimp only at hSw
    go_simp
    try with_reducible rfl
  try simp only [Act.put, List.setIfInBounds_toArray, List.set_cons_zero, List.set_cons_succ]
  refine' wpAnyH_take (i := 23) (oi := { dst := some 2, op := _, type := _, pos := _, after := _, guard := _ }) (v := _) ?hixb23 (by kernel_rfl) ?hfxb23 ?hrxb23 ?hqxb23 ?hyxb23 ?hsxb23 ?restxb23
  case hixb23 => exact rfl
  case hfxb23 => kernel_rfl
  case hrxb23 => kernel_rfl
  case hqxb23 => exact fun _ _ _ h => h
  case hsxb23 => assumption
  case hyxb23 =>
    refine Or.inl ⟨by kernel_rfl, ?_⟩
    intro w hSw
    try dsimp only at hSw
    go_simp
    try with_reducible rfl
  try simp only [Act.put, List.setIfInBounds_toArray, List.set_cons_zero, List.set_cons_succ]
  refine wpAnyH_done (by kernel_rfl) ?_ _
  go_wp2
  go_ret
  exact ⟨rfl, hC.ex⟩
set_option maxRecDepth 100000 in
set_option maxHeartbeats 4000000 in
theorem walk_no2 (s : ByteArray) (w : World) (hT : Tabs w) (hl : (s.size : Int) ≤ 2000) (h00 : 0 < s.size) (h10 : 1 < s.size) (hz : (2 : Int) ≤ s.size) (n254 : ((s[0]'h00).toNat : Int) ≠ 254) (m254 : (((s[0]'h00).toNat : Int) == 254) = false) (n255 : ((s[0]'h00).toNat : Int) ≠ 255) (m255 : (((s[0]'h00).toNat : Int) == 255) = false) 
    (h1 : s.toList.isEmpty = false) (h2 : (s.toList == []) = false) (h3 : ¬ s.toList = [])
    (M : ∀ w, Calls Tryd.prog 15 #[.string s] w fun e w' => e = .returned (.tuple #[.bool false, .bool false]) ∧ Ext w w')
    (K : ∀ w, Calls Tryd.prog 16 #[.string s] w fun e w' => e = .returned (.tuple #[.string ⟨#[]⟩, .agg #[.int .i64 2, .int .i64 0]]) ∧ Ext w w') :
    Calls Tryd.prog 5 #[.string s] w fun e w' => e = .returned (.bool true) ∧ Ext w w' := by
  have HT := Lib.hid hT
  have HM := Lib.hid M
  have HK := Lib.hid K
  have HF := Lib.hid (fun w => lawfault_yes 0 (by decide) w)
  clear hT M K
  go_enter Tryd.func5, Tryd.ntmps5
  go_wp2_with (first
    | (go_at_call 15; refine (HM.out _).mono ?_; rintro e w1 ⟨rfl, hb1⟩)
    | (go_at_call 16; refine (HK.out _).mono ?_; rintro e w2 ⟨rfl, hb2⟩; have hC := Fx.made HT.out (hb1.trans hb2) 2 0))
  obtain ⟨f, hf⟩ : ∃ f, f = w2.heap.size := ⟨_, rfl⟩
  rw [← hf] at hC ⊢
  clear hf hb1 hb2
  have hC2 := hC.ext (Ext.drew (Ext.refl _))
  clear hC
  have hC := hC2
  clear hC2
  obtain ⟨q0, q1⟩ := hC.cells
  refine wp_region_held_drew (S := (fun W' => W'.cell? ⟨f, 0, none⟩ = some (.int .i64 2) ∧ W'.cell? ⟨f, 1, none⟩ = some (.int .i64 0))) (by kernel_rfl) ?_ (fun hHeld => ?_)
  · (try dsimp only); go_keep
  refine wpAnyH_ready (rs := [0]) (by kernel_rfl) (by simp) ?_
  refine' AllReadyH.cons (o := _) ?hixc0 (fun K hK => ?hk0xc0) AllReadyH.nil
  case hixc0 => exact rfl
  go_simp
  go_at_call 7
  refine (awake3 _ hC.tb).mono ?_
  rintro e wx ⟨rfl, hbx⟩
  have hC' := hC.ext hbx
  clear hC hbx
  have hC := hC'
  clear hC'
  obtain ⟨q0, q1⟩ := hC.cells
  try go_wp2_with fail
  refine hK.out _ _ ?hS0xc0 (fun hHeld => ?restxc0)
  case hS0xc0 => (try dsimp only); go_keep
  clear hK K
  try simp only [Act.put, List.setIfInBounds_toArray, List.set_cons_zero, List.set_cons_succ]
  refine' wpAnyH_take (i := 1) (oi := { dst := some 67, op := _, type := _, pos := _, after := _, guard := _ }) (v := _) ?hixc1 (by kernel_rfl) ?hfxc1 ?hrxc1 ?hqxc1 ?hyxc1 ?hsxc1 ?restxc1
  case hixc1 => exact rfl
  case hfxc1 => kernel_rfl
  case hrxc1 => kernel_rfl
  case hqxc1 => exact fun _ _ _ h => h
  case hsxc1 => assumption
  case hyxc1 =>
    refine Or.inl ⟨by kernel_rfl, ?_⟩
    intro w hSw
    try dsimp only at hSw
    go_simp
    try with_reducible rfl
  try simp only [Act.put, List.setIfInBounds_toArray, List.set_cons_zero, List.set_cons_succ]
  refine' wpAnyH_take (i := 2) (oi := { dst := some 68, op := _, type := _, pos := _, after := _, guard := _ }) (v := _) ?hixc2 (by kernel_rfl) ?hfxc2 ?hrxc2 ?hqxc2 ?hyxc2 ?hsxc2 ?restxc2
  case hixc2 => exact rfl
  case hfxc2 => kernel_rfl
  case hrxc2 => kernel_rfl
  case hqxc2 => exact fun _ _ _ h => h
  case hsxc2 => assumption
  case hyxc2 =>
    refine Or.inl ⟨by kernel_rfl, ?_⟩
    intro w hSw
    try dsimp only at hSw
    go_simp
    try with_reducible rfl
  try simp only [Act.put, List.setIfInBounds_toArray, List.set_cons_zero, List.set_cons_succ]
  refine' wpAnyH_take (i := 3) (oi := { dst := some 69, op := _, type := _, pos := _, after := _, guard := _ }) (v := _) ?hixc3 (by kernel_rfl) ?hfxc3 ?hrxc3 ?hqxc3 ?hyxc3 ?hsxc3 ?restxc3
  case hixc3 => exact rfl
  case hfxc3 => kernel_rfl
  case hrxc3 => kernel_rfl
  case hqxc3 => exact fun _ _ _ h => h
  case hsxc3 => assumption
  case hyxc3 =>
    refine Or.inl ⟨by kernel_rfl, ?_⟩
    intro w hSw
    try dsimp only at hSw
    go_simp
    try with_reducible rfl
  try simp only [Act.put, List.setIfInBounds_toArray, List.set_cons_zero, List.set_cons_succ]
  refine' wpAnyH_take (i := 4) (oi := { dst := some 70, op := _, type := _, pos := _, after := _, guard := _ }) (v := _) ?hixc4 (by kernel_rfl) ?hfxc4 ?hrxc4 ?hqxc4 ?hyxc4 ?hsxc4 ?restxc4
  case hixc4 => exact rfl
  case hfxc4 => kernel_rfl
  case hrxc4 => kernel_rfl
  case hqxc4 => exact fun _ _ _ h => h
  case hsxc4 => assumption
  case hyxc4 =>
    refine Or.inl ⟨by kernel_rfl, ?_⟩
    intro w hSw
    try dsimp only at hSw
    go_simp
    try with_reducible rfl
  try simp only [Act.put, List.setIfInBounds_toArray, List.set_cons_zero, List.set_cons_succ]
  refine' wpAnyH_take (i := 5) (oi := { dst := some 71, op := _, type := _, pos := _, after := _, guard := _ }) (v := _) ?hixc5 (by kernel_rfl) ?hfxc5 ?hrxc5 ?hqxc5 ?hyxc5 ?hsxc5 ?restxc5
  case hixc5 => exact rfl
  case hfxc5 => kernel_rfl
  case hrxc5 => kernel_rfl
  case hqxc5 => exact fun _ _ _ h => h
  case hsxc5 => assumption
  case hyxc5 =>
    refine Or.inl ⟨by kernel_rfl, ?_⟩
    intro w hSw
    try dsimp only at hSw
    go_simp
    try with_reducible rfl
  try simp only [Act.put, List.setIfInBounds_toArray, List.set_cons_zero, List.set_cons_succ]
  refine' wpAnyH_take (i := 6) (oi := { dst := some 72, op := _, type := _, pos := _, after := _, guard := _ }) (v := _) ?hixc6 (by kernel_rfl) ?hfxc6 ?hrxc6 ?hqxc6 ?hyxc6 ?hsxc6 ?restxc6
  case hixc6 => exact rfl
  case hfxc6 => kernel_rfl
  case hrxc6 => kernel_rfl
  case hqxc6 => exact fun _ _ _ h => h
  case hsxc6 => assumption
  case hyxc6 =>
    refine Or.inl ⟨by kernel_rfl, ?_⟩
    intro w hSw
    try dsimp only at hSw
    go_simp
    try with_reducible rfl
  try simp only [Act.put, List.setIfInBounds_toArray, List.set_cons_zero, List.set_cons_succ]
  refine' wpAnyH_take (i := 7) (oi := { dst := some 73, op := _, type := _, pos := _, after := _, guard := _ }) (v := _) ?hixc7 (by kernel_rfl) ?hfxc7 ?hrxc7 ?hqxc7 ?hyxc7 ?hsxc7 ?restxc7
  case hixc7 => exact rfl
  case hfxc7 => kernel_rfl
  case hrxc7 => kernel_rfl
  case hqxc7 => exact fun _ _ _ h => h
  case hsxc7 => assumption
  case hyxc7 =>
    refine Or.inl ⟨by kernel_rfl, ?_⟩
    intro w hSw
    try dsimp only at hSw
    go_simp
    try with_reducible rfl
  try simp only [Act.put, List.setIfInBounds_toArray, List.set_cons_zero, List.set_cons_succ]
  refine' wpAnyH_take (i := 8) (oi := { dst := some 74, op := _, type := _, pos := _, after := _, guard := _ }) (v := _) ?hixc8 (by kernel_rfl) ?hfxc8 ?hrxc8 ?hqxc8 ?hyxc8 ?hsxc8 ?restxc8
  case hixc8 => exact rfl
  case hfxc8 => kernel_rfl
  case hrxc8 => kernel_rfl
  case hqxc8 => exact fun _ _ _ h => h
  case hsxc8 => assumption
  case hyxc8 =>
    refine Or.inl ⟨by kernel_rfl, ?_⟩
    intro w hSw
    try dsimp only at hSw
    go_simp
    try with_reducible rfl
  try simp only [Act.put, List.setIfInBounds_toArray, List.set_cons_zero, List.set_cons_succ]
  refine' wpAnyH_take (i := 9) (oi := { dst := some 75, op := _, type := _, pos := _, after := _, guard := _ }) (v := undef) ?hixc9 (by kernel_rfl) ?hfxc9 ?hrxc9 ?hqxc9 ?hyxc9 ?hsxc9 ?restxc9
  case hixc9 => exact rfl
  case hfxc9 => kernel_rfl
  case hrxc9 => kernel_rfl
  case hqxc9 => exact fun _ _ _ h => h
  case hsxc9 => assumption
  case hyxc9 => exact Or.inr ⟨by kernel_rfl, rfl⟩
  try simp only [Act.put, List.setIfInBounds_toArray, List.set_cons_zero, List.set_cons_succ]
  refine' wpAnyH_take (i := 10) (oi := { dst := some 76, op := _, type := _, pos := _, after := _, guard := _ }) (v := undef) ?hixc10 (by kernel_rfl) ?hfxc10 ?hrxc10 ?hqxc10 ?hyxc10 ?hsxc10 ?restxc10
  case hixc10 => exact rfl
  case hfxc10 => kernel_rfl
  case hrxc10 => kernel_rfl
  case hqxc10 => exact fun _ _ _ h => h
  case hsxc10 => assumption
  case hyxc10 => exact Or.inr ⟨by kernel_rfl, rfl⟩
  try simp only [Act.put, List.setIfInBounds_toArray, List.set_cons_zero, List.set_cons_succ]
  refine' wpAnyH_take (i := 11) (oi := { dst := some 77, op := _, type := _, pos := _, after := _, guard := _ }) (v := undef) ?hixc11 (by kernel_rfl) ?hfxc11 ?hrxc11 ?hqxc11 ?hyxc11 ?hsxc11 ?restxc11
  case hixc11 => exact rfl
  case hfxc11 => kernel_rfl
  case hrxc11 => kernel_rfl
  case hqxc11 => exact fun _ _ _ h => h
  case hsxc11 => assumption
  case hyxc11 => exact Or.inr ⟨by kernel_rfl, rfl⟩
  try simp only [Act.put, List.setIfInBounds_toArray, List.set_cons_zero, List.set_cons_succ]
  refine' wpAnyH_take (i := 12) (oi := { dst := some 78, op := _, type := _, pos := _, after := _, guard := _ }) (v := _) ?hixc12 (by kernel_rfl) ?hfxc12 ?hrxc12 ?hqxc12 ?hyxc12 ?hsxc12 ?restxc12
  case hixc12 => exact rfl
  case hfxc12 => kernel_rfl
  case hrxc12 => kernel_rfl
  case hqxc12 => exact fun _ _ _ h => h
  case hsxc12 => assumption
  case hyxc12 =>
    refine Or.inl ⟨by kernel_rfl, ?_⟩
    intro w hSw
    try dsimp only at hSw
    go_simp
    try with_reducible rfl
  try simp only [Act.put, List.setIfInBounds_toArray, List.set_cons_zero, List.set_cons_succ]
  refine' wpAnyH_take (i := 13) (oi := { dst := some 79, op := _, type := _, pos := _, after := _, guard := _ }) (v := _) ?hixc13 (by kernel_rfl) ?hfxc13 ?hrxc13 ?hqxc13 ?hyxc13 ?hsxc13 ?restxc13
  case hixc13 => exact rfl
  case hfxc13 => kernel_rfl
  case hrxc13 => kernel_rfl
  case hqxc13 => exact fun _ _ _ h => h
  case hsxc13 => assumption
  case hyxc13 =>
    refine Or.inl ⟨by kernel_rfl, ?_⟩
    intro w hSw
    try dsimp only at hSw
    go_simp
    try with_reducible rfl
  try simp only [Act.put, List.setIfInBounds_toArray, List.set_cons_zero, List.set_cons_succ]
  refine' wpAnyH_take (i := 14) (oi := { dst := some 80, op := _, type := _, pos := _, after := _, guard := _ }) (v := _) ?hixc14 (by kernel_rfl) ?hfxc14 ?hrxc14 ?hqxc14 ?hyxc14 ?hsxc14 ?restxc14
  case hixc14 => exact rfl
  case hfxc14 => kernel_rfl
  case hrxc14 => kernel_rfl
  case hqxc14 => exact fun _ _ _ h => h
  case hsxc14 => assumption
  case hyxc14 =>
    refine Or.inl ⟨by kernel_rfl, ?_⟩
    intro w hSw
    try dsimp only at hSw
    go_simp
    try with_reducible rfl
  try simp only [Act.put, List.setIfInBounds_toArray, List.set_cons_zero, List.set_cons_succ]
  refine' wpAnyH_take (i := 15) (oi := { dst := some 81, op := _, type := _, pos := _, after := _, guard := _ }) (v := _) ?hixc15 (by kernel_rfl) ?hfxc15 ?hrxc15 ?hqxc15 ?hyxc15 ?hsxc15 ?restxc15
  case hixc15 => exact rfl
  case hfxc15 => kernel_rfl
  case hrxc15 => kernel_rfl
  case hqxc15 => exact fun _ _ _ h => h
  case hsxc15 => assumption
  case hyxc15 =>
    refine Or.inl ⟨by kernel_rfl, ?_⟩
    intro w hSw
    try dsimp only at hSw
    go_simp
    try with_reducible rfl
  try simp only [Act.put, List.setIfInBounds_toArray, List.set_cons_zero, List.set_cons_succ]
  refine' wpAnyH_take (i := 16) (oi := { dst := some 82, op := _, type := _, pos := _, after := _, guard := _ }) (v := _) ?hixc16 (by kernel_rfl) ?hfxc16 ?hrxc16 ?hqxc16 ?hyxc16 ?hsxc16 ?restxc16
  case hixc16 => exact rfl
  case hfxc16 => kernel_rfl
  case hrxc16 => kernel_rfl
  case hqxc16 => exact fun _ _ _ h => h
  case hsxc16 => assumption
  case hyxc16 =>
    refine Or.inl ⟨by kernel_rfl, ?_⟩
    intro w hSw
    try dsimp only at hSw
    go_simp
    try with_reducible rfl
  try simp only [Act.put, List.setIfInBounds_toArray, List.set_cons_zero, List.set_cons_succ]
  refine' wpAnyH_take (i := 17) (oi := { dst := some 83, op := _, type := _, pos := _, after := _, guard := _ }) (v := _) ?hixc17 (by kernel_rfl) ?hfxc17 ?hrxc17 ?hqxc17 ?hyxc17 ?hsxc17 ?restxc17
  case hixc17 => exact rfl
  case hfxc17 => kernel_rfl
  case hrxc17 => kernel_rfl
  case hqxc17 => exact fun _ _ _ h => h
  case hsxc17 => assumption
  case hyxc17 =>
    refine Or.inl ⟨by kernel_rfl, ?_⟩
    intro w hSw
    try dsimp only at hSw
    go_simp
    try with_reducible rfl
  try simp only [Act.put, List.setIfInBounds_toArray, List.set_cons_zero, List.set_cons_succ]
  refine wpAnyH_ready (rs := [18]) (by kernel_rfl) (by simp) ?_
  refine' AllReadyH.cons (o := _) ?hixc18 (fun K hK => ?hk0xc18) AllReadyH.nil
  case hixc18 => exact rfl
  go_simp
  go_at_call 10
  refine (HF.out _).mono ?_
  rintro e wx ⟨rfl, hbx⟩
  have hC' := hC.ext hbx
  clear hC hbx
  have hC := hC'
  clear hC'
  obtain ⟨q0, q1⟩ := hC.cells
  try go_wp2_with fail
  refine hK.out _ _ ?hS0xc18 (fun hHeld => ?restxc18)
  case hS0xc18 => (try dsimp only); go_keep
  clear hK K
  try simp only [Act.put, List.setIfInBounds_toArray, List.set_cons_zero, List.set_cons_succ]
  refine' wpAnyH_take (i := 19) (oi := { dst := some 85, op := _, type := _, pos := _, after := _, guard := _ }) (v := _) ?hixc19 (by kernel_rfl) ?hfxc19 ?hrxc19 ?hqxc19 ?hyxc19 ?hsxc19 ?restxc19
  case hixc19 => exact rfl
  case hfxc19 => kernel_rfl
  case hrxc19 => kernel_rfl
  case hqxc19 => exact fun _ _ _ h => h
  case hsxc19 => assumption
  case hyxc19 =>
    refine Or.inl ⟨by kernel_rfl, ?_⟩
    intro w hSw
    try dsimp only at hSw
    go_simp
    try with_reducible rfl
  try simp only [Act.put, List.setIfInBounds_toArray, List.set_cons_zero, List.set_cons_succ]
  refine' wpAnyH_take (i := 20) (oi := { dst := some 86, op := _, type := _, pos := _, after := _, guard := _ }) (v := _) ?hixc20 (by kernel_rfl) ?hfxc20 ?hrxc20 ?hqxc20 ?hyxc20 ?hsxc20 ?restxc20
  case hixc20 => exact rfl
  case hfxc20 => kernel_rfl
  case hrxc20 => kernel_rfl
  case hqxc20 => exact fun _ _ _ h => h
  case hsxc20 => assumption
  case hyxc20 =>
    refine Or.inl ⟨by kernel_rfl, ?_⟩
    intro w hSw
    try dsimp only at hSw
    go_simp
    try with_reducible rfl
  try simp only [Act.put, List.setIfInBounds_toArray, List.set_cons_zero, List.set_cons_succ]
  refine' wpAnyH_take (i := 21) (oi := { dst := some 87, op := _, type := _, pos := _, after := _, guard := _ }) (v := _) ?hixc21 (by kernel_rfl) ?hfxc21 ?hrxc21 ?hqxc21 ?hyxc21 ?hsxc21 ?restxc21
  case hixc21 => exact rfl
  case hfxc21 => kernel_rfl
  case hrxc21 => kernel_rfl
  case hqxc21 => exact fun _ _ _ h => h
  case hsxc21 => assumption
  case hyxc21 =>
    refine Or.inl ⟨by kernel_rfl, ?_⟩
    intro w hSw
    try dsimp only at hSw
    go_simp
    try with_reducible rfl
  try simp only [Act.put, List.setIfInBounds_toArray, List.set_cons_zero, List.set_cons_succ]
  refine' wpAnyH_take (i := 22) (oi := { dst := some 88, op := _, type := _, pos := _, after := _, guard := _ }) (v := _) ?hixc22 (by kernel_rfl) ?hfxc22 ?hrxc22 ?hqxc22 ?hyxc22 ?hsxc22 ?restxc22
  case hixc22 => exact rfl
  case hfxc22 => kernel_rfl
  case hrxc22 => kernel_rfl
  case hqxc22 => exact fun _ _ _ h => h
  case hsxc22 => assumption
  case hyxc22 =>
    refine Or.inl ⟨by kernel_rfl, ?_⟩
    intro w hSw
    try dsimp only at hSw
    go_simp
    try with_reducible rfl
  try simp only [Act.put, List.setIfInBounds_toArray, List.set_cons_zero, List.set_cons_succ]
  refine' wpAnyH_take (i := 23) (oi := { dst := some 2, op := _, type := _, pos := _, after := _, guard := _ }) (v := _) ?hixc23 (by kernel_rfl) ?hfxc23 ?hrxc23 ?hqxc23 ?hyxc23 ?hsxc23 ?restxc23
  case hixc23 => exact rfl
  case hfxc23 => kernel_rfl
  case hrxc23 => kernel_rfl
  case hqxc23 => exact fun _ _ _ h => h
  case hsxc23 => assumption
  case hyxc23 =>
    refine Or.inl ⟨by kernel_rfl, ?_⟩
    intro w hSw
    try dsimp only at hSw
    go_simp
    try with_reducible rfl
  try simp only [Act.put, List.setIfInBounds_toArray, List.set_cons_zero, List.set_cons_succ]
  refine wpAnyH_done (by kernel_rfl) ?_ _
  go_wp2
  go_ret
  exact ⟨rfl, hC.ex⟩
set_option maxRecDepth 100000 in
set_option maxHeartbeats 4000000 in
theorem walk_no3 (s : ByteArray) (w : World) (hT : Tabs w) (hl : (s.size : Int) ≤ 2000) (h00 : 0 < s.size) (h10 : 1 < s.size) (hz : (2 : Int) ≤ s.size) (y0 : (s[0]'h00).toNat = 254) (n256 : ((s[1]'h10).toNat : Int) ≠ 255) (m256 : (((s[1]'h10).toNat : Int) == 255) = false) 
    (h1 : s.toList.isEmpty = false) (h2 : (s.toList == []) = false) (h3 : ¬ s.toList = [])
    (M : ∀ w, Calls Tryd.prog 15 #[.string s] w fun e w' => e = .returned (.tuple #[.bool false, .bool false]) ∧ Ext w w')
    (K : ∀ w, Calls Tryd.prog 16 #[.string s] w fun e w' => e = .returned (.tuple #[.string ⟨#[]⟩, .agg #[.int .i64 2, .int .i64 0]]) ∧ Ext w w') :
    Calls Tryd.prog 5 #[.string s] w fun e w' => e = .returned (.bool true) ∧ Ext w w' := by
  have HT := Lib.hid hT
  have HM := Lib.hid M
  have HK := Lib.hid K
  have HF := Lib.hid (fun w => lawfault_yes 0 (by decide) w)
  clear hT M K
  go_enter Tryd.func5, Tryd.ntmps5
  go_wp2_with (first
    | (go_at_call 15; refine (HM.out _).mono ?_; rintro e w1 ⟨rfl, hb1⟩)
    | (go_at_call 16; refine (HK.out _).mono ?_; rintro e w2 ⟨rfl, hb2⟩; have hC := Fx.made HT.out (hb1.trans hb2) 2 0))
  obtain ⟨f, hf⟩ : ∃ f, f = w2.heap.size := ⟨_, rfl⟩
  rw [← hf] at hC ⊢
  clear hf hb1 hb2
  have hC2 := hC.ext (Ext.drew (Ext.refl _))
  clear hC
  have hC := hC2
  clear hC2
  obtain ⟨q0, q1⟩ := hC.cells
  refine wp_region_held_drew (S := (fun W' => W'.cell? ⟨f, 0, none⟩ = some (.int .i64 2) ∧ W'.cell? ⟨f, 1, none⟩ = some (.int .i64 0))) (by kernel_rfl) ?_ (fun hHeld => ?_)
  · (try dsimp only); go_keep
  refine wpAnyH_ready (rs := [0]) (by kernel_rfl) (by simp) ?_
  refine' AllReadyH.cons (o := _) ?hixd0 (fun K hK => ?hk0xd0) AllReadyH.nil
  case hixd0 => exact rfl
  go_simp
  go_at_call 7
  refine (awake3 _ hC.tb).mono ?_
  rintro e wx ⟨rfl, hbx⟩
  have hC' := hC.ext hbx
  clear hC hbx
  have hC := hC'
  clear hC'
  obtain ⟨q0, q1⟩ := hC.cells
  try go_wp2_with fail
  refine hK.out _ _ ?hS0xd0 (fun hHeld => ?restxd0)
  case hS0xd0 => (try dsimp only); go_keep
  clear hK K
  try simp only [Act.put, List.setIfInBounds_toArray, List.set_cons_zero, List.set_cons_succ]
  refine' wpAnyH_take (i := 1) (oi := { dst := some 67, op := _, type := _, pos := _, after := _, guard := _ }) (v := _) ?hixd1 (by kernel_rfl) ?hfxd1 ?hrxd1 ?hqxd1 ?hyxd1 ?hsxd1 ?restxd1
  case hixd1 => exact rfl
  case hfxd1 => kernel_rfl
  case hrxd1 => kernel_rfl
  case hqxd1 => exact fun _ _ _ h => h
  case hsxd1 => assumption
  case hyxd1 =>
    refine Or.inl ⟨by kernel_rfl, ?_⟩
    intro w hSw
    try dsimp only at hSw
    go_simp
    try with_reducible rfl
  try simp only [Act.put, List.setIfInBounds_toArray, List.set_cons_zero, List.set_cons_succ]
  refine' wpAnyH_take (i := 2) (oi := { dst := some 68, op := _, type := _, pos := _, after := _, guard := _ }) (v := _) ?hixd2 (by kernel_rfl) ?hfxd2 ?hrxd2 ?hqxd2 ?hyxd2 ?hsxd2 ?restxd2
  case hixd2 => exact rfl
  case hfxd2 => kernel_rfl
  case hrxd2 => kernel_rfl
  case hqxd2 => exact fun _ _ _ h => h
  case hsxd2 => assumption
  case hyxd2 =>
    refine Or.inl ⟨by kernel_rfl, ?_⟩
    intro w hSw
    try dsimp only at hSw
    go_simp
    try with_reducible rfl
  try simp only [Act.put, List.setIfInBounds_toArray, List.set_cons_zero, List.set_cons_succ]
  refine' wpAnyH_take (i := 3) (oi := { dst := some 69, op := _, type := _, pos := _, after := _, guard := _ }) (v := _) ?hixd3 (by kernel_rfl) ?hfxd3 ?hrxd3 ?hqxd3 ?hyxd3 ?hsxd3 ?restxd3
  case hixd3 => exact rfl
  case hfxd3 => kernel_rfl
  case hrxd3 => kernel_rfl
  case hqxd3 => exact fun _ _ _ h => h
  case hsxd3 => assumption
  case hyxd3 =>
    refine Or.inl ⟨by kernel_rfl, ?_⟩
    intro w hSw
    try dsimp only at hSw
    go_simp
    try with_reducible rfl
  try simp only [Act.put, List.setIfInBounds_toArray, List.set_cons_zero, List.set_cons_succ]
  refine' wpAnyH_take (i := 4) (oi := { dst := some 70, op := _, type := _, pos := _, after := _, guard := _ }) (v := _) ?hixd4 (by kernel_rfl) ?hfxd4 ?hrxd4 ?hqxd4 ?hyxd4 ?hsxd4 ?restxd4
  case hixd4 => exact rfl
  case hfxd4 => kernel_rfl
  case hrxd4 => kernel_rfl
  case hqxd4 => exact fun _ _ _ h => h
  case hsxd4 => assumption
  case hyxd4 =>
    refine Or.inl ⟨by kernel_rfl, ?_⟩
    intro w hSw
    try dsimp only at hSw
    go_simp
    try with_reducible rfl
  try simp only [Act.put, List.setIfInBounds_toArray, List.set_cons_zero, List.set_cons_succ]
  refine' wpAnyH_take (i := 5) (oi := { dst := some 71, op := _, type := _, pos := _, after := _, guard := _ }) (v := _) ?hixd5 (by kernel_rfl) ?hfxd5 ?hrxd5 ?hqxd5 ?hyxd5 ?hsxd5 ?restxd5
  case hixd5 => exact rfl
  case hfxd5 => kernel_rfl
  case hrxd5 => kernel_rfl
  case hqxd5 => exact fun _ _ _ h => h
  case hsxd5 => assumption
  case hyxd5 =>
    refine Or.inl ⟨by kernel_rfl, ?_⟩
    intro w hSw
    try dsimp only at hSw
    go_simp
    try with_reducible rfl
  try simp only [Act.put, List.setIfInBounds_toArray, List.set_cons_zero, List.set_cons_succ]
  refine' wpAnyH_take (i := 6) (oi := { dst := some 72, op := _, type := _, pos := _, after := _, guard := _ }) (v := _) ?hixd6 (by kernel_rfl) ?hfxd6 ?hrxd6 ?hqxd6 ?hyxd6 ?hsxd6 ?restxd6
  case hixd6 => exact rfl
  case hfxd6 => kernel_rfl
  case hrxd6 => kernel_rfl
  case hqxd6 => exact fun _ _ _ h => h
  case hsxd6 => assumption
  case hyxd6 =>
    refine Or.inl ⟨by kernel_rfl, ?_⟩
    intro w hSw
    try dsimp only at hSw
    go_simp
    try with_reducible rfl
  try simp only [Act.put, List.setIfInBounds_toArray, List.set_cons_zero, List.set_cons_succ]
  refine' wpAnyH_take (i := 7) (oi := { dst := some 73, op := _, type := _, pos := _, after := _, guard := _ }) (v := _) ?hixd7 (by kernel_rfl) ?hfxd7 ?hrxd7 ?hqxd7 ?hyxd7 ?hsxd7 ?restxd7
  case hixd7 => exact rfl
  case hfxd7 => kernel_rfl
  case hrxd7 => kernel_rfl
  case hqxd7 => exact fun _ _ _ h => h
  case hsxd7 => assumption
  case hyxd7 =>
    refine Or.inl ⟨by kernel_rfl, ?_⟩
    intro w hSw
    try dsimp only at hSw
    go_simp
    try with_reducible rfl
  try simp only [Act.put, List.setIfInBounds_toArray, List.set_cons_zero, List.set_cons_succ]
  refine' wpAnyH_take (i := 8) (oi := { dst := some 74, op := _, type := _, pos := _, after := _, guard := _ }) (v := _) ?hixd8 (by kernel_rfl) ?hfxd8 ?hrxd8 ?hqxd8 ?hyxd8 ?hsxd8 ?restxd8
  case hixd8 => exact rfl
  case hfxd8 => kernel_rfl
  case hrxd8 => kernel_rfl
  case hqxd8 => exact fun _ _ _ h => h
  case hsxd8 => assumption
  case hyxd8 =>
    refine Or.inl ⟨by kernel_rfl, ?_⟩
    intro w hSw
    try dsimp only at hSw
    go_simp
    try with_reducible rfl
  try simp only [Act.put, List.setIfInBounds_toArray, List.set_cons_zero, List.set_cons_succ]
  refine' wpAnyH_take (i := 9) (oi := { dst := some 75, op := _, type := _, pos := _, after := _, guard := _ }) (v := undef) ?hixd9 (by kernel_rfl) ?hfxd9 ?hrxd9 ?hqxd9 ?hyxd9 ?hsxd9 ?restxd9
  case hixd9 => exact rfl
  case hfxd9 => kernel_rfl
  case hrxd9 => kernel_rfl
  case hqxd9 => exact fun _ _ _ h => h
  case hsxd9 => assumption
  case hyxd9 => exact Or.inr ⟨by kernel_rfl, rfl⟩
  try simp only [Act.put, List.setIfInBounds_toArray, List.set_cons_zero, List.set_cons_succ]
  refine' wpAnyH_take (i := 10) (oi := { dst := some 76, op := _, type := _, pos := _, after := _, guard := _ }) (v := undef) ?hixd10 (by kernel_rfl) ?hfxd10 ?hrxd10 ?hqxd10 ?hyxd10 ?hsxd10 ?restxd10
  case hixd10 => exact rfl
  case hfxd10 => kernel_rfl
  case hrxd10 => kernel_rfl
  case hqxd10 => exact fun _ _ _ h => h
  case hsxd10 => assumption
  case hyxd10 => exact Or.inr ⟨by kernel_rfl, rfl⟩
  try simp only [Act.put, List.setIfInBounds_toArray, List.set_cons_zero, List.set_cons_succ]
  refine' wpAnyH_take (i := 11) (oi := { dst := some 77, op := _, type := _, pos := _, after := _, guard := _ }) (v := undef) ?hixd11 (by kernel_rfl) ?hfxd11 ?hrxd11 ?hqxd11 ?hyxd11 ?hsxd11 ?restxd11
  case hixd11 => exact rfl
  case hfxd11 => kernel_rfl
  case hrxd11 => kernel_rfl
  case hqxd11 => exact fun _ _ _ h => h
  case hsxd11 => assumption
  case hyxd11 => exact Or.inr ⟨by kernel_rfl, rfl⟩
  try simp only [Act.put, List.setIfInBounds_toArray, List.set_cons_zero, List.set_cons_succ]
  refine' wpAnyH_take (i := 12) (oi := { dst := some 78, op := _, type := _, pos := _, after := _, guard := _ }) (v := _) ?hixd12 (by kernel_rfl) ?hfxd12 ?hrxd12 ?hqxd12 ?hyxd12 ?hsxd12 ?restxd12
  case hixd12 => exact rfl
  case hfxd12 => kernel_rfl
  case hrxd12 => kernel_rfl
  case hqxd12 => exact fun _ _ _ h => h
  case hsxd12 => assumption
  case hyxd12 =>
    refine Or.inl ⟨by kernel_rfl, ?_⟩
    intro w hSw
    try dsimp only at hSw
    go_simp
    try with_reducible rfl
  try simp only [Act.put, List.setIfInBounds_toArray, List.set_cons_zero, List.set_cons_succ]
  refine' wpAnyH_take (i := 13) (oi := { dst := some 79, op := _, type := _, pos := _, after := _, guard := _ }) (v := _) ?hixd13 (by kernel_rfl) ?hfxd13 ?hrxd13 ?hqxd13 ?hyxd13 ?hsxd13 ?restxd13
  case hixd13 => exact rfl
  case hfxd13 => kernel_rfl
  case hrxd13 => kernel_rfl
  case hqxd13 => exact fun _ _ _ h => h
  case hsxd13 => assumption
  case hyxd13 =>
    refine Or.inl ⟨by kernel_rfl, ?_⟩
    intro w hSw
    try dsimp only at hSw
    go_simp
    try with_reducible rfl
  try simp only [Act.put, List.setIfInBounds_toArray, List.set_cons_zero, List.set_cons_succ]
  refine' wpAnyH_take (i := 14) (oi := { dst := some 80, op := _, type := _, pos := _, after := _, guard := _ }) (v := _) ?hixd14 (by kernel_rfl) ?hfxd14 ?hrxd14 ?hqxd14 ?hyxd14 ?hsxd14 ?restxd14
  case hixd14 => exact rfl
  case hfxd14 => kernel_rfl
  case hrxd14 => kernel_rfl
  case hqxd14 => exact fun _ _ _ h => h
  case hsxd14 => assumption
  case hyxd14 =>
    refine Or.inl ⟨by kernel_rfl, ?_⟩
    intro w hSw
    try dsimp only at hSw
    go_simp
    try with_reducible rfl
  try simp only [Act.put, List.setIfInBounds_toArray, List.set_cons_zero, List.set_cons_succ]
  refine' wpAnyH_take (i := 15) (oi := { dst := some 81, op := _, type := _, pos := _, after := _, guard := _ }) (v := _) ?hixd15 (by kernel_rfl) ?hfxd15 ?hrxd15 ?hqxd15 ?hyxd15 ?hsxd15 ?restxd15
  case hixd15 => exact rfl
  case hfxd15 => kernel_rfl
  case hrxd15 => kernel_rfl
  case hqxd15 => exact fun _ _ _ h => h
  case hsxd15 => assumption
  case hyxd15 =>
    refine Or.inl ⟨by kernel_rfl, ?_⟩
    intro w hSw
    try dsimp only at hSw
    go_simp
    try with_reducible rfl
  try simp only [Act.put, List.setIfInBounds_toArray, List.set_cons_zero, List.set_cons_succ]
  refine' wpAnyH_take (i := 16) (oi := { dst := some 82, op := _, type := _, pos := _, after := _, guard := _ }) (v := _) ?hixd16 (by kernel_rfl) ?hfxd16 ?hrxd16 ?hqxd16 ?hyxd16 ?hsxd16 ?restxd16
  case hixd16 => exact rfl
  case hfxd16 => kernel_rfl
  case hrxd16 => kernel_rfl
  case hqxd16 => exact fun _ _ _ h => h
  case hsxd16 => assumption
  case hyxd16 =>
    refine Or.inl ⟨by kernel_rfl, ?_⟩
    intro w hSw
    try dsimp only at hSw
    go_simp
    try with_reducible rfl
  try simp only [Act.put, List.setIfInBounds_toArray, List.set_cons_zero, List.set_cons_succ]
  refine' wpAnyH_take (i := 17) (oi := { dst := some 83, op := _, type := _, pos := _, after := _, guard := _ }) (v := _) ?hixd17 (by kernel_rfl) ?hfxd17 ?hrxd17 ?hqxd17 ?hyxd17 ?hsxd17 ?restxd17
  case hixd17 => exact rfl
  case hfxd17 => kernel_rfl
  case hrxd17 => kernel_rfl
  case hqxd17 => exact fun _ _ _ h => h
  case hsxd17 => assumption
  case hyxd17 =>
    refine Or.inl ⟨by kernel_rfl, ?_⟩
    intro w hSw
    try dsimp only at hSw
    go_simp
    try with_reducible rfl
  try simp only [Act.put, List.setIfInBounds_toArray, List.set_cons_zero, List.set_cons_succ]
  refine wpAnyH_ready (rs := [18]) (by kernel_rfl) (by simp) ?_
  refine' AllReadyH.cons (o := _) ?hixd18 (fun K hK => ?hk0xd18) AllReadyH.nil
  case hixd18 => exact rfl
  go_simp
  go_at_call 10
  refine (HF.out _).mono ?_
  rintro e wx ⟨rfl, hbx⟩
  have hC' := hC.ext hbx
  clear hC hbx
  have hC := hC'
  clear hC'
  obtain ⟨q0, q1⟩ := hC.cells
  try go_wp2_with fail
  refine hK.out _ _ ?hS0xd18 (fun hHeld => ?restxd18)
  case hS0xd18 => (try dsimp only); go_keep
  clear hK K
  try simp only [Act.put, List.setIfInBounds_toArray, List.set_cons_zero, List.set_cons_succ]
  refine' wpAnyH_take (i := 19) (oi := { dst := some 85, op := _, type := _, pos := _, after := _, guard := _ }) (v := _) ?hixd19 (by kernel_rfl) ?hfxd19 ?hrxd19 ?hqxd19 ?hyxd19 ?hsxd19 ?restxd19
  case hixd19 => exact rfl
  case hfxd19 => kernel_rfl
  case hrxd19 => kernel_rfl
  case hqxd19 => exact fun _ _ _ h => h
  case hsxd19 => assumption
  case hyxd19 =>
    refine Or.inl ⟨by kernel_rfl, ?_⟩
    intro w hSw
    try dsimp only at hSw
    go_simp
    try with_reducible rfl
  try simp only [Act.put, List.setIfInBounds_toArray, List.set_cons_zero, List.set_cons_succ]
  refine' wpAnyH_take (i := 20) (oi := { dst := some 86, op := _, type := _, pos := _, after := _, guard := _ }) (v := _) ?hixd20 (by kernel_rfl) ?hfxd20 ?hrxd20 ?hqxd20 ?hyxd20 ?hsxd20 ?restxd20
  case hixd20 => exact rfl
  case hfxd20 => kernel_rfl
  case hrxd20 => kernel_rfl
  case hqxd20 => exact fun _ _ _ h => h
  case hsxd20 => assumption
  case hyxd20 =>
    refine Or.inl ⟨by kernel_rfl, ?_⟩
    intro w hSw
    try dsimp only at hSw
    go_simp
    try with_reducible rfl
  try simp only [Act.put, List.setIfInBounds_toArray, List.set_cons_zero, List.set_cons_succ]
  refine' wpAnyH_take (i := 21) (oi := { dst := some 87, op := _, type := _, pos := _, after := _, guard := _ }) (v := _) ?hixd21 (by kernel_rfl) ?hfxd21 ?hrxd21 ?hqxd21 ?hyxd21 ?hsxd21 ?restxd21
  case hixd21 => exact rfl
  case hfxd21 => kernel_rfl
  case hrxd21 => kernel_rfl
  case hqxd21 => exact fun _ _ _ h => h
  case hsxd21 => assumption
  case hyxd21 =>
    refine Or.inl ⟨by kernel_rfl, ?_⟩
    intro w hSw
    try dsimp only at hSw
    go_simp
    try with_reducible rfl
  try simp only [Act.put, List.setIfInBounds_toArray, List.set_cons_zero, List.set_cons_succ]
  refine' wpAnyH_take (i := 22) (oi := { dst := some 88, op := _, type := _, pos := _, after := _, guard := _ }) (v := _) ?hixd22 (by kernel_rfl) ?hfxd22 ?hrxd22 ?hqxd22 ?hyxd22 ?hsxd22 ?restxd22
  case hixd22 => exact rfl
  case hfxd22 => kernel_rfl
  case hrxd22 => kernel_rfl
  case hqxd22 => exact fun _ _ _ h => h
  case hsxd22 => assumption
  case hyxd22 =>
    refine Or.inl ⟨by kernel_rfl, ?_⟩
    intro w hSw
    try dsimp only at hSw
    go_simp
    try with_reducible rfl
  try simp only [Act.put, List.setIfInBounds_toArray, List.set_cons_zero, List.set_cons_succ]
  refine' wpAnyH_take (i := 23) (oi := { dst := some 2, op := _, type := _, pos := _, after := _, guard := _ }) (v := _) ?hixd23 (by kernel_rfl) ?hfxd23 ?hrxd23 ?hqxd23 ?hyxd23 ?hsxd23 ?restxd23
  case hixd23 => exact rfl
  case hfxd23 => kernel_rfl
  case hrxd23 => kernel_rfl
  case hqxd23 => exact fun _ _ _ h => h
  case hsxd23 => assumption
  case hyxd23 =>
    refine Or.inl ⟨by kernel_rfl, ?_⟩
    intro w hSw
    try dsimp only at hSw
    go_simp
    try with_reducible rfl
  try simp only [Act.put, List.setIfInBounds_toArray, List.set_cons_zero, List.set_cons_succ]
  refine wpAnyH_done (by kernel_rfl) ?_ _
  go_wp2
  go_ret
  exact ⟨rfl, hC.ex⟩
set_option maxRecDepth 100000 in
set_option maxHeartbeats 4000000 in
theorem walk_no4 (s : ByteArray) (w : World) (hT : Tabs w) (hl : (s.size : Int) ≤ 2000) (h00 : 0 < s.size) (h10 : 1 < s.size) (hz : (2 : Int) ≤ s.size) (y0 : (s[0]'h00).toNat = 255) (n255 : ((s[1]'h10).toNat : Int) ≠ 254) (m255 : (((s[1]'h10).toNat : Int) == 254) = false) 
    (h1 : s.toList.isEmpty = false) (h2 : (s.toList == []) = false) (h3 : ¬ s.toList = [])
    (M : ∀ w, Calls Tryd.prog 15 #[.string s] w fun e w' => e = .returned (.tuple #[.bool false, .bool false]) ∧ Ext w w')
    (K : ∀ w, Calls Tryd.prog 16 #[.string s] w fun e w' => e = .returned (.tuple #[.string ⟨#[]⟩, .agg #[.int .i64 2, .int .i64 0]]) ∧ Ext w w') :
    Calls Tryd.prog 5 #[.string s] w fun e w' => e = .returned (.bool true) ∧ Ext w w' := by
  have HT := Lib.hid hT
  have HM := Lib.hid M
  have HK := Lib.hid K
  have HF := Lib.hid (fun w => lawfault_yes 0 (by decide) w)
  clear hT M K
  go_enter Tryd.func5, Tryd.ntmps5
  go_wp2_with (first
    | (go_at_call 15; refine (HM.out _).mono ?_; rintro e w1 ⟨rfl, hb1⟩)
    | (go_at_call 16; refine (HK.out _).mono ?_; rintro e w2 ⟨rfl, hb2⟩; have hC := Fx.made HT.out (hb1.trans hb2) 2 0))
  obtain ⟨f, hf⟩ : ∃ f, f = w2.heap.size := ⟨_, rfl⟩
  rw [← hf] at hC ⊢
  clear hf hb1 hb2
  have hC2 := hC.ext (Ext.drew (Ext.refl _))
  clear hC
  have hC := hC2
  clear hC2
  obtain ⟨q0, q1⟩ := hC.cells
  refine wp_region_held_drew (S := (fun W' => W'.cell? ⟨f, 0, none⟩ = some (.int .i64 2) ∧ W'.cell? ⟨f, 1, none⟩ = some (.int .i64 0))) (by kernel_rfl) ?_ (fun hHeld => ?_)
  · (try dsimp only); go_keep
  refine wpAnyH_ready (rs := [0]) (by kernel_rfl) (by simp) ?_
  refine' AllReadyH.cons (o := _) ?hixe0 (fun K hK => ?hk0xe0) AllReadyH.nil
  case hixe0 => exact rfl
  go_simp
  go_at_call 7
  refine (awake3 _ hC.tb).mono ?_
  rintro e wx ⟨rfl, hbx⟩
  have hC' := hC.ext hbx
  clear hC hbx
  have hC := hC'
  clear hC'
  obtain ⟨q0, q1⟩ := hC.cells
  try go_wp2_with fail
  refine hK.out _ _ ?hS0xe0 (fun hHeld => ?restxe0)
  case hS0xe0 => (try dsimp only); go_keep
  clear hK K
  try simp only [Act.put, List.setIfInBounds_toArray, List.set_cons_zero, List.set_cons_succ]
  refine' wpAnyH_take (i := 1) (oi := { dst := some 67, op := _, type := _, pos := _, after := _, guard := _ }) (v := _) ?hixe1 (by kernel_rfl) ?hfxe1 ?hrxe1 ?hqxe1 ?hyxe1 ?hsxe1 ?restxe1
  case hixe1 => exact rfl
  case hfxe1 => kernel_rfl
  case hrxe1 => kernel_rfl
  case hqxe1 => exact fun _ _ _ h => h
  case hsxe1 => assumption
  case hyxe1 =>
    refine Or.inl ⟨by kernel_rfl, ?_⟩
    intro w hSw
    try dsimp only at hSw
    go_simp
    try with_reducible rfl
  try simp only [Act.put, List.setIfInBounds_toArray, List.set_cons_zero, List.set_cons_succ]
  refine' wpAnyH_take (i := 2) (oi := { dst := some 68, op := _, type := _, pos := _, after := _, guard := _ }) (v := _) ?hixe2 (by kernel_rfl) ?hfxe2 ?hrxe2 ?hqxe2 ?hyxe2 ?hsxe2 ?restxe2
  case hixe2 => exact rfl
  case hfxe2 => kernel_rfl
  case hrxe2 => kernel_rfl
  case hqxe2 => exact fun _ _ _ h => h
  case hsxe2 => assumption
  case hyxe2 =>
    refine Or.inl ⟨by kernel_rfl, ?_⟩
    intro w hSw
    try dsimp only at hSw
    go_simp
    try with_reducible rfl
  try simp only [Act.put, List.setIfInBounds_toArray, List.set_cons_zero, List.set_cons_succ]
  refine' wpAnyH_take (i := 3) (oi := { dst := some 69, op := _, type := _, pos := _, after := _, guard := _ }) (v := _) ?hixe3 (by kernel_rfl) ?hfxe3 ?hrxe3 ?hqxe3 ?hyxe3 ?hsxe3 ?restxe3
  case hixe3 => exact rfl
  case hfxe3 => kernel_rfl
  case hrxe3 => kernel_rfl
  case hqxe3 => exact fun _ _ _ h => h
  case hsxe3 => assumption
  case hyxe3 =>
    refine Or.inl ⟨by kernel_rfl, ?_⟩
    intro w hSw
    try dsimp only at hSw
    go_simp
    try with_reducible rfl
  try simp only [Act.put, List.setIfInBounds_toArray, List.set_cons_zero, List.set_cons_succ]
  refine' wpAnyH_take (i := 4) (oi := { dst := some 70, op := _, type := _, pos := _, after := _, guard := _ }) (v := _) ?hixe4 (by kernel_rfl) ?hfxe4 ?hrxe4 ?hqxe4 ?hyxe4 ?hsxe4 ?restxe4
  case hixe4 => exact rfl
  case hfxe4 => kernel_rfl
  case hrxe4 => kernel_rfl
  case hqxe4 => exact fun _ _ _ h => h
  case hsxe4 => assumption
  case hyxe4 =>
    refine Or.inl ⟨by kernel_rfl, ?_⟩
    intro w hSw
    try dsimp only at hSw
    go_simp
    try with_reducible rfl
  try simp only [Act.put, List.setIfInBounds_toArray, List.set_cons_zero, List.set_cons_succ]
  refine' wpAnyH_take (i := 5) (oi := { dst := some 71, op := _, type := _, pos := _, after := _, guard := _ }) (v := _) ?hixe5 (by kernel_rfl) ?hfxe5 ?hrxe5 ?hqxe5 ?hyxe5 ?hsxe5 ?restxe5
  case hixe5 => exact rfl
  case hfxe5 => kernel_rfl
  case hrxe5 => kernel_rfl
  case hqxe5 => exact fun _ _ _ h => h
  case hsxe5 => assumption
  case hyxe5 =>
    refine Or.inl ⟨by kernel_rfl, ?_⟩
    intro w hSw
    try dsimp only at hSw
    go_simp
    try with_reducible rfl
  try simp only [Act.put, List.setIfInBounds_toArray, List.set_cons_zero, List.set_cons_succ]
  refine' wpAnyH_take (i := 6) (oi := { dst := some 72, op := _, type := _, pos := _, after := _, guard := _ }) (v := _) ?hixe6 (by kernel_rfl) ?hfxe6 ?hrxe6 ?hqxe6 ?hyxe6 ?hsxe6 ?restxe6
  case hixe6 => exact rfl
  case hfxe6 => kernel_rfl
  case hrxe6 => kernel_rfl
  case hqxe6 => exact fun _ _ _ h => h
  case hsxe6 => assumption
  case hyxe6 =>
    refine Or.inl ⟨by kernel_rfl, ?_⟩
    intro w hSw
    try dsimp only at hSw
    go_simp
    try with_reducible rfl
  try simp only [Act.put, List.setIfInBounds_toArray, List.set_cons_zero, List.set_cons_succ]
  refine' wpAnyH_take (i := 7) (oi := { dst := some 73, op := _, type := _, pos := _, after := _, guard := _ }) (v := _) ?hixe7 (by kernel_rfl) ?hfxe7 ?hrxe7 ?hqxe7 ?hyxe7 ?hsxe7 ?restxe7
  case hixe7 => exact rfl
  case hfxe7 => kernel_rfl
  case hrxe7 => kernel_rfl
  case hqxe7 => exact fun _ _ _ h => h
  case hsxe7 => assumption
  case hyxe7 =>
    refine Or.inl ⟨by kernel_rfl, ?_⟩
    intro w hSw
    try dsimp only at hSw
    go_simp
    try with_reducible rfl
  try simp only [Act.put, List.setIfInBounds_toArray, List.set_cons_zero, List.set_cons_succ]
  refine' wpAnyH_take (i := 8) (oi := { dst := some 74, op := _, type := _, pos := _, after := _, guard := _ }) (v := _) ?hixe8 (by kernel_rfl) ?hfxe8 ?hrxe8 ?hqxe8 ?hyxe8 ?hsxe8 ?restxe8
  case hixe8 => exact rfl
  case hfxe8 => kernel_rfl
  case hrxe8 => kernel_rfl
  case hqxe8 => exact fun _ _ _ h => h
  case hsxe8 => assumption
  case hyxe8 =>
    refine Or.inl ⟨by kernel_rfl, ?_⟩
    intro w hSw
    try dsimp only at hSw
    go_simp
    try with_reducible rfl
  try simp only [Act.put, List.setIfInBounds_toArray, List.set_cons_zero, List.set_cons_succ]
  refine' wpAnyH_take (i := 9) (oi := { dst := some 75, op := _, type := _, pos := _, after := _, guard := _ }) (v := undef) ?hixe9 (by kernel_rfl) ?hfxe9 ?hrxe9 ?hqxe9 ?hyxe9 ?hsxe9 ?restxe9
  case hixe9 => exact rfl
  case hfxe9 => kernel_rfl
  case hrxe9 => kernel_rfl
  case hqxe9 => exact fun _ _ _ h => h
  case hsxe9 => assumption
  case hyxe9 => exact Or.inr ⟨by kernel_rfl, rfl⟩
  try simp only [Act.put, List.setIfInBounds_toArray, List.set_cons_zero, List.set_cons_succ]
  refine' wpAnyH_take (i := 10) (oi := { dst := some 76, op := _, type := _, pos := _, after := _, guard := _ }) (v := undef) ?hixe10 (by kernel_rfl) ?hfxe10 ?hrxe10 ?hqxe10 ?hyxe10 ?hsxe10 ?restxe10
  case hixe10 => exact rfl
  case hfxe10 => kernel_rfl
  case hrxe10 => kernel_rfl
  case hqxe10 => exact fun _ _ _ h => h
  case hsxe10 => assumption
  case hyxe10 => exact Or.inr ⟨by kernel_rfl, rfl⟩
  try simp only [Act.put, List.setIfInBounds_toArray, List.set_cons_zero, List.set_cons_succ]
  refine' wpAnyH_take (i := 11) (oi := { dst := some 77, op := _, type := _, pos := _, after := _, guard := _ }) (v := undef) ?hixe11 (by kernel_rfl) ?hfxe11 ?hrxe11 ?hqxe11 ?hyxe11 ?hsxe11 ?restxe11
  case hixe11 => exact rfl
  case hfxe11 => kernel_rfl
  case hrxe11 => kernel_rfl
  case hqxe11 => exact fun _ _ _ h => h
  case hsxe11 => assumption
  case hyxe11 => exact Or.inr ⟨by kernel_rfl, rfl⟩
  try simp only [Act.put, List.setIfInBounds_toArray, List.set_cons_zero, List.set_cons_succ]
  refine' wpAnyH_take (i := 12) (oi := { dst := some 78, op := _, type := _, pos := _, after := _, guard := _ }) (v := _) ?hixe12 (by kernel_rfl) ?hfxe12 ?hrxe12 ?hqxe12 ?hyxe12 ?hsxe12 ?restxe12
  case hixe12 => exact rfl
  case hfxe12 => kernel_rfl
  case hrxe12 => kernel_rfl
  case hqxe12 => exact fun _ _ _ h => h
  case hsxe12 => assumption
  case hyxe12 =>
    refine Or.inl ⟨by kernel_rfl, ?_⟩
    intro w hSw
    try dsimp only at hSw
    go_simp
    try with_reducible rfl
  try simp only [Act.put, List.setIfInBounds_toArray, List.set_cons_zero, List.set_cons_succ]
  refine' wpAnyH_take (i := 13) (oi := { dst := some 79, op := _, type := _, pos := _, after := _, guard := _ }) (v := _) ?hixe13 (by kernel_rfl) ?hfxe13 ?hrxe13 ?hqxe13 ?hyxe13 ?hsxe13 ?restxe13
  case hixe13 => exact rfl
  case hfxe13 => kernel_rfl
  case hrxe13 => kernel_rfl
  case hqxe13 => exact fun _ _ _ h => h
  case hsxe13 => assumption
  case hyxe13 =>
    refine Or.inl ⟨by kernel_rfl, ?_⟩
    intro w hSw
    try dsimp only at hSw
    go_simp
    try with_reducible rfl
  try simp only [Act.put, List.setIfInBounds_toArray, List.set_cons_zero, List.set_cons_succ]
  refine' wpAnyH_take (i := 14) (oi := { dst := some 80, op := _, type := _, pos := _, after := _, guard := _ }) (v := _) ?hixe14 (by kernel_rfl) ?hfxe14 ?hrxe14 ?hqxe14 ?hyxe14 ?hsxe14 ?restxe14
  case hixe14 => exact rfl
  case hfxe14 => kernel_rfl
  case hrxe14 => kernel_rfl
  case hqxe14 => exact fun _ _ _ h => h
  case hsxe14 => assumption
  case hyxe14 =>
    refine Or.inl ⟨by kernel_rfl, ?_⟩
    intro w hSw
    try dsimp only at hSw
    go_simp
    try with_reducible rfl
  try simp only [Act.put, List.setIfInBounds_toArray, List.set_cons_zero, List.set_cons_succ]
  refine' wpAnyH_take (i := 15) (oi := { dst := some 81, op := _, type := _, pos := _, after := _, guard := _ }) (v := _) ?hixe15 (by kernel_rfl) ?hfxe15 ?hrxe15 ?hqxe15 ?hyxe15 ?hsxe15 ?restxe15
  case hixe15 => exact rfl
  case hfxe15 => kernel_rfl
  case hrxe15 => kernel_rfl
  case hqxe15 => exact fun _ _ _ h => h
  case hsxe15 => assumption
  case hyxe15 =>
    refine Or.inl ⟨by kernel_rfl, ?_⟩
    intro w hSw
    try dsimp only at hSw
    go_simp
    try with_reducible rfl
  try simp only [Act.put, List.setIfInBounds_toArray, List.set_cons_zero, List.set_cons_succ]
  refine' wpAnyH_take (i := 16) (oi := { dst := some 82, op := _, type := _, pos := _, after := _, guard := _ }) (v := _) ?hixe16 (by kernel_rfl) ?hfxe16 ?hrxe16 ?hqxe16 ?hyxe16 ?hsxe16 ?restxe16
  case hixe16 => exact rfl
  case hfxe16 => kernel_rfl
  case hrxe16 => kernel_rfl
  case hqxe16 => exact fun _ _ _ h => h
  case hsxe16 => assumption
  case hyxe16 =>
    refine Or.inl ⟨by kernel_rfl, ?_⟩
    intro w hSw
    try dsimp only at hSw
    go_simp
    try with_reducible rfl
  try simp only [Act.put, List.setIfInBounds_toArray, List.set_cons_zero, List.set_cons_succ]
  refine' wpAnyH_take (i := 17) (oi := { dst := some 83, op := _, type := _, pos := _, after := _, guard := _ }) (v := _) ?hixe17 (by kernel_rfl) ?hfxe17 ?hrxe17 ?hqxe17 ?hyxe17 ?hsxe17 ?restxe17
  case hixe17 => exact rfl
  case hfxe17 => kernel_rfl
  case hrxe17 => kernel_rfl
  case hqxe17 => exact fun _ _ _ h => h
  case hsxe17 => assumption
  case hyxe17 =>
    refine Or.inl ⟨by kernel_rfl, ?_⟩
    intro w hSw
    try dsimp only at hSw
    go_simp
    try with_reducible rfl
  try simp only [Act.put, List.setIfInBounds_toArray, List.set_cons_zero, List.set_cons_succ]
  refine wpAnyH_ready (rs := [18]) (by kernel_rfl) (by simp) ?_
  refine' AllReadyH.cons (o := _) ?hixe18 (fun K hK => ?hk0xe18) AllReadyH.nil
  case hixe18 => exact rfl
  go_simp
  go_at_call 10
  refine (HF.out _).mono ?_
  rintro e wx ⟨rfl, hbx⟩
  have hC' := hC.ext hbx
  clear hC hbx
  have hC := hC'
  clear hC'
  obtain ⟨q0, q1⟩ := hC.cells
  try go_wp2_with fail
  refine hK.out _ _ ?hS0xe18 (fun hHeld => ?restxe18)
  case hS0xe18 => (try dsimp only); go_keep
  clear hK K
  try simp only [Act.put, List.setIfInBounds_toArray, List.set_cons_zero, List.set_cons_succ]
  refine' wpAnyH_take (i := 19) (oi := { dst := some 85, op := _, type := _, pos := _, after := _, guard := _ }) (v := _) ?hixe19 (by kernel_rfl) ?hfxe19 ?hrxe19 ?hqxe19 ?hyxe19 ?hsxe19 ?restxe19
  case hixe19 => exact rfl
  case hfxe19 => kernel_rfl
  case hrxe19 => kernel_rfl
  case hqxe19 => exact fun _ _ _ h => h
  case hsxe19 => assumption
  case hyxe19 =>
    refine Or.inl ⟨by kernel_rfl, ?_⟩
    intro w hSw
    try dsimp only at hSw
    go_simp
    try with_reducible rfl
  try simp only [Act.put, List.setIfInBounds_toArray, List.set_cons_zero, List.set_cons_succ]
  refine' wpAnyH_take (i := 20) (oi := { dst := some 86, op := _, type := _, pos := _, after := _, guard := _ }) (v := _) ?hixe20 (by kernel_rfl) ?hfxe20 ?hrxe20 ?hqxe20 ?hyxe20 ?hsxe20 ?restxe20
  case hixe20 => exact rfl
  case hfxe20 => kernel_rfl
  case hrxe20 => kernel_rfl
  case hqxe20 => exact fun _ _ _ h => h
  case hsxe20 => assumption
  case hyxe20 =>
    refine Or.inl ⟨by kernel_rfl, ?_⟩
    intro w hSw
    try dsimp only at hSw
    go_simp
    try with_reducible rfl
  try simp only [Act.put, List.setIfInBounds_toArray, List.set_cons_zero, List.set_cons_succ]
  refine' wpAnyH_take (i := 21) (oi := { dst := some 87, op := _, type := _, pos := _, after := _, guard := _ }) (v := _) ?hixe21 (by kernel_rfl) ?hfxe21 ?hrxe21 ?hqxe21 ?hyxe21 ?hsxe21 ?restxe21
  case hixe21 => exact rfl
  case hfxe21 => kernel_rfl
  case hrxe21 => kernel_rfl
  case hqxe21 => exact fun _ _ _ h => h
  case hsxe21 => assumption
  case hyxe21 =>
    refine Or.inl ⟨by kernel_rfl, ?_⟩
    intro w hSw
    try dsimp only at hSw
    go_simp
    try with_reducible rfl
  try simp only [Act.put, List.setIfInBounds_toArray, List.set_cons_zero, List.set_cons_succ]
  refine' wpAnyH_take (i := 22) (oi := { dst := some 88, op := _, type := _, pos := _, after := _, guard := _ }) (v := _) ?hixe22 (by kernel_rfl) ?hfxe22 ?hrxe22 ?hqxe22 ?hyxe22 ?hsxe22 ?restxe22
  case hixe22 => exact rfl
  case hfxe22 => kernel_rfl
  case hrxe22 => kernel_rfl
  case hqxe22 => exact fun _ _ _ h => h
  case hsxe22 => assumption
  case hyxe22 =>
    refine Or.inl ⟨by kernel_rfl, ?_⟩
    intro w hSw
    try dsimp only at hSw
    go_simp
    try with_reducible rfl
  try simp only [Act.put, List.setIfInBounds_toArray, List.set_cons_zero, List.set_cons_succ]
  refine' wpAnyH_take (i := 23) (oi := { dst := some 2, op := _, type := _, pos := _, after := _, guard := _ }) (v := _) ?hixe23 (by kernel_rfl) ?hfxe23 ?hrxe23 ?hqxe23 ?hyxe23 ?hsxe23 ?restxe23
  case hixe23 => exact rfl
  case hfxe23 => kernel_rfl
  case hrxe23 => kernel_rfl
  case hqxe23 => exact fun _ _ _ h => h
  case hsxe23 => assumption
  case hyxe23 =>
    refine Or.inl ⟨by kernel_rfl, ?_⟩
    intro w hSw
    try dsimp only at hSw
    go_simp
    try with_reducible rfl
  try simp only [Act.put, List.setIfInBounds_toArray, List.set_cons_zero, List.set_cons_succ]
  refine wpAnyH_done (by kernel_rfl) ?_ _
  go_wp2
  go_ret
  exact ⟨rfl, hC.ex⟩
set_option maxRecDepth 100000 in
set_option maxHeartbeats 4000000 in
theorem walk_okB (s u : ByteArray) (a : Int) (w : World) (hT : Tabs w) (hl : (s.size : Int) ≤ 2000) (h00 : 0 < s.size) (h10 : 1 < s.size) (hz : (2 : Int) ≤ s.size) (y0 : (s[0]'h00).toNat = 254) (y1 : (s[1]'h10).toNat = 255) 
    (h1 : s.toList.isEmpty = false) (h2 : (s.toList == []) = false) (h3 : ¬ s.toList = []) 
    (M : ∀ w, Calls Tryd.prog 15 #[.string s] w fun e w' => e = .returned (.tuple #[.bool true, .bool true]) ∧ Ext w w')
    (K : ∀ w, Calls Tryd.prog 16 #[.string s] w fun e w' => e = .returned (.tuple #[.string u, .agg #[.int .i64 0, .int .i64 (0)]]) ∧ Ext w w')
    (R : ∀ w, Calls Tryd.prog 9 #[.string (s.extract 2 s.size), .bool true] w fun e w' => e = .returned (.tuple #[.string u, .int .i64 (-1)]) ∧ Ext w w')
    (F : ∀ w, Calls Tryd.prog 10 #[.int .i64 (-1)] w fun e w' => e = .returned (.agg #[.int .i64 0, .int .i64 (0)]) ∧ Ext w w') :
    Calls Tryd.prog 5 #[.string s] w fun e w' => e = .returned (.bool true) ∧ Ext w w' := by
  have HT := Lib.hid hT
  have HM := Lib.hid M
  have HK := Lib.hid K
  have HR := Lib.hid R
  have HF := Lib.hid F
  clear hT M K R F
  go_enter Tryd.func5, Tryd.ntmps5
  go_wp2_with (first
    | (go_at_call 15; refine (HM.out _).mono ?_; rintro e w1 ⟨rfl, hb1⟩)
    | (go_at_call 16; refine (HK.out _).mono ?_; rintro e w2 ⟨rfl, hb2⟩; have hC := Fx.made HT.out (hb1.trans hb2) 0 (0))
    | (go_at_call 9; refine (HR.out _).mono ?_; rintro e w3 ⟨rfl, hb3⟩; have hC' := hC.ext hb3; clear hC hb3; have hC := hC'; clear hC'))
  obtain ⟨f, hf⟩ : ∃ f, f = w2.heap.size := ⟨_, rfl⟩
  rw [← hf] at hC ⊢
  clear hf hb1 hb2
  have hC2 := hC.ext (Ext.drew (Ext.refl _))
  clear hC
  have hC := hC2
  clear hC2
  obtain ⟨q0, q1⟩ := hC.cells
  go_region_held3 (fun W' => W'.cell? ⟨f, 0, none⟩ = some (.int .i64 0) ∧ W'.cell? ⟨f, 1, none⟩ = some (.int .i64 (0))) (go_keep)
    (first | (go_at_call 7; refine (awake3 _ hC.tb).mono ?_; rintro e wx ⟨rfl, hbx⟩; have hC' := hC.ext hbx; clear hC hbx; have hC := hC'; clear hC'; obtain ⟨q0, q1⟩ := hC.cells) | (go_at_call 10; refine (HF.out _).mono ?_; rintro e wx ⟨rfl, hbx⟩; have hC' := hC.ext hbx; clear hC hbx; have hC := hC'; clear hC'; obtain ⟨q0, q1⟩ := hC.cells))
  go_wp2
  go_ret
  exact ⟨by simp, hC.ex⟩
set_option maxRecDepth 100000 in
set_option maxHeartbeats 4000000 in
theorem walk_badB (s u : ByteArray) (a : Int) (w : World) (hT : Tabs w) (hl : (s.size : Int) ≤ 2000) (h00 : 0 < s.size) (h10 : 1 < s.size) (hz : (2 : Int) ≤ s.size) (y0 : (s[0]'h00).toNat = 254) (y1 : (s[1]'h10).toNat = 255) 
    (h1 : s.toList.isEmpty = false) (h2 : (s.toList == []) = false) (h3 : ¬ s.toList = []) (ha0 : 0 ≤ a) (ha1 : a ≤ 2000)
    (M : ∀ w, Calls Tryd.prog 15 #[.string s] w fun e w' => e = .returned (.tuple #[.bool true, .bool true]) ∧ Ext w w')
    (K : ∀ w, Calls Tryd.prog 16 #[.string s] w fun e w' => e = .returned (.tuple #[.string u, .agg #[.int .i64 2, .int .i64 (a + 2)]]) ∧ Ext w w')
    (R : ∀ w, Calls Tryd.prog 9 #[.string (s.extract 2 s.size), .bool true] w fun e w' => e = .returned (.tuple #[.string u, .int .i64 (a)]) ∧ Ext w w')
    (F : ∀ w, Calls Tryd.prog 10 #[.int .i64 (a + 2)] w fun e w' => e = .returned (.agg #[.int .i64 2, .int .i64 (a + 2)]) ∧ Ext w w') :
    Calls Tryd.prog 5 #[.string s] w fun e w' => e = .returned (.bool true) ∧ Ext w w' := by
  have HT := Lib.hid hT
  have HM := Lib.hid M
  have HK := Lib.hid K
  have HR := Lib.hid R
  have HF := Lib.hid F
  clear hT M K R F
  go_enter Tryd.func5, Tryd.ntmps5
  go_wp2_with (first
    | (go_at_call 15; refine (HM.out _).mono ?_; rintro e w1 ⟨rfl, hb1⟩)
    | (go_at_call 16; refine (HK.out _).mono ?_; rintro e w2 ⟨rfl, hb2⟩; have hC := Fx.made HT.out (hb1.trans hb2) 2 (a + 2))
    | (go_at_call 9; refine (HR.out _).mono ?_; rintro e w3 ⟨rfl, hb3⟩; have hC' := hC.ext hb3; clear hC hb3; have hC := hC'; clear hC'))
  obtain ⟨f, hf⟩ : ∃ f, f = w2.heap.size := ⟨_, rfl⟩
  rw [← hf] at hC ⊢
  clear hf hb1 hb2
  have hC2 := hC.ext (Ext.drew (Ext.refl _))
  clear hC
  have hC := hC2
  clear hC2
  obtain ⟨q0, q1⟩ := hC.cells
  go_region_held3 (fun W' => W'.cell? ⟨f, 0, none⟩ = some (.int .i64 2) ∧ W'.cell? ⟨f, 1, none⟩ = some (.int .i64 (a + 2))) (go_keep)
    (first | (go_at_call 7; refine (awake3 _ hC.tb).mono ?_; rintro e wx ⟨rfl, hbx⟩; have hC' := hC.ext hbx; clear hC hbx; have hC := hC'; clear hC'; obtain ⟨q0, q1⟩ := hC.cells) | (go_at_call 10; refine (HF.out _).mono ?_; rintro e wx ⟨rfl, hbx⟩; have hC' := hC.ext hbx; clear hC hbx; have hC := hC'; clear hC'; obtain ⟨q0, q1⟩ := hC.cells))
  go_wp2
  go_ret
  exact ⟨by simp, hC.ex⟩
set_option maxRecDepth 100000 in
set_option maxHeartbeats 4000000 in
theorem walk_okS (s u : ByteArray) (a : Int) (w : World) (hT : Tabs w) (hl : (s.size : Int) ≤ 2000) (h00 : 0 < s.size) (h10 : 1 < s.size) (hz : (2 : Int) ≤ s.size) (y0 : (s[0]'h00).toNat = 255) (y1 : (s[1]'h10).toNat = 254) 
    (h1 : s.toList.isEmpty = false) (h2 : (s.toList == []) = false) (h3 : ¬ s.toList = []) 
    (M : ∀ w, Calls Tryd.prog 15 #[.string s] w fun e w' => e = .returned (.tuple #[.bool false, .bool true]) ∧ Ext w w')
    (K : ∀ w, Calls Tryd.prog 16 #[.string s] w fun e w' => e = .returned (.tuple #[.string u, .agg #[.int .i64 0, .int .i64 (0)]]) ∧ Ext w w')
    (R : ∀ w, Calls Tryd.prog 9 #[.string (s.extract 2 s.size), .bool false] w fun e w' => e = .returned (.tuple #[.string u, .int .i64 (-1)]) ∧ Ext w w')
    (F : ∀ w, Calls Tryd.prog 10 #[.int .i64 (-1)] w fun e w' => e = .returned (.agg #[.int .i64 0, .int .i64 (0)]) ∧ Ext w w') :
    Calls Tryd.prog 5 #[.string s] w fun e w' => e = .returned (.bool true) ∧ Ext w w' := by
  have HT := Lib.hid hT
  have HM := Lib.hid M
  have HK := Lib.hid K
  have HR := Lib.hid R
  have HF := Lib.hid F
  clear hT M K R F
  go_enter Tryd.func5, Tryd.ntmps5
  go_wp2_with (first
    | (go_at_call 15; refine (HM.out _).mono ?_; rintro e w1 ⟨rfl, hb1⟩)
    | (go_at_call 16; refine (HK.out _).mono ?_; rintro e w2 ⟨rfl, hb2⟩; have hC := Fx.made HT.out (hb1.trans hb2) 0 (0))
    | (go_at_call 9; refine (HR.out _).mono ?_; rintro e w3 ⟨rfl, hb3⟩; have hC' := hC.ext hb3; clear hC hb3; have hC := hC'; clear hC'))
  obtain ⟨f, hf⟩ : ∃ f, f = w2.heap.size := ⟨_, rfl⟩
  rw [← hf] at hC ⊢
  clear hf hb1 hb2
  have hC2 := hC.ext (Ext.drew (Ext.refl _))
  clear hC
  have hC := hC2
  clear hC2
  obtain ⟨q0, q1⟩ := hC.cells
  go_region_held3 (fun W' => W'.cell? ⟨f, 0, none⟩ = some (.int .i64 0) ∧ W'.cell? ⟨f, 1, none⟩ = some (.int .i64 (0))) (go_keep)
    (first | (go_at_call 7; refine (awake3 _ hC.tb).mono ?_; rintro e wx ⟨rfl, hbx⟩; have hC' := hC.ext hbx; clear hC hbx; have hC := hC'; clear hC'; obtain ⟨q0, q1⟩ := hC.cells) | (go_at_call 10; refine (HF.out _).mono ?_; rintro e wx ⟨rfl, hbx⟩; have hC' := hC.ext hbx; clear hC hbx; have hC := hC'; clear hC'; obtain ⟨q0, q1⟩ := hC.cells))
  go_wp2
  go_ret
  exact ⟨by simp, hC.ex⟩
set_option maxRecDepth 100000 in
set_option maxHeartbeats 4000000 in
theorem walk_badS (s u : ByteArray) (a : Int) (w : World) (hT : Tabs w) (hl : (s.size : Int) ≤ 2000) (h00 : 0 < s.size) (h10 : 1 < s.size) (hz : (2 : Int) ≤ s.size) (y0 : (s[0]'h00).toNat = 255) (y1 : (s[1]'h10).toNat = 254) 
    (h1 : s.toList.isEmpty = false) (h2 : (s.toList == []) = false) (h3 : ¬ s.toList = []) (ha0 : 0 ≤ a) (ha1 : a ≤ 2000)
    (M : ∀ w, Calls Tryd.prog 15 #[.string s] w fun e w' => e = .returned (.tuple #[.bool false, .bool true]) ∧ Ext w w')
    (K : ∀ w, Calls Tryd.prog 16 #[.string s] w fun e w' => e = .returned (.tuple #[.string u, .agg #[.int .i64 2, .int .i64 (a + 2)]]) ∧ Ext w w')
    (R : ∀ w, Calls Tryd.prog 9 #[.string (s.extract 2 s.size), .bool false] w fun e w' => e = .returned (.tuple #[.string u, .int .i64 (a)]) ∧ Ext w w')
    (F : ∀ w, Calls Tryd.prog 10 #[.int .i64 (a + 2)] w fun e w' => e = .returned (.agg #[.int .i64 2, .int .i64 (a + 2)]) ∧ Ext w w') :
    Calls Tryd.prog 5 #[.string s] w fun e w' => e = .returned (.bool true) ∧ Ext w w' := by
  have HT := Lib.hid hT
  have HM := Lib.hid M
  have HK := Lib.hid K
  have HR := Lib.hid R
  have HF := Lib.hid F
  clear hT M K R F
  go_enter Tryd.func5, Tryd.ntmps5
  go_wp2_with (first
    | (go_at_call 15; refine (HM.out _).mono ?_; rintro e w1 ⟨rfl, hb1⟩)
    | (go_at_call 16; refine (HK.out _).mono ?_; rintro e w2 ⟨rfl, hb2⟩; have hC := Fx.made HT.out (hb1.trans hb2) 2 (a + 2))
    | (go_at_call 9; refine (HR.out _).mono ?_; rintro e w3 ⟨rfl, hb3⟩; have hC' := hC.ext hb3; clear hC hb3; have hC := hC'; clear hC'))
  obtain ⟨f, hf⟩ : ∃ f, f = w2.heap.size := ⟨_, rfl⟩
  rw [← hf] at hC ⊢
  clear hf hb1 hb2
  have hC2 := hC.ext (Ext.drew (Ext.refl _))
  clear hC
  have hC := hC2
  clear hC2
  obtain ⟨q0, q1⟩ := hC.cells
  go_region_held3 (fun W' => W'.cell? ⟨f, 0, none⟩ = some (.int .i64 2) ∧ W'.cell? ⟨f, 1, none⟩ = some (.int .i64 (a + 2))) (go_keep)
    (first | (go_at_call 7; refine (awake3 _ hC.tb).mono ?_; rintro e wx ⟨rfl, hbx⟩; have hC' := hC.ext hbx; clear hC hbx; have hC := hC'; clear hC'; obtain ⟨q0, q1⟩ := hC.cells) | (go_at_call 10; refine (HF.out _).mono ?_; rintro e wx ⟨rfl, hbx⟩; have hC' := hC.ext hbx; clear hC hbx; have hC := hC'; clear hC'; obtain ⟨q0, q1⟩ := hC.cells))
  go_wp2
  go_ret
  exact ⟨by simp, hC.ex⟩
/-- What is behind a mark, and what the document reads of it. -/
theorem behind (s : ByteArray) (big : Bool) (hs : s.size ≤ 2000) (h2s : 2 ≤ s.size) (M : ∀ w, Calls Tryd.prog 15 #[.string s] w fun e w' => e = .returned (.tuple #[.bool big, .bool true]) ∧ Ext w w') {P : Prop}
    (h1 : ∀ u, (∀ w, Calls Tryd.prog 16 #[.string s] w fun e w' => e = .returned (.tuple #[.string u, .agg #[.int .i64 0, .int .i64 0]]) ∧ Ext w w') → (∀ w, Calls Tryd.prog 9 #[.string (s.extract 2 s.size), .bool big] w fun e w' => e = .returned (.tuple #[.string u, .int .i64 (-1)]) ∧ Ext w w') → P)
    (h2 : ∀ u (a : Int), 0 ≤ a → a ≤ 2000 → (∀ w, Calls Tryd.prog 16 #[.string s] w fun e w' => e = .returned (.tuple #[.string u, .agg #[.int .i64 2, .int .i64 (a + 2)]]) ∧ Ext w w') → (∀ w, Calls Tryd.prog 9 #[.string (s.extract 2 s.size), .bool big] w fun e w' => e = .returned (.tuple #[.string u, .int .i64 a]) ∧ Ext w w') → P) : P := by
  have hx := extract_drop s 2 h2s
  have hsz : (s.extract 2 s.size).size ≤ 1000000 := by rw [ByteArray.size_extract]; omega
  have hsh := wd_shift big _ 0 2 (s.data.toList.drop 2) (Nat.le_refl _)
  have hpl := wd_place big _ 0 (s.data.toList.drop 2) (Nat.le_refl _)
  have hll : (s.data.toList.drop 2).length = s.size - 2 := by rw [List.length_drop]; rfl
  rw [hll] at hpl
  have hwd : wdS big (s.extract 2 s.size) = wd big 0 (s.data.toList.drop 2) := by unfold wdS; rw [hx]
  have hwa : wdAt big s 2 = wd big (0 + 2) (s.data.toList.drop 2) := rfl
  rw [hsh] at hwa
  have K := fun w => marked_yes s big w (by omega) h2s M
  obtain ⟨zs, hz⟩ : ∃ zs, (wd big 0 (s.data.toList.drop 2)).1 = zs := ⟨_, rfl⟩
  obtain ⟨a, ha⟩ : ∃ a, (wd big 0 (s.data.toList.drop 2)).2 = a := ⟨_, rfl⟩
  have R := fun w => rdecode (s.extract 2 s.size) big zs a w hsz (by rw [hwd, hz]) (by rw [hwd, ha])
  rw [hz, ha] at hwa
  rw [ha] at hpl
  rw [hwa] at K
  by_cases hb : a < 0
  · obtain rfl : a = -1 := by omega
    exact h1 (wtxt zs (-1)) K R
  · rw [if_neg hb] at K
    simp only at K
    have e1 : wtxt zs a = ⟨#[]⟩ := if_neg hb
    have hb2 : ¬ a + 2 < 0 := by omega
    have e2 : wtxt zs (a + 2) = ⟨#[]⟩ := if_neg hb2
    have e3 : a + ((2 : Nat) : Int) = a + 2 := rfl
    rw [e3] at K
    rw [e2, fNum_yes hb2, fPlace_yes hb2] at K
    rw [e1] at R
    exact h2 ⟨#[]⟩ a (by omega) (by omega) K R
theorem two_bytes (s : ByteArray) (h0 : 0 < s.size) (h1 : 1 < s.size) : s.data.toList.take 2 = [s[0], s[1]] := by
  have hl : s.data.toList.length = s.size := rfl
  obtain ⟨x, y, e⟩ := drop_two (t := s) (r := 0) (by omega)
  have e0 := byte_at s 0 h0
  have e1 := byte_at s 1 h1
  rw [List.drop_zero] at e
  rw [e] at e0 e1
  simp at e0 e1
  rw [e, ← e0, ← e1]
  rfl
theorem walk (s : ByteArray) (W : World) (hT : Tabs W) :
    Calls Tryd.prog 5 #[.string s] W fun e w' => e = .returned (.bool true) ∧ Ext W w' := by
  by_cases h : 2000 < (s.size : Int)
  · exact walk_long s W hT h
  have hs : s.size ≤ 1099511627776 := by omega
  have hl : s.data.toList.length = s.size := rfl
  by_cases h0 : s.size = 0
  · have e : s = ⟨#[]⟩ := bytes_inj (List.eq_nil_of_length_eq_zero (by omega))
    subst e
    exact walk_nil W hT
  have hn : s.data.toList ≠ [] := by intro e; rw [e, List.length_nil] at hl; omega
  have g1 : s.toList.isEmpty = false := by rw [toList_eq]; simpa using hn
  have g2 : (s.toList == []) = false := by rw [toList_eq]; exact beq_false_of_ne hn
  have g3 : ¬ s.toList = [] := by rw [toList_eq]; exact hn
  by_cases h1 : s.size = 1
  · have ht : ∀ l : List UInt8, l.length = 2 → s.data.toList.take 2 ≠ l := by
      intro l h2 e
      have := congrArg List.length e
      rw [List.length_take, hl, h1, h2] at this
      simp at this
    exact walk_no1 s W hT (by omega) (by omega) (by omega) g1 g2 g3 (fun w => mark_no s w hs (ht _ rfl) (ht _ rfl)) (fun w => marked_no s w hs hn (ht _ rfl) (ht _ rfl))
  have h00 : 0 < s.size := by omega
  have h10 : 1 < s.size := by omega
  have ht := two_bytes s h00 h10
  have nb : ∀ (c : UInt8) (v : Nat) (hv : v < 256), c.toNat = v → c = v.toUInt8 := fun c v hv e => by
    rw [← e]; simp
  have ni : ∀ (c : UInt8) (v : Nat), ¬ c.toNat = v → (c.toNat : Int) ≠ v := fun c v h e => h (by omega)
  have no : ∀ (c : UInt8) (v : Nat), ¬ c.toNat = v → ((c.toNat : Int) == (v : Int)) = false := fun c v h => beq_false_of_ne (ni c v h)
  have hne : ∀ a b : UInt8, (s[0] ≠ a ∨ s[1] ≠ b) → s.data.toList.take 2 ≠ [a, b] := by
    intro a b h e
    rw [ht] at e
    simp at e
    rcases h with h | h
    · exact h e.1
    · exact h e.2
  have nn : ∀ (c : UInt8) (v : Nat) (hv : v < 256), ¬ c.toNat = v → c ≠ v.toUInt8 := fun c v hv h e => h (by rw [e]; simp; omega)
  by_cases b0 : (s[0]'h00).toNat = 254
  · by_cases b1 : (s[1]'h10).toNat = 255
    · have hm : s.data.toList.take 2 = [254, 255] := by rw [ht, nb _ 254 (by decide) b0, nb _ 255 (by decide) b1]; rfl
      have M := fun w => mark_big s w hs hm
      refine behind s true (by omega) (by omega) M (fun u K R => ?_) (fun u a a0 a1 K R => ?_)
      · exact walk_okB s u 0 W hT (by omega) h00 h10 (by omega) b0 b1 g1 g2 g3 M K R (fun w => lawfault_no (-1) (by decide) w)
      · exact walk_badB s u a W hT (by omega) h00 h10 (by omega) b0 b1 g1 g2 g3 a0 a1 M K R (fun w => lawfault_yes (a + 2) (by omega) w)
    · have t1 := hne 254 255 (.inr (nn _ 255 (by decide) b1))
      have t2 := hne 255 254 (.inl (nn _ 255 (by decide) (by omega)))
      exact walk_no3 s W hT (by omega) h00 h10 (by omega) b0 (ni _ 255 b1) (no _ 255 b1) g1 g2 g3 (fun w => mark_no s w hs t1 t2) (fun w => marked_no s w hs hn t1 t2)
  · have t1 := hne 254 255 (.inl (nn _ 254 (by decide) b0))
    by_cases b2 : (s[0]'h00).toNat = 255
    · by_cases b1 : (s[1]'h10).toNat = 254
      · have hm : s.data.toList.take 2 = [255, 254] := by rw [ht, nb _ 255 (by decide) b2, nb _ 254 (by decide) b1]; rfl
        have M := fun w => mark_small s w hs hm
        refine behind s false (by omega) (by omega) M (fun u K R => ?_) (fun u a a0 a1 K R => ?_)
        · exact walk_okS s u 0 W hT (by omega) h00 h10 (by omega) b2 b1 g1 g2 g3 M K R (fun w => lawfault_no (-1) (by decide) w)
        · exact walk_badS s u a W hT (by omega) h00 h10 (by omega) b2 b1 g1 g2 g3 a0 a1 M K R (fun w => lawfault_yes (a + 2) (by omega) w)
      · have t2 := hne 255 254 (.inr (nn _ 254 (by decide) b1))
        exact walk_no4 s W hT (by omega) h00 h10 (by omega) b2 (ni _ 254 b1) (no _ 254 b1) g1 g2 g3 (fun w => mark_no s w hs t1 t2) (fun w => marked_no s w hs hn t1 t2)
    · have t2 := hne 255 254 (.inl (nn _ 255 (by decide) b2))
      exact walk_no2 s W hT (by omega) h00 h10 (by omega) (ni _ 254 b0) (no _ 254 b0) (ni _ 255 b2) (no _ 255 b2) g1 g2 g3 (fun w => mark_no s w hs t1 t2) (fun w => marked_no s w hs hn t1 t2)
set_option maxRecDepth 100000 in
theorem lifted (os : Os) (started : os.Started) (H : Type) (enc : TypeId × Value → H) :
    ReturnsInHanded {} Tryd.checked os 5 .any (fun w args => (Rows.wideMarksSpec.pre enc Tryd.prog Tryd.f5 Rows.wideMarksRow.domain false w args ∧ laidMetH Tryd.prog Rows.wideMarksRow.laid w) ∧ sizedMet enc Tryd.prog Tryd.f5 (OpenSpec.ofChange Rows.wideMarksSpec) false w args)
      (Rows.wideMarksSpec.post enc Tryd.prog Tryd.f5 false true false false) := by
  refine returnsInHanded_of_change_and (C := Tryd.checked) (X := fun w _ => laidMetH Tryd.prog Rows.wideMarksRow.laid w) (fun _ _ _ hh h => h.of_heap hh) own started (by kernel_rfl) Tryd.func5
    (ChangeSpec.witness_shaped (enc := enc) (C := Tryd.checked) (os := os) (X := fun w _ => laidMetH Tryd.prog Rows.wideMarksRow.laid w) false (World.laidAll Tryd.prog os Rows.wideMarksRow.laid) #[.string ByteArray.empty] 8 (World.laidAll_os _ _ _)
      (World.shaped_of_ZipB (by kernel_rfl) (by kernel_rfl)) (by kernel_rfl) (by kernel_rfl) (by kernel_rfl)
      (by rw [MakeChecks.laidMetH_plain _ _ _ (by kernel_rfl)]; exact laidMet_laidAll _ (by kernel_rfl) (by kernel_rfl))) ?_
  intro W base args ds gs before hval0 hW hcnd _ hL _
  have hT : Tabs W := tabs_of hL
  have hval : ∀ (j : Nat) t v, Tryd.f5.params[j]? = some t → args[j]? = some v → Value.okWide Tryd.prog W .any base t v := hval0
  have hW' := hW
  obtain ⟨p, q, hA0, hV, rfl, hfz, hnd⟩ := hW
  have hA : DataW.TrodAll enc Tryd.prog W 0 (fun _ => true) true Tryd.f5.params.toList args.toList ds p := hA0
  rw [Tryd.params5] at hA hval
  obtain ⟨v0, vs0, d0, ds0, p0, q0, hargs, rfl, rfl, h0, r0⟩ := trodAll_cons hA
  obtain ⟨rfl, rfl, rfl⟩ := trodAll_nil r0
  obtain rfl : args = #[v0] := by cases args; simp_all
  obtain ⟨rfl, rfl⟩ := trodVars_none hV
  obtain ⟨a0, rfl, rfl, rfl, w0⟩ := open_string Tryd.underlying9 (hval 0 9 v0 rfl rfl) h0
  clear hA0 hval0
  simp only [List.append_nil] at hW'
  refine (walk a0 W hT).mono fun e W' ⟨he, bel⟩ => ?_
  subst he
  exact ⟨_, rfl, _, _, _, [], [], [], hW', trodAll_mk1 (shut_bool Tryd.underlying4 _), (trodAll_cons_mk (shut_string Tryd.underlying9 w0) trodAll_mk0), rfl, bel.frame _, fun h => by cases h⟩

theorem over : Rows.wideMarksRow.holds Tryd.pinned (OpenSpec.ofChange Rows.wideMarksSpec) :=
  OpenClaim.holds_of_wide 5 Tryd.f5 rfl rfl rfl rfl rfl rfl rfl ⟨rfl, rfl, rfl, rfl, rfl⟩ rfl rfl rfl rfl rfl (by kernel_rfl) Tryd.func5 (by kernel_rfl)
    (of_decide_eq_true (by kernel_rfl)) (by unfold Func.isWrapper; first | (rw [if_pos (by decide +kernel)]; kernel_rfl) | (rw [if_neg (by decide +kernel)]; exact ⟨rfl, rfl⟩))
    (fun os started H enc _ => lifted os started H enc)

theorem said : Rows.WideMarksSaid := over
theorem plain (f : FuncId) (fn : Func) (hf : Tryd.pinned.checked.prog.funcNamed "diacritic/diacriticlaw03.WideMarks" = some f) (hfn : Tryd.pinned.checked.prog.funcs[f]? = some fn) :
    false = Tryd.pinned.checked.prog.looks [] ∧ ∀ (j : Nat) t, fn.params[j]? = some t → Tryd.pinned.checked.prog.wantsStandIn t = false := by
  obtain rfl : f = 5 := Option.some.inj ((show Tryd.prog.funcNamed "diacritic/diacriticlaw03.WideMarks" = some 5 by kernel_rfl).symm.trans hf) |>.symm
  obtain rfl : fn = Tryd.f5 := (Option.some.inj (Tryd.func5.symm.trans hfn)).symm
  refine ⟨by kernel_rfl, fun j t ht => ?_⟩
  rw [Tryd.params5] at ht
  have hm : t ∈ [9] := by simpa using Array.mem_of_getElem? ht
  have hall : ([9].all fun u => !Tryd.prog.wantsStandIn u) = true := by kernel_rfl
  exact (show Tryd.prog.wantsStandIn t = false by simpa using List.all_eq_true.1 hall t hm)
/-- THE CARD. -/
theorem proved : Rows.WideMarksCardSaid :=
  Claim7.holds_tied_plain_at .later [] _ _ _ _ said (fun _ h => by cases h) (by kernel_rfl) (fun _ h => by cases h) wideMarks_row_tie rfl ⟨rfl, rfl⟩ (by kernel_rfl) rfl plain (by kernel_rfl)
#print axioms proved

end Go.Proofs.YtdbjjadgmfgjfaaDoor.wideMarks
