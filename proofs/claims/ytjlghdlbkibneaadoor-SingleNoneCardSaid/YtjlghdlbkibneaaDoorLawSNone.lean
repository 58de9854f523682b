/-
  The law SingleNone holds at every bytes: a charset that is none has no codes: no byte is decoded, no sign encoded.
  Conditions: none beyond the row's own.
-/
import Derived.Test.YtjlghdlbkibneaaDoorSc6
import Derived.ChangeMaps
namespace Go.Proofs.YtjlghdlbkibneaaDoor.singleNone
open Go Go.Proofs.YtjlghdlbkibneaaDoor Go.ChangeShapes Go.WideShapes Go.ChangeAt Go.RowKit
open Go.ChangeMaps (open_string shut_string)
set_option linter.unusedSimpArgs false
set_option linter.unusedVariables false

theorem own : ownKnob Tryd.prog.godebug = none := by kernel_rfl
set_option maxRecDepth 100000 in
set_option maxHeartbeats 4000000 in
theorem walk_long (b : ByteArray) (W : World) (hT : Tabs W) (hs : 300 < b.size) : Calls Tryd.prog 11 #[.string b] W fun e w' => e = .returned (.bool true) ∧ Ext W w' := by
  have h2 : (300 : Int) < b.size := by omega
  have HT := Lib.hid hT
  clear hs hT
  go_enter Tryd.func11, Tryd.ntmps11
  go_wp2_with (go_at_call 28; refine (awake5 _ HT.out).mono ?_; rintro e w1 ⟨rfl, hb1⟩)
  go_ret
  exact ⟨rfl, hb1⟩
set_option maxRecDepth 100000 in
set_option maxHeartbeats 4000000 in
theorem walk_some (b : ByteArray) (W : World) (hT : Tabs W) (hs : b.size ≤ 300) (h1 : 1 ≤ b.size) : Calls Tryd.prog 11 #[.string b] W fun e w' => e = .returned (.bool true) ∧ Ext W w' := by
  have hC := KeepT.three (KeepT.start hT) (.slice none 0 0) (.slice none 0 0) (.int .i64 0) 56
  have K1 := Lib.hid trivial
  have K2 := Lib.hid trivial
  have HD := Lib.hid (fun w => none_decode_some b w (by omega) h1)
  have h2 : ¬ (300 : Int) < b.size := by omega
  have hne : b.data.toList ≠ [] := by
    intro e
    have : b.data.toList.length = b.size := rfl
    rw [e, List.length_nil] at this
    omega
  obtain ⟨e1, e2, e3⟩ := ne_facts hne
  clear hs h1 hne
  obtain ⟨a0, a1, a2, _⟩ := hC.c
  clear hT
  go_enter Tryd.func11, Tryd.ntmps11
  go_wp2_with (first
    | (go_at_call 30; clear K1; refine (HD.out _).mono ?_; rintro e w1 ⟨rfl, hb⟩; have hC' := (hC.ext hb).two (.int .i64 2) (.int .i64 0) 30; clear hC hb a0 a1 a2; have hC := hC'; clear hC'; obtain ⟨f0, f1, a0, a1, a2, _⟩ := hC.c)
    | (go_at_call 31; clear K2; refine (none_encode _ hC.tb).mono ?_; rintro e w2 ⟨rfl, hb⟩; have hC' := (hC.ext hb).two (.int .i64 6) (.int .i64 0) 30; clear hC hb f0 f1 a0 a1 a2; have hC := hC'; clear hC'; obtain ⟨g0, g1, f0, f1, a0, a1, a2, _⟩ := hC.c))
  have hC' := hC.ext (Ext.drew (Ext.refl _))
  clear hC g0 g1 f0 f1 a0 a1 a2
  have hC := hC'
  clear hC'
  obtain ⟨g0, g1, f0, f1, a0, a1, a2, _⟩ := hC.c
  refine wp_region_held_drew (S := (fun W' => W'.cell? ⟨w1.heap.size, 0, none⟩ = some (.int .i64 2) ∧ W'.cell? ⟨w1.heap.size, 1, none⟩ = some (.int .i64 0) ∧ W'.cell? ⟨w2.heap.size, 0, none⟩ = some (.int .i64 6) ∧ W'.cell? ⟨w2.heap.size, 1, none⟩ = some (.int .i64 0))) (by kernel_rfl) ?_ (fun hHeld => ?_)
  · (try dsimp only); go_keep
  refine wpAnyH_ready (rs := [0]) (by kernel_rfl) (by simp) ?_
  refine' AllReadyH.cons (o := _) ?hixa0 (fun K hK => ?hk0xa0) AllReadyH.nil
  case hixa0 => exact rfl
  go_simp
  go_at_call 28
  refine (awake5 _ hC.tb).mono ?_
  rintro e wx ⟨rfl, hbx⟩
  have hC' := hC.ext hbx
  clear hC hbx
  have hC := hC'
  clear hC'
  clear g0 g1 f0 f1 a0 a1 a2
  obtain ⟨g0, g1, f0, f1, a0, a1, a2, _⟩ := hC.c
  try go_wp2_with fail
  refine hK.out _ _ ?hS0xa0 (fun hHeld => ?restxa0)
  case hS0xa0 => (try dsimp only); go_keep
  clear hK K
  try simp only [Act.put, List.setIfInBounds_toArray, List.set_cons_zero, List.set_cons_succ]
  refine' wpAnyH_take (i := 1) (oi := { dst := some 24, op := _, type := _, pos := _, after := _, guard := _ }) (v := _) ?hixa1 (by kernel_rfl) ?hfxa1 ?hrxa1 ?hqxa1 ?hyxa1 ?hsxa1 ?restxa1
  case hixa1 => exact rfl
  case hfxa1 => kernel_rfl
  case hrxa1 => kernel_rfl
  case hqxa1 => exact fun _ _ _ h => h
  case hsxa1 => assumption
  case hyxa1 =>
    refine Or.inl ⟨by kernel_rfl, ?_⟩
    intro w hSw
    try dsimp only at hSw
    go_simp
    try with_reducible rfl
  try simp only [Act.put, List.setIfInBounds_toArray, List.set_cons_zero, List.set_cons_succ]
  refine' wpAnyH_take (i := 2) (oi := { dst := some 25, op := _, type := _, pos := _, after := _, guard := _ }) (v := _) ?hixa2 (by kernel_rfl) ?hfxa2 ?hrxa2 ?hqxa2 ?hyxa2 ?hsxa2 ?restxa2
  case hixa2 => exact rfl
  case hfxa2 => kernel_rfl
  case hrxa2 => kernel_rfl
  case hqxa2 => exact fun _ _ _ h => h
  case hsxa2 => assumption
  case hyxa2 =>
    refine Or.inl ⟨by kernel_rfl, ?_⟩
    intro w hSw
    try dsimp only at hSw
    go_simp
    try with_reducible rfl
  try simp only [Act.put, List.setIfInBounds_toArray, List.set_cons_zero, List.set_cons_succ]
  refine' wpAnyH_take (i := 3) (oi := { dst := some 26, op := _, type := _, pos := _, after := _, guard := _ }) (v := _) ?hixa3 (by kernel_rfl) ?hfxa3 ?hrxa3 ?hqxa3 ?hyxa3 ?hsxa3 ?restxa3
  case hixa3 => exact rfl
  case hfxa3 => kernel_rfl
  case hrxa3 => kernel_rfl
  case hqxa3 => exact fun _ _ _ h => h
  case hsxa3 => assumption
  case hyxa3 =>
    refine Or.inl ⟨by kernel_rfl, ?_⟩
    intro w hSw
    try dsimp only at hSw
    go_simp
    try with_reducible rfl
  try simp only [Act.put, List.setIfInBounds_toArray, List.set_cons_zero, List.set_cons_succ]
  refine' wpAnyH_take (i := 4) (oi := { dst := some 27, op := _, type := _, pos := _, after := _, guard := _ }) (v := _) ?hixa4 (by kernel_rfl) ?hfxa4 ?hrxa4 ?hqxa4 ?hyxa4 ?hsxa4 ?restxa4
  case hixa4 => exact rfl
  case hfxa4 => kernel_rfl
  case hrxa4 => kernel_rfl
  case hqxa4 => exact fun _ _ _ h => h
  case hsxa4 => assumption
  case hyxa4 =>
    refine Or.inl ⟨by kernel_rfl, ?_⟩
    intro w hSw
    try dsimp only at hSw
    go_simp
    try with_reducible rfl
  try simp only [Act.put, List.setIfInBounds_toArray, List.set_cons_zero, List.set_cons_succ]
  refine' wpAnyH_take (i := 5) (oi := { dst := some 28, op := _, type := _, pos := _, after := _, guard := _ }) (v := _) ?hixa5 (by kernel_rfl) ?hfxa5 ?hrxa5 ?hqxa5 ?hyxa5 ?hsxa5 ?restxa5
  case hixa5 => exact rfl
  case hfxa5 => kernel_rfl
  case hrxa5 => kernel_rfl
  case hqxa5 => exact fun _ _ _ h => h
  case hsxa5 => assumption
  case hyxa5 =>
    refine Or.inl ⟨by kernel_rfl, ?_⟩
    intro w hSw
    try dsimp only at hSw
    go_simp
    try with_reducible rfl
  try simp only [Act.put, List.setIfInBounds_toArray, List.set_cons_zero, List.set_cons_succ]
  refine' wpAnyH_take (i := 6) (oi := { dst := some 29, op := _, type := _, pos := _, after := _, guard := _ }) (v := _) ?hixa6 (by kernel_rfl) ?hfxa6 ?hrxa6 ?hqxa6 ?hyxa6 ?hsxa6 ?restxa6
  case hixa6 => exact rfl
  case hfxa6 => kernel_rfl
  case hrxa6 => kernel_rfl
  case hqxa6 => exact fun _ _ _ h => h
  case hsxa6 => assumption
  case hyxa6 =>
    refine Or.inl ⟨by kernel_rfl, ?_⟩
    intro w hSw
    try dsimp only at hSw
    go_simp
    try with_reducible rfl
  try simp only [Act.put, List.setIfInBounds_toArray, List.set_cons_zero, List.set_cons_succ]
  refine' wpAnyH_take (i := 8) (oi := { dst := some 31, op := _, type := _, pos := _, after := _, guard := _ }) (v := _) ?hixa8 (by kernel_rfl) ?hfxa8 ?hrxa8 ?hqxa8 ?hyxa8 ?hsxa8 ?restxa8
  case hixa8 => exact rfl
  case hfxa8 => kernel_rfl
  case hrxa8 => kernel_rfl
  case hqxa8 => exact fun _ _ _ h => h
  case hsxa8 => assumption
  case hyxa8 =>
    refine Or.inl ⟨by kernel_rfl, ?_⟩
    intro w hSw
    try dsimp only at hSw
    go_simp
    try with_reducible rfl
  try simp only [Act.put, List.setIfInBounds_toArray, List.set_cons_zero, List.set_cons_succ]
  refine' wpAnyH_take (i := 9) (oi := { dst := some 32, op := _, type := _, pos := _, after := _, guard := _ }) (v := _) ?hixa9 (by kernel_rfl) ?hfxa9 ?hrxa9 ?hqxa9 ?hyxa9 ?hsxa9 ?restxa9
  case hixa9 => exact rfl
  case hfxa9 => kernel_rfl
  case hrxa9 => kernel_rfl
  case hqxa9 => exact fun _ _ _ h => h
  case hsxa9 => assumption
  case hyxa9 =>
    refine Or.inl ⟨by kernel_rfl, ?_⟩
    intro w hSw
    try dsimp only at hSw
    go_simp
    try with_reducible rfl
  try simp only [Act.put, List.setIfInBounds_toArray, List.set_cons_zero, List.set_cons_succ]
  refine wpAnyH_ready (rs := [7]) (by kernel_rfl) (by simp) ?_
  refine' AllReadyH.cons (o := _) ?hixa7 (fun K hK => ?hk0xa7) AllReadyH.nil
  case hixa7 => exact rfl
  go_simp
  go_at_call 17
  refine (bad_yes _ _ _ (by decide)).mono ?_
  rintro e wx ⟨rfl, hbx⟩
  have hC' := hC.ext hbx
  clear hC hbx
  have hC := hC'
  clear hC'
  clear g0 g1 f0 f1 a0 a1 a2
  obtain ⟨g0, g1, f0, f1, a0, a1, a2, _⟩ := hC.c
  try go_wp2_with fail
  refine hK.out _ _ ?hS0xa7 (fun hHeld => ?restxa7)
  case hS0xa7 => (try dsimp only); go_keep
  clear hK K
  try simp only [Act.put, List.setIfInBounds_toArray, List.set_cons_zero, List.set_cons_succ]
  refine' wpAnyH_take (i := 10) (oi := { dst := some 33, op := _, type := _, pos := _, after := _, guard := _ }) (v := _) ?hixa10 (by kernel_rfl) ?hfxa10 ?hrxa10 ?hqxa10 ?hyxa10 ?hsxa10 ?restxa10
  case hixa10 => exact rfl
  case hfxa10 => kernel_rfl
  case hrxa10 => kernel_rfl
  case hqxa10 => exact fun _ _ _ h => h
  case hsxa10 => assumption
  case hyxa10 =>
    refine Or.inl ⟨by kernel_rfl, ?_⟩
    intro w hSw
    try dsimp only at hSw
    go_simp
    try with_reducible rfl
  try simp only [Act.put, List.setIfInBounds_toArray, List.set_cons_zero, List.set_cons_succ]
  refine' wpAnyH_take (i := 11) (oi := { dst := some 34, op := _, type := _, pos := _, after := _, guard := _ }) (v := _) ?hixa11 (by kernel_rfl) ?hfxa11 ?hrxa11 ?hqxa11 ?hyxa11 ?hsxa11 ?restxa11
  case hixa11 => exact rfl
  case hfxa11 => kernel_rfl
  case hrxa11 => kernel_rfl
  case hqxa11 => exact fun _ _ _ h => h
  case hsxa11 => assumption
  case hyxa11 =>
    refine Or.inl ⟨by kernel_rfl, ?_⟩
    intro w hSw
    try dsimp only at hSw
    go_simp
    try with_reducible rfl
  try simp only [Act.put, List.setIfInBounds_toArray, List.set_cons_zero, List.set_cons_succ]
  refine' wpAnyH_take (i := 12) (oi := { dst := some 35, op := _, type := _, pos := _, after := _, guard := _ }) (v := _) ?hixa12 (by kernel_rfl) ?hfxa12 ?hrxa12 ?hqxa12 ?hyxa12 ?hsxa12 ?restxa12
  case hixa12 => exact rfl
  case hfxa12 => kernel_rfl
  case hrxa12 => kernel_rfl
  case hqxa12 => exact fun _ _ _ h => h
  case hsxa12 => assumption
  case hyxa12 =>
    refine Or.inl ⟨by kernel_rfl, ?_⟩
    intro w hSw
    try dsimp only at hSw
    go_simp
    try with_reducible rfl
  try simp only [Act.put, List.setIfInBounds_toArray, List.set_cons_zero, List.set_cons_succ]
  refine' wpAnyH_take (i := 13) (oi := { dst := some 36, op := _, type := _, pos := _, after := _, guard := _ }) (v := _) ?hixa13 (by kernel_rfl) ?hfxa13 ?hrxa13 ?hqxa13 ?hyxa13 ?hsxa13 ?restxa13
  case hixa13 => exact rfl
  case hfxa13 => kernel_rfl
  case hrxa13 => kernel_rfl
  case hqxa13 => exact fun _ _ _ h => h
  case hsxa13 => assumption
  case hyxa13 =>
    refine Or.inl ⟨by kernel_rfl, ?_⟩
    intro w hSw
    try dsimp only at hSw
    go_simp
    try with_reducible rfl
  try simp only [Act.put, List.setIfInBounds_toArray, List.set_cons_zero, List.set_cons_succ]
  refine' wpAnyH_take (i := 14) (oi := { dst := some 37, op := _, type := _, pos := _, after := _, guard := _ }) (v := _) ?hixa14 (by kernel_rfl) ?hfxa14 ?hrxa14 ?hqxa14 ?hyxa14 ?hsxa14 ?restxa14
  case hixa14 => exact rfl
  case hfxa14 => kernel_rfl
  case hrxa14 => kernel_rfl
  case hqxa14 => exact fun _ _ _ h => h
  case hsxa14 => assumption
  case hyxa14 =>
    refine Or.inl ⟨by kernel_rfl, ?_⟩
    intro w hSw
    try dsimp only at hSw
    go_simp
    try with_reducible rfl
  try simp only [Act.put, List.setIfInBounds_toArray, List.set_cons_zero, List.set_cons_succ]
  refine' wpAnyH_take (i := 15) (oi := { dst := some 38, op := _, type := _, pos := _, after := _, guard := _ }) (v := _) ?hixa15 (by kernel_rfl) ?hfxa15 ?hrxa15 ?hqxa15 ?hyxa15 ?hsxa15 ?restxa15
  case hixa15 => exact rfl
  case hfxa15 => kernel_rfl
  case hrxa15 => kernel_rfl
  case hqxa15 => exact fun _ _ _ h => h
  case hsxa15 => assumption
  case hyxa15 =>
    refine Or.inl ⟨by kernel_rfl, ?_⟩
    intro w hSw
    try dsimp only at hSw
    go_simp
    try with_reducible rfl
  try simp only [Act.put, List.setIfInBounds_toArray, List.set_cons_zero, List.set_cons_succ]
  refine' wpAnyH_take (i := 16) (oi := { dst := some 39, op := _, type := _, pos := _, after := _, guard := _ }) (v := _) ?hixa16 (by kernel_rfl) ?hfxa16 ?hrxa16 ?hqxa16 ?hyxa16 ?hsxa16 ?restxa16
  case hixa16 => exact rfl
  case hfxa16 => kernel_rfl
  case hrxa16 => kernel_rfl
  case hqxa16 => exact fun _ _ _ h => h
  case hsxa16 => assumption
  case hyxa16 =>
    refine Or.inl ⟨by kernel_rfl, ?_⟩
    intro w hSw
    try dsimp only at hSw
    go_simp
    try with_reducible rfl
  try simp only [Act.put, List.setIfInBounds_toArray, List.set_cons_zero, List.set_cons_succ]
  refine wpAnyH_ready (rs := [17]) (by kernel_rfl) (by simp) ?_
  refine' AllReadyH.cons (o := _) ?hixa17 (fun K hK => ?hk0xa17) AllReadyH.nil
  case hixa17 => exact rfl
  go_simp
  go_at_call 34
  refine (lawfault_yes 0 (by decide) _).mono ?_
  rintro e wx ⟨rfl, hbx⟩
  have hC' := hC.ext hbx
  clear hC hbx
  have hC := hC'
  clear hC'
  clear g0 g1 f0 f1 a0 a1 a2
  obtain ⟨g0, g1, f0, f1, a0, a1, a2, _⟩ := hC.c
  try go_wp2_with fail
  refine hK.out _ _ ?hS0xa17 (fun hHeld => ?restxa17)
  case hS0xa17 => (try dsimp only); go_keep
  clear hK K
  try simp only [Act.put, List.setIfInBounds_toArray, List.set_cons_zero, List.set_cons_succ]
  refine' wpAnyH_take (i := 18) (oi := { dst := some 41, op := _, type := _, pos := _, after := _, guard := _ }) (v := _) ?hixa18 (by kernel_rfl) ?hfxa18 ?hrxa18 ?hqxa18 ?hyxa18 ?hsxa18 ?restxa18
  case hixa18 => exact rfl
  case hfxa18 => kernel_rfl
  case hrxa18 => kernel_rfl
  case hqxa18 => exact fun _ _ _ h => h
  case hsxa18 => assumption
  case hyxa18 =>
    refine Or.inl ⟨by kernel_rfl, ?_⟩
    intro w hSw
    try dsimp only at hSw
    go_simp
    try with_reducible rfl
  try simp only [Act.put, List.setIfInBounds_toArray, List.set_cons_zero, List.set_cons_succ]
  refine' wpAnyH_take (i := 19) (oi := { dst := some 42, op := _, type := _, pos := _, after := _, guard := _ }) (v := _) ?hixa19 (by kernel_rfl) ?hfxa19 ?hrxa19 ?hqxa19 ?hyxa19 ?hsxa19 ?restxa19
  case hixa19 => exact rfl
  case hfxa19 => kernel_rfl
  case hrxa19 => kernel_rfl
  case hqxa19 => exact fun _ _ _ h => h
  case hsxa19 => assumption
  case hyxa19 =>
    refine Or.inl ⟨by kernel_rfl, ?_⟩
    intro w hSw
    try dsimp only at hSw
    go_simp
    try with_reducible rfl
  try simp only [Act.put, List.setIfInBounds_toArray, List.set_cons_zero, List.set_cons_succ]
  refine' wpAnyH_take (i := 20) (oi := { dst := some 43, op := _, type := _, pos := _, after := _, guard := _ }) (v := _) ?hixa20 (by kernel_rfl) ?hfxa20 ?hrxa20 ?hqxa20 ?hyxa20 ?hsxa20 ?restxa20
  case hixa20 => exact rfl
  case hfxa20 => kernel_rfl
  case hrxa20 => kernel_rfl
  case hqxa20 => exact fun _ _ _ h => h
  case hsxa20 => assumption
  case hyxa20 =>
    refine Or.inl ⟨by kernel_rfl, ?_⟩
    intro w hSw
    try dsimp only at hSw
    go_simp
    try with_reducible rfl
  try simp only [Act.put, List.setIfInBounds_toArray, List.set_cons_zero, List.set_cons_succ]
  refine' wpAnyH_take (i := 21) (oi := { dst := some 44, op := _, type := _, pos := _, after := _, guard := _ }) (v := _) ?hixa21 (by kernel_rfl) ?hfxa21 ?hrxa21 ?hqxa21 ?hyxa21 ?hsxa21 ?restxa21
  case hixa21 => exact rfl
  case hfxa21 => kernel_rfl
  case hrxa21 => kernel_rfl
  case hqxa21 => exact fun _ _ _ h => h
  case hsxa21 => assumption
  case hyxa21 =>
    refine Or.inl ⟨by kernel_rfl, ?_⟩
    intro w hSw
    try dsimp only at hSw
    go_simp
    try with_reducible rfl
  try simp only [Act.put, List.setIfInBounds_toArray, List.set_cons_zero, List.set_cons_succ]
  refine' wpAnyH_take (i := 22) (oi := { dst := some 45, op := _, type := _, pos := _, after := _, guard := _ }) (v := _) ?hixa22 (by kernel_rfl) ?hfxa22 ?hrxa22 ?hqxa22 ?hyxa22 ?hsxa22 ?restxa22
  case hixa22 => exact rfl
  case hfxa22 => kernel_rfl
  case hrxa22 => kernel_rfl
  case hqxa22 => exact fun _ _ _ h => h
  case hsxa22 => assumption
  case hyxa22 =>
    refine Or.inl ⟨by kernel_rfl, ?_⟩
    intro w hSw
    try dsimp only at hSw
    go_simp
    try with_reducible rfl
  try simp only [Act.put, List.setIfInBounds_toArray, List.set_cons_zero, List.set_cons_succ]
  refine' wpAnyH_take (i := 23) (oi := { dst := some 46, op := _, type := _, pos := _, after := _, guard := _ }) (v := _) ?hixa23 (by kernel_rfl) ?hfxa23 ?hrxa23 ?hqxa23 ?hyxa23 ?hsxa23 ?restxa23
  case hixa23 => exact rfl
  case hfxa23 => kernel_rfl
  case hrxa23 => kernel_rfl
  case hqxa23 => exact fun _ _ _ h => h
  case hsxa23 => assumption
  case hyxa23 =>
    refine Or.inl ⟨by kernel_rfl, ?_⟩
    intro w hSw
    try dsimp only at hSw
    go_simp
    try with_reducible rfl
  try simp only [Act.put, List.setIfInBounds_toArray, List.set_cons_zero, List.set_cons_succ]
  refine' wpAnyH_take (i := 24) (oi := { dst := some 47, op := _, type := _, pos := _, after := _, guard := _ }) (v := _) ?hixa24 (by kernel_rfl) ?hfxa24 ?hrxa24 ?hqxa24 ?hyxa24 ?hsxa24 ?restxa24
  case hixa24 => exact rfl
  case hfxa24 => kernel_rfl
  case hrxa24 => kernel_rfl
  case hqxa24 => exact fun _ _ _ h => h
  case hsxa24 => assumption
  case hyxa24 =>
    refine Or.inl ⟨by kernel_rfl, ?_⟩
    intro w hSw
    try dsimp only at hSw
    go_simp
    try with_reducible rfl
  try simp only [Act.put, List.setIfInBounds_toArray, List.set_cons_zero, List.set_cons_succ]
  refine' wpAnyH_take (i := 25) (oi := { dst := some 48, op := _, type := _, pos := _, after := _, guard := _ }) (v := _) ?hixa25 (by kernel_rfl) ?hfxa25 ?hrxa25 ?hqxa25 ?hyxa25 ?hsxa25 ?restxa25
  case hixa25 => exact rfl
  case hfxa25 => kernel_rfl
  case hrxa25 => kernel_rfl
  case hqxa25 => exact fun _ _ _ h => h
  case hsxa25 => assumption
  case hyxa25 =>
    refine Or.inl ⟨by kernel_rfl, ?_⟩
    intro w hSw
    try dsimp only at hSw
    go_simp
    try with_reducible rfl
  try simp only [Act.put, List.setIfInBounds_toArray, List.set_cons_zero, List.set_cons_succ]
  refine' wpAnyH_take (i := 26) (oi := { dst := some 2, op := _, type := _, pos := _, after := _, guard := _ }) (v := _) ?hixa26 (by kernel_rfl) ?hfxa26 ?hrxa26 ?hqxa26 ?hyxa26 ?hsxa26 ?restxa26
  case hixa26 => exact rfl
  case hfxa26 => kernel_rfl
  case hrxa26 => kernel_rfl
  case hqxa26 => exact fun _ _ _ h => h
  case hsxa26 => assumption
  case hyxa26 =>
    refine Or.inl ⟨by kernel_rfl, ?_⟩
    intro w hSw
    try dsimp only at hSw
    go_simp
    try with_reducible rfl
  try simp only [Act.put, List.setIfInBounds_toArray, List.set_cons_zero, List.set_cons_succ]
  refine wpAnyH_done (by kernel_rfl) ?_ _
  go_wp2
  go_ret
  exact ⟨rfl, hC.ex⟩
set_option maxRecDepth 100000 in
set_option maxHeartbeats 4000000 in
theorem walk_empty (b : ByteArray) (W : World) (hT : Tabs W) (hs : b = ⟨#[]⟩) : Calls Tryd.prog 11 #[.string b] W fun e w' => e = .returned (.bool true) ∧ Ext W w' := by
  have hC := KeepT.three (KeepT.start hT) (.slice none 0 0) (.slice none 0 0) (.int .i64 0) 56
  have K1 := Lib.hid trivial
  have K2 := Lib.hid trivial
  subst hs
  obtain ⟨a0, a1, a2, _⟩ := hC.c
  clear hT
  go_enter Tryd.func11, Tryd.ntmps11
  go_wp2_with (first
    | (go_at_call 30; clear K1; refine (none_decode_empty _).mono ?_; rintro e w1 ⟨rfl, hb⟩; have hC' := (hC.ext hb).two (.int .i64 0) (.int .i64 0) 30; clear hC hb a0 a1 a2; have hC := hC'; clear hC'; obtain ⟨f0, f1, a0, a1, a2, _⟩ := hC.c)
    | (go_at_call 31; clear K2; refine (none_encode _ hC.tb).mono ?_; rintro e w2 ⟨rfl, hb⟩; have hC' := (hC.ext hb).two (.int .i64 6) (.int .i64 0) 30; clear hC hb f0 f1 a0 a1 a2; have hC := hC'; clear hC'; obtain ⟨g0, g1, f0, f1, a0, a1, a2, _⟩ := hC.c))
  have hC' := hC.ext (Ext.drew (Ext.refl _))
  clear hC g0 g1 f0 f1 a0 a1 a2
  have hC := hC'
  clear hC'
  obtain ⟨g0, g1, f0, f1, a0, a1, a2, _⟩ := hC.c
  refine wp_region_held_drew (S := (fun W' => W'.cell? ⟨w1.heap.size, 0, none⟩ = some (.int .i64 0) ∧ W'.cell? ⟨w1.heap.size, 1, none⟩ = some (.int .i64 0) ∧ W'.cell? ⟨w2.heap.size, 0, none⟩ = some (.int .i64 6) ∧ W'.cell? ⟨w2.heap.size, 1, none⟩ = some (.int .i64 0))) (by kernel_rfl) ?_ (fun hHeld => ?_)
  · (try dsimp only); go_keep
  refine wpAnyH_ready (rs := [0]) (by kernel_rfl) (by simp) ?_
  refine' AllReadyH.cons (o := _) ?hixb0 (fun K hK => ?hk0xb0) AllReadyH.nil
  case hixb0 => exact rfl
  go_simp
  go_at_call 28
  refine (awake5 _ hC.tb).mono ?_
  rintro e wx ⟨rfl, hbx⟩
  have hC' := hC.ext hbx
  clear hC hbx
  have hC := hC'
  clear hC'
  clear g0 g1 f0 f1 a0 a1 a2
  obtain ⟨g0, g1, f0, f1, a0, a1, a2, _⟩ := hC.c
  try go_wp2_with fail
  refine hK.out _ _ ?hS0xb0 (fun hHeld => ?restxb0)
  case hS0xb0 => (try dsimp only); go_keep
  clear hK K
  try simp only [Act.put, List.setIfInBounds_toArray, List.set_cons_zero, List.set_cons_succ]
  refine' wpAnyH_take (i := 1) (oi := { dst := some 24, op := _, type := _, pos := _, after := _, guard := _ }) (v := _) ?hixb1 (by kernel_rfl) ?hfxb1 ?hrxb1 ?hqxb1 ?hyxb1 ?hsxb1 ?restxb1
  case hixb1 => exact rfl
  case hfxb1 => kernel_rfl
  case hrxb1 => kernel_rfl
  case hqxb1 => exact fun _ _ _ h => h
  case hsxb1 => assumption
  case hyxb1 =>
    refine Or.inl ⟨by kernel_rfl, ?_⟩
    intro w hSw
    try dsimp only at hSw
    go_simp
    try with_reducible rfl
  try simp only [Act.put, List.setIfInBounds_toArray, List.set_cons_zero, List.set_cons_succ]
  refine' wpAnyH_take (i := 2) (oi := { dst := some 25, op := _, type := _, pos := _, after := _, guard := _ }) (v := _) ?hixb2 (by kernel_rfl) ?hfxb2 ?hrxb2 ?hqxb2 ?hyxb2 ?hsxb2 ?restxb2
  case hixb2 => exact rfl
  case hfxb2 => kernel_rfl
  case hrxb2 => kernel_rfl
  case hqxb2 => exact fun _ _ _ h => h
  case hsxb2 => assumption
  case hyxb2 =>
    refine Or.inl ⟨by kernel_rfl, ?_⟩
    intro w hSw
    try dsimp only at hSw
    go_simp
    try with_reducible rfl
  try simp only [Act.put, List.setIfInBounds_toArray, List.set_cons_zero, List.set_cons_succ]
  refine' wpAnyH_take (i := 3) (oi := { dst := some 26, op := _, type := _, pos := _, after := _, guard := _ }) (v := _) ?hixb3 (by kernel_rfl) ?hfxb3 ?hrxb3 ?hqxb3 ?hyxb3 ?hsxb3 ?restxb3
  case hixb3 => exact rfl
  case hfxb3 => kernel_rfl
  case hrxb3 => kernel_rfl
  case hqxb3 => exact fun _ _ _ h => h
  case hsxb3 => assumption
  case hyxb3 =>
    refine Or.inl ⟨by kernel_rfl, ?_⟩
    intro w hSw
    try dsimp only at hSw
    go_simp
    try with_reducible rfl
  try simp only [Act.put, List.setIfInBounds_toArray, List.set_cons_zero, List.set_cons_succ]
  refine' wpAnyH_take (i := 4) (oi := { dst := some 27, op := _, type := _, pos := _, after := _, guard := _ }) (v := _) ?hixb4 (by kernel_rfl) ?hfxb4 ?hrxb4 ?hqxb4 ?hyxb4 ?hsxb4 ?restxb4
  case hixb4 => exact rfl
  case hfxb4 => kernel_rfl
  case hrxb4 => kernel_rfl
  case hqxb4 => exact fun _ _ _ h => h
  case hsxb4 => assumption
  case hyxb4 =>
    refine Or.inl ⟨by kernel_rfl, ?_⟩
    intro w hSw
    try dsimp only at hSw
    go_simp
    try with_reducible rfl
  try simp only [Act.put, List.setIfInBounds_toArray, List.set_cons_zero, List.set_cons_succ]
  refine' wpAnyH_take (i := 5) (oi := { dst := some 28, op := _, type := _, pos := _, after := _, guard := _ }) (v := _) ?hixb5 (by kernel_rfl) ?hfxb5 ?hrxb5 ?hqxb5 ?hyxb5 ?hsxb5 ?restxb5
  case hixb5 => exact rfl
  case hfxb5 => kernel_rfl
  case hrxb5 => kernel_rfl
  case hqxb5 => exact fun _ _ _ h => h
  case hsxb5 => assumption
  case hyxb5 =>
    refine Or.inl ⟨by kernel_rfl, ?_⟩
    intro w hSw
    try dsimp only at hSw
    go_simp
    try with_reducible rfl
  try simp only [Act.put, List.setIfInBounds_toArray, List.set_cons_zero, List.set_cons_succ]
  refine' wpAnyH_take (i := 6) (oi := { dst := some 29, op := _, type := _, pos := _, after := _, guard := _ }) (v := _) ?hixb6 (by kernel_rfl) ?hfxb6 ?hrxb6 ?hqxb6 ?hyxb6 ?hsxb6 ?restxb6
  case hixb6 => exact rfl
  case hfxb6 => kernel_rfl
  case hrxb6 => kernel_rfl
  case hqxb6 => exact fun _ _ _ h => h
  case hsxb6 => assumption
  case hyxb6 =>
    refine Or.inl ⟨by kernel_rfl, ?_⟩
    intro w hSw
    try dsimp only at hSw
    go_simp
    try with_reducible rfl
  try simp only [Act.put, List.setIfInBounds_toArray, List.set_cons_zero, List.set_cons_succ]
  refine' wpAnyH_take (i := 8) (oi := { dst := some 31, op := _, type := _, pos := _, after := _, guard := _ }) (v := _) ?hixb8 (by kernel_rfl) ?hfxb8 ?hrxb8 ?hqxb8 ?hyxb8 ?hsxb8 ?restxb8
  case hixb8 => exact rfl
  case hfxb8 => kernel_rfl
  case hrxb8 => kernel_rfl
  case hqxb8 => exact fun _ _ _ h => h
  case hsxb8 => assumption
  case hyxb8 =>
    refine Or.inl ⟨by kernel_rfl, ?_⟩
    intro w hSw
    try dsimp only at hSw
    go_simp
    try with_reducible rfl
  try simp only [Act.put, List.setIfInBounds_toArray, List.set_cons_zero, List.set_cons_succ]
  refine' wpAnyH_take (i := 9) (oi := { dst := some 32, op := _, type := _, pos := _, after := _, guard := _ }) (v := _) ?hixb9 (by kernel_rfl) ?hfxb9 ?hrxb9 ?hqxb9 ?hyxb9 ?hsxb9 ?restxb9
  case hixb9 => exact rfl
  case hfxb9 => kernel_rfl
  case hrxb9 => kernel_rfl
  case hqxb9 => exact fun _ _ _ h => h
  case hsxb9 => assumption
  case hyxb9 =>
    refine Or.inl ⟨by kernel_rfl, ?_⟩
    intro w hSw
    try dsimp only at hSw
    go_simp
    try with_reducible rfl
  try simp only [Act.put, List.setIfInBounds_toArray, List.set_cons_zero, List.set_cons_succ]
  refine wpAnyH_ready (rs := [7]) (by kernel_rfl) (by simp) ?_
  refine' AllReadyH.cons (o := _) ?hixb7 (fun K hK => ?hk0xb7) AllReadyH.nil
  case hixb7 => exact rfl
  go_simp
  go_at_call 17
  refine (bad_no _ _ _ (by decide)).mono ?_
  rintro e wx ⟨rfl, hbx⟩
  have hC' := hC.ext hbx
  clear hC hbx
  have hC := hC'
  clear hC'
  clear g0 g1 f0 f1 a0 a1 a2
  obtain ⟨g0, g1, f0, f1, a0, a1, a2, _⟩ := hC.c
  try go_wp2_with fail
  refine hK.out _ _ ?hS0xb7 (fun hHeld => ?restxb7)
  case hS0xb7 => (try dsimp only); go_keep
  clear hK K
  try simp only [Act.put, List.setIfInBounds_toArray, List.set_cons_zero, List.set_cons_succ]
  refine' wpAnyH_take (i := 10) (oi := { dst := some 33, op := _, type := _, pos := _, after := _, guard := _ }) (v := _) ?hixb10 (by kernel_rfl) ?hfxb10 ?hrxb10 ?hqxb10 ?hyxb10 ?hsxb10 ?restxb10
  case hixb10 => exact rfl
  case hfxb10 => kernel_rfl
  case hrxb10 => kernel_rfl
  case hqxb10 => exact fun _ _ _ h => h
  case hsxb10 => assumption
  case hyxb10 =>
    refine Or.inl ⟨by kernel_rfl, ?_⟩
    intro w hSw
    try dsimp only at hSw
    go_simp
    try with_reducible rfl
  try simp only [Act.put, List.setIfInBounds_toArray, List.set_cons_zero, List.set_cons_succ]
  refine' wpAnyH_take (i := 11) (oi := { dst := some 34, op := _, type := _, pos := _, after := _, guard := _ }) (v := _) ?hixb11 (by kernel_rfl) ?hfxb11 ?hrxb11 ?hqxb11 ?hyxb11 ?hsxb11 ?restxb11
  case hixb11 => exact rfl
  case hfxb11 => kernel_rfl
  case hrxb11 => kernel_rfl
  case hqxb11 => exact fun _ _ _ h => h
  case hsxb11 => assumption
  case hyxb11 =>
    refine Or.inl ⟨by kernel_rfl, ?_⟩
    intro w hSw
    try dsimp only at hSw
    go_simp
    try with_reducible rfl
  try simp only [Act.put, List.setIfInBounds_toArray, List.set_cons_zero, List.set_cons_succ]
  refine' wpAnyH_take (i := 12) (oi := { dst := some 35, op := _, type := _, pos := _, after := _, guard := _ }) (v := _) ?hixb12 (by kernel_rfl) ?hfxb12 ?hrxb12 ?hqxb12 ?hyxb12 ?hsxb12 ?restxb12
  case hixb12 => exact rfl
  case hfxb12 => kernel_rfl
  case hrxb12 => kernel_rfl
  case hqxb12 => exact fun _ _ _ h => h
  case hsxb12 => assumption
  case hyxb12 =>
    refine Or.inl ⟨by kernel_rfl, ?_⟩
    intro w hSw
    try dsimp only at hSw
    go_simp
    try with_reducible rfl
  try simp only [Act.put, List.setIfInBounds_toArray, List.set_cons_zero, List.set_cons_succ]
  refine' wpAnyH_take (i := 13) (oi := { dst := some 36, op := _, type := _, pos := _, after := _, guard := _ }) (v := _) ?hixb13 (by kernel_rfl) ?hfxb13 ?hrxb13 ?hqxb13 ?hyxb13 ?hsxb13 ?restxb13
  case hixb13 => exact rfl
  case hfxb13 => kernel_rfl
  case hrxb13 => kernel_rfl
  case hqxb13 => exact fun _ _ _ h => h
  case hsxb13 => assumption
  case hyxb13 =>
    refine Or.inl ⟨by kernel_rfl, ?_⟩
    intro w hSw
    try dsimp only at hSw
    go_simp
    try with_reducible rfl
  try simp only [Act.put, List.setIfInBounds_toArray, List.set_cons_zero, List.set_cons_succ]
  refine' wpAnyH_take (i := 14) (oi := { dst := some 37, op := _, type := _, pos := _, after := _, guard := _ }) (v := _) ?hixb14 (by kernel_rfl) ?hfxb14 ?hrxb14 ?hqxb14 ?hyxb14 ?hsxb14 ?restxb14
  case hixb14 => exact rfl
  case hfxb14 => kernel_rfl
  case hrxb14 => kernel_rfl
  case hqxb14 => exact fun _ _ _ h => h
  case hsxb14 => assumption
  case hyxb14 =>
    refine Or.inl ⟨by kernel_rfl, ?_⟩
    intro w hSw
    try dsimp only at hSw
    go_simp
    try with_reducible rfl
  try simp only [Act.put, List.setIfInBounds_toArray, List.set_cons_zero, List.set_cons_succ]
  refine' wpAnyH_take (i := 15) (oi := { dst := some 38, op := _, type := _, pos := _, after := _, guard := _ }) (v := _) ?hixb15 (by kernel_rfl) ?hfxb15 ?hrxb15 ?hqxb15 ?hyxb15 ?hsxb15 ?restxb15
  case hixb15 => exact rfl
  case hfxb15 => kernel_rfl
  case hrxb15 => kernel_rfl
  case hqxb15 => exact fun _ _ _ h => h
  case hsxb15 => assumption
  case hyxb15 =>
    refine Or.inl ⟨by kernel_rfl, ?_⟩
    intro w hSw
    try dsimp only at hSw
    go_simp
    try with_reducible rfl
  try simp only [Act.put, List.setIfInBounds_toArray, List.set_cons_zero, List.set_cons_succ]
  refine' wpAnyH_take (i := 16) (oi := { dst := some 39, op := _, type := _, pos := _, after := _, guard := _ }) (v := undef) ?hixb16 (by kernel_rfl) ?hfxb16 ?hrxb16 ?hqxb16 ?hyxb16 ?hsxb16 ?restxb16
  case hixb16 => exact rfl
  case hfxb16 => kernel_rfl
  case hrxb16 => kernel_rfl
  case hqxb16 => exact fun _ _ _ h => h
  case hsxb16 => assumption
  case hyxb16 => exact Or.inr ⟨by kernel_rfl, rfl⟩
  try simp only [Act.put, List.setIfInBounds_toArray, List.set_cons_zero, List.set_cons_succ]
  refine' wpAnyH_take (i := 17) (oi := { dst := some 40, op := _, type := _, pos := _, after := _, guard := _ }) (v := undef) ?hixb17 (by kernel_rfl) ?hfxb17 ?hrxb17 ?hqxb17 ?hyxb17 ?hsxb17 ?restxb17
  case hixb17 => exact rfl
  case hfxb17 => kernel_rfl
  case hrxb17 => kernel_rfl
  case hqxb17 => exact fun _ _ _ h => h
  case hsxb17 => assumption
  case hyxb17 => exact Or.inr ⟨by kernel_rfl, rfl⟩
  try simp only [Act.put, List.setIfInBounds_toArray, List.set_cons_zero, List.set_cons_succ]
  refine' wpAnyH_take (i := 18) (oi := { dst := some 41, op := _, type := _, pos := _, after := _, guard := _ }) (v := undef) ?hixb18 (by kernel_rfl) ?hfxb18 ?hrxb18 ?hqxb18 ?hyxb18 ?hsxb18 ?restxb18
  case hixb18 => exact rfl
  case hfxb18 => kernel_rfl
  case hrxb18 => kernel_rfl
  case hqxb18 => exact fun _ _ _ h => h
  case hsxb18 => assumption
  case hyxb18 => exact Or.inr ⟨by kernel_rfl, rfl⟩
  try simp only [Act.put, List.setIfInBounds_toArray, List.set_cons_zero, List.set_cons_succ]
  refine' wpAnyH_take (i := 19) (oi := { dst := some 42, op := _, type := _, pos := _, after := _, guard := _ }) (v := _) ?hixb19 (by kernel_rfl) ?hfxb19 ?hrxb19 ?hqxb19 ?hyxb19 ?hsxb19 ?restxb19
  case hixb19 => exact rfl
  case hfxb19 => kernel_rfl
  case hrxb19 => kernel_rfl
  case hqxb19 => exact fun _ _ _ h => h
  case hsxb19 => assumption
  case hyxb19 =>
    refine Or.inl ⟨by kernel_rfl, ?_⟩
    intro w hSw
    try dsimp only at hSw
    go_simp
    try with_reducible rfl
  try simp only [Act.put, List.setIfInBounds_toArray, List.set_cons_zero, List.set_cons_succ]
  refine' wpAnyH_take (i := 20) (oi := { dst := some 43, op := _, type := _, pos := _, after := _, guard := _ }) (v := _) ?hixb20 (by kernel_rfl) ?hfxb20 ?hrxb20 ?hqxb20 ?hyxb20 ?hsxb20 ?restxb20
  case hixb20 => exact rfl
  case hfxb20 => kernel_rfl
  case hrxb20 => kernel_rfl
  case hqxb20 => exact fun _ _ _ h => h
  case hsxb20 => assumption
  case hyxb20 =>
    refine Or.inl ⟨by kernel_rfl, ?_⟩
    intro w hSw
    try dsimp only at hSw
    go_simp
    try with_reducible rfl
  try simp only [Act.put, List.setIfInBounds_toArray, List.set_cons_zero, List.set_cons_succ]
  refine' wpAnyH_take (i := 21) (oi := { dst := some 44, op := _, type := _, pos := _, after := _, guard := _ }) (v := _) ?hixb21 (by kernel_rfl) ?hfxb21 ?hrxb21 ?hqxb21 ?hyxb21 ?hsxb21 ?restxb21
  case hixb21 => exact rfl
  case hfxb21 => kernel_rfl
  case hrxb21 => kernel_rfl
  case hqxb21 => exact fun _ _ _ h => h
  case hsxb21 => assumption
  case hyxb21 =>
    refine Or.inl ⟨by kernel_rfl, ?_⟩
    intro w hSw
    try dsimp only at hSw
    go_simp
    try with_reducible rfl
  try simp only [Act.put, List.setIfInBounds_toArray, List.set_cons_zero, List.set_cons_succ]
  refine' wpAnyH_take (i := 22) (oi := { dst := some 45, op := _, type := _, pos := _, after := _, guard := _ }) (v := _) ?hixb22 (by kernel_rfl) ?hfxb22 ?hrxb22 ?hqxb22 ?hyxb22 ?hsxb22 ?restxb22
  case hixb22 => exact rfl
  case hfxb22 => kernel_rfl
  case hrxb22 => kernel_rfl
  case hqxb22 => exact fun _ _ _ h => h
  case hsxb22 => assumption
  case hyxb22 =>
    refine Or.inl ⟨by kernel_rfl, ?_⟩
    intro w hSw
    try dsimp only at hSw
    go_simp
    try with_reducible rfl
  try simp only [Act.put, List.setIfInBounds_toArray, List.set_cons_zero, List.set_cons_succ]
  refine' wpAnyH_take (i := 23) (oi := { dst := some 46, op := _, type := _, pos := _, after := _, guard := _ }) (v := _) ?hixb23 (by kernel_rfl) ?hfxb23 ?hrxb23 ?hqxb23 ?hyxb23 ?hsxb23 ?restxb23
  case hixb23 => exact rfl
  case hfxb23 => kernel_rfl
  case hrxb23 => kernel_rfl
  case hqxb23 => exact fun _ _ _ h => h
  case hsxb23 => assumption
  case hyxb23 =>
    refine Or.inl ⟨by kernel_rfl, ?_⟩
    intro w hSw
    try dsimp only at hSw
    go_simp
    try with_reducible rfl
  try simp only [Act.put, List.setIfInBounds_toArray, List.set_cons_zero, List.set_cons_succ]
  refine' wpAnyH_take (i := 24) (oi := { dst := some 47, op := _, type := _, pos := _, after := _, guard := _ }) (v := _) ?hixb24 (by kernel_rfl) ?hfxb24 ?hrxb24 ?hqxb24 ?hyxb24 ?hsxb24 ?restxb24
  case hixb24 => exact rfl
  case hfxb24 => kernel_rfl
  case hrxb24 => kernel_rfl
  case hqxb24 => exact fun _ _ _ h => h
  case hsxb24 => assumption
  case hyxb24 =>
    refine Or.inl ⟨by kernel_rfl, ?_⟩
    intro w hSw
    try dsimp only at hSw
    go_simp
    try with_reducible rfl
  try simp only [Act.put, List.setIfInBounds_toArray, List.set_cons_zero, List.set_cons_succ]
  refine' wpAnyH_take (i := 25) (oi := { dst := some 48, op := _, type := _, pos := _, after := _, guard := _ }) (v := _) ?hixb25 (by kernel_rfl) ?hfxb25 ?hrxb25 ?hqxb25 ?hyxb25 ?hsxb25 ?restxb25
  case hixb25 => exact rfl
  case hfxb25 => kernel_rfl
  case hrxb25 => kernel_rfl
  case hqxb25 => exact fun _ _ _ h => h
  case hsxb25 => assumption
  case hyxb25 =>
    refine Or.inl ⟨by kernel_rfl, ?_⟩
    intro w hSw
    try dsimp only at hSw
    go_simp
    try with_reducible rfl
  try simp only [Act.put, List.setIfInBounds_toArray, List.set_cons_zero, List.set_cons_succ]
  refine' wpAnyH_take (i := 26) (oi := { dst := some 2, op := _, type := _, pos := _, after := _, guard := _ }) (v := _) ?hixb26 (by kernel_rfl) ?hfxb26 ?hrxb26 ?hqxb26 ?hyxb26 ?hsxb26 ?restxb26
  case hixb26 => exact rfl
  case hfxb26 => kernel_rfl
  case hrxb26 => kernel_rfl
  case hqxb26 => exact fun _ _ _ h => h
  case hsxb26 => assumption
  case hyxb26 =>
    refine Or.inl ⟨by kernel_rfl, ?_⟩
    intro w hSw
    try dsimp only at hSw
    go_simp
    try with_reducible rfl
  try simp only [Act.put, List.setIfInBounds_toArray, List.set_cons_zero, List.set_cons_succ]
  refine wpAnyH_done (by kernel_rfl) ?_ _
  go_wp2
  go_ret
  exact ⟨rfl, hC.ex⟩
theorem walk (b : ByteArray) (W : World) (hT : Tabs W) : Calls Tryd.prog 11 #[.string b] W fun e w' => e = .returned (.bool true) ∧ Ext W w' := by
  by_cases h : 300 < b.size
  · exact walk_long b W hT h
  · by_cases h1 : 1 ≤ b.size
    · exact walk_some b W hT (by omega) h1
    · exact walk_empty b W hT (bytes_inj (List.eq_nil_of_length_eq_zero (by show b.size = 0; omega)))
set_option maxRecDepth 100000 in
theorem lifted (os : Os) (started : os.Started) (H : Type) (enc : TypeId × Value → H) :
    ReturnsInHanded {} Tryd.checked os 11 .any (fun w args => (Rows.singleNoneSpec.pre enc Tryd.prog Tryd.f11 Rows.singleNoneRow.domain false w args ∧ laidMetH Tryd.prog Rows.singleNoneRow.laid w) ∧ sizedMet enc Tryd.prog Tryd.f11 (OpenSpec.ofChange Rows.singleNoneSpec) false w args)
      (Rows.singleNoneSpec.post enc Tryd.prog Tryd.f11 false true false false) := by
  refine returnsInHanded_of_change_and (C := Tryd.checked) (X := fun w _ => laidMetH Tryd.prog Rows.singleNoneRow.laid w) (fun _ _ _ hh h => h.of_heap hh) own started (by kernel_rfl) Tryd.func11
    (ChangeSpec.witness_shaped (enc := enc) (C := Tryd.checked) (os := os) (X := fun w _ => laidMetH Tryd.prog Rows.singleNoneRow.laid w) false (World.laidAll Tryd.prog os Rows.singleNoneRow.laid) #[.string ByteArray.empty] 8 (World.laidAll_os _ _ _)
      (World.shaped_of_ZipB (by kernel_rfl) (by kernel_rfl)) (by kernel_rfl) (by kernel_rfl) (by kernel_rfl)
      (by rw [MakeChecks.laidMetH_plain _ _ _ (by kernel_rfl)]; exact laidMet_laidAll _ (by kernel_rfl) (by kernel_rfl))) ?_
  intro W base args ds gs before hval0 hW hcnd _ hL _
  have hT : Tabs W := tabs_of hL
  have hval : ∀ (j : Nat) t v, Tryd.f11.params[j]? = some t → args[j]? = some v → Value.okWide Tryd.prog W .any base t v := hval0
  have hW' := hW
  obtain ⟨p, q, hA0, hV, rfl, hfz, hnd⟩ := hW
  have hA : DataW.TrodAll enc Tryd.prog W 0 (fun _ => true) true Tryd.f11.params.toList args.toList ds p := hA0
  rw [Tryd.params11] at hA hval
  obtain ⟨v0, vs0, d0, ds0, p0, q0, hargs, rfl, rfl, h0, r0⟩ := trodAll_cons hA
  obtain ⟨rfl, rfl, rfl⟩ := trodAll_nil r0
  obtain rfl : args = #[v0] := by cases args; simp_all
  obtain ⟨rfl, rfl⟩ := trodVars_none hV
  obtain ⟨a0, rfl, rfl, rfl, w0⟩ := open_string Tryd.underlying9 (hval 0 9 v0 rfl rfl) h0
  clear hA0 hval0
  try simp only [List.append_nil] at hW'
  refine (walk a0 W hT).mono fun e W' ⟨he, bel⟩ => ?_
  subst he
  exact ⟨_, rfl, _, _, _, [], [], [], hW', trodAll_mk1 (shut_bool Tryd.underlying4 _), (trodAll_cons_mk (shut_string Tryd.underlying9 w0) trodAll_mk0), rfl, bel.frame _, fun h => by cases h⟩

theorem over : Rows.singleNoneRow.holds Tryd.pinned (OpenSpec.ofChange Rows.singleNoneSpec) :=
  OpenClaim.holds_of_wide 11 Tryd.f11 rfl rfl rfl rfl rfl rfl rfl ⟨rfl, rfl, rfl, rfl, rfl⟩ rfl rfl rfl rfl rfl (by kernel_rfl) Tryd.func11 (by kernel_rfl)
    (of_decide_eq_true (by kernel_rfl)) (by unfold Func.isWrapper; first | (rw [if_pos (by decide +kernel)]; kernel_rfl) | (rw [if_neg (by decide +kernel)]; exact ⟨rfl, rfl⟩))
    (fun os started H enc _ => lifted os started H enc)

theorem said : Rows.SingleNoneSaid := over
theorem plain (f : FuncId) (fn : Func) (hf : Tryd.pinned.checked.prog.funcNamed "diacritic/diacriticlaw05.SingleNone" = some f) (hfn : Tryd.pinned.checked.prog.funcs[f]? = some fn) :
    false = Tryd.pinned.checked.prog.looks [] ∧ ∀ (j : Nat) t, fn.params[j]? = some t → Tryd.pinned.checked.prog.wantsStandIn t = false := by
  obtain rfl : f = 11 := Option.some.inj ((show Tryd.prog.funcNamed "diacritic/diacriticlaw05.SingleNone" = some 11 by kernel_rfl).symm.trans hf) |>.symm
  obtain rfl : fn = Tryd.f11 := (Option.some.inj (Tryd.func11.symm.trans hfn)).symm
  refine ⟨by kernel_rfl, fun j t ht => ?_⟩
  rw [Tryd.params11] at ht
  have hm : t ∈ [9] := by simpa using Array.mem_of_getElem? ht
  have hall : ([9].all fun u => !Tryd.prog.wantsStandIn u) = true := by kernel_rfl
  exact (show Tryd.prog.wantsStandIn t = false by simpa using List.all_eq_true.1 hall t hm)
/-- THE CARD. -/
theorem proved : Rows.SingleNoneCardSaid :=
  Claim7.holds_tied_plain_at .later [] _ _ _ _ said (fun _ h => by cases h) (by kernel_rfl) (fun _ h => by cases h) singleNone_row_tie rfl ⟨rfl, rfl⟩ (by kernel_rfl) rfl plain (by kernel_rfl)
#print axioms proved

end Go.Proofs.YtjlghdlbkibneaaDoor.singleNone
