/-
  What the proof of this claim leans on (S17).
-/
import Derived.Test.YtndopjmdpmkgeaaGreatDoorS16
namespace Go.Proofs.YtndopjmdpmkgeaaGreatDoor
open Go Go.ChangeShapes Go.WideShapes Go.ChangeAt Go.RowKit
set_option linter.unusedSimpArgs false
set_option linter.unusedVariables false

theorem own_last {w : World} {B g cap m : Nat} {out : List Rw} {f t n : Int} (ho : w.ownsRow B 189 3 (.slice (some ⟨g, 0, none⟩) (m + 1) cap) (m + 1) (rowCells (out ++ [⟨f, t, n⟩]))) (hm : out.length = m) (k : Int) :
    (w.setCell ⟨g, m * 3 + 2, none⟩ (.int .i64 k)).ownsRow B 189 3 (.slice (some ⟨g, 0, none⟩) (m + 1) cap) (m + 1) (rowCells (out ++ [⟨f, t, k⟩])) := by
  obtain ⟨hl, h | ⟨g2, cap2, cur, e, hg, hh, hn, hmx, hs, ht⟩⟩ := ho
  · cases h.1
  · obtain ⟨rfl, rfl⟩ : g = g2 ∧ cap = cap2 := by simpa using e
    refine ⟨by rw [rowCells_len] at hl ⊢; simpa using hl, .inr ⟨g, cap, cur.setIfInBounds (m * 3 + 2) (.int .i64 k), rfl, hg, Go.heap_setCell_same w g (m * 3 + 2) cur _ _ hh, hn, hmx, by simpa using hs, ?_⟩⟩
    rw [Array.toList_setIfInBounds, List.take_set, ht, rowCells_app, rowCells_app, rowCells_one, rowCells_one]
    have e3 : (rowCells out).length = m * 3 := by rw [rowCells_len, hm]
    rw [List.set_append_right _ _ (by omega), e3]
    simp
theorem own_free {w : World} {B g cap n : Nat} {xs : List Value} (ho : w.ownsRow B 189 3 (.slice (some ⟨g, 0, none⟩) n cap) n xs) (o : Nat) : w.frozen? ⟨g, o, none⟩ = false := by
  obtain ⟨hl, h | ⟨g2, cap2, cur, e, hg, hh, hn, hmx, hs, ht⟩⟩ := ho
  · cases h.1
  · obtain ⟨rfl, rfl⟩ : g = g2 ∧ cap = cap2 := by simpa using e
    simp [World.frozen?, hh]
theorem grown_set (w : World) (g o : Nat) (v : Value) : w.grownBy (w.setCell ⟨g, o, none⟩ v) (some g) :=
  ⟨rfl, rfl, rfl, by simp [World.setCell], fun k _ hk => heap_setCell_other w ⟨g, o, none⟩ k v (by rintro rfl; exact hk rfl)⟩
set_option maxHeartbeats 2000000 in
set_option maxRecDepth 100000 in
theorem add_join (f t n lf lt ln : Int) (g cap m : Nat) (B : Nat) (out : List Rw) (w : World) (hm : out.length = m) (ho : w.ownsRow B 189 3 (.slice (some ⟨g, 0, none⟩) (m + 1) cap) (m + 1) (rowCells (out ++ [⟨lf, lt, ln⟩]))) (hB : B ≤ w.heap.size) (hr : GoodR ⟨f, t, n⟩) (hg : GoodL (out ++ [⟨lf, lt, ln⟩])) (hm2 : m ≤ 1000000000) (hs : lf + ln = f) (hv : lt + ln = t) :
    Calls Tryz.prog 191 #[.slice (some ⟨g, 0, none⟩) (m + 1) cap, .agg #[.int .i64 f, .int .i64 t, .int .i64 n]] w (AddOut w B (.slice (some ⟨g, 0, none⟩) (m + 1) cap) (out ++ [⟨lf, lt, ln⟩]) (expL (out ++ [⟨lf, lt, ln⟩]) ++ expR ⟨f, t, n⟩)) := by
  have hb := hg (⟨lf, lt, ln⟩ : Rw) (by simp)
  unfold GoodR at hb
  simp only at hb
  have hw4 : IntKind.i64.wrap (lt + ln) = t := by rw [IntWalk.i64_in _ (by omega)]; exact hv
  have hrr := hr
  unfold GoodR at hrr
  simp only at hrr
  have hw5 : IntKind.i64.wrap (ln + n) = ln + n := IntWalk.i64_in _ (by omega)
  have hn5 : 0 ≤ ln + n := by omega
  obtain ⟨i0, hi, hz0, hz1, hz2⟩ := info_parts_row
  have HE := Lib.hid (fun w => end_at lf lt ln f w (hg _ (by simp)) hs)
  have HO := Lib.hid ho
  have HR := Lib.hid hr
  have HG := Lib.hid hg
  have HM := Lib.hid hm
  have hn0 : (n == 0) = false := by
    have := hr.2.2.2.2
    simp only at this
    exact beq_false_of_ne (by omega)
  have hw1 : IntKind.i64.wrap ((m : Int) + 1) = (m : Int) + 1 := IntWalk.i64_in _ (by omega)
  have hw2 : IntKind.i64.wrap (m : Int) = (m : Int) := IntWalk.i64_in _ (by omega)
  have hw3 : (m : Int) < (m : Int) + 1 := by omega
  have hk0 := keep_three w (.int .i64 f) (.int .i64 t) (.int .i64 n) 189
  obtain ⟨l0, l1, l2⟩ := last_cells ho hm
  have hx := (Ext.refl w).alloc (.cells #[.int .i64 f, .int .i64 t, .int .i64 n] 189)
  have hC0 : Keep (w.alloc (.cells #[.int .i64 f, .int .i64 t, .int .i64 n] 189)) [(⟨w.heap.size, 0, none⟩, .int .i64 f), (⟨w.heap.size, 1, none⟩, .int .i64 t), (⟨w.heap.size, 2, none⟩, .int .i64 n), (⟨g, m * 3, none⟩, .int .i64 lf), (⟨g, m * 3 + 1, none⟩, .int .i64 lt), (⟨g, m * 3 + 2, none⟩, .int .i64 ln)] (w.alloc (.cells #[.int .i64 f, .int .i64 t, .int .i64 n] 189)) :=
    ⟨Ext.refl _, hk0.2.1, hk0.2.2.1, hk0.2.2.2.1, cell_ext hx l0, cell_ext hx l1, cell_ext hx l2, trivial⟩
  have HC := Lib.hid hC0
  have HV := Lib.hid hv
  have HS := Lib.hid hs
  clear hv
  clear hrr hb ho hr hg hm hk0 l0 l1 l2 hx hC0 hs
  go_enter Tryz.func191, Tryz.ntmps191
  go_wp2
  obtain ⟨wa, ha, hC1⟩ := HC.out.hold
  rw [← ha]
  clear ha
  have hC := hC1.ext (Ext.drew (Ext.refl _))
  clear hC1
  obtain ⟨b0, b1, b2, q0, q1, q2, _⟩ := hC.2
  refine wp_region_held_drew (S := (fun W' => W'.cell? ⟨w.heap.size, 0, none⟩ = some (.int .i64 f) ∧ W'.cell? ⟨w.heap.size, 1, none⟩ = some (.int .i64 t) ∧ W'.cell? ⟨g, m * 3, none⟩ = some (.int .i64 lf) ∧ W'.cell? ⟨g, m * 3 + 1, none⟩ = some (.int .i64 lt) ∧ W'.cell? ⟨g, m * 3 + 2, none⟩ = some (.int .i64 ln))) (by kernel_rfl) ?_ (fun hHeld => ?_)
  · (try dsimp only); go_keep
  refine' wpAnyH_take (i := 0) (oi := { dst := some 12, op := _, type := _, pos := _, after := _, guard := _ }) (v := _) ?hixa0 (by kernel_rfl) ?hfxa0 ?hrxa0 ?hqxa0 ?hyxa0 ?hsxa0 ?restxa0
  case hixa0 => exact rfl
  case hfxa0 => kernel_rfl
  case hrxa0 => kernel_rfl
  case hqxa0 => exact fun _ _ _ h => h
  case hsxa0 => assumption
  case hyxa0 =>
    refine Or.inl ⟨by kernel_rfl, ?_⟩
    intro w hSw
    try dsimp only at hSw
    go_simp
    try with_reducible rfl
  try simp only [Act.put, List.setIfInBounds_toArray, List.set_cons_zero, List.set_cons_succ]
  refine' wpAnyH_take (i := 1) (oi := { dst := some 13, op := _, type := _, pos := _, after := _, guard := _ }) (v := _) ?hixa1 (by kernel_rfl) ?hfxa1 ?hrxa1 ?hqxa1 ?hyxa1 ?hsxa1 ?restxa1
  case hixa1 => exact rfl
  case hfxa1 => kernel_rfl
  case hrxa1 => kernel_rfl
  case hqxa1 => exact fun _ _ _ h => h
  case hsxa1 => assumption
  case hyxa1 =>
    refine Or.inl ⟨by kernel_rfl, ?_⟩
    intro w hSw
    try dsimp only at hSw
    go_simp
    try with_reducible rfl
  try simp only [Act.put, List.setIfInBounds_toArray, List.set_cons_zero, List.set_cons_succ]
  refine' wpAnyH_take (i := 2) (oi := { dst := some 14, op := _, type := _, pos := _, after := _, guard := _ }) (v := _) ?hixa2 (by kernel_rfl) ?hfxa2 ?hrxa2 ?hqxa2 ?hyxa2 ?hsxa2 ?restxa2
  case hixa2 => exact rfl
  case hfxa2 => kernel_rfl
  case hrxa2 => kernel_rfl
  case hqxa2 => exact fun _ _ _ h => h
  case hsxa2 => assumption
  case hyxa2 =>
    refine Or.inl ⟨by kernel_rfl, ?_⟩
    intro w hSw
    try dsimp only at hSw
    go_simp
    try with_reducible rfl
  try simp only [Act.put, List.setIfInBounds_toArray, List.set_cons_zero, List.set_cons_succ]
  refine' wpAnyH_take (i := 3) (oi := { dst := some 15, op := _, type := _, pos := _, after := _, guard := _ }) (v := _) ?hixa3 (by kernel_rfl) ?hfxa3 ?hrxa3 ?hqxa3 ?hyxa3 ?hsxa3 ?restxa3
  case hixa3 => exact rfl
  case hfxa3 => kernel_rfl
  case hrxa3 => kernel_rfl
  case hqxa3 => exact fun _ _ _ h => h
  case hsxa3 => assumption
  case hyxa3 =>
    refine Or.inl ⟨by kernel_rfl, ?_⟩
    intro w hSw
    try dsimp only at hSw
    go_simp
    try with_reducible rfl
  try simp only [Act.put, List.setIfInBounds_toArray, List.set_cons_zero, List.set_cons_succ]
  refine' wpAnyH_take (i := 4) (oi := { dst := some 16, op := _, type := _, pos := _, after := _, guard := _ }) (v := _) ?hixa4 (by kernel_rfl) ?hfxa4 ?hrxa4 ?hqxa4 ?hyxa4 ?hsxa4 ?restxa4
  case hixa4 => exact rfl
  case hfxa4 => kernel_rfl
  case hrxa4 => kernel_rfl
  case hqxa4 => exact fun _ _ _ h => h
  case hsxa4 => assumption
  case hyxa4 =>
    refine Or.inl ⟨by kernel_rfl, ?_⟩
    intro w hSw
    try dsimp only at hSw
    go_simp
    try with_reducible rfl
  try simp only [Act.put, List.setIfInBounds_toArray, List.set_cons_zero, List.set_cons_succ]
  refine' wpAnyH_take (i := 5) (oi := { dst := some 17, op := _, type := _, pos := _, after := _, guard := _ }) (v := _) ?hixa5 (by kernel_rfl) ?hfxa5 ?hrxa5 ?hqxa5 ?hyxa5 ?hsxa5 ?restxa5
  case hixa5 => exact rfl
  case hfxa5 => kernel_rfl
  case hrxa5 => kernel_rfl
  case hqxa5 => exact fun _ _ _ h => h
  case hsxa5 => assumption
  case hyxa5 =>
    refine Or.inl ⟨by kernel_rfl, ?_⟩
    intro w hSw
    try dsimp only at hSw
    go_simp
    try with_reducible rfl
  try simp only [Act.put, List.setIfInBounds_toArray, List.set_cons_zero, List.set_cons_succ]
  refine' wpAnyH_take (i := 6) (oi := { dst := some 18, op := _, type := _, pos := _, after := _, guard := _ }) (v := _) ?hixa6 (by kernel_rfl) ?hfxa6 ?hrxa6 ?hqxa6 ?hyxa6 ?hsxa6 ?restxa6
  case hixa6 => exact rfl
  case hfxa6 => kernel_rfl
  case hrxa6 => kernel_rfl
  case hqxa6 => exact fun _ _ _ h => h
  case hsxa6 => assumption
  case hyxa6 =>
    refine Or.inl ⟨by kernel_rfl, ?_⟩
    intro w hSw
    try dsimp only at hSw
    go_simp
    try with_reducible rfl
  try simp only [Act.put, List.setIfInBounds_toArray, List.set_cons_zero, List.set_cons_succ]
  refine' wpAnyH_take (i := 7) (oi := { dst := some 19, op := _, type := _, pos := _, after := _, guard := _ }) (v := _) ?hixa7 (by kernel_rfl) ?hfxa7 ?hrxa7 ?hqxa7 ?hyxa7 ?hsxa7 ?restxa7
  case hixa7 => exact rfl
  case hfxa7 => kernel_rfl
  case hrxa7 => kernel_rfl
  case hqxa7 => exact fun _ _ _ h => h
  case hsxa7 => assumption
  case hyxa7 =>
    refine Or.inl ⟨by kernel_rfl, ?_⟩
    intro w hSw
    try dsimp only at hSw
    go_simp
    try with_reducible rfl
  try simp only [Act.put, List.setIfInBounds_toArray, List.set_cons_zero, List.set_cons_succ]
  refine' wpAnyH_take (i := 9) (oi := { dst := some 21, op := _, type := _, pos := _, after := _, guard := _ }) (v := _) ?hixa9 (by kernel_rfl) ?hfxa9 ?hrxa9 ?hqxa9 ?hyxa9 ?hsxa9 ?restxa9
  case hixa9 => exact rfl
  case hfxa9 => kernel_rfl
  case hrxa9 => kernel_rfl
  case hqxa9 => exact fun _ _ _ h => h
  case hsxa9 => assumption
  case hyxa9 =>
    refine Or.inl ⟨by kernel_rfl, ?_⟩
    intro w hSw
    try dsimp only at hSw
    go_simp
    try with_reducible rfl
  try simp only [Act.put, List.setIfInBounds_toArray, List.set_cons_zero, List.set_cons_succ]
  refine' wpAnyH_take (i := 10) (oi := { dst := some 22, op := _, type := _, pos := _, after := _, guard := _ }) (v := _) ?hixa10 (by kernel_rfl) ?hfxa10 ?hrxa10 ?hqxa10 ?hyxa10 ?hsxa10 ?restxa10
  case hixa10 => exact rfl
  case hfxa10 => kernel_rfl
  case hrxa10 => kernel_rfl
  case hqxa10 => exact fun _ _ _ h => h
  case hsxa10 => assumption
  case hyxa10 =>
    refine Or.inl ⟨by kernel_rfl, ?_⟩
    intro w hSw
    try dsimp only at hSw
    go_simp
    try with_reducible rfl
  try simp only [Act.put, List.setIfInBounds_toArray, List.set_cons_zero, List.set_cons_succ]
  refine wpAnyH_ready (rs := [8]) (by kernel_rfl) (by simp) ?_
  refine' AllReadyH.cons (o := _) ?hixa8 (fun K hK => ?hk0xa8) AllReadyH.nil
  case hixa8 => exact rfl
  go_simp
  go_at_call 164
  refine (HE.out _).mono ?_
  rintro e wx ⟨rfl, hbx⟩
  have hC' := hC.ext hbx
  clear hC hbx
  have hC := hC'
  clear hC'
  clear b0 b1 b2 q0 q1 q2
  obtain ⟨b0, b1, b2, q0, q1, q2, _⟩ := hC.2
  try go_wp2_with fail
  refine hK.out _ _ ?hS0xa8 (fun hHeld => ?restxa8)
  case hS0xa8 => (try dsimp only); go_keep
  clear hK K
  try simp only [Act.put, List.setIfInBounds_toArray, List.set_cons_zero, List.set_cons_succ]
  refine' wpAnyH_take (i := 11) (oi := { dst := some 23, op := _, type := _, pos := _, after := _, guard := _ }) (v := _) ?hixa11 (by kernel_rfl) ?hfxa11 ?hrxa11 ?hqxa11 ?hyxa11 ?hsxa11 ?restxa11
  case hixa11 => exact rfl
  case hfxa11 => kernel_rfl
  case hrxa11 => kernel_rfl
  case hqxa11 => exact fun _ _ _ h => h
  case hsxa11 => assumption
  case hyxa11 =>
    refine Or.inl ⟨by kernel_rfl, ?_⟩
    intro w hSw
    try dsimp only at hSw
    go_simp
    try with_reducible rfl
  try simp only [Act.put, List.setIfInBounds_toArray, List.set_cons_zero, List.set_cons_succ]
  refine' wpAnyH_take (i := 12) (oi := { dst := some 24, op := _, type := _, pos := _, after := _, guard := _ }) (v := _) ?hixa12 (by kernel_rfl) ?hfxa12 ?hrxa12 ?hqxa12 ?hyxa12 ?hsxa12 ?restxa12
  case hixa12 => exact rfl
  case hfxa12 => kernel_rfl
  case hrxa12 => kernel_rfl
  case hqxa12 => exact fun _ _ _ h => h
  case hsxa12 => assumption
  case hyxa12 =>
    refine Or.inl ⟨by kernel_rfl, ?_⟩
    intro w hSw
    try dsimp only at hSw
    go_simp
    try with_reducible rfl
  try simp only [Act.put, List.setIfInBounds_toArray, List.set_cons_zero, List.set_cons_succ]
  refine' wpAnyH_take (i := 13) (oi := { dst := some 25, op := _, type := _, pos := _, after := _, guard := _ }) (v := _) ?hixa13 (by kernel_rfl) ?hfxa13 ?hrxa13 ?hqxa13 ?hyxa13 ?hsxa13 ?restxa13
  case hixa13 => exact rfl
  case hfxa13 => kernel_rfl
  case hrxa13 => kernel_rfl
  case hqxa13 => exact fun _ _ _ h => h
  case hsxa13 => assumption
  case hyxa13 =>
    refine Or.inl ⟨by kernel_rfl, ?_⟩
    intro w hSw
    try dsimp only at hSw
    go_simp
    try with_reducible rfl
  try simp only [Act.put, List.setIfInBounds_toArray, List.set_cons_zero, List.set_cons_succ]
  refine' wpAnyH_take (i := 14) (oi := { dst := some 26, op := _, type := _, pos := _, after := _, guard := _ }) (v := _) ?hixa14 (by kernel_rfl) ?hfxa14 ?hrxa14 ?hqxa14 ?hyxa14 ?hsxa14 ?restxa14
  case hixa14 => exact rfl
  case hfxa14 => kernel_rfl
  case hrxa14 => kernel_rfl
  case hqxa14 => exact fun _ _ _ h => h
  case hsxa14 => assumption
  case hyxa14 =>
    refine Or.inl ⟨by kernel_rfl, ?_⟩
    intro w hSw
    try dsimp only at hSw
    go_simp
    try with_reducible rfl
  try simp only [Act.put, List.setIfInBounds_toArray, List.set_cons_zero, List.set_cons_succ]
  refine' wpAnyH_take (i := 15) (oi := { dst := some 27, op := _, type := _, pos := _, after := _, guard := _ }) (v := _) ?hixa15 (by kernel_rfl) ?hfxa15 ?hrxa15 ?hqxa15 ?hyxa15 ?hsxa15 ?restxa15
  case hixa15 => exact rfl
  case hfxa15 => kernel_rfl
  case hrxa15 => kernel_rfl
  case hqxa15 => exact fun _ _ _ h => h
  case hsxa15 => assumption
  case hyxa15 =>
    refine Or.inl ⟨by kernel_rfl, ?_⟩
    intro w hSw
    try dsimp only at hSw
    go_simp
    try with_reducible rfl
  try simp only [Act.put, List.setIfInBounds_toArray, List.set_cons_zero, List.set_cons_succ]
  refine' wpAnyH_take (i := 16) (oi := { dst := some 28, op := _, type := _, pos := _, after := _, guard := _ }) (v := _) ?hixa16 (by kernel_rfl) ?hfxa16 ?hrxa16 ?hqxa16 ?hyxa16 ?hsxa16 ?restxa16
  case hixa16 => exact rfl
  case hfxa16 => kernel_rfl
  case hrxa16 => kernel_rfl
  case hqxa16 => exact fun _ _ _ h => h
  case hsxa16 => assumption
  case hyxa16 =>
    refine Or.inl ⟨by kernel_rfl, ?_⟩
    intro w hSw
    try dsimp only at hSw
    go_simp
    try with_reducible rfl
  try simp only [Act.put, List.setIfInBounds_toArray, List.set_cons_zero, List.set_cons_succ]
  refine' wpAnyH_take (i := 17) (oi := { dst := some 29, op := _, type := _, pos := _, after := _, guard := _ }) (v := _) ?hixa17 (by kernel_rfl) ?hfxa17 ?hrxa17 ?hqxa17 ?hyxa17 ?hsxa17 ?restxa17
  case hixa17 => exact rfl
  case hfxa17 => kernel_rfl
  case hrxa17 => kernel_rfl
  case hqxa17 => exact fun _ _ _ h => h
  case hsxa17 => assumption
  case hyxa17 =>
    refine Or.inl ⟨by kernel_rfl, ?_⟩
    intro w hSw
    try dsimp only at hSw
    go_simp
    try with_reducible rfl
  try simp only [Act.put, List.setIfInBounds_toArray, List.set_cons_zero, List.set_cons_succ]
  refine' wpAnyH_take (i := 18) (oi := { dst := some 30, op := _, type := _, pos := _, after := _, guard := _ }) (v := _) ?hixa18 (by kernel_rfl) ?hfxa18 ?hrxa18 ?hqxa18 ?hyxa18 ?hsxa18 ?restxa18
  case hixa18 => exact rfl
  case hfxa18 => kernel_rfl
  case hrxa18 => kernel_rfl
  case hqxa18 => exact fun _ _ _ h => h
  case hsxa18 => assumption
  case hyxa18 =>
    refine Or.inl ⟨by kernel_rfl, ?_⟩
    intro w hSw
    try dsimp only at hSw
    go_simp
    try with_reducible rfl
  try simp only [Act.put, List.setIfInBounds_toArray, List.set_cons_zero, List.set_cons_succ]
  refine' wpAnyH_take (i := 19) (oi := { dst := some 31, op := _, type := _, pos := _, after := _, guard := _ }) (v := _) ?hixa19 (by kernel_rfl) ?hfxa19 ?hrxa19 ?hqxa19 ?hyxa19 ?hsxa19 ?restxa19
  case hixa19 => exact rfl
  case hfxa19 => kernel_rfl
  case hrxa19 => kernel_rfl
  case hqxa19 => exact fun _ _ _ h => h
  case hsxa19 => assumption
  case hyxa19 =>
    refine Or.inl ⟨by kernel_rfl, ?_⟩
    intro w hSw
    try dsimp only at hSw
    go_simp
    try with_reducible rfl
  try simp only [Act.put, List.setIfInBounds_toArray, List.set_cons_zero, List.set_cons_succ]
  refine' wpAnyH_take (i := 20) (oi := { dst := some 32, op := _, type := _, pos := _, after := _, guard := _ }) (v := _) ?hixa20 (by kernel_rfl) ?hfxa20 ?hrxa20 ?hqxa20 ?hyxa20 ?hsxa20 ?restxa20
  case hixa20 => exact rfl
  case hfxa20 => kernel_rfl
  case hrxa20 => kernel_rfl
  case hqxa20 => exact fun _ _ _ h => h
  case hsxa20 => assumption
  case hyxa20 =>
    refine Or.inl ⟨by kernel_rfl, ?_⟩
    intro w hSw
    try dsimp only at hSw
    go_simp
    try with_reducible rfl
  try simp only [Act.put, List.setIfInBounds_toArray, List.set_cons_zero, List.set_cons_succ]
  refine' wpAnyH_take (i := 21) (oi := { dst := some 33, op := _, type := _, pos := _, after := _, guard := _ }) (v := _) ?hixa21 (by kernel_rfl) ?hfxa21 ?hrxa21 ?hqxa21 ?hyxa21 ?hsxa21 ?restxa21
  case hixa21 => exact rfl
  case hfxa21 => kernel_rfl
  case hrxa21 => kernel_rfl
  case hqxa21 => exact fun _ _ _ h => h
  case hsxa21 => assumption
  case hyxa21 =>
    refine Or.inl ⟨by kernel_rfl, ?_⟩
    intro w hSw
    try dsimp only at hSw
    go_simp
    try with_reducible rfl
  try simp only [Act.put, List.setIfInBounds_toArray, List.set_cons_zero, List.set_cons_succ]
  refine' wpAnyH_take (i := 22) (oi := { dst := some 34, op := _, type := _, pos := _, after := _, guard := _ }) (v := _) ?hixa22 (by kernel_rfl) ?hfxa22 ?hrxa22 ?hqxa22 ?hyxa22 ?hsxa22 ?restxa22
  case hixa22 => exact rfl
  case hfxa22 => kernel_rfl
  case hrxa22 => kernel_rfl
  case hqxa22 => exact fun _ _ _ h => h
  case hsxa22 => assumption
  case hyxa22 =>
    refine Or.inl ⟨by kernel_rfl, ?_⟩
    intro w hSw
    try dsimp only at hSw
    go_simp
    try with_reducible rfl
  try simp only [Act.put, List.setIfInBounds_toArray, List.set_cons_zero, List.set_cons_succ]
  refine' wpAnyH_take (i := 23) (oi := { dst := some 35, op := _, type := _, pos := _, after := _, guard := _ }) (v := _) ?hixa23 (by kernel_rfl) ?hfxa23 ?hrxa23 ?hqxa23 ?hyxa23 ?hsxa23 ?restxa23
  case hixa23 => exact rfl
  case hfxa23 => kernel_rfl
  case hrxa23 => kernel_rfl
  case hqxa23 => exact fun _ _ _ h => h
  case hsxa23 => assumption
  case hyxa23 =>
    refine Or.inl ⟨by kernel_rfl, ?_⟩
    intro w hSw
    try dsimp only at hSw
    go_simp
    try with_reducible rfl
  try simp only [Act.put, List.setIfInBounds_toArray, List.set_cons_zero, List.set_cons_succ]
  refine' wpAnyH_take (i := 24) (oi := { dst := some 36, op := _, type := _, pos := _, after := _, guard := _ }) (v := _) ?hixa24 (by kernel_rfl) ?hfxa24 ?hrxa24 ?hqxa24 ?hyxa24 ?hsxa24 ?restxa24
  case hixa24 => exact rfl
  case hfxa24 => kernel_rfl
  case hrxa24 => kernel_rfl
  case hqxa24 => exact fun _ _ _ h => h
  case hsxa24 => assumption
  case hyxa24 =>
    refine Or.inl ⟨by kernel_rfl, ?_⟩
    intro w hSw
    try dsimp only at hSw
    go_simp
    try with_reducible rfl
  try simp only [Act.put, List.setIfInBounds_toArray, List.set_cons_zero, List.set_cons_succ]
  refine' wpAnyH_take (i := 25) (oi := { dst := some 37, op := _, type := _, pos := _, after := _, guard := _ }) (v := _) ?hixa25 (by kernel_rfl) ?hfxa25 ?hrxa25 ?hqxa25 ?hyxa25 ?hsxa25 ?restxa25
  case hixa25 => exact rfl
  case hfxa25 => kernel_rfl
  case hrxa25 => kernel_rfl
  case hqxa25 => exact fun _ _ _ h => h
  case hsxa25 => assumption
  case hyxa25 =>
    refine Or.inl ⟨by kernel_rfl, ?_⟩
    intro w hSw
    try dsimp only at hSw
    go_simp
    try with_reducible rfl
  try simp only [Act.put, List.setIfInBounds_toArray, List.set_cons_zero, List.set_cons_succ]
  refine' wpAnyH_take (i := 26) (oi := { dst := some 38, op := _, type := _, pos := _, after := _, guard := _ }) (v := _) ?hixa26 (by kernel_rfl) ?hfxa26 ?hrxa26 ?hqxa26 ?hyxa26 ?hsxa26 ?restxa26
  case hixa26 => exact rfl
  case hfxa26 => kernel_rfl
  case hrxa26 => kernel_rfl
  case hqxa26 => exact fun _ _ _ h => h
  case hsxa26 => assumption
  case hyxa26 =>
    refine Or.inl ⟨by kernel_rfl, ?_⟩
    intro w hSw
    try dsimp only at hSw
    go_simp
    try with_reducible rfl
  try simp only [Act.put, List.setIfInBounds_toArray, List.set_cons_zero, List.set_cons_succ]
  refine' wpAnyH_take (i := 27) (oi := { dst := some 39, op := _, type := _, pos := _, after := _, guard := _ }) (v := _) ?hixa27 (by kernel_rfl) ?hfxa27 ?hrxa27 ?hqxa27 ?hyxa27 ?hsxa27 ?restxa27
  case hixa27 => exact rfl
  case hfxa27 => kernel_rfl
  case hrxa27 => kernel_rfl
  case hqxa27 => exact fun _ _ _ h => h
  case hsxa27 => assumption
  case hyxa27 =>
    refine Or.inl ⟨by kernel_rfl, ?_⟩
    intro w hSw
    try dsimp only at hSw
    go_simp
    try with_reducible rfl
  try simp only [Act.put, List.setIfInBounds_toArray, List.set_cons_zero, List.set_cons_succ]
  refine' wpAnyH_take (i := 28) (oi := { dst := some 40, op := _, type := _, pos := _, after := _, guard := _ }) (v := _) ?hixa28 (by kernel_rfl) ?hfxa28 ?hrxa28 ?hqxa28 ?hyxa28 ?hsxa28 ?restxa28
  case hixa28 => exact rfl
  case hfxa28 => kernel_rfl
  case hrxa28 => kernel_rfl
  case hqxa28 => exact fun _ _ _ h => h
  case hsxa28 => assumption
  case hyxa28 =>
    refine Or.inl ⟨by kernel_rfl, ?_⟩
    intro w hSw
    try dsimp only at hSw
    go_simp
    try with_reducible rfl
  try simp only [Act.put, List.setIfInBounds_toArray, List.set_cons_zero, List.set_cons_succ]
  refine' wpAnyH_take (i := 29) (oi := { dst := some 41, op := _, type := _, pos := _, after := _, guard := _ }) (v := _) ?hixa29 (by kernel_rfl) ?hfxa29 ?hrxa29 ?hqxa29 ?hyxa29 ?hsxa29 ?restxa29
  case hixa29 => exact rfl
  case hfxa29 => kernel_rfl
  case hrxa29 => kernel_rfl
  case hqxa29 => exact fun _ _ _ h => h
  case hsxa29 => assumption
  case hyxa29 =>
    refine Or.inl ⟨by kernel_rfl, ?_⟩
    intro w hSw
    try dsimp only at hSw
    go_simp
    try with_reducible rfl
  try simp only [Act.put, List.setIfInBounds_toArray, List.set_cons_zero, List.set_cons_succ]
  refine' wpAnyH_take (i := 30) (oi := { dst := some 42, op := _, type := _, pos := _, after := _, guard := _ }) (v := _) ?hixa30 (by kernel_rfl) ?hfxa30 ?hrxa30 ?hqxa30 ?hyxa30 ?hsxa30 ?restxa30
  case hixa30 => exact rfl
  case hfxa30 => kernel_rfl
  case hrxa30 => kernel_rfl
  case hqxa30 => exact fun _ _ _ h => h
  case hsxa30 => assumption
  case hyxa30 =>
    refine Or.inl ⟨by kernel_rfl, ?_⟩
    intro w hSw
    try dsimp only at hSw
    go_simp
    try with_reducible rfl
  try simp only [Act.put, List.setIfInBounds_toArray, List.set_cons_zero, List.set_cons_succ]
  refine wpAnyH_done (by kernel_rfl) ?_ _
  have ho := own_ext (HO.out.alloc (.cells #[.int .i64 f, .int .i64 t, .int .i64 n] 189)) hC.1
  have hf2 := own_free ho (m * 3 + 2)
  have HO2 := Lib.hid ho
  clear ho
  go_wp2
  go_region
  go_wp2
  go_ret
  have hlr : GoodR ⟨lf, lt, ln⟩ := HG.out _ (by simp)
  have hrr := HR.out
  have hs := HS.out
  have hv := HV.out
  unfold GoodR at hlr hrr
  simp only at hlr hrr
  have hj := expR_join ⟨lf, lt, ln⟩ ⟨f, t, n⟩ (by show 0 ≤ ln; omega) (by show 0 ≤ n; omega) hs hv
  have e : (out ++ [(⟨lf, lt, ln + n⟩ : Rw)]).length = m + 1 := by simp [HM.out]
  refine ⟨_, out ++ [⟨lf, lt, ln + n⟩], rfl, ?_, ?_, ?_, by simp, ?_, .inl rfl⟩
  · rw [e]
    exact own_drewN (own_last HO2.out HM.out (ln + n)) 1
  · rw [expL_app, expL_one, expL_app, expL_one, List.append_assoc, hj]
  · intro r hr
    rcases List.mem_append.1 hr with hr | hr
    · exact HG.out r (List.mem_append.2 (.inl hr))
    · obtain rfl := List.mem_singleton.1 hr
      unfold GoodR
      simp only
      omega
  · exact (((World.grownBy_alloc w _ _).trans' (hC.1.to_grown _)).trans' (grown_set wx g _ _)).trans' ((Ext.drew (Ext.refl _)).to_grown _)
theorem add_any (r : Rw) (v : Value) (B : Nat) (out : List Rw) (w : World) (ho : w.ownsRow B 189 3 v out.length (rowCells out)) (hB : B ≤ w.heap.size) (hr : Good0 r) (hg : GoodL out) (hm : out.length ≤ 1000000000) :
    Calls Tryz.prog 191 #[v, .agg #[.int .i64 r.f, .int .i64 r.t, .int .i64 r.n]] w (AddOut w B v out (expL out ++ expR r)) := by
  obtain ⟨f, t, n⟩ := r
  by_cases h0 : n = 0
  · subst h0
    have := add_zero f t v B out w ho hg
    rwa [expR_zero ⟨f, t, 0⟩ rfl, List.append_nil]
  have hn : GoodR ⟨f, t, n⟩ := hr.good (by have := hr.2.2.2.2; simp only at this; show 1 ≤ n; omega)
  obtain ⟨a, cap, rfl, hw⟩ := own_rws ho
  rcases List.eq_nil_or_concat out with rfl | ⟨l, x, rfl⟩
  · exact add_nil f t n a cap B w ho hB hn
  · have hl : (l.concat x).length = l.length + 1 := by simp
    rw [List.concat_eq_append] at *
    rw [hl] at ho hm hw ⊢
    have ha : ∃ g, a = some ⟨g, 0, none⟩ := by
      obtain ⟨_, h | ⟨g2, cap2, cur, e, _⟩⟩ := ho
      · cases h.1
      · obtain ⟨rfl, _⟩ : a = some ⟨g2, 0, none⟩ ∧ cap = cap2 := by simpa using e
        exact ⟨_, rfl⟩
    obtain ⟨g, rfl⟩ := ha
    obtain ⟨lf, lt, ln⟩ := x
    by_cases h1 : lf + ln = f
    · by_cases h2 : lt + ln = t
      · exact add_join f t n lf lt ln g cap l.length B l w rfl ho hB hn hg (by omega) h1 h2
      · exact add_off f t n lf lt ln _ g cap l.length B l w rfl ho hB hn hg (by omega) h1 rfl (beq_false_of_ne h2)
    · exact add_far f t n lf lt ln _ g cap l.length B l w rfl ho hB hn hg (by omega) rfl (beq_false_of_ne h1)
end Go.Proofs.YtndopjmdpmkgeaaGreatDoor

namespace Go.Proofs.YtndopjmdpmkgeaaGreatDoor
open Go Go.ChangeShapes Go.WideShapes Go.ChangeAt Go.RowKit
set_option linter.unusedSimpArgs false
set_option linter.unusedVariables false

/-- Where a key lies of a row: ahead of it, behind it, in it. -/
def side (r : Rw) (key : Int) : Int := if key < r.f then -1 else if r.f + r.n ≤ key then 1 else 0
set_option maxHeartbeats 1000000 in
set_option maxRecDepth 100000 in
theorem look_any (x off len cap : Nat) (b1 b2 k : Nat) (rf rt rn key : Int) (w : World) (hk : k < len) (hl : len ≤ 1000000000)
    (h1 : w.cell? ⟨b1, 0, none⟩ = some (.slice (some ⟨x, off, none⟩) len cap)) (h2 : w.cell? ⟨b2, 0, none⟩ = some (.int .i64 key))
    (c0 : w.cell? ⟨x, off + k * 3, none⟩ = some (.int .i64 rf)) (c1 : w.cell? ⟨x, off + k * 3 + 1, none⟩ = some (.int .i64 rt)) (c2 : w.cell? ⟨x, off + k * 3 + 2, none⟩ = some (.int .i64 rn)) (hg : GoodR ⟨rf, rt, rn⟩) :
    Calls Tryz.prog 163 #[.int .i64 k, .pointer (some ⟨b1, 0, none⟩), .pointer (some ⟨b2, 0, none⟩)] w fun e w' => e = .returned (.int .i64 (side ⟨rf, rt, rn⟩ key)) ∧ Ext w w' := by
  have hk0 := keep_three w (.int .i64 rf) (.int .i64 rt) (.int .i64 rn) 189
  have hx := (Ext.refl w).alloc (.cells #[.int .i64 rf, .int .i64 rt, .int .i64 rn] 189)
  have h2' := cell_ext hx h2
  have hC0 : Keep w [(⟨b2, 0, none⟩, .int .i64 key), (⟨w.heap.size, 0, none⟩, .int .i64 rf), (⟨w.heap.size, 1, none⟩, .int .i64 rt), (⟨w.heap.size, 2, none⟩, .int .i64 rn)] (w.alloc (.cells #[.int .i64 rf, .int .i64 rt, .int .i64 rn] 189)) :=
    ⟨hx, h2', hk0.2.1, hk0.2.2.1, hk0.2.2.2.1, trivial⟩
  have HC := Lib.hid hC0
  have HG := Lib.hid hg
  clear hk0 hx hC0 hg
  by_cases hs : key < rf
  · have e : side ⟨rf, rt, rn⟩ key = -1 := by unfold side; exact if_pos hs
    rw [e]
    clear e
    go_enter Tryz.func163, Tryz.ntmps163
    go_wp2
    go_ret
    exact ⟨rfl, (Ext.refl _).alloc _⟩
  · have HE := Lib.hid (fun w => end_at rf rt rn _ w HG.out rfl)
    by_cases hs2 : rf + rn ≤ key
    · have e : side ⟨rf, rt, rn⟩ key = 1 := by unfold side; rw [if_neg hs]; exact if_pos hs2
      rw [e]
      clear e
      generalize rf + rn = s at HE hs2
      go_enter Tryz.func163, Tryz.ntmps163
      go_wp2
      obtain ⟨wa, ha, hC1⟩ := HC.out.hold
      rw [← ha]
      clear ha
      have hC := hC1.ext (Ext.drew (Ext.refl _))
      clear hC1
      obtain ⟨b0, q0, q1, q2, _⟩ := hC.2
      refine wp_region_held_drew (S := (fun W' => W'.cell? ⟨b2, 0, none⟩ = some (.int .i64 key) ∧ W'.cell? ⟨w.heap.size, 0, none⟩ = some (.int .i64 rf) ∧ W'.cell? ⟨w.heap.size, 1, none⟩ = some (.int .i64 rt) ∧ W'.cell? ⟨w.heap.size, 2, none⟩ = some (.int .i64 rn))) (by kernel_rfl) ?_ (fun hHeld => ?_)
      · (try dsimp only); go_keep
      refine' wpAnyH_take (i := 0) (oi := { dst := some 16, op := _, type := _, pos := _, after := _, guard := _ }) (v := _) ?hixa0 (by kernel_rfl) ?hfxa0 ?hrxa0 ?hqxa0 ?hyxa0 ?hsxa0 ?restxa0
      case hixa0 => exact rfl
      case hfxa0 => kernel_rfl
      case hrxa0 => kernel_rfl
      case hqxa0 => exact fun _ _ _ h => h
      case hsxa0 => assumption
      case hyxa0 =>
        refine Or.inl ⟨by kernel_rfl, ?_⟩
        intro w hSw
        try dsimp only at hSw
        go_simp
        try with_reducible rfl
      try simp only [Act.put, List.setIfInBounds_toArray, List.set_cons_zero, List.set_cons_succ]
      refine' wpAnyH_take (i := 1) (oi := { dst := some 17, op := _, type := _, pos := _, after := _, guard := _ }) (v := _) ?hixa1 (by kernel_rfl) ?hfxa1 ?hrxa1 ?hqxa1 ?hyxa1 ?hsxa1 ?restxa1
      case hixa1 => exact rfl
      case hfxa1 => kernel_rfl
      case hrxa1 => kernel_rfl
      case hqxa1 => exact fun _ _ _ h => h
      case hsxa1 => assumption
      case hyxa1 =>
        refine Or.inl ⟨by kernel_rfl, ?_⟩
        intro w hSw
        try dsimp only at hSw
        go_simp
        try with_reducible rfl
      try simp only [Act.put, List.setIfInBounds_toArray, List.set_cons_zero, List.set_cons_succ]
      refine wpAnyH_ready (rs := [2]) (by kernel_rfl) (by simp) ?_
      refine' AllReadyH.cons (o := _) ?hixa2 (fun K hK => ?hk0xa2) AllReadyH.nil
      case hixa2 => exact rfl
      go_simp
      go_at_call 164
      refine (HE.out _).mono ?_
      rintro e wx ⟨rfl, hbx⟩
      have hC' := hC.ext hbx
      clear hC hbx
      have hC := hC'
      clear hC'
      clear b0 q0 q1 q2
      obtain ⟨b0, q0, q1, q2, _⟩ := hC.2
      try go_wp2_with fail
      refine hK.out _ _ ?hS0xa2 (fun hHeld => ?restxa2)
      case hS0xa2 => (try dsimp only); go_keep
      clear hK K
      try simp only [Act.put, List.setIfInBounds_toArray, List.set_cons_zero, List.set_cons_succ]
      refine' wpAnyH_take (i := 3) (oi := { dst := some 19, op := _, type := _, pos := _, after := _, guard := _ }) (v := _) ?hixa3 (by kernel_rfl) ?hfxa3 ?hrxa3 ?hqxa3 ?hyxa3 ?hsxa3 ?restxa3
      case hixa3 => exact rfl
      case hfxa3 => kernel_rfl
      case hrxa3 => kernel_rfl
      case hqxa3 => exact fun _ _ _ h => h
      case hsxa3 => assumption
      case hyxa3 =>
        refine Or.inl ⟨by kernel_rfl, ?_⟩
        intro w hSw
        try dsimp only at hSw
        go_simp
        try with_reducible rfl
      try simp only [Act.put, List.setIfInBounds_toArray, List.set_cons_zero, List.set_cons_succ]
      refine' wpAnyH_take (i := 4) (oi := { dst := some 15, op := _, type := _, pos := _, after := _, guard := _ }) (v := _) ?hixa4 (by kernel_rfl) ?hfxa4 ?hrxa4 ?hqxa4 ?hyxa4 ?hsxa4 ?restxa4
      case hixa4 => exact rfl
      case hfxa4 => kernel_rfl
      case hrxa4 => kernel_rfl
      case hqxa4 => exact fun _ _ _ h => h
      case hsxa4 => assumption
      case hyxa4 =>
        refine Or.inl ⟨by kernel_rfl, ?_⟩
        intro w hSw
        try dsimp only at hSw
        go_simp
        try with_reducible rfl
      try simp only [Act.put, List.setIfInBounds_toArray, List.set_cons_zero, List.set_cons_succ]
      refine wpAnyH_done (by kernel_rfl) ?_ _
      go_wp2
      go_ret
      exact ⟨rfl, hC.1⟩
    · have e : side ⟨rf, rt, rn⟩ key = 0 := by unfold side; rw [if_neg hs]; exact if_neg hs2
      rw [e]
      clear e
      generalize rf + rn = s at HE hs2
      go_enter Tryz.func163, Tryz.ntmps163
      go_wp2
      obtain ⟨wa, ha, hC1⟩ := HC.out.hold
      rw [← ha]
      clear ha
      have hC := hC1.ext (Ext.drew (Ext.refl _))
      clear hC1
      obtain ⟨b0, q0, q1, q2, _⟩ := hC.2
      refine wp_region_held_drew (S := (fun W' => W'.cell? ⟨b2, 0, none⟩ = some (.int .i64 key) ∧ W'.cell? ⟨w.heap.size, 0, none⟩ = some (.int .i64 rf) ∧ W'.cell? ⟨w.heap.size, 1, none⟩ = some (.int .i64 rt) ∧ W'.cell? ⟨w.heap.size, 2, none⟩ = some (.int .i64 rn))) (by kernel_rfl) ?_ (fun hHeld => ?_)
      · (try dsimp only); go_keep
      refine' wpAnyH_take (i := 0) (oi := { dst := some 16, op := _, type := _, pos := _, after := _, guard := _ }) (v := _) ?hixb0 (by kernel_rfl) ?hfxb0 ?hrxb0 ?hqxb0 ?hyxb0 ?hsxb0 ?restxb0
      case hixb0 => exact rfl
      case hfxb0 => kernel_rfl
      case hrxb0 => kernel_rfl
      case hqxb0 => exact fun _ _ _ h => h
      case hsxb0 => assumption
      case hyxb0 =>
        refine Or.inl ⟨by kernel_rfl, ?_⟩
        intro w hSw
        try dsimp only at hSw
        go_simp
        try with_reducible rfl
      try simp only [Act.put, List.setIfInBounds_toArray, List.set_cons_zero, List.set_cons_succ]
      refine' wpAnyH_take (i := 1) (oi := { dst := some 17, op := _, type := _, pos := _, after := _, guard := _ }) (v := _) ?hixb1 (by kernel_rfl) ?hfxb1 ?hrxb1 ?hqxb1 ?hyxb1 ?hsxb1 ?restxb1
      case hixb1 => exact rfl
      case hfxb1 => kernel_rfl
      case hrxb1 => kernel_rfl
      case hqxb1 => exact fun _ _ _ h => h
      case hsxb1 => assumption
      case hyxb1 =>
        refine Or.inl ⟨by kernel_rfl, ?_⟩
        intro w hSw
        try dsimp only at hSw
        go_simp
        try with_reducible rfl
      try simp only [Act.put, List.setIfInBounds_toArray, List.set_cons_zero, List.set_cons_succ]
      refine wpAnyH_ready (rs := [2]) (by kernel_rfl) (by simp) ?_
      refine' AllReadyH.cons (o := _) ?hixb2 (fun K hK => ?hk0xb2) AllReadyH.nil
      case hixb2 => exact rfl
      go_simp
      go_at_call 164
      refine (HE.out _).mono ?_
      rintro e wx ⟨rfl, hbx⟩
      have hC' := hC.ext hbx
      clear hC hbx
      have hC := hC'
      clear hC'
      clear b0 q0 q1 q2
      obtain ⟨b0, q0, q1, q2, _⟩ := hC.2
      try go_wp2_with fail
      refine hK.out _ _ ?hS0xb2 (fun hHeld => ?restxb2)
      case hS0xb2 => (try dsimp only); go_keep
      clear hK K
      try simp only [Act.put, List.setIfInBounds_toArray, List.set_cons_zero, List.set_cons_succ]
      refine' wpAnyH_take (i := 3) (oi := { dst := some 19, op := _, type := _, pos := _, after := _, guard := _ }) (v := _) ?hixb3 (by kernel_rfl) ?hfxb3 ?hrxb3 ?hqxb3 ?hyxb3 ?hsxb3 ?restxb3
      case hixb3 => exact rfl
      case hfxb3 => kernel_rfl
      case hrxb3 => kernel_rfl
      case hqxb3 => exact fun _ _ _ h => h
      case hsxb3 => assumption
      case hyxb3 =>
        refine Or.inl ⟨by kernel_rfl, ?_⟩
        intro w hSw
        try dsimp only at hSw
        go_simp
        try with_reducible rfl
      try simp only [Act.put, List.setIfInBounds_toArray, List.set_cons_zero, List.set_cons_succ]
      refine' wpAnyH_take (i := 4) (oi := { dst := some 15, op := _, type := _, pos := _, after := _, guard := _ }) (v := _) ?hixb4 (by kernel_rfl) ?hfxb4 ?hrxb4 ?hqxb4 ?hyxb4 ?hsxb4 ?restxb4
      case hixb4 => exact rfl
      case hfxb4 => kernel_rfl
      case hrxb4 => kernel_rfl
      case hqxb4 => exact fun _ _ _ h => h
      case hsxb4 => assumption
      case hyxb4 =>
        refine Or.inl ⟨by kernel_rfl, ?_⟩
        intro w hSw
        try dsimp only at hSw
        go_simp
        try with_reducible rfl
      try simp only [Act.put, List.setIfInBounds_toArray, List.set_cons_zero, List.set_cons_succ]
      refine wpAnyH_done (by kernel_rfl) ?_ _
      go_wp2
      go_ret
      exact ⟨rfl, hC.1⟩
end Go.Proofs.YtndopjmdpmkgeaaGreatDoor
namespace Go.Proofs.YtndopjmdpmkgeaaGreatDoor
open Go Go.ChangeShapes Go.WideShapes Go.ChangeAt Go.RowKit
set_option linter.unusedSimpArgs false
set_option linter.unusedVariables false

/-- What a search by halves has seen. -/
def Seen (sd : Nat → Int) (n i j : Nat) : Prop := i ≤ j ∧ j ≤ n ∧ (∀ k, k < i → 0 < sd k) ∧ (∀ k, j ≤ k → k < n → sd k ≤ 0)
/-- Sides go from behind to ahead. -/
def Falls (sd : Nat → Int) (n : Nat) : Prop := ∀ i j, i < j → j < n → (sd i ≤ 0 → sd j ≤ 0)
set_option maxHeartbeats 1000000 in
set_option maxRecDepth 100000 in
theorem search_any (n : Nat) (hn : n ≤ 1000000000) (sd : Nat → Int) (b1 b2 : Nat) (w : World) (hF : Falls sd n)
    (H : ∀ k w', k < n → Ext w w' → Calls Tryz.prog 163 #[.int .i64 k, .pointer (some ⟨b1, 0, none⟩), .pointer (some ⟨b2, 0, none⟩)] w' fun e w'' => e = .returned (.int .i64 (sd k)) ∧ Ext w' w'') :
    Calls Tryz.prog 165 #[.int .i64 n, .func (.func 163) #[] #[.pointer (some ⟨b1, 0, none⟩), .pointer (some ⟨b2, 0, none⟩)]] w fun e w' => ∃ (i : Nat) (b : Bool), e = .returned (.tuple #[.int .i64 i, .bool b]) ∧ Seen sd n i i ∧ (b = true ↔ i < n ∧ sd i = 0) ∧ Ext w w' := by
  have HH := Lib.hid H
  have HF := Lib.hid hF
  clear H hF
  go_enter Tryz.func165, Tryz.ntmps165
  go_wp2
  go_loopw [4, 6] (fun u v wr => ∃ (i j : Nat), u = .int .i64 i ∧ v = .int .i64 j ∧ i ≤ j ∧ j ≤ n ∧ Hid (Seen sd n i j) ∧ Ext w wr) (fun u v _ => (intOf v).toNat - (intOf u).toNat)
  case atStart => exact ⟨0, n, rfl, rfl, by omega, by omega, ⟨by omega, by omega, fun k hk => by omega, fun k h1 h2 => by omega⟩, Ext.refl _⟩
  case round =>
    obtain ⟨i, j, rfl, rfl, hij, hjn, HS, hx⟩ := hrel
    by_cases hlt : i < j
    · obtain ⟨h, hh⟩ : ∃ h, h = (i + j) / 2 := ⟨_, rfl⟩
      have hhi : i ≤ h := by omega
      have hhj : h < j := by omega
      have ecast : ((i : Int) + (j : Int)) / 2 = (h : Int) := by omega
      have HC := HH.out h wr (by omega) hx
      rw [← ecast] at HC
      have hc1 : ((i : Int) + (j : Int)) / 2 + 1 = ((h + 1 : Nat) : Int) := by omega
      have HC1 := Lib.hid hc1
      have HCC := Lib.hid ecast
      have hb1 : 0 ≤ ((i : Int) + (j : Int)) / 2 := by omega
      have hb2 : ((i : Int) + (j : Int)) / 2 ≤ 1000000000 := by omega
      by_cases hs : 0 < sd h
      · have HT : Hid (Seen sd n (h + 1) j) := by
          obtain ⟨s1, s2, s3, s4⟩ := HS.out
          refine ⟨by omega, s2, fun k hk => ?_, s4⟩
          by_cases e : k = h
          · subst e; exact hs
          · by_cases hki : k < i
            · exact s3 k hki
            · by_cases hp : 0 < sd k
              · exact hp
              · have := HF.out k h (by omega) (by omega) (by omega)
                omega
        generalize sd h = s at HC hs
        have HCx := Lib.hid HC
        clear HC hh ecast hc1
        go_wp2_with (go_at_call 163; refine HCx.out.mono ?_; rintro e w2 ⟨rfl, hb3⟩)
        go_roundw
        case rel => exact ⟨h + 1, j, by rw [HC1.out], rfl, by omega, hjn, HT, hx.trans hb3⟩
        case measure =>
          have := HC1.out
          simp [intOf]
          omega
      · have HT : Hid (Seen sd n i h) := by
          obtain ⟨s1, s2, s3, s4⟩ := HS.out
          refine ⟨by omega, by omega, s3, fun k hk hkn => ?_⟩
          by_cases e : k = h
          · subst e; omega
          · exact HF.out h k (by omega) hkn (by omega)
        generalize sd h = s at HC hs
        have HCx := Lib.hid HC
        clear HC hh ecast hc1
        go_wp2_with (go_at_call 163; refine HCx.out.mono ?_; rintro e w2 ⟨rfl, hb3⟩)
        go_roundw
        case rel => exact ⟨i, h, rfl, by rw [HCC.out], hhi, by omega, HT, hx.trans hb3⟩
        case measure =>
          have := HCC.out
          simp [intOf]
          omega
    · obtain rfl : i = j := by omega
      by_cases hin : i < n
      · have HC := HH.out i wr hin hx
        by_cases hs : sd i = 0
        · have HS0 := Lib.hid hs
          rw [hs] at HC
          have HCx := Lib.hid HC
          clear HC hs
          go_wp2_with (go_at_call 163; refine HCx.out.mono ?_; rintro e w2 ⟨rfl, hb3⟩)
          go_ret2
          exact ⟨i, true, rfl, HS.out, ⟨fun _ => ⟨hin, HS0.out⟩, fun _ => rfl⟩, hx.trans hb3⟩
        · have hsb : (sd i == 0) = false := beq_false_of_ne hs
          have HS0 := Lib.hid hs
          generalize sd i = s at HC hsb hs
          have HCx := Lib.hid HC
          clear HC
          go_wp2_with (go_at_call 163; refine HCx.out.mono ?_; rintro e w2 ⟨rfl, hb3⟩)
          go_ret2
          exact ⟨i, false, rfl, HS.out, ⟨(fun h => by cases h), fun h => absurd h.2 HS0.out⟩, hx.trans hb3⟩
      · go_wp2
        go_ret2
        exact ⟨i, false, rfl, HS.out, ⟨(fun h => by cases h), fun h => absurd h.1 hin⟩, hx⟩
theorem search_yes (n : Nat) (hn : n ≤ 1000000000) (sd : Nat → Int) (b1 b2 i : Nat) (w : World) (hF : Falls sd n) (hi : i < n) (hs : sd i = 0) (hu : ∀ k, k < i → 0 < sd k)
    (H : ∀ k w', k < n → Ext w w' → Calls Tryz.prog 163 #[.int .i64 k, .pointer (some ⟨b1, 0, none⟩), .pointer (some ⟨b2, 0, none⟩)] w' fun e w'' => e = .returned (.int .i64 (sd k)) ∧ Ext w' w'') :
    Calls Tryz.prog 165 #[.int .i64 n, .func (.func 163) #[] #[.pointer (some ⟨b1, 0, none⟩), .pointer (some ⟨b2, 0, none⟩)]] w fun e w' => e = .returned (.tuple #[.int .i64 i, .bool true]) ∧ Ext w w' := by
  refine (search_any n hn sd b1 b2 w hF H).mono ?_
  rintro e w' ⟨j, b, rfl, ⟨_, hjn, s1, s2⟩, hb, hx⟩
  have hji : j = i := by
    rcases Nat.lt_trichotomy j i with h | h | h
    · have := s2 j (by omega) (by omega)
      have := hu j h
      omega
    · exact h
    · have := s1 i h
      omega
  subst hji
  rw [hb.2 ⟨hi, hs⟩]
  exact ⟨rfl, hx⟩
theorem search_no (n : Nat) (hn : n ≤ 1000000000) (sd : Nat → Int) (b1 b2 : Nat) (w : World) (hF : Falls sd n) (hs : ∀ k, k < n → sd k ≠ 0)
    (H : ∀ k w', k < n → Ext w w' → Calls Tryz.prog 163 #[.int .i64 k, .pointer (some ⟨b1, 0, none⟩), .pointer (some ⟨b2, 0, none⟩)] w' fun e w'' => e = .returned (.int .i64 (sd k)) ∧ Ext w' w'') :
    Calls Tryz.prog 165 #[.int .i64 n, .func (.func 163) #[] #[.pointer (some ⟨b1, 0, none⟩), .pointer (some ⟨b2, 0, none⟩)]] w fun e w' => ∃ i : Nat, e = .returned (.tuple #[.int .i64 i, .bool false]) ∧ Ext w w' := by
  refine (search_any n hn sd b1 b2 w hF H).mono ?_
  rintro e w' ⟨j, b, rfl, _, hb, hx⟩
  cases b with
  | false => exact ⟨j, rfl, hx⟩
  | true =>
    have := hb.1 rfl
    exact absurd this.2 (hs j this.1)
theorem cell_one {w : World} {b : Nat} {x : Value} {T : TypeId} (h : w.heap[b]? = some (.cells #[x] T (0, 0))) : w.cell? ⟨b, 0, none⟩ = some x := by
  simp [World.cell?, h]
theorem keep_boxes (w : World) (x y : Value) (T U : TypeId) : Keep w [(⟨w.heap.size, 0, none⟩, x), (⟨w.heap.size + 1, 0, none⟩, y)] ((w.alloc (.cells #[x] T)).alloc (.cells #[y] U)) := by
  have h1 := heap_alloc_new w (.cells #[x] T)
  have h2 := heap_alloc_new (w.alloc (.cells #[x] T)) (.cells #[y] U)
  have e : (w.alloc (.cells #[x] T)).heap.size = w.heap.size + 1 := by simp
  rw [e] at h2
  have k := (Ext.refl (w.alloc (.cells #[x] T))).alloc (.cells #[y] U)
  refine ⟨((Ext.refl w).alloc _).alloc _, cell_ext k ?_, ?_, trivial⟩
  · exact cell_one h1
  · exact cell_one h2
/-- What the rows' sides are; they fall. -/
def sideAt (rows : List Rw) (key : Int) (k : Nat) : Int := side (rows[k]?.getD ⟨0, 0, 0⟩) key
theorem side_zero {r : Rw} {key : Int} (h : GoodR r) : side r key = 0 ↔ r.f ≤ key ∧ key < r.f + r.n := by
  unfold GoodR at h
  unfold side
  split
  · constructor
    · intro e; cases e
    · omega
  · split
    · constructor
      · intro e; cases e
      · omega
    · constructor <;> omega
theorem side_falls {rows : List Rw} {key : Int} (hg : GoodL rows) (hr : RisingR rows) : Falls (sideAt rows key) rows.length := by
  intro i j hij hj hs
  have hi : i < rows.length := by omega
  have hp := List.pairwise_iff_getElem.1 hr i j hi hj hij
  have gi := hg rows[i] (List.getElem_mem hi)
  have gj := hg rows[j] (List.getElem_mem hj)
  unfold GoodR at gi gj
  unfold sideAt at hs ⊢
  rw [List.getElem?_eq_getElem hi, Option.getD_some] at hs
  rw [List.getElem?_eq_getElem hj, Option.getD_some]
  unfold side at hs ⊢
  split at hs
  · rw [if_pos (by omega)]
    decide
  · split at hs
    · omega
    · split
      · decide
      · split <;> omega
set_option maxHeartbeats 1000000 in
set_option maxRecDepth 100000 in
theorem find_yes (a : Option Addr) (cap : Nat) (rows : List Rw) (key : Int) (k : Nat) (r : Rw) (w : World) (h : IsRws w a rows.length cap rows) (hg : GoodL rows) (hr : RisingR rows) (hl : rows.length ≤ 1000000000) (hk : rows[k]? = some r) (h1 : r.f ≤ key) (h2 : key < r.f + r.n) :
    Calls Tryz.prog 123 #[.slice a rows.length cap, .int .i64 key] w fun e w' => e = .returned (.tuple #[.int .i64 (r.t + (key - r.f)), .bool true]) ∧ Ext w w' := by
  have hkl : k < rows.length := (List.getElem?_eq_some_iff.1 hk).1
  have hgr := hg r (List.mem_of_getElem? hk)
  obtain ⟨x, off, r2, rfl, hxl, hp, hcell⟩ := rws_at h hkl
  obtain rfl : r2 = r := by rw [hk] at hp; exact (Option.some.inj hp).symm
  have hs0 : sideAt rows key k = 0 := by
    unfold sideAt
    rw [hk]
    exact (side_zero hgr).2 ⟨h1, h2⟩
  have hu : ∀ j, j < k → 0 < sideAt rows key j := by
    intro j hj
    have hjl : j < rows.length := by omega
    have hp2 := List.pairwise_iff_getElem.1 hr j k hjl hkl hj
    have e : rows[k] = r2 := by rw [List.getElem?_eq_getElem hkl] at hk; exact Option.some.inj hk
    rw [e] at hp2
    have gj := hg rows[j] (List.getElem_mem hjl)
    unfold GoodR at gj
    unfold sideAt
    rw [List.getElem?_eq_getElem hjl, Option.getD_some]
    unfold side
    rw [if_neg (by omega), if_pos (by omega)]
    decide
  have HS : Hid (∀ (b1 b2 : Nat) (w1 : World), Ext w w1 → w1.cell? ⟨b1, 0, none⟩ = some (.slice (some ⟨x, off, none⟩) rows.length cap) → w1.cell? ⟨b2, 0, none⟩ = some (.int .i64 key) →
      Calls Tryz.prog 165 #[.int .i64 rows.length, .func (.func 163) #[] #[.pointer (some ⟨b1, 0, none⟩), .pointer (some ⟨b2, 0, none⟩)]] w1 fun e w' => e = .returned (.tuple #[.int .i64 k, .bool true]) ∧ Ext w1 w') := by
    intro b1 b2 w1 hx1 e1 e2
    refine search_yes rows.length hl (sideAt rows key) b1 b2 k w1 (side_falls hg hr) hkl hs0 hu (fun j w2 hj hx2 => ?_)
    obtain ⟨x3, off3, r3, e3, hxl3, hp3, hcell3⟩ := rws_at h hj
    obtain ⟨rfl, rfl⟩ : x = x3 ∧ off = off3 := by simpa using e3
    obtain ⟨c0, c1, c2⟩ := hcell3 w2 (hx1.trans hx2)
    have hgj := hg r3 (List.mem_of_getElem? hp3)
    have := look_any x off rows.length cap b1 b2 j r3.f r3.t r3.n key w2 hj hl (cell_ext hx2 e1) (cell_ext hx2 e2) c0 c1 c2 hgj
    unfold sideAt
    rw [hp3]
    exact this
  have hK := keep_boxes w (.slice (some ⟨x, off, none⟩) rows.length cap) (.int .i64 key) 72 3
  have HK := Lib.hid hK
  have HC := Lib.hid (HS.out _ _ _ hK.1 hK.2.1 hK.2.2.1)
  have HG := Lib.hid hgr
  unfold GoodR at hgr
  obtain ⟨g0, g1, g2, g3, g4⟩ := hgr
  obtain ⟨rf, rt, rn⟩ := r2
  have HCE : Hid (∀ w', Ext w w' → w'.cell? ⟨x, off + k * 3, none⟩ = some (.int .i64 rf) ∧ w'.cell? ⟨x, off + k * 3 + 1, none⟩ = some (.int .i64 rt) ∧ w'.cell? ⟨x, off + k * 3 + 2, none⟩ = some (.int .i64 rn)) := hcell
  simp only at h1 h2 g0 g1 g2 g3 g4 ⊢
  clear hcell hp hk hu hs0 hK HS
  have g5 : rt + key - rf = rt + (key - rf) := by omega
  have g6 : 0 ≤ key := by omega
  have g7 : key ≤ 2097152 := by omega
  have hwa : IntKind.i64.wrap (rt + key) = rt + key := IntWalk.i64_in _ (by omega)
  have hwb : IntKind.i64.wrap (rt + key - rf) = rt + key - rf := IntWalk.i64_in _ (by omega)
  have HW := Lib.hid g5
  clear g5
  go_enter Tryz.func123, Tryz.ntmps123
  go_wp2_with (go_at_call 165; refine HC.out.mono ?_; rintro e w2 ⟨rfl, hb2⟩; have hC := HK.out.ext hb2; obtain ⟨q0, q1, _⟩ := hC.2; obtain ⟨c0, c1, c2⟩ := HCE.out _ hC.1)
  go_quiet (fail)
  go_wp2
  go_ret2
  exact ⟨by rw [HW.out]; rfl, (hC.1.drewN _)⟩
set_option maxHeartbeats 1000000 in
set_option maxRecDepth 100000 in
theorem find_no (a : Option Addr) (cap : Nat) (rows : List Rw) (key : Int) (w : World) (h : IsRws w a rows.length cap rows) (hg : GoodL rows) (hr : RisingR rows) (hl : rows.length ≤ 1000000000) (hn : ∀ r ∈ rows, ¬ (r.f ≤ key ∧ key < r.f + r.n)) :
    Calls Tryz.prog 123 #[.slice a rows.length cap, .int .i64 key] w fun e w' => e = .returned (.tuple #[.int .i64 0, .bool false]) ∧ Ext w w' := by
  have HS : Hid (∀ (b1 b2 : Nat) (w1 : World), Ext w w1 → w1.cell? ⟨b1, 0, none⟩ = some (.slice a rows.length cap) → w1.cell? ⟨b2, 0, none⟩ = some (.int .i64 key) →
      Calls Tryz.prog 165 #[.int .i64 rows.length, .func (.func 163) #[] #[.pointer (some ⟨b1, 0, none⟩), .pointer (some ⟨b2, 0, none⟩)]] w1 fun e w' => ∃ i : Nat, e = .returned (.tuple #[.int .i64 i, .bool false]) ∧ Ext w1 w') := by
    intro b1 b2 w1 hx1 e1 e2
    refine search_no rows.length hl (sideAt rows key) b1 b2 w1 (side_falls hg hr) (fun j hj => ?_) (fun j w2 hj hx2 => ?_)
    · unfold sideAt
      rw [List.getElem?_eq_getElem hj, Option.getD_some]
      intro e
      have hm := List.getElem_mem hj
      exact hn _ hm ((side_zero (hg _ hm)).1 e)
    · obtain ⟨x3, off3, r3, rfl, hxl3, hp3, hcell3⟩ := rws_at h hj
      obtain ⟨c0, c1, c2⟩ := hcell3 w2 (hx1.trans hx2)
      have hgj := hg r3 (List.mem_of_getElem? hp3)
      have := look_any x3 off3 rows.length cap b1 b2 j r3.f r3.t r3.n key w2 hj hl (cell_ext hx2 e1) (cell_ext hx2 e2) c0 c1 c2 hgj
      unfold sideAt
      rw [hp3]
      exact this
  have hK := keep_boxes w (.slice a rows.length cap) (.int .i64 key) 72 3
  have HK := Lib.hid hK
  have HC := Lib.hid (HS.out _ _ _ hK.1 hK.2.1 hK.2.2.1)
  clear hK HS hn hg hr h
  go_enter Tryz.func123, Tryz.ntmps123
  go_wp2_with (go_at_call 165; refine HC.out.mono ?_; rintro e w2 ⟨i, rfl, hb2⟩)
  go_ret2
  exact ⟨rfl, HK.out.1.trans hb2⟩
end Go.Proofs.YtndopjmdpmkgeaaGreatDoor

