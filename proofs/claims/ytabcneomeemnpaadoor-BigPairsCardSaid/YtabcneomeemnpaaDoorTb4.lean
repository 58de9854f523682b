/-
  A row put behind others (3): one that goes on with the last.
-/
import Derived.Test.YtabcneomeemnpaaDoorTb3
namespace Go.Proofs.YtabcneomeemnpaaDoor
open Go Go.ChangeShapes Go.WideShapes Go.ChangeAt Go.RowKit
set_option linter.unusedSimpArgs false
set_option linter.unusedVariables false

theorem own_last {w : World} {B g cap m : Nat} {out : List Rw} {f t n : Int} (ho : w.ownsRow B 97 3 (.slice (some ⟨g, 0, none⟩) (m + 1) cap) (m + 1) (rowCells (out ++ [⟨f, t, n⟩]))) (hm : out.length = m) (k : Int) :
    (w.setCell ⟨g, m * 3 + 2, none⟩ (.int .i64 k)).ownsRow B 97 3 (.slice (some ⟨g, 0, none⟩) (m + 1) cap) (m + 1) (rowCells (out ++ [⟨f, t, k⟩])) := by
  obtain ⟨hl, h | ⟨g2, cap2, cur, e, hg, hh, hn, hmx, hs, ht⟩⟩ := ho
  · cases h.1
  · obtain ⟨rfl, rfl⟩ : g = g2 ∧ cap = cap2 := by simpa using e
    refine ⟨by rw [rowCells_len] at hl ⊢; simpa using hl, .inr ⟨g, cap, cur.setIfInBounds (m * 3 + 2) (.int .i64 k), rfl, hg, Go.heap_setCell_same w g (m * 3 + 2) cur _ _ hh, hn, hmx, by simpa using hs, ?_⟩⟩
    rw [Array.toList_setIfInBounds, List.take_set, ht, rowCells_app, rowCells_app, rowCells_one, rowCells_one]
    have e3 : (rowCells out).length = m * 3 := by rw [rowCells_len, hm]
    rw [List.set_append_right _ _ (by omega), e3]
    simp
theorem own_free {w : World} {B g cap n : Nat} {xs : List Value} (ho : w.ownsRow B 97 3 (.slice (some ⟨g, 0, none⟩) n cap) n xs) (o : Nat) : w.frozen? ⟨g, o, none⟩ = false := by
  obtain ⟨hl, h | ⟨g2, cap2, cur, e, hg, hh, hn, hmx, hs, ht⟩⟩ := ho
  · cases h.1
  · obtain ⟨rfl, rfl⟩ : g = g2 ∧ cap = cap2 := by simpa using e
    simp [World.frozen?, hh]
theorem grown_set (w : World) (g o : Nat) (v : Value) : w.grownBy (w.setCell ⟨g, o, none⟩ v) (some g) :=
  ⟨rfl, rfl, rfl, by simp [World.setCell], fun k _ hk => heap_setCell_other w ⟨g, o, none⟩ k v (by rintro rfl; exact hk rfl)⟩
set_option maxHeartbeats 2000000 in
set_option maxRecDepth 100000 in
theorem add_join (f t n lf lt ln : Int) (g cap m : Nat) (B : Nat) (out : List Rw) (w : World) (hm : out.length = m) (ho : w.ownsRow B 97 3 (.slice (some ⟨g, 0, none⟩) (m + 1) cap) (m + 1) (rowCells (out ++ [⟨lf, lt, ln⟩]))) (hB : B ≤ w.heap.size) (hr : GoodR ⟨f, t, n⟩) (hg : GoodL (out ++ [⟨lf, lt, ln⟩])) (hm2 : m ≤ 1000000000) (hs : lf + ln = f) (hv : lt + ln = t) :
    Calls Tryd.prog 56 #[.slice (some ⟨g, 0, none⟩) (m + 1) cap, .agg #[.int .i64 f, .int .i64 t, .int .i64 n]] w (AddOut w B (.slice (some ⟨g, 0, none⟩) (m + 1) cap) (out ++ [⟨lf, lt, ln⟩]) (expL (out ++ [⟨lf, lt, ln⟩]) ++ expR ⟨f, t, n⟩)) := by
  have hb := hg (⟨lf, lt, ln⟩ : Rw) (by simp)
  unfold GoodR at hb
  simp only at hb
  have hw4 : IntKind.i64.wrap (lt + ln) = t := by rw [IntWalk.i64_in _ (by omega)]; exact hv
  have hrr := hr
  unfold GoodR at hrr
  simp only at hrr
  have hw5 : IntKind.i64.wrap (ln + n) = ln + n := IntWalk.i64_in _ (by omega)
  have hn5 : 0 ≤ ln + n := by omega
  obtain ⟨i0, hi, hz0, hz1, hz2⟩ := info_parts_row
  have HE := Lib.hid (fun w => end_at lf lt ln f w (hg _ (by simp)) hs)
  have HO := Lib.hid ho
  have HR := Lib.hid hr
  have HG := Lib.hid hg
  have HM := Lib.hid hm
  have hn0 : (n == 0) = false := by
    have := hr.2.2.2.2
    simp only at this
    exact beq_false_of_ne (by omega)
  have hw1 : IntKind.i64.wrap ((m : Int) + 1) = (m : Int) + 1 := IntWalk.i64_in _ (by omega)
  have hw2 : IntKind.i64.wrap (m : Int) = (m : Int) := IntWalk.i64_in _ (by omega)
  have hw3 : (m : Int) < (m : Int) + 1 := by omega
  have hk0 := keep_three w (.int .i64 f) (.int .i64 t) (.int .i64 n) 97
  obtain ⟨l0, l1, l2⟩ := last_cells ho hm
  have hx := (Ext.refl w).alloc (.cells #[.int .i64 f, .int .i64 t, .int .i64 n] 97)
  have hC0 : Keep (w.alloc (.cells #[.int .i64 f, .int .i64 t, .int .i64 n] 97)) [(⟨w.heap.size, 0, none⟩, .int .i64 f), (⟨w.heap.size, 1, none⟩, .int .i64 t), (⟨w.heap.size, 2, none⟩, .int .i64 n), (⟨g, m * 3, none⟩, .int .i64 lf), (⟨g, m * 3 + 1, none⟩, .int .i64 lt), (⟨g, m * 3 + 2, none⟩, .int .i64 ln)] (w.alloc (.cells #[.int .i64 f, .int .i64 t, .int .i64 n] 97)) :=
    ⟨Ext.refl _, hk0.2.1, hk0.2.2.1, hk0.2.2.2.1, cell_ext hx l0, cell_ext hx l1, cell_ext hx l2, trivial⟩
  have HC := Lib.hid hC0
  have HV := Lib.hid hv
  have HS := Lib.hid hs
  clear hv
  clear hrr hb ho hr hg hm hk0 l0 l1 l2 hx hC0 hs
  go_enter Tryd.func56, Tryd.ntmps56
  go_wp2
  obtain ⟨wa, ha, hC1⟩ := HC.out.hold
  rw [← ha]
  clear ha
  have hC := hC1.ext (Ext.drew (Ext.refl _))
  clear hC1
  obtain ⟨b0, b1, b2, q0, q1, q2, _⟩ := hC.2
  refine wp_region_held_drew (S := (fun W' => W'.cell? ⟨w.heap.size, 0, none⟩ = some (.int .i64 f) ∧ W'.cell? ⟨w.heap.size, 1, none⟩ = some (.int .i64 t) ∧ W'.cell? ⟨g, m * 3, none⟩ = some (.int .i64 lf) ∧ W'.cell? ⟨g, m * 3 + 1, none⟩ = some (.int .i64 lt) ∧ W'.cell? ⟨g, m * 3 + 2, none⟩ = some (.int .i64 ln))) (by kernel_rfl) ?_ (fun hHeld => ?_)
  · (try dsimp only); go_keep
  refine' wpAnyH_take (i := 0) (oi := { dst := some 12, op := _, type := _, pos := _, after := _, guard := _ }) (v := _) ?hixa0 (by kernel_rfl) ?hfxa0 ?hrxa0 ?hqxa0 ?hyxa0 ?hsxa0 ?restxa0
  case hixa0 => exact rfl
  case hfxa0 => kernel_rfl
  case hrxa0 => kernel_rfl
  case hqxa0 => exact fun _ _ _ h => h
  case hsxa0 => assumption
  case hyxa0 =>
    refine Or.inl ⟨by kernel_rfl, ?_⟩
    intro w hSw
    try dsimp only at hSw
    go_simp
    try with_reducible rfl
  try simp only [Act.put, List.setIfInBounds_toArray, List.set_cons_zero, List.set_cons_succ]
  refine' wpAnyH_take (i := 1) (oi := { dst := some 13, op := _, type := _, pos := _, after := _, guard := _ }) (v := _) ?hixa1 (by kernel_rfl) ?hfxa1 ?hrxa1 ?hqxa1 ?hyxa1 ?hsxa1 ?restxa1
  case hixa1 => exact rfl
  case hfxa1 => kernel_rfl
  case hrxa1 => kernel_rfl
  case hqxa1 => exact fun _ _ _ h => h
  case hsxa1 => assumption
  case hyxa1 =>
    refine Or.inl ⟨by kernel_rfl, ?_⟩
    intro w hSw
    try dsimp only at hSw
    go_simp
    try with_reducible rfl
  try simp only [Act.put, List.setIfInBounds_toArray, List.set_cons_zero, List.set_cons_succ]
  refine' wpAnyH_take (i := 2) (oi := { dst := some 14, op := _, type := _, pos := _, after := _, guard := _ }) (v := _) ?hixa2 (by kernel_rfl) ?hfxa2 ?hrxa2 ?hqxa2 ?hyxa2 ?hsxa2 ?restxa2
  case hixa2 => exact rfl
  case hfxa2 => kernel_rfl
  case hrxa2 => kernel_rfl
  case hqxa2 => exact fun _ _ _ h => h
  case hsxa2 => assumption
  case hyxa2 =>
    refine Or.inl ⟨by kernel_rfl, ?_⟩
    intro w hSw
    try dsimp only at hSw
    go_simp
    try with_reducible rfl
  try simp only [Act.put, List.setIfInBounds_toArray, List.set_cons_zero, List.set_cons_succ]
  refine' wpAnyH_take (i := 3) (oi := { dst := some 15, op := _, type := _, pos := _, after := _, guard := _ }) (v := _) ?hixa3 (by kernel_rfl) ?hfxa3 ?hrxa3 ?hqxa3 ?hyxa3 ?hsxa3 ?restxa3
  case hixa3 => exact rfl
  case hfxa3 => kernel_rfl
  case hrxa3 => kernel_rfl
  case hqxa3 => exact fun _ _ _ h => h
  case hsxa3 => assumption
  case hyxa3 =>
    refine Or.inl ⟨by kernel_rfl, ?_⟩
    intro w hSw
    try dsimp only at hSw
    go_simp
    try with_reducible rfl
  try simp only [Act.put, List.setIfInBounds_toArray, List.set_cons_zero, List.set_cons_succ]
  refine' wpAnyH_take (i := 4) (oi := { dst := some 16, op := _, type := _, pos := _, after := _, guard := _ }) (v := _) ?hixa4 (by kernel_rfl) ?hfxa4 ?hrxa4 ?hqxa4 ?hyxa4 ?hsxa4 ?restxa4
  case hixa4 => exact rfl
  case hfxa4 => kernel_rfl
  case hrxa4 => kernel_rfl
  case hqxa4 => exact fun _ _ _ h => h
  case hsxa4 => assumption
  case hyxa4 =>
    refine Or.inl ⟨by kernel_rfl, ?_⟩
    intro w hSw
    try dsimp only at hSw
    go_simp
    try with_reducible rfl
  try simp only [Act.put, List.setIfInBounds_toArray, List.set_cons_zero, List.set_cons_succ]
  refine' wpAnyH_take (i := 5) (oi := { dst := some 17, op := _, type := _, pos := _, after := _, guard := _ }) (v := _) ?hixa5 (by kernel_rfl) ?hfxa5 ?hrxa5 ?hqxa5 ?hyxa5 ?hsxa5 ?restxa5
  case hixa5 => exact rfl
  case hfxa5 => kernel_rfl
  case hrxa5 => kernel_rfl
  case hqxa5 => exact fun _ _ _ h => h
  case hsxa5 => assumption
  case hyxa5 =>
    refine Or.inl ⟨by kernel_rfl, ?_⟩
    intro w hSw
    try dsimp only at hSw
    go_simp
    try with_reducible rfl
  try simp only [Act.put, List.setIfInBounds_toArray, List.set_cons_zero, List.set_cons_succ]
  refine' wpAnyH_take (i := 6) (oi := { dst := some 18, op := _, type := _, pos := _, after := _, guard := _ }) (v := _) ?hixa6 (by kernel_rfl) ?hfxa6 ?hrxa6 ?hqxa6 ?hyxa6 ?hsxa6 ?restxa6
  case hixa6 => exact rfl
  case hfxa6 => kernel_rfl
  case hrxa6 => kernel_rfl
  case hqxa6 => exact fun _ _ _ h => h
  case hsxa6 => assumption
  case hyxa6 =>
    refine Or.inl ⟨by kernel_rfl, ?_⟩
    intro w hSw
    try dsimp only at hSw
    go_simp
    try with_reducible rfl
  try simp only [Act.put, List.setIfInBounds_toArray, List.set_cons_zero, List.set_cons_succ]
  refine' wpAnyH_take (i := 7) (oi := { dst := some 19, op := _, type := _, pos := _, after := _, guard := _ }) (v := _) ?hixa7 (by kernel_rfl) ?hfxa7 ?hrxa7 ?hqxa7 ?hyxa7 ?hsxa7 ?restxa7
  case hixa7 => exact rfl
  case hfxa7 => kernel_rfl
  case hrxa7 => kernel_rfl
  case hqxa7 => exact fun _ _ _ h => h
  case hsxa7 => assumption
  case hyxa7 =>
    refine Or.inl ⟨by kernel_rfl, ?_⟩
    intro w hSw
    try dsimp only at hSw
    go_simp
    try with_reducible rfl
  try simp only [Act.put, List.setIfInBounds_toArray, List.set_cons_zero, List.set_cons_succ]
  refine' wpAnyH_take (i := 9) (oi := { dst := some 21, op := _, type := _, pos := _, after := _, guard := _ }) (v := _) ?hixa9 (by kernel_rfl) ?hfxa9 ?hrxa9 ?hqxa9 ?hyxa9 ?hsxa9 ?restxa9
  case hixa9 => exact rfl
  case hfxa9 => kernel_rfl
  case hrxa9 => kernel_rfl
  case hqxa9 => exact fun _ _ _ h => h
  case hsxa9 => assumption
  case hyxa9 =>
    refine Or.inl ⟨by kernel_rfl, ?_⟩
    intro w hSw
    try dsimp only at hSw
    go_simp
    try with_reducible rfl
  try simp only [Act.put, List.setIfInBounds_toArray, List.set_cons_zero, List.set_cons_succ]
  refine' wpAnyH_take (i := 10) (oi := { dst := some 22, op := _, type := _, pos := _, after := _, guard := _ }) (v := _) ?hixa10 (by kernel_rfl) ?hfxa10 ?hrxa10 ?hqxa10 ?hyxa10 ?hsxa10 ?restxa10
  case hixa10 => exact rfl
  case hfxa10 => kernel_rfl
  case hrxa10 => kernel_rfl
  case hqxa10 => exact fun _ _ _ h => h
  case hsxa10 => assumption
  case hyxa10 =>
    refine Or.inl ⟨by kernel_rfl, ?_⟩
    intro w hSw
    try dsimp only at hSw
    go_simp
    try with_reducible rfl
  try simp only [Act.put, List.setIfInBounds_toArray, List.set_cons_zero, List.set_cons_succ]
  refine wpAnyH_ready (rs := [8]) (by kernel_rfl) (by simp) ?_
  refine' AllReadyH.cons (o := _) ?hixa8 (fun K hK => ?hk0xa8) AllReadyH.nil
  case hixa8 => exact rfl
  go_simp
  go_at_call 66
  refine (HE.out _).mono ?_
  rintro e wx ⟨rfl, hbx⟩
  have hC' := hC.ext hbx
  clear hC hbx
  have hC := hC'
  clear hC'
  clear b0 b1 b2 q0 q1 q2
  obtain ⟨b0, b1, b2, q0, q1, q2, _⟩ := hC.2
  try go_wp2_with fail
  refine hK.out _ _ ?hS0xa8 (fun hHeld => ?restxa8)
  case hS0xa8 => (try dsimp only); go_keep
  clear hK K
  try simp only [Act.put, List.setIfInBounds_toArray, List.set_cons_zero, List.set_cons_succ]
  refine' wpAnyH_take (i := 11) (oi := { dst := some 23, op := _, type := _, pos := _, after := _, guard := _ }) (v := _) ?hixa11 (by kernel_rfl) ?hfxa11 ?hrxa11 ?hqxa11 ?hyxa11 ?hsxa11 ?restxa11
  case hixa11 => exact rfl
  case hfxa11 => kernel_rfl
  case hrxa11 => kernel_rfl
  case hqxa11 => exact fun _ _ _ h => h
  case hsxa11 => assumption
  case hyxa11 =>
    refine Or.inl ⟨by kernel_rfl, ?_⟩
    intro w hSw
    try dsimp only at hSw
    go_simp
    try with_reducible rfl
  try simp only [Act.put, List.setIfInBounds_toArray, List.set_cons_zero, List.set_cons_succ]
  refine' wpAnyH_take (i := 12) (oi := { dst := some 24, op := _, type := _, pos := _, after := _, guard := _ }) (v := _) ?hixa12 (by kernel_rfl) ?hfxa12 ?hrxa12 ?hqxa12 ?hyxa12 ?hsxa12 ?restxa12
  case hixa12 => exact rfl
  case hfxa12 => kernel_rfl
  case hrxa12 => kernel_rfl
  case hqxa12 => exact fun _ _ _ h => h
  case hsxa12 => assumption
  case hyxa12 =>
    refine Or.inl ⟨by kernel_rfl, ?_⟩
    intro w hSw
    try dsimp only at hSw
    go_simp
    try with_reducible rfl
  try simp only [Act.put, List.setIfInBounds_toArray, List.set_cons_zero, List.set_cons_succ]
  refine' wpAnyH_take (i := 13) (oi := { dst := some 25, op := _, type := _, pos := _, after := _, guard := _ }) (v := _) ?hixa13 (by kernel_rfl) ?hfxa13 ?hrxa13 ?hqxa13 ?hyxa13 ?hsxa13 ?restxa13
  case hixa13 => exact rfl
  case hfxa13 => kernel_rfl
  case hrxa13 => kernel_rfl
  case hqxa13 => exact fun _ _ _ h => h
  case hsxa13 => assumption
  case hyxa13 =>
    refine Or.inl ⟨by kernel_rfl, ?_⟩
    intro w hSw
    try dsimp only at hSw
    go_simp
    try with_reducible rfl
  try simp only [Act.put, List.setIfInBounds_toArray, List.set_cons_zero, List.set_cons_succ]
  refine' wpAnyH_take (i := 14) (oi := { dst := some 26, op := _, type := _, pos := _, after := _, guard := _ }) (v := _) ?hixa14 (by kernel_rfl) ?hfxa14 ?hrxa14 ?hqxa14 ?hyxa14 ?hsxa14 ?restxa14
  case hixa14 => exact rfl
  case hfxa14 => kernel_rfl
  case hrxa14 => kernel_rfl
  case hqxa14 => exact fun _ _ _ h => h
  case hsxa14 => assumption
  case hyxa14 =>
    refine Or.inl ⟨by kernel_rfl, ?_⟩
    intro w hSw
    try dsimp only at hSw
    go_simp
    try with_reducible rfl
  try simp only [Act.put, List.setIfInBounds_toArray, List.set_cons_zero, List.set_cons_succ]
  refine' wpAnyH_take (i := 15) (oi := { dst := some 27, op := _, type := _, pos := _, after := _, guard := _ }) (v := _) ?hixa15 (by kernel_rfl) ?hfxa15 ?hrxa15 ?hqxa15 ?hyxa15 ?hsxa15 ?restxa15
  case hixa15 => exact rfl
  case hfxa15 => kernel_rfl
  case hrxa15 => kernel_rfl
  case hqxa15 => exact fun _ _ _ h => h
  case hsxa15 => assumption
  case hyxa15 =>
    refine Or.inl ⟨by kernel_rfl, ?_⟩
    intro w hSw
    try dsimp only at hSw
    go_simp
    try with_reducible rfl
  try simp only [Act.put, List.setIfInBounds_toArray, List.set_cons_zero, List.set_cons_succ]
  refine' wpAnyH_take (i := 16) (oi := { dst := some 28, op := _, type := _, pos := _, after := _, guard := _ }) (v := _) ?hixa16 (by kernel_rfl) ?hfxa16 ?hrxa16 ?hqxa16 ?hyxa16 ?hsxa16 ?restxa16
  case hixa16 => exact rfl
  case hfxa16 => kernel_rfl
  case hrxa16 => kernel_rfl
  case hqxa16 => exact fun _ _ _ h => h
  case hsxa16 => assumption
  case hyxa16 =>
    refine Or.inl ⟨by kernel_rfl, ?_⟩
    intro w hSw
    try dsimp only at hSw
    go_simp
    try with_reducible rfl
  try simp only [Act.put, List.setIfInBounds_toArray, List.set_cons_zero, List.set_cons_succ]
  refine' wpAnyH_take (i := 17) (oi := { dst := some 29, op := _, type := _, pos := _, after := _, guard := _ }) (v := _) ?hixa17 (by kernel_rfl) ?hfxa17 ?hrxa17 ?hqxa17 ?hyxa17 ?hsxa17 ?restxa17
  case hixa17 => exact rfl
  case hfxa17 => kernel_rfl
  case hrxa17 => kernel_rfl
  case hqxa17 => exact fun _ _ _ h => h
  case hsxa17 => assumption
  case hyxa17 =>
    refine Or.inl ⟨by kernel_rfl, ?_⟩
    intro w hSw
    try dsimp only at hSw
    go_simp
    try with_reducible rfl
  try simp only [Act.put, List.setIfInBounds_toArray, List.set_cons_zero, List.set_cons_succ]
  refine' wpAnyH_take (i := 18) (oi := { dst := some 30, op := _, type := _, pos := _, after := _, guard := _ }) (v := _) ?hixa18 (by kernel_rfl) ?hfxa18 ?hrxa18 ?hqxa18 ?hyxa18 ?hsxa18 ?restxa18
  case hixa18 => exact rfl
  case hfxa18 => kernel_rfl
  case hrxa18 => kernel_rfl
  case hqxa18 => exact fun _ _ _ h => h
  case hsxa18 => assumption
  case hyxa18 =>
    refine Or.inl ⟨by kernel_rfl, ?_⟩
    intro w hSw
    try dsimp only at hSw
    go_simp
    try with_reducible rfl
  try simp only [Act.put, List.setIfInBounds_toArray, List.set_cons_zero, List.set_cons_succ]
  refine' wpAnyH_take (i := 19) (oi := { dst := some 31, op := _, type := _, pos := _, after := _, guard := _ }) (v := _) ?hixa19 (by kernel_rfl) ?hfxa19 ?hrxa19 ?hqxa19 ?hyxa19 ?hsxa19 ?restxa19
  case hixa19 => exact rfl
  case hfxa19 => kernel_rfl
  case hrxa19 => kernel_rfl
  case hqxa19 => exact fun _ _ _ h => h
  case hsxa19 => assumption
  case hyxa19 =>
    refine Or.inl ⟨by kernel_rfl, ?_⟩
    intro w hSw
    try dsimp only at hSw
    go_simp
    try with_reducible rfl
  try simp only [Act.put, List.setIfInBounds_toArray, List.set_cons_zero, List.set_cons_succ]
  refine' wpAnyH_take (i := 20) (oi := { dst := some 32, op := _, type := _, pos := _, after := _, guard := _ }) (v := _) ?hixa20 (by kernel_rfl) ?hfxa20 ?hrxa20 ?hqxa20 ?hyxa20 ?hsxa20 ?restxa20
  case hixa20 => exact rfl
  case hfxa20 => kernel_rfl
  case hrxa20 => kernel_rfl
  case hqxa20 => exact fun _ _ _ h => h
  case hsxa20 => assumption
  case hyxa20 =>
    refine Or.inl ⟨by kernel_rfl, ?_⟩
    intro w hSw
    try dsimp only at hSw
    go_simp
    try with_reducible rfl
  try simp only [Act.put, List.setIfInBounds_toArray, List.set_cons_zero, List.set_cons_succ]
  refine' wpAnyH_take (i := 21) (oi := { dst := some 33, op := _, type := _, pos := _, after := _, guard := _ }) (v := _) ?hixa21 (by kernel_rfl) ?hfxa21 ?hrxa21 ?hqxa21 ?hyxa21 ?hsxa21 ?restxa21
  case hixa21 => exact rfl
  case hfxa21 => kernel_rfl
  case hrxa21 => kernel_rfl
  case hqxa21 => exact fun _ _ _ h => h
  case hsxa21 => assumption
  case hyxa21 =>
    refine Or.inl ⟨by kernel_rfl, ?_⟩
    intro w hSw
    try dsimp only at hSw
    go_simp
    try with_reducible rfl
  try simp only [Act.put, List.setIfInBounds_toArray, List.set_cons_zero, List.set_cons_succ]
  refine' wpAnyH_take (i := 22) (oi := { dst := some 34, op := _, type := _, pos := _, after := _, guard := _ }) (v := _) ?hixa22 (by kernel_rfl) ?hfxa22 ?hrxa22 ?hqxa22 ?hyxa22 ?hsxa22 ?restxa22
  case hixa22 => exact rfl
  case hfxa22 => kernel_rfl
  case hrxa22 => kernel_rfl
  case hqxa22 => exact fun _ _ _ h => h
  case hsxa22 => assumption
  case hyxa22 =>
    refine Or.inl ⟨by kernel_rfl, ?_⟩
    intro w hSw
    try dsimp only at hSw
    go_simp
    try with_reducible rfl
  try simp only [Act.put, List.setIfInBounds_toArray, List.set_cons_zero, List.set_cons_succ]
  refine' wpAnyH_take (i := 23) (oi := { dst := some 35, op := _, type := _, pos := _, after := _, guard := _ }) (v := _) ?hixa23 (by kernel_rfl) ?hfxa23 ?hrxa23 ?hqxa23 ?hyxa23 ?hsxa23 ?restxa23
  case hixa23 => exact rfl
  case hfxa23 => kernel_rfl
  case hrxa23 => kernel_rfl
  case hqxa23 => exact fun _ _ _ h => h
  case hsxa23 => assumption
  case hyxa23 =>
    refine Or.inl ⟨by kernel_rfl, ?_⟩
    intro w hSw
    try dsimp only at hSw
    go_simp
    try with_reducible rfl
  try simp only [Act.put, List.setIfInBounds_toArray, List.set_cons_zero, List.set_cons_succ]
  refine' wpAnyH_take (i := 24) (oi := { dst := some 36, op := _, type := _, pos := _, after := _, guard := _ }) (v := _) ?hixa24 (by kernel_rfl) ?hfxa24 ?hrxa24 ?hqxa24 ?hyxa24 ?hsxa24 ?restxa24
  case hixa24 => exact rfl
  case hfxa24 => kernel_rfl
  case hrxa24 => kernel_rfl
  case hqxa24 => exact fun _ _ _ h => h
  case hsxa24 => assumption
  case hyxa24 =>
    refine Or.inl ⟨by kernel_rfl, ?_⟩
    intro w hSw
    try dsimp only at hSw
    go_simp
    try with_reducible rfl
  try simp only [Act.put, List.setIfInBounds_toArray, List.set_cons_zero, List.set_cons_succ]
  refine' wpAnyH_take (i := 25) (oi := { dst := some 37, op := _, type := _, pos := _, after := _, guard := _ }) (v := _) ?hixa25 (by kernel_rfl) ?hfxa25 ?hrxa25 ?hqxa25 ?hyxa25 ?hsxa25 ?restxa25
  case hixa25 => exact rfl
  case hfxa25 => kernel_rfl
  case hrxa25 => kernel_rfl
  case hqxa25 => exact fun _ _ _ h => h
  case hsxa25 => assumption
  case hyxa25 =>
    refine Or.inl ⟨by kernel_rfl, ?_⟩
    intro w hSw
    try dsimp only at hSw
    go_simp
    try with_reducible rfl
  try simp only [Act.put, List.setIfInBounds_toArray, List.set_cons_zero, List.set_cons_succ]
  refine' wpAnyH_take (i := 26) (oi := { dst := some 38, op := _, type := _, pos := _, after := _, guard := _ }) (v := _) ?hixa26 (by kernel_rfl) ?hfxa26 ?hrxa26 ?hqxa26 ?hyxa26 ?hsxa26 ?restxa26
  case hixa26 => exact rfl
  case hfxa26 => kernel_rfl
  case hrxa26 => kernel_rfl
  case hqxa26 => exact fun _ _ _ h => h
  case hsxa26 => assumption
  case hyxa26 =>
    refine Or.inl ⟨by kernel_rfl, ?_⟩
    intro w hSw
    try dsimp only at hSw
    go_simp
    try with_reducible rfl
  try simp only [Act.put, List.setIfInBounds_toArray, List.set_cons_zero, List.set_cons_succ]
  refine' wpAnyH_take (i := 27) (oi := { dst := some 39, op := _, type := _, pos := _, after := _, guard := _ }) (v := _) ?hixa27 (by kernel_rfl) ?hfxa27 ?hrxa27 ?hqxa27 ?hyxa27 ?hsxa27 ?restxa27
  case hixa27 => exact rfl
  case hfxa27 => kernel_rfl
  case hrxa27 => kernel_rfl
  case hqxa27 => exact fun _ _ _ h => h
  case hsxa27 => assumption
  case hyxa27 =>
    refine Or.inl ⟨by kernel_rfl, ?_⟩
    intro w hSw
    try dsimp only at hSw
    go_simp
    try with_reducible rfl
  try simp only [Act.put, List.setIfInBounds_toArray, List.set_cons_zero, List.set_cons_succ]
  refine' wpAnyH_take (i := 28) (oi := { dst := some 40, op := _, type := _, pos := _, after := _, guard := _ }) (v := _) ?hixa28 (by kernel_rfl) ?hfxa28 ?hrxa28 ?hqxa28 ?hyxa28 ?hsxa28 ?restxa28
  case hixa28 => exact rfl
  case hfxa28 => kernel_rfl
  case hrxa28 => kernel_rfl
  case hqxa28 => exact fun _ _ _ h => h
  case hsxa28 => assumption
  case hyxa28 =>
    refine Or.inl ⟨by kernel_rfl, ?_⟩
    intro w hSw
    try dsimp only at hSw
    go_simp
    try with_reducible rfl
  try simp only [Act.put, List.setIfInBounds_toArray, List.set_cons_zero, List.set_cons_succ]
  refine' wpAnyH_take (i := 29) (oi := { dst := some 41, op := _, type := _, pos := _, after := _, guard := _ }) (v := _) ?hixa29 (by kernel_rfl) ?hfxa29 ?hrxa29 ?hqxa29 ?hyxa29 ?hsxa29 ?restxa29
  case hixa29 => exact rfl
  case hfxa29 => kernel_rfl
  case hrxa29 => kernel_rfl
  case hqxa29 => exact fun _ _ _ h => h
  case hsxa29 => assumption
  case hyxa29 =>
    refine Or.inl ⟨by kernel_rfl, ?_⟩
    intro w hSw
    try dsimp only at hSw
    go_simp
    try with_reducible rfl
  try simp only [Act.put, List.setIfInBounds_toArray, List.set_cons_zero, List.set_cons_succ]
  refine' wpAnyH_take (i := 30) (oi := { dst := some 42, op := _, type := _, pos := _, after := _, guard := _ }) (v := _) ?hixa30 (by kernel_rfl) ?hfxa30 ?hrxa30 ?hqxa30 ?hyxa30 ?hsxa30 ?restxa30
  case hixa30 => exact rfl
  case hfxa30 => kernel_rfl
  case hrxa30 => kernel_rfl
  case hqxa30 => exact fun _ _ _ h => h
  case hsxa30 => assumption
  case hyxa30 =>
    refine Or.inl ⟨by kernel_rfl, ?_⟩
    intro w hSw
    try dsimp only at hSw
    go_simp
    try with_reducible rfl
  try simp only [Act.put, List.setIfInBounds_toArray, List.set_cons_zero, List.set_cons_succ]
  refine wpAnyH_done (by kernel_rfl) ?_ _
  have ho := own_ext (HO.out.alloc (.cells #[.int .i64 f, .int .i64 t, .int .i64 n] 97)) hC.1
  have hf2 := own_free ho (m * 3 + 2)
  have HO2 := Lib.hid ho
  clear ho
  go_wp2
  go_region
  go_wp2
  go_ret
  have hlr : GoodR ⟨lf, lt, ln⟩ := HG.out _ (by simp)
  have hrr := HR.out
  have hs := HS.out
  have hv := HV.out
  unfold GoodR at hlr hrr
  simp only at hlr hrr
  have hj := expR_join ⟨lf, lt, ln⟩ ⟨f, t, n⟩ (by show 0 ≤ ln; omega) (by show 0 ≤ n; omega) hs hv
  have e : (out ++ [(⟨lf, lt, ln + n⟩ : Rw)]).length = m + 1 := by simp [HM.out]
  refine ⟨_, out ++ [⟨lf, lt, ln + n⟩], rfl, ?_, ?_, ?_, by simp, ?_, .inl rfl⟩
  · rw [e]
    exact own_drewN (own_last HO2.out HM.out (ln + n)) 1
  · rw [expL_app, expL_one, expL_app, expL_one, List.append_assoc, hj]
  · intro r hr
    rcases List.mem_append.1 hr with hr | hr
    · exact HG.out r (List.mem_append.2 (.inl hr))
    · obtain rfl := List.mem_singleton.1 hr
      unfold GoodR
      simp only
      omega
  · exact (((World.grownBy_alloc w _ _).trans' (hC.1.to_grown _)).trans' (grown_set wx g _ _)).trans' ((Ext.drew (Ext.refl _)).to_grown _)
theorem add_any (r : Rw) (v : Value) (B : Nat) (out : List Rw) (w : World) (ho : w.ownsRow B 97 3 v out.length (rowCells out)) (hB : B ≤ w.heap.size) (hr : Good0 r) (hg : GoodL out) (hm : out.length ≤ 1000000000) :
    Calls Tryd.prog 56 #[v, .agg #[.int .i64 r.f, .int .i64 r.t, .int .i64 r.n]] w (AddOut w B v out (expL out ++ expR r)) := by
  obtain ⟨f, t, n⟩ := r
  by_cases h0 : n = 0
  · subst h0
    have := add_zero f t v B out w ho hg
    rwa [expR_zero ⟨f, t, 0⟩ rfl, List.append_nil]
  have hn : GoodR ⟨f, t, n⟩ := hr.good (by have := hr.2.2.2.2; simp only at this; show 1 ≤ n; omega)
  obtain ⟨a, cap, rfl, hw⟩ := own_rws ho
  rcases List.eq_nil_or_concat out with rfl | ⟨l, x, rfl⟩
  · exact add_nil f t n a cap B w ho hB hn
  · have hl : (l.concat x).length = l.length + 1 := by simp
    rw [List.concat_eq_append] at *
    rw [hl] at ho hm hw ⊢
    have ha : ∃ g, a = some ⟨g, 0, none⟩ := by
      obtain ⟨_, h | ⟨g2, cap2, cur, e, _⟩⟩ := ho
      · cases h.1
      · obtain ⟨rfl, _⟩ : a = some ⟨g2, 0, none⟩ ∧ cap = cap2 := by simpa using e
        exact ⟨_, rfl⟩
    obtain ⟨g, rfl⟩ := ha
    obtain ⟨lf, lt, ln⟩ := x
    by_cases h1 : lf + ln = f
    · by_cases h2 : lt + ln = t
      · exact add_join f t n lf lt ln g cap l.length B l w rfl ho hB hn hg (by omega) h1 h2
      · exact add_off f t n lf lt ln _ g cap l.length B l w rfl ho hB hn hg (by omega) h1 rfl (beq_false_of_ne h2)
    · exact add_far f t n lf lt ln _ g cap l.length B l w rfl ho hB hn hg (by omega) rfl (beq_false_of_ne h1)
end Go.Proofs.YtabcneomeemnpaaDoor
