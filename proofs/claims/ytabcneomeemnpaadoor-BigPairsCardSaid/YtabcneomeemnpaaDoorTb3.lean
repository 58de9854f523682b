/-
  A row put behind others (2).
-/
import Derived.Test.YtabcneomeemnpaaDoorTbA
namespace Go.Proofs.YtabcneomeemnpaaDoor
open Go Go.ChangeShapes Go.WideShapes Go.ChangeAt Go.RowKit
set_option linter.unusedSimpArgs false
set_option linter.unusedVariables false

theorem end_at (f t n s : Int) (w : World) (h : GoodR ⟨f, t, n⟩) (e : f + n = s) : Calls Tryd.prog 66 #[.agg #[.int .i64 f, .int .i64 t, .int .i64 n]] w fun e w' => e = .returned (.int .i64 s) ∧ Ext w w' := by
  subst e
  exact end_any ⟨f, t, n⟩ w h
/-- The last row of a row of rows, in memory. -/
theorem last_cells {w : World} {B g cap m : Nat} {out : List Rw} {l : Rw} (ho : w.ownsRow B 97 3 (.slice (some ⟨g, 0, none⟩) (m + 1) cap) (m + 1) (rowCells (out ++ [l]))) (hm : out.length = m) :
    w.cell? ⟨g, m * 3, none⟩ = some (.int .i64 l.f) ∧ w.cell? ⟨g, m * 3 + 1, none⟩ = some (.int .i64 l.t) ∧ w.cell? ⟨g, m * 3 + 2, none⟩ = some (.int .i64 l.n) := by
  obtain ⟨a, c, h1, h2, h3⟩ := own_rws ho
  rcases h3 with h3 | ⟨x, off, rfl, _, _, hc⟩
  · omega
  · obtain ⟨⟨rfl, rfl⟩, rfl⟩ : (g = x ∧ 0 = off) ∧ cap = c := by simpa using h1
    have := hc m l (by rw [List.getElem?_append_right (by omega), hm]; simp)
    simpa using this
theorem Keep.hold {W w : World} {cs : List (Addr × Value)} (h : Keep W cs w) : ∃ wa, wa = w ∧ Keep W cs wa := ⟨w, rfl, h⟩
set_option maxHeartbeats 2000000 in
set_option maxRecDepth 100000 in
theorem add_far (f t n lf lt ln s : Int) (g cap m : Nat) (B : Nat) (out : List Rw) (w : World) (hm : out.length = m) (ho : w.ownsRow B 97 3 (.slice (some ⟨g, 0, none⟩) (m + 1) cap) (m + 1) (rowCells (out ++ [⟨lf, lt, ln⟩]))) (hB : B ≤ w.heap.size) (hr : GoodR ⟨f, t, n⟩) (hg : GoodL (out ++ [⟨lf, lt, ln⟩])) (hm2 : m ≤ 1000000000) (hs : lf + ln = s) (hne : (s == f) = false) :
    Calls Tryd.prog 56 #[.slice (some ⟨g, 0, none⟩) (m + 1) cap, .agg #[.int .i64 f, .int .i64 t, .int .i64 n]] w (AddOut w B (.slice (some ⟨g, 0, none⟩) (m + 1) cap) (out ++ [⟨lf, lt, ln⟩]) (expL (out ++ [⟨lf, lt, ln⟩]) ++ expR ⟨f, t, n⟩)) := by
  obtain ⟨i0, hi, hz0, hz1, hz2⟩ := info_parts_row
  have HE := Lib.hid (fun w => end_at lf lt ln s w (hg _ (by simp)) hs)
  have HO := Lib.hid ho
  have HR := Lib.hid hr
  have HG := Lib.hid hg
  have HM := Lib.hid hm
  have hn0 : (n == 0) = false := by
    have := hr.2.2.2.2
    simp only at this
    exact beq_false_of_ne (by omega)
  have hw1 : IntKind.i64.wrap ((m : Int) + 1) = (m : Int) + 1 := IntWalk.i64_in _ (by omega)
  have hw2 : IntKind.i64.wrap (m : Int) = (m : Int) := IntWalk.i64_in _ (by omega)
  have hw3 : (m : Int) < (m : Int) + 1 := by omega
  have hk0 := keep_three w (.int .i64 f) (.int .i64 t) (.int .i64 n) 97
  obtain ⟨l0, l1, l2⟩ := last_cells ho hm
  have hx := (Ext.refl w).alloc (.cells #[.int .i64 f, .int .i64 t, .int .i64 n] 97)
  have hC0 : Keep (w.alloc (.cells #[.int .i64 f, .int .i64 t, .int .i64 n] 97)) [(⟨w.heap.size, 0, none⟩, .int .i64 f), (⟨w.heap.size, 1, none⟩, .int .i64 t), (⟨w.heap.size, 2, none⟩, .int .i64 n), (⟨g, m * 3, none⟩, .int .i64 lf), (⟨g, m * 3 + 1, none⟩, .int .i64 lt), (⟨g, m * 3 + 2, none⟩, .int .i64 ln)] (w.alloc (.cells #[.int .i64 f, .int .i64 t, .int .i64 n] 97)) :=
    ⟨Ext.refl _, hk0.2.1, hk0.2.2.1, hk0.2.2.2.1, cell_ext hx l0, cell_ext hx l1, cell_ext hx l2, trivial⟩
  have HC := Lib.hid hC0
  clear ho hr hg hm hk0 l0 l1 l2 hx hC0 hs
  go_enter Tryd.func56, Tryd.ntmps56
  go_wp2
  obtain ⟨wa, ha, hC1⟩ := HC.out.hold
  rw [← ha]
  clear ha
  have hC := hC1.ext (Ext.drew (Ext.refl _))
  clear hC1
  obtain ⟨b0, b1, b2, q0, q1, q2, _⟩ := hC.2
  refine wp_region_held_drew (S := (fun W' => W'.cell? ⟨w.heap.size, 0, none⟩ = some (.int .i64 f) ∧ W'.cell? ⟨g, m * 3, none⟩ = some (.int .i64 lf) ∧ W'.cell? ⟨g, m * 3 + 1, none⟩ = some (.int .i64 lt) ∧ W'.cell? ⟨g, m * 3 + 2, none⟩ = some (.int .i64 ln))) (by kernel_rfl) ?_ (fun hHeld => ?_)
  · (try dsimp only); go_keep
  refine' wpAnyH_take (i := 0) (oi := { dst := some 12, op := _, type := _, pos := _, after := _, guard := _ }) (v := _) ?hixa0 (by kernel_rfl) ?hfxa0 ?hrxa0 ?hqxa0 ?hyxa0 ?hsxa0 ?restxa0
  case hixa0 => exact rfl
  case hfxa0 => kernel_rfl
  case hrxa0 => kernel_rfl
  case hqxa0 => exact fun _ _ _ h => h
  case hsxa0 => assumption
  case hyxa0 =>
    refine Or.inl ⟨by kernel_rfl, ?_⟩
    intro w hSw
    try dsimp only at hSw
    go_simp
    try with_reducible rfl
  try simp only [Act.put, List.setIfInBounds_toArray, List.set_cons_zero, List.set_cons_succ]
  refine' wpAnyH_take (i := 1) (oi := { dst := some 13, op := _, type := _, pos := _, after := _, guard := _ }) (v := _) ?hixa1 (by kernel_rfl) ?hfxa1 ?hrxa1 ?hqxa1 ?hyxa1 ?hsxa1 ?restxa1
  case hixa1 => exact rfl
  case hfxa1 => kernel_rfl
  case hrxa1 => kernel_rfl
  case hqxa1 => exact fun _ _ _ h => h
  case hsxa1 => assumption
  case hyxa1 =>
    refine Or.inl ⟨by kernel_rfl, ?_⟩
    intro w hSw
    try dsimp only at hSw
    go_simp
    try with_reducible rfl
  try simp only [Act.put, List.setIfInBounds_toArray, List.set_cons_zero, List.set_cons_succ]
  refine' wpAnyH_take (i := 2) (oi := { dst := some 14, op := _, type := _, pos := _, after := _, guard := _ }) (v := _) ?hixa2 (by kernel_rfl) ?hfxa2 ?hrxa2 ?hqxa2 ?hyxa2 ?hsxa2 ?restxa2
  case hixa2 => exact rfl
  case hfxa2 => kernel_rfl
  case hrxa2 => kernel_rfl
  case hqxa2 => exact fun _ _ _ h => h
  case hsxa2 => assumption
  case hyxa2 =>
    refine Or.inl ⟨by kernel_rfl, ?_⟩
    intro w hSw
    try dsimp only at hSw
    go_simp
    try with_reducible rfl
  try simp only [Act.put, List.setIfInBounds_toArray, List.set_cons_zero, List.set_cons_succ]
  refine' wpAnyH_take (i := 3) (oi := { dst := some 15, op := _, type := _, pos := _, after := _, guard := _ }) (v := _) ?hixa3 (by kernel_rfl) ?hfxa3 ?hrxa3 ?hqxa3 ?hyxa3 ?hsxa3 ?restxa3
  case hixa3 => exact rfl
  case hfxa3 => kernel_rfl
  case hrxa3 => kernel_rfl
  case hqxa3 => exact fun _ _ _ h => h
  case hsxa3 => assumption
  case hyxa3 =>
    refine Or.inl ⟨by kernel_rfl, ?_⟩
    intro w hSw
    try dsimp only at hSw
    go_simp
    try with_reducible rfl
  try simp only [Act.put, List.setIfInBounds_toArray, List.set_cons_zero, List.set_cons_succ]
  refine' wpAnyH_take (i := 4) (oi := { dst := some 16, op := _, type := _, pos := _, after := _, guard := _ }) (v := _) ?hixa4 (by kernel_rfl) ?hfxa4 ?hrxa4 ?hqxa4 ?hyxa4 ?hsxa4 ?restxa4
  case hixa4 => exact rfl
  case hfxa4 => kernel_rfl
  case hrxa4 => kernel_rfl
  case hqxa4 => exact fun _ _ _ h => h
  case hsxa4 => assumption
  case hyxa4 =>
    refine Or.inl ⟨by kernel_rfl, ?_⟩
    intro w hSw
    try dsimp only at hSw
    go_simp
    try with_reducible rfl
  try simp only [Act.put, List.setIfInBounds_toArray, List.set_cons_zero, List.set_cons_succ]
  refine' wpAnyH_take (i := 5) (oi := { dst := some 17, op := _, type := _, pos := _, after := _, guard := _ }) (v := _) ?hixa5 (by kernel_rfl) ?hfxa5 ?hrxa5 ?hqxa5 ?hyxa5 ?hsxa5 ?restxa5
  case hixa5 => exact rfl
  case hfxa5 => kernel_rfl
  case hrxa5 => kernel_rfl
  case hqxa5 => exact fun _ _ _ h => h
  case hsxa5 => assumption
  case hyxa5 =>
    refine Or.inl ⟨by kernel_rfl, ?_⟩
    intro w hSw
    try dsimp only at hSw
    go_simp
    try with_reducible rfl
  try simp only [Act.put, List.setIfInBounds_toArray, List.set_cons_zero, List.set_cons_succ]
  refine' wpAnyH_take (i := 6) (oi := { dst := some 18, op := _, type := _, pos := _, after := _, guard := _ }) (v := _) ?hixa6 (by kernel_rfl) ?hfxa6 ?hrxa6 ?hqxa6 ?hyxa6 ?hsxa6 ?restxa6
  case hixa6 => exact rfl
  case hfxa6 => kernel_rfl
  case hrxa6 => kernel_rfl
  case hqxa6 => exact fun _ _ _ h => h
  case hsxa6 => assumption
  case hyxa6 =>
    refine Or.inl ⟨by kernel_rfl, ?_⟩
    intro w hSw
    try dsimp only at hSw
    go_simp
    try with_reducible rfl
  try simp only [Act.put, List.setIfInBounds_toArray, List.set_cons_zero, List.set_cons_succ]
  refine' wpAnyH_take (i := 7) (oi := { dst := some 19, op := _, type := _, pos := _, after := _, guard := _ }) (v := _) ?hixa7 (by kernel_rfl) ?hfxa7 ?hrxa7 ?hqxa7 ?hyxa7 ?hsxa7 ?restxa7
  case hixa7 => exact rfl
  case hfxa7 => kernel_rfl
  case hrxa7 => kernel_rfl
  case hqxa7 => exact fun _ _ _ h => h
  case hsxa7 => assumption
  case hyxa7 =>
    refine Or.inl ⟨by kernel_rfl, ?_⟩
    intro w hSw
    try dsimp only at hSw
    go_simp
    try with_reducible rfl
  try simp only [Act.put, List.setIfInBounds_toArray, List.set_cons_zero, List.set_cons_succ]
  refine' wpAnyH_take (i := 9) (oi := { dst := some 21, op := _, type := _, pos := _, after := _, guard := _ }) (v := _) ?hixa9 (by kernel_rfl) ?hfxa9 ?hrxa9 ?hqxa9 ?hyxa9 ?hsxa9 ?restxa9
  case hixa9 => exact rfl
  case hfxa9 => kernel_rfl
  case hrxa9 => kernel_rfl
  case hqxa9 => exact fun _ _ _ h => h
  case hsxa9 => assumption
  case hyxa9 =>
    refine Or.inl ⟨by kernel_rfl, ?_⟩
    intro w hSw
    try dsimp only at hSw
    go_simp
    try with_reducible rfl
  try simp only [Act.put, List.setIfInBounds_toArray, List.set_cons_zero, List.set_cons_succ]
  refine' wpAnyH_take (i := 10) (oi := { dst := some 22, op := _, type := _, pos := _, after := _, guard := _ }) (v := _) ?hixa10 (by kernel_rfl) ?hfxa10 ?hrxa10 ?hqxa10 ?hyxa10 ?hsxa10 ?restxa10
  case hixa10 => exact rfl
  case hfxa10 => kernel_rfl
  case hrxa10 => kernel_rfl
  case hqxa10 => exact fun _ _ _ h => h
  case hsxa10 => assumption
  case hyxa10 =>
    refine Or.inl ⟨by kernel_rfl, ?_⟩
    intro w hSw
    try dsimp only at hSw
    go_simp
    try with_reducible rfl
  try simp only [Act.put, List.setIfInBounds_toArray, List.set_cons_zero, List.set_cons_succ]
  refine wpAnyH_ready (rs := [8]) (by kernel_rfl) (by simp) ?_
  refine' AllReadyH.cons (o := _) ?hixa8 (fun K hK => ?hk0xa8) AllReadyH.nil
  case hixa8 => exact rfl
  go_simp
  go_at_call 66
  refine (HE.out _).mono ?_
  rintro e wx ⟨rfl, hbx⟩
  have hC' := hC.ext hbx
  clear hC hbx
  have hC := hC'
  clear hC'
  clear b0 b1 b2 q0 q1 q2
  obtain ⟨b0, b1, b2, q0, q1, q2, _⟩ := hC.2
  try go_wp2_with fail
  refine hK.out _ _ ?hS0xa8 (fun hHeld => ?restxa8)
  case hS0xa8 => (try dsimp only); go_keep
  clear hK K
  try simp only [Act.put, List.setIfInBounds_toArray, List.set_cons_zero, List.set_cons_succ]
  refine' wpAnyH_take (i := 11) (oi := { dst := some 23, op := _, type := _, pos := _, after := _, guard := _ }) (v := _) ?hixa11 (by kernel_rfl) ?hfxa11 ?hrxa11 ?hqxa11 ?hyxa11 ?hsxa11 ?restxa11
  case hixa11 => exact rfl
  case hfxa11 => kernel_rfl
  case hrxa11 => kernel_rfl
  case hqxa11 => exact fun _ _ _ h => h
  case hsxa11 => assumption
  case hyxa11 =>
    refine Or.inl ⟨by kernel_rfl, ?_⟩
    intro w hSw
    try dsimp only at hSw
    go_simp
    try with_reducible rfl
  try simp only [Act.put, List.setIfInBounds_toArray, List.set_cons_zero, List.set_cons_succ]
  refine' wpAnyH_take (i := 12) (oi := { dst := some 24, op := _, type := _, pos := _, after := _, guard := _ }) (v := _) ?hixa12 (by kernel_rfl) ?hfxa12 ?hrxa12 ?hqxa12 ?hyxa12 ?hsxa12 ?restxa12
  case hixa12 => exact rfl
  case hfxa12 => kernel_rfl
  case hrxa12 => kernel_rfl
  case hqxa12 => exact fun _ _ _ h => h
  case hsxa12 => assumption
  case hyxa12 =>
    refine Or.inl ⟨by kernel_rfl, ?_⟩
    intro w hSw
    try dsimp only at hSw
    go_simp
    try with_reducible rfl
  try simp only [Act.put, List.setIfInBounds_toArray, List.set_cons_zero, List.set_cons_succ]
  refine' wpAnyH_take (i := 13) (oi := { dst := some 25, op := _, type := _, pos := _, after := _, guard := _ }) (v := _) ?hixa13 (by kernel_rfl) ?hfxa13 ?hrxa13 ?hqxa13 ?hyxa13 ?hsxa13 ?restxa13
  case hixa13 => exact rfl
  case hfxa13 => kernel_rfl
  case hrxa13 => kernel_rfl
  case hqxa13 => exact fun _ _ _ h => h
  case hsxa13 => assumption
  case hyxa13 =>
    refine Or.inl ⟨by kernel_rfl, ?_⟩
    intro w hSw
    try dsimp only at hSw
    go_simp
    try with_reducible rfl
  try simp only [Act.put, List.setIfInBounds_toArray, List.set_cons_zero, List.set_cons_succ]
  refine' wpAnyH_take (i := 14) (oi := { dst := some 26, op := _, type := _, pos := _, after := _, guard := _ }) (v := undef) ?hixa14 (by kernel_rfl) ?hfxa14 ?hrxa14 ?hqxa14 ?hyxa14 ?hsxa14 ?restxa14
  case hixa14 => exact rfl
  case hfxa14 => kernel_rfl
  case hrxa14 => kernel_rfl
  case hqxa14 => exact fun _ _ _ h => h
  case hsxa14 => assumption
  case hyxa14 => exact Or.inr ⟨by kernel_rfl, rfl⟩
  try simp only [Act.put, List.setIfInBounds_toArray, List.set_cons_zero, List.set_cons_succ]
  refine' wpAnyH_take (i := 15) (oi := { dst := some 27, op := _, type := _, pos := _, after := _, guard := _ }) (v := undef) ?hixa15 (by kernel_rfl) ?hfxa15 ?hrxa15 ?hqxa15 ?hyxa15 ?hsxa15 ?restxa15
  case hixa15 => exact rfl
  case hfxa15 => kernel_rfl
  case hrxa15 => kernel_rfl
  case hqxa15 => exact fun _ _ _ h => h
  case hsxa15 => assumption
  case hyxa15 => exact Or.inr ⟨by kernel_rfl, rfl⟩
  try simp only [Act.put, List.setIfInBounds_toArray, List.set_cons_zero, List.set_cons_succ]
  refine' wpAnyH_take (i := 16) (oi := { dst := some 28, op := _, type := _, pos := _, after := _, guard := _ }) (v := undef) ?hixa16 (by kernel_rfl) ?hfxa16 ?hrxa16 ?hqxa16 ?hyxa16 ?hsxa16 ?restxa16
  case hixa16 => exact rfl
  case hfxa16 => kernel_rfl
  case hrxa16 => kernel_rfl
  case hqxa16 => exact fun _ _ _ h => h
  case hsxa16 => assumption
  case hyxa16 => exact Or.inr ⟨by kernel_rfl, rfl⟩
  try simp only [Act.put, List.setIfInBounds_toArray, List.set_cons_zero, List.set_cons_succ]
  refine' wpAnyH_take (i := 17) (oi := { dst := some 29, op := _, type := _, pos := _, after := _, guard := _ }) (v := undef) ?hixa17 (by kernel_rfl) ?hfxa17 ?hrxa17 ?hqxa17 ?hyxa17 ?hsxa17 ?restxa17
  case hixa17 => exact rfl
  case hfxa17 => kernel_rfl
  case hrxa17 => kernel_rfl
  case hqxa17 => exact fun _ _ _ h => h
  case hsxa17 => assumption
  case hyxa17 => exact Or.inr ⟨by kernel_rfl, rfl⟩
  try simp only [Act.put, List.setIfInBounds_toArray, List.set_cons_zero, List.set_cons_succ]
  refine' wpAnyH_take (i := 18) (oi := { dst := some 30, op := _, type := _, pos := _, after := _, guard := _ }) (v := undef) ?hixa18 (by kernel_rfl) ?hfxa18 ?hrxa18 ?hqxa18 ?hyxa18 ?hsxa18 ?restxa18
  case hixa18 => exact rfl
  case hfxa18 => kernel_rfl
  case hrxa18 => kernel_rfl
  case hqxa18 => exact fun _ _ _ h => h
  case hsxa18 => assumption
  case hyxa18 => exact Or.inr ⟨by kernel_rfl, rfl⟩
  try simp only [Act.put, List.setIfInBounds_toArray, List.set_cons_zero, List.set_cons_succ]
  refine' wpAnyH_take (i := 19) (oi := { dst := some 31, op := _, type := _, pos := _, after := _, guard := _ }) (v := undef) ?hixa19 (by kernel_rfl) ?hfxa19 ?hrxa19 ?hqxa19 ?hyxa19 ?hsxa19 ?restxa19
  case hixa19 => exact rfl
  case hfxa19 => kernel_rfl
  case hrxa19 => kernel_rfl
  case hqxa19 => exact fun _ _ _ h => h
  case hsxa19 => assumption
  case hyxa19 => exact Or.inr ⟨by kernel_rfl, rfl⟩
  try simp only [Act.put, List.setIfInBounds_toArray, List.set_cons_zero, List.set_cons_succ]
  refine' wpAnyH_take (i := 20) (oi := { dst := some 32, op := _, type := _, pos := _, after := _, guard := _ }) (v := undef) ?hixa20 (by kernel_rfl) ?hfxa20 ?hrxa20 ?hqxa20 ?hyxa20 ?hsxa20 ?restxa20
  case hixa20 => exact rfl
  case hfxa20 => kernel_rfl
  case hrxa20 => kernel_rfl
  case hqxa20 => exact fun _ _ _ h => h
  case hsxa20 => assumption
  case hyxa20 => exact Or.inr ⟨by kernel_rfl, rfl⟩
  try simp only [Act.put, List.setIfInBounds_toArray, List.set_cons_zero, List.set_cons_succ]
  refine' wpAnyH_take (i := 21) (oi := { dst := some 33, op := _, type := _, pos := _, after := _, guard := _ }) (v := undef) ?hixa21 (by kernel_rfl) ?hfxa21 ?hrxa21 ?hqxa21 ?hyxa21 ?hsxa21 ?restxa21
  case hixa21 => exact rfl
  case hfxa21 => kernel_rfl
  case hrxa21 => kernel_rfl
  case hqxa21 => exact fun _ _ _ h => h
  case hsxa21 => assumption
  case hyxa21 => exact Or.inr ⟨by kernel_rfl, rfl⟩
  try simp only [Act.put, List.setIfInBounds_toArray, List.set_cons_zero, List.set_cons_succ]
  refine' wpAnyH_take (i := 22) (oi := { dst := some 34, op := _, type := _, pos := _, after := _, guard := _ }) (v := undef) ?hixa22 (by kernel_rfl) ?hfxa22 ?hrxa22 ?hqxa22 ?hyxa22 ?hsxa22 ?restxa22
  case hixa22 => exact rfl
  case hfxa22 => kernel_rfl
  case hrxa22 => kernel_rfl
  case hqxa22 => exact fun _ _ _ h => h
  case hsxa22 => assumption
  case hyxa22 => exact Or.inr ⟨by kernel_rfl, rfl⟩
  try simp only [Act.put, List.setIfInBounds_toArray, List.set_cons_zero, List.set_cons_succ]
  refine' wpAnyH_take (i := 23) (oi := { dst := some 35, op := _, type := _, pos := _, after := _, guard := _ }) (v := undef) ?hixa23 (by kernel_rfl) ?hfxa23 ?hrxa23 ?hqxa23 ?hyxa23 ?hsxa23 ?restxa23
  case hixa23 => exact rfl
  case hfxa23 => kernel_rfl
  case hrxa23 => kernel_rfl
  case hqxa23 => exact fun _ _ _ h => h
  case hsxa23 => assumption
  case hyxa23 => exact Or.inr ⟨by kernel_rfl, rfl⟩
  try simp only [Act.put, List.setIfInBounds_toArray, List.set_cons_zero, List.set_cons_succ]
  refine' wpAnyH_take (i := 24) (oi := { dst := some 36, op := _, type := _, pos := _, after := _, guard := _ }) (v := undef) ?hixa24 (by kernel_rfl) ?hfxa24 ?hrxa24 ?hqxa24 ?hyxa24 ?hsxa24 ?restxa24
  case hixa24 => exact rfl
  case hfxa24 => kernel_rfl
  case hrxa24 => kernel_rfl
  case hqxa24 => exact fun _ _ _ h => h
  case hsxa24 => assumption
  case hyxa24 => exact Or.inr ⟨by kernel_rfl, rfl⟩
  try simp only [Act.put, List.setIfInBounds_toArray, List.set_cons_zero, List.set_cons_succ]
  refine' wpAnyH_take (i := 25) (oi := { dst := some 37, op := _, type := _, pos := _, after := _, guard := _ }) (v := undef) ?hixa25 (by kernel_rfl) ?hfxa25 ?hrxa25 ?hqxa25 ?hyxa25 ?hsxa25 ?restxa25
  case hixa25 => exact rfl
  case hfxa25 => kernel_rfl
  case hrxa25 => kernel_rfl
  case hqxa25 => exact fun _ _ _ h => h
  case hsxa25 => assumption
  case hyxa25 => exact Or.inr ⟨by kernel_rfl, rfl⟩
  try simp only [Act.put, List.setIfInBounds_toArray, List.set_cons_zero, List.set_cons_succ]
  refine' wpAnyH_take (i := 26) (oi := { dst := some 38, op := _, type := _, pos := _, after := _, guard := _ }) (v := undef) ?hixa26 (by kernel_rfl) ?hfxa26 ?hrxa26 ?hqxa26 ?hyxa26 ?hsxa26 ?restxa26
  case hixa26 => exact rfl
  case hfxa26 => kernel_rfl
  case hrxa26 => kernel_rfl
  case hqxa26 => exact fun _ _ _ h => h
  case hsxa26 => assumption
  case hyxa26 => exact Or.inr ⟨by kernel_rfl, rfl⟩
  try simp only [Act.put, List.setIfInBounds_toArray, List.set_cons_zero, List.set_cons_succ]
  refine' wpAnyH_take (i := 27) (oi := { dst := some 39, op := _, type := _, pos := _, after := _, guard := _ }) (v := undef) ?hixa27 (by kernel_rfl) ?hfxa27 ?hrxa27 ?hqxa27 ?hyxa27 ?hsxa27 ?restxa27
  case hixa27 => exact rfl
  case hfxa27 => kernel_rfl
  case hrxa27 => kernel_rfl
  case hqxa27 => exact fun _ _ _ h => h
  case hsxa27 => assumption
  case hyxa27 => exact Or.inr ⟨by kernel_rfl, rfl⟩
  try simp only [Act.put, List.setIfInBounds_toArray, List.set_cons_zero, List.set_cons_succ]
  refine' wpAnyH_take (i := 28) (oi := { dst := some 40, op := _, type := _, pos := _, after := _, guard := _ }) (v := undef) ?hixa28 (by kernel_rfl) ?hfxa28 ?hrxa28 ?hqxa28 ?hyxa28 ?hsxa28 ?restxa28
  case hixa28 => exact rfl
  case hfxa28 => kernel_rfl
  case hrxa28 => kernel_rfl
  case hqxa28 => exact fun _ _ _ h => h
  case hsxa28 => assumption
  case hyxa28 => exact Or.inr ⟨by kernel_rfl, rfl⟩
  try simp only [Act.put, List.setIfInBounds_toArray, List.set_cons_zero, List.set_cons_succ]
  refine' wpAnyH_take (i := 29) (oi := { dst := some 41, op := _, type := _, pos := _, after := _, guard := _ }) (v := undef) ?hixa29 (by kernel_rfl) ?hfxa29 ?hrxa29 ?hqxa29 ?hyxa29 ?hsxa29 ?restxa29
  case hixa29 => exact rfl
  case hfxa29 => kernel_rfl
  case hrxa29 => kernel_rfl
  case hqxa29 => exact fun _ _ _ h => h
  case hsxa29 => assumption
  case hyxa29 => exact Or.inr ⟨by kernel_rfl, rfl⟩
  try simp only [Act.put, List.setIfInBounds_toArray, List.set_cons_zero, List.set_cons_succ]
  refine' wpAnyH_take (i := 30) (oi := { dst := some 42, op := _, type := _, pos := _, after := _, guard := _ }) (v := _) ?hixa30 (by kernel_rfl) ?hfxa30 ?hrxa30 ?hqxa30 ?hyxa30 ?hsxa30 ?restxa30
  case hixa30 => exact rfl
  case hfxa30 => kernel_rfl
  case hrxa30 => kernel_rfl
  case hqxa30 => exact fun _ _ _ h => h
  case hsxa30 => assumption
  case hyxa30 =>
    refine Or.inl ⟨by kernel_rfl, ?_⟩
    intro w hSw
    try dsimp only at hSw
    go_simp
    try with_reducible rfl
  try simp only [Act.put, List.setIfInBounds_toArray, List.set_cons_zero, List.set_cons_succ]
  refine wpAnyH_done (by kernel_rfl) ?_ _
  have ho := own_ext (HO.out.alloc (.cells #[.int .i64 f, .int .i64 t, .int .i64 n] 97)) hC.1
  have hle : w.heap.size + 1 ≤ wx.heap.size := by have := hC.1.size; simpa using this
  go_wp2_with ((at_builtin; refine wpList_append_fresh _ rfl _ _ 77 rfl (B) 97 i0 (.agg #[.int .i64 0, .int .i64 0, .int .i64 0]) 3 24 Tryd.underlying77 hi hz0 hz1 hz2 rfl (by decide) _ _ _ rfl (ho.alloc _) ⟨wx.heap.size, 0, none⟩ 1 1 [.int .i64 f, .int .i64 t, .int .i64 n] rfl rfl (cell_three_new _ _ _ _ _) (fun x hx => by simp at hx; rcases hx with rfl | rfl | rfl <;> rfl) (by unfold maxLen; omega) (by omega) (by simp; omega) ?_; intro v5 w5 hown5 hgrow5 hfresh5))
  go_ret
  refine ⟨v5, out ++ [⟨lf, lt, ln⟩] ++ [⟨f, t, n⟩], rfl, ?_, by rw [expL_app, expL_one], HG.out.app (GoodL.one HR.out), by simp, ?_, ?_⟩
  · rw [rowCells_app, rowCells_one]
    have e : (out ++ [(⟨lf, lt, ln⟩ : Rw)] ++ [(⟨f, t, n⟩ : Rw)]).length = m + 1 + 1 := by simp [HM.out]
    rw [e]
    exact hown5
  · exact grown_trans (((World.grownBy_alloc w _ _).trans' (hC.1.to_grown _)).trans' (World.grownBy_alloc wx _ _)) hgrow5 (.inl rfl)
  · rcases hfresh5 with h | h
    · exact .inl h
    · exact .inr ⟨_, h, by simp; omega⟩
set_option maxHeartbeats 2000000 in
set_option maxRecDepth 100000 in
theorem add_off (f t n lf lt ln v : Int) (g cap m : Nat) (B : Nat) (out : List Rw) (w : World) (hm : out.length = m) (ho : w.ownsRow B 97 3 (.slice (some ⟨g, 0, none⟩) (m + 1) cap) (m + 1) (rowCells (out ++ [⟨lf, lt, ln⟩]))) (hB : B ≤ w.heap.size) (hr : GoodR ⟨f, t, n⟩) (hg : GoodL (out ++ [⟨lf, lt, ln⟩])) (hm2 : m ≤ 1000000000) (hs : lf + ln = f) (hv : lt + ln = v) (hne : (v == t) = false) :
    Calls Tryd.prog 56 #[.slice (some ⟨g, 0, none⟩) (m + 1) cap, .agg #[.int .i64 f, .int .i64 t, .int .i64 n]] w (AddOut w B (.slice (some ⟨g, 0, none⟩) (m + 1) cap) (out ++ [⟨lf, lt, ln⟩]) (expL (out ++ [⟨lf, lt, ln⟩]) ++ expR ⟨f, t, n⟩)) := by
  have hb := hg (⟨lf, lt, ln⟩ : Rw) (by simp)
  unfold GoodR at hb
  simp only at hb
  have hw4 : IntKind.i64.wrap (lt + ln) = v := by rw [IntWalk.i64_in _ (by omega)]; exact hv
  obtain ⟨i0, hi, hz0, hz1, hz2⟩ := info_parts_row
  have HE := Lib.hid (fun w => end_at lf lt ln f w (hg _ (by simp)) hs)
  have HO := Lib.hid ho
  have HR := Lib.hid hr
  have HG := Lib.hid hg
  have HM := Lib.hid hm
  have hn0 : (n == 0) = false := by
    have := hr.2.2.2.2
    simp only at this
    exact beq_false_of_ne (by omega)
  have hw1 : IntKind.i64.wrap ((m : Int) + 1) = (m : Int) + 1 := IntWalk.i64_in _ (by omega)
  have hw2 : IntKind.i64.wrap (m : Int) = (m : Int) := IntWalk.i64_in _ (by omega)
  have hw3 : (m : Int) < (m : Int) + 1 := by omega
  have hk0 := keep_three w (.int .i64 f) (.int .i64 t) (.int .i64 n) 97
  obtain ⟨l0, l1, l2⟩ := last_cells ho hm
  have hx := (Ext.refl w).alloc (.cells #[.int .i64 f, .int .i64 t, .int .i64 n] 97)
  have hC0 : Keep (w.alloc (.cells #[.int .i64 f, .int .i64 t, .int .i64 n] 97)) [(⟨w.heap.size, 0, none⟩, .int .i64 f), (⟨w.heap.size, 1, none⟩, .int .i64 t), (⟨w.heap.size, 2, none⟩, .int .i64 n), (⟨g, m * 3, none⟩, .int .i64 lf), (⟨g, m * 3 + 1, none⟩, .int .i64 lt), (⟨g, m * 3 + 2, none⟩, .int .i64 ln)] (w.alloc (.cells #[.int .i64 f, .int .i64 t, .int .i64 n] 97)) :=
    ⟨Ext.refl _, hk0.2.1, hk0.2.2.1, hk0.2.2.2.1, cell_ext hx l0, cell_ext hx l1, cell_ext hx l2, trivial⟩
  have HC := Lib.hid hC0
  clear hb hv ho hr hg hm hk0 l0 l1 l2 hx hC0 hs
  go_enter Tryd.func56, Tryd.ntmps56
  go_wp2
  obtain ⟨wa, ha, hC1⟩ := HC.out.hold
  rw [← ha]
  clear ha
  have hC := hC1.ext (Ext.drew (Ext.refl _))
  clear hC1
  obtain ⟨b0, b1, b2, q0, q1, q2, _⟩ := hC.2
  refine wp_region_held_drew (S := (fun W' => W'.cell? ⟨w.heap.size, 0, none⟩ = some (.int .i64 f) ∧ W'.cell? ⟨w.heap.size, 1, none⟩ = some (.int .i64 t) ∧ W'.cell? ⟨g, m * 3, none⟩ = some (.int .i64 lf) ∧ W'.cell? ⟨g, m * 3 + 1, none⟩ = some (.int .i64 lt) ∧ W'.cell? ⟨g, m * 3 + 2, none⟩ = some (.int .i64 ln))) (by kernel_rfl) ?_ (fun hHeld => ?_)
  · (try dsimp only); go_keep
  refine' wpAnyH_take (i := 0) (oi := { dst := some 12, op := _, type := _, pos := _, after := _, guard := _ }) (v := _) ?hixb0 (by kernel_rfl) ?hfxb0 ?hrxb0 ?hqxb0 ?hyxb0 ?hsxb0 ?restxb0
  case hixb0 => exact rfl
  case hfxb0 => kernel_rfl
  case hrxb0 => kernel_rfl
  case hqxb0 => exact fun _ _ _ h => h
  case hsxb0 => assumption
  case hyxb0 =>
    refine Or.inl ⟨by kernel_rfl, ?_⟩
    intro w hSw
    try dsimp only at hSw
    go_simp
    try with_reducible rfl
  try simp only [Act.put, List.setIfInBounds_toArray, List.set_cons_zero, List.set_cons_succ]
  refine' wpAnyH_take (i := 1) (oi := { dst := some 13, op := _, type := _, pos := _, after := _, guard := _ }) (v := _) ?hixb1 (by kernel_rfl) ?hfxb1 ?hrxb1 ?hqxb1 ?hyxb1 ?hsxb1 ?restxb1
  case hixb1 => exact rfl
  case hfxb1 => kernel_rfl
  case hrxb1 => kernel_rfl
  case hqxb1 => exact fun _ _ _ h => h
  case hsxb1 => assumption
  case hyxb1 =>
    refine Or.inl ⟨by kernel_rfl, ?_⟩
    intro w hSw
    try dsimp only at hSw
    go_simp
    try with_reducible rfl
  try simp only [Act.put, List.setIfInBounds_toArray, List.set_cons_zero, List.set_cons_succ]
  refine' wpAnyH_take (i := 2) (oi := { dst := some 14, op := _, type := _, pos := _, after := _, guard := _ }) (v := _) ?hixb2 (by kernel_rfl) ?hfxb2 ?hrxb2 ?hqxb2 ?hyxb2 ?hsxb2 ?restxb2
  case hixb2 => exact rfl
  case hfxb2 => kernel_rfl
  case hrxb2 => kernel_rfl
  case hqxb2 => exact fun _ _ _ h => h
  case hsxb2 => assumption
  case hyxb2 =>
    refine Or.inl ⟨by kernel_rfl, ?_⟩
    intro w hSw
    try dsimp only at hSw
    go_simp
    try with_reducible rfl
  try simp only [Act.put, List.setIfInBounds_toArray, List.set_cons_zero, List.set_cons_succ]
  refine' wpAnyH_take (i := 3) (oi := { dst := some 15, op := _, type := _, pos := _, after := _, guard := _ }) (v := _) ?hixb3 (by kernel_rfl) ?hfxb3 ?hrxb3 ?hqxb3 ?hyxb3 ?hsxb3 ?restxb3
  case hixb3 => exact rfl
  case hfxb3 => kernel_rfl
  case hrxb3 => kernel_rfl
  case hqxb3 => exact fun _ _ _ h => h
  case hsxb3 => assumption
  case hyxb3 =>
    refine Or.inl ⟨by kernel_rfl, ?_⟩
    intro w hSw
    try dsimp only at hSw
    go_simp
    try with_reducible rfl
  try simp only [Act.put, List.setIfInBounds_toArray, List.set_cons_zero, List.set_cons_succ]
  refine' wpAnyH_take (i := 4) (oi := { dst := some 16, op := _, type := _, pos := _, after := _, guard := _ }) (v := _) ?hixb4 (by kernel_rfl) ?hfxb4 ?hrxb4 ?hqxb4 ?hyxb4 ?hsxb4 ?restxb4
  case hixb4 => exact rfl
  case hfxb4 => kernel_rfl
  case hrxb4 => kernel_rfl
  case hqxb4 => exact fun _ _ _ h => h
  case hsxb4 => assumption
  case hyxb4 =>
    refine Or.inl ⟨by kernel_rfl, ?_⟩
    intro w hSw
    try dsimp only at hSw
    go_simp
    try with_reducible rfl
  try simp only [Act.put, List.setIfInBounds_toArray, List.set_cons_zero, List.set_cons_succ]
  refine' wpAnyH_take (i := 5) (oi := { dst := some 17, op := _, type := _, pos := _, after := _, guard := _ }) (v := _) ?hixb5 (by kernel_rfl) ?hfxb5 ?hrxb5 ?hqxb5 ?hyxb5 ?hsxb5 ?restxb5
  case hixb5 => exact rfl
  case hfxb5 => kernel_rfl
  case hrxb5 => kernel_rfl
  case hqxb5 => exact fun _ _ _ h => h
  case hsxb5 => assumption
  case hyxb5 =>
    refine Or.inl ⟨by kernel_rfl, ?_⟩
    intro w hSw
    try dsimp only at hSw
    go_simp
    try with_reducible rfl
  try simp only [Act.put, List.setIfInBounds_toArray, List.set_cons_zero, List.set_cons_succ]
  refine' wpAnyH_take (i := 6) (oi := { dst := some 18, op := _, type := _, pos := _, after := _, guard := _ }) (v := _) ?hixb6 (by kernel_rfl) ?hfxb6 ?hrxb6 ?hqxb6 ?hyxb6 ?hsxb6 ?restxb6
  case hixb6 => exact rfl
  case hfxb6 => kernel_rfl
  case hrxb6 => kernel_rfl
  case hqxb6 => exact fun _ _ _ h => h
  case hsxb6 => assumption
  case hyxb6 =>
    refine Or.inl ⟨by kernel_rfl, ?_⟩
    intro w hSw
    try dsimp only at hSw
    go_simp
    try with_reducible rfl
  try simp only [Act.put, List.setIfInBounds_toArray, List.set_cons_zero, List.set_cons_succ]
  refine' wpAnyH_take (i := 7) (oi := { dst := some 19, op := _, type := _, pos := _, after := _, guard := _ }) (v := _) ?hixb7 (by kernel_rfl) ?hfxb7 ?hrxb7 ?hqxb7 ?hyxb7 ?hsxb7 ?restxb7
  case hixb7 => exact rfl
  case hfxb7 => kernel_rfl
  case hrxb7 => kernel_rfl
  case hqxb7 => exact fun _ _ _ h => h
  case hsxb7 => assumption
  case hyxb7 =>
    refine Or.inl ⟨by kernel_rfl, ?_⟩
    intro w hSw
    try dsimp only at hSw
    go_simp
    try with_reducible rfl
  try simp only [Act.put, List.setIfInBounds_toArray, List.set_cons_zero, List.set_cons_succ]
  refine' wpAnyH_take (i := 9) (oi := { dst := some 21, op := _, type := _, pos := _, after := _, guard := _ }) (v := _) ?hixb9 (by kernel_rfl) ?hfxb9 ?hrxb9 ?hqxb9 ?hyxb9 ?hsxb9 ?restxb9
  case hixb9 => exact rfl
  case hfxb9 => kernel_rfl
  case hrxb9 => kernel_rfl
  case hqxb9 => exact fun _ _ _ h => h
  case hsxb9 => assumption
  case hyxb9 =>
    refine Or.inl ⟨by kernel_rfl, ?_⟩
    intro w hSw
    try dsimp only at hSw
    go_simp
    try with_reducible rfl
  try simp only [Act.put, List.setIfInBounds_toArray, List.set_cons_zero, List.set_cons_succ]
  refine' wpAnyH_take (i := 10) (oi := { dst := some 22, op := _, type := _, pos := _, after := _, guard := _ }) (v := _) ?hixb10 (by kernel_rfl) ?hfxb10 ?hrxb10 ?hqxb10 ?hyxb10 ?hsxb10 ?restxb10
  case hixb10 => exact rfl
  case hfxb10 => kernel_rfl
  case hrxb10 => kernel_rfl
  case hqxb10 => exact fun _ _ _ h => h
  case hsxb10 => assumption
  case hyxb10 =>
    refine Or.inl ⟨by kernel_rfl, ?_⟩
    intro w hSw
    try dsimp only at hSw
    go_simp
    try with_reducible rfl
  try simp only [Act.put, List.setIfInBounds_toArray, List.set_cons_zero, List.set_cons_succ]
  refine wpAnyH_ready (rs := [8]) (by kernel_rfl) (by simp) ?_
  refine' AllReadyH.cons (o := _) ?hixb8 (fun K hK => ?hk0xb8) AllReadyH.nil
  case hixb8 => exact rfl
  go_simp
  go_at_call 66
  refine (HE.out _).mono ?_
  rintro e wx ⟨rfl, hbx⟩
  have hC' := hC.ext hbx
  clear hC hbx
  have hC := hC'
  clear hC'
  clear b0 b1 b2 q0 q1 q2
  obtain ⟨b0, b1, b2, q0, q1, q2, _⟩ := hC.2
  try go_wp2_with fail
  refine hK.out _ _ ?hS0xb8 (fun hHeld => ?restxb8)
  case hS0xb8 => (try dsimp only); go_keep
  clear hK K
  try simp only [Act.put, List.setIfInBounds_toArray, List.set_cons_zero, List.set_cons_succ]
  refine' wpAnyH_take (i := 11) (oi := { dst := some 23, op := _, type := _, pos := _, after := _, guard := _ }) (v := _) ?hixb11 (by kernel_rfl) ?hfxb11 ?hrxb11 ?hqxb11 ?hyxb11 ?hsxb11 ?restxb11
  case hixb11 => exact rfl
  case hfxb11 => kernel_rfl
  case hrxb11 => kernel_rfl
  case hqxb11 => exact fun _ _ _ h => h
  case hsxb11 => assumption
  case hyxb11 =>
    refine Or.inl ⟨by kernel_rfl, ?_⟩
    intro w hSw
    try dsimp only at hSw
    go_simp
    try with_reducible rfl
  try simp only [Act.put, List.setIfInBounds_toArray, List.set_cons_zero, List.set_cons_succ]
  refine' wpAnyH_take (i := 12) (oi := { dst := some 24, op := _, type := _, pos := _, after := _, guard := _ }) (v := _) ?hixb12 (by kernel_rfl) ?hfxb12 ?hrxb12 ?hqxb12 ?hyxb12 ?hsxb12 ?restxb12
  case hixb12 => exact rfl
  case hfxb12 => kernel_rfl
  case hrxb12 => kernel_rfl
  case hqxb12 => exact fun _ _ _ h => h
  case hsxb12 => assumption
  case hyxb12 =>
    refine Or.inl ⟨by kernel_rfl, ?_⟩
    intro w hSw
    try dsimp only at hSw
    go_simp
    try with_reducible rfl
  try simp only [Act.put, List.setIfInBounds_toArray, List.set_cons_zero, List.set_cons_succ]
  refine' wpAnyH_take (i := 13) (oi := { dst := some 25, op := _, type := _, pos := _, after := _, guard := _ }) (v := _) ?hixb13 (by kernel_rfl) ?hfxb13 ?hrxb13 ?hqxb13 ?hyxb13 ?hsxb13 ?restxb13
  case hixb13 => exact rfl
  case hfxb13 => kernel_rfl
  case hrxb13 => kernel_rfl
  case hqxb13 => exact fun _ _ _ h => h
  case hsxb13 => assumption
  case hyxb13 =>
    refine Or.inl ⟨by kernel_rfl, ?_⟩
    intro w hSw
    try dsimp only at hSw
    go_simp
    try with_reducible rfl
  try simp only [Act.put, List.setIfInBounds_toArray, List.set_cons_zero, List.set_cons_succ]
  refine' wpAnyH_take (i := 14) (oi := { dst := some 26, op := _, type := _, pos := _, after := _, guard := _ }) (v := _) ?hixb14 (by kernel_rfl) ?hfxb14 ?hrxb14 ?hqxb14 ?hyxb14 ?hsxb14 ?restxb14
  case hixb14 => exact rfl
  case hfxb14 => kernel_rfl
  case hrxb14 => kernel_rfl
  case hqxb14 => exact fun _ _ _ h => h
  case hsxb14 => assumption
  case hyxb14 =>
    refine Or.inl ⟨by kernel_rfl, ?_⟩
    intro w hSw
    try dsimp only at hSw
    go_simp
    try with_reducible rfl
  try simp only [Act.put, List.setIfInBounds_toArray, List.set_cons_zero, List.set_cons_succ]
  refine' wpAnyH_take (i := 15) (oi := { dst := some 27, op := _, type := _, pos := _, after := _, guard := _ }) (v := _) ?hixb15 (by kernel_rfl) ?hfxb15 ?hrxb15 ?hqxb15 ?hyxb15 ?hsxb15 ?restxb15
  case hixb15 => exact rfl
  case hfxb15 => kernel_rfl
  case hrxb15 => kernel_rfl
  case hqxb15 => exact fun _ _ _ h => h
  case hsxb15 => assumption
  case hyxb15 =>
    refine Or.inl ⟨by kernel_rfl, ?_⟩
    intro w hSw
    try dsimp only at hSw
    go_simp
    try with_reducible rfl
  try simp only [Act.put, List.setIfInBounds_toArray, List.set_cons_zero, List.set_cons_succ]
  refine' wpAnyH_take (i := 16) (oi := { dst := some 28, op := _, type := _, pos := _, after := _, guard := _ }) (v := _) ?hixb16 (by kernel_rfl) ?hfxb16 ?hrxb16 ?hqxb16 ?hyxb16 ?hsxb16 ?restxb16
  case hixb16 => exact rfl
  case hfxb16 => kernel_rfl
  case hrxb16 => kernel_rfl
  case hqxb16 => exact fun _ _ _ h => h
  case hsxb16 => assumption
  case hyxb16 =>
    refine Or.inl ⟨by kernel_rfl, ?_⟩
    intro w hSw
    try dsimp only at hSw
    go_simp
    try with_reducible rfl
  try simp only [Act.put, List.setIfInBounds_toArray, List.set_cons_zero, List.set_cons_succ]
  refine' wpAnyH_take (i := 17) (oi := { dst := some 29, op := _, type := _, pos := _, after := _, guard := _ }) (v := _) ?hixb17 (by kernel_rfl) ?hfxb17 ?hrxb17 ?hqxb17 ?hyxb17 ?hsxb17 ?restxb17
  case hixb17 => exact rfl
  case hfxb17 => kernel_rfl
  case hrxb17 => kernel_rfl
  case hqxb17 => exact fun _ _ _ h => h
  case hsxb17 => assumption
  case hyxb17 =>
    refine Or.inl ⟨by kernel_rfl, ?_⟩
    intro w hSw
    try dsimp only at hSw
    go_simp
    try with_reducible rfl
  try simp only [Act.put, List.setIfInBounds_toArray, List.set_cons_zero, List.set_cons_succ]
  refine' wpAnyH_take (i := 18) (oi := { dst := some 30, op := _, type := _, pos := _, after := _, guard := _ }) (v := _) ?hixb18 (by kernel_rfl) ?hfxb18 ?hrxb18 ?hqxb18 ?hyxb18 ?hsxb18 ?restxb18
  case hixb18 => exact rfl
  case hfxb18 => kernel_rfl
  case hrxb18 => kernel_rfl
  case hqxb18 => exact fun _ _ _ h => h
  case hsxb18 => assumption
  case hyxb18 =>
    refine Or.inl ⟨by kernel_rfl, ?_⟩
    intro w hSw
    try dsimp only at hSw
    go_simp
    try with_reducible rfl
  try simp only [Act.put, List.setIfInBounds_toArray, List.set_cons_zero, List.set_cons_succ]
  refine' wpAnyH_take (i := 19) (oi := { dst := some 31, op := _, type := _, pos := _, after := _, guard := _ }) (v := _) ?hixb19 (by kernel_rfl) ?hfxb19 ?hrxb19 ?hqxb19 ?hyxb19 ?hsxb19 ?restxb19
  case hixb19 => exact rfl
  case hfxb19 => kernel_rfl
  case hrxb19 => kernel_rfl
  case hqxb19 => exact fun _ _ _ h => h
  case hsxb19 => assumption
  case hyxb19 =>
    refine Or.inl ⟨by kernel_rfl, ?_⟩
    intro w hSw
    try dsimp only at hSw
    go_simp
    try with_reducible rfl
  try simp only [Act.put, List.setIfInBounds_toArray, List.set_cons_zero, List.set_cons_succ]
  refine' wpAnyH_take (i := 20) (oi := { dst := some 32, op := _, type := _, pos := _, after := _, guard := _ }) (v := _) ?hixb20 (by kernel_rfl) ?hfxb20 ?hrxb20 ?hqxb20 ?hyxb20 ?hsxb20 ?restxb20
  case hixb20 => exact rfl
  case hfxb20 => kernel_rfl
  case hrxb20 => kernel_rfl
  case hqxb20 => exact fun _ _ _ h => h
  case hsxb20 => assumption
  case hyxb20 =>
    refine Or.inl ⟨by kernel_rfl, ?_⟩
    intro w hSw
    try dsimp only at hSw
    go_simp
    try with_reducible rfl
  try simp only [Act.put, List.setIfInBounds_toArray, List.set_cons_zero, List.set_cons_succ]
  refine' wpAnyH_take (i := 21) (oi := { dst := some 33, op := _, type := _, pos := _, after := _, guard := _ }) (v := _) ?hixb21 (by kernel_rfl) ?hfxb21 ?hrxb21 ?hqxb21 ?hyxb21 ?hsxb21 ?restxb21
  case hixb21 => exact rfl
  case hfxb21 => kernel_rfl
  case hrxb21 => kernel_rfl
  case hqxb21 => exact fun _ _ _ h => h
  case hsxb21 => assumption
  case hyxb21 =>
    refine Or.inl ⟨by kernel_rfl, ?_⟩
    intro w hSw
    try dsimp only at hSw
    go_simp
    try with_reducible rfl
  try simp only [Act.put, List.setIfInBounds_toArray, List.set_cons_zero, List.set_cons_succ]
  refine' wpAnyH_take (i := 22) (oi := { dst := some 34, op := _, type := _, pos := _, after := _, guard := _ }) (v := _) ?hixb22 (by kernel_rfl) ?hfxb22 ?hrxb22 ?hqxb22 ?hyxb22 ?hsxb22 ?restxb22
  case hixb22 => exact rfl
  case hfxb22 => kernel_rfl
  case hrxb22 => kernel_rfl
  case hqxb22 => exact fun _ _ _ h => h
  case hsxb22 => assumption
  case hyxb22 =>
    refine Or.inl ⟨by kernel_rfl, ?_⟩
    intro w hSw
    try dsimp only at hSw
    go_simp
    try with_reducible rfl
  try simp only [Act.put, List.setIfInBounds_toArray, List.set_cons_zero, List.set_cons_succ]
  refine' wpAnyH_take (i := 23) (oi := { dst := some 35, op := _, type := _, pos := _, after := _, guard := _ }) (v := _) ?hixb23 (by kernel_rfl) ?hfxb23 ?hrxb23 ?hqxb23 ?hyxb23 ?hsxb23 ?restxb23
  case hixb23 => exact rfl
  case hfxb23 => kernel_rfl
  case hrxb23 => kernel_rfl
  case hqxb23 => exact fun _ _ _ h => h
  case hsxb23 => assumption
  case hyxb23 =>
    refine Or.inl ⟨by kernel_rfl, ?_⟩
    intro w hSw
    try dsimp only at hSw
    go_simp
    try with_reducible rfl
  try simp only [Act.put, List.setIfInBounds_toArray, List.set_cons_zero, List.set_cons_succ]
  refine' wpAnyH_take (i := 24) (oi := { dst := some 36, op := _, type := _, pos := _, after := _, guard := _ }) (v := _) ?hixb24 (by kernel_rfl) ?hfxb24 ?hrxb24 ?hqxb24 ?hyxb24 ?hsxb24 ?restxb24
  case hixb24 => exact rfl
  case hfxb24 => kernel_rfl
  case hrxb24 => kernel_rfl
  case hqxb24 => exact fun _ _ _ h => h
  case hsxb24 => assumption
  case hyxb24 =>
    refine Or.inl ⟨by kernel_rfl, ?_⟩
    intro w hSw
    try dsimp only at hSw
    go_simp
    try with_reducible rfl
  try simp only [Act.put, List.setIfInBounds_toArray, List.set_cons_zero, List.set_cons_succ]
  refine' wpAnyH_take (i := 25) (oi := { dst := some 37, op := _, type := _, pos := _, after := _, guard := _ }) (v := _) ?hixb25 (by kernel_rfl) ?hfxb25 ?hrxb25 ?hqxb25 ?hyxb25 ?hsxb25 ?restxb25
  case hixb25 => exact rfl
  case hfxb25 => kernel_rfl
  case hrxb25 => kernel_rfl
  case hqxb25 => exact fun _ _ _ h => h
  case hsxb25 => assumption
  case hyxb25 =>
    refine Or.inl ⟨by kernel_rfl, ?_⟩
    intro w hSw
    try dsimp only at hSw
    go_simp
    try with_reducible rfl
  try simp only [Act.put, List.setIfInBounds_toArray, List.set_cons_zero, List.set_cons_succ]
  refine' wpAnyH_take (i := 26) (oi := { dst := some 38, op := _, type := _, pos := _, after := _, guard := _ }) (v := _) ?hixb26 (by kernel_rfl) ?hfxb26 ?hrxb26 ?hqxb26 ?hyxb26 ?hsxb26 ?restxb26
  case hixb26 => exact rfl
  case hfxb26 => kernel_rfl
  case hrxb26 => kernel_rfl
  case hqxb26 => exact fun _ _ _ h => h
  case hsxb26 => assumption
  case hyxb26 =>
    refine Or.inl ⟨by kernel_rfl, ?_⟩
    intro w hSw
    try dsimp only at hSw
    go_simp
    try with_reducible rfl
  try simp only [Act.put, List.setIfInBounds_toArray, List.set_cons_zero, List.set_cons_succ]
  refine' wpAnyH_take (i := 27) (oi := { dst := some 39, op := _, type := _, pos := _, after := _, guard := _ }) (v := _) ?hixb27 (by kernel_rfl) ?hfxb27 ?hrxb27 ?hqxb27 ?hyxb27 ?hsxb27 ?restxb27
  case hixb27 => exact rfl
  case hfxb27 => kernel_rfl
  case hrxb27 => kernel_rfl
  case hqxb27 => exact fun _ _ _ h => h
  case hsxb27 => assumption
  case hyxb27 =>
    refine Or.inl ⟨by kernel_rfl, ?_⟩
    intro w hSw
    try dsimp only at hSw
    go_simp
    try with_reducible rfl
  try simp only [Act.put, List.setIfInBounds_toArray, List.set_cons_zero, List.set_cons_succ]
  refine' wpAnyH_take (i := 28) (oi := { dst := some 40, op := _, type := _, pos := _, after := _, guard := _ }) (v := _) ?hixb28 (by kernel_rfl) ?hfxb28 ?hrxb28 ?hqxb28 ?hyxb28 ?hsxb28 ?restxb28
  case hixb28 => exact rfl
  case hfxb28 => kernel_rfl
  case hrxb28 => kernel_rfl
  case hqxb28 => exact fun _ _ _ h => h
  case hsxb28 => assumption
  case hyxb28 =>
    refine Or.inl ⟨by kernel_rfl, ?_⟩
    intro w hSw
    try dsimp only at hSw
    go_simp
    try with_reducible rfl
  try simp only [Act.put, List.setIfInBounds_toArray, List.set_cons_zero, List.set_cons_succ]
  refine' wpAnyH_take (i := 29) (oi := { dst := some 41, op := _, type := _, pos := _, after := _, guard := _ }) (v := _) ?hixb29 (by kernel_rfl) ?hfxb29 ?hrxb29 ?hqxb29 ?hyxb29 ?hsxb29 ?restxb29
  case hixb29 => exact rfl
  case hfxb29 => kernel_rfl
  case hrxb29 => kernel_rfl
  case hqxb29 => exact fun _ _ _ h => h
  case hsxb29 => assumption
  case hyxb29 =>
    refine Or.inl ⟨by kernel_rfl, ?_⟩
    intro w hSw
    try dsimp only at hSw
    go_simp
    try with_reducible rfl
  try simp only [Act.put, List.setIfInBounds_toArray, List.set_cons_zero, List.set_cons_succ]
  refine' wpAnyH_take (i := 30) (oi := { dst := some 42, op := _, type := _, pos := _, after := _, guard := _ }) (v := _) ?hixb30 (by kernel_rfl) ?hfxb30 ?hrxb30 ?hqxb30 ?hyxb30 ?hsxb30 ?restxb30
  case hixb30 => exact rfl
  case hfxb30 => kernel_rfl
  case hrxb30 => kernel_rfl
  case hqxb30 => exact fun _ _ _ h => h
  case hsxb30 => assumption
  case hyxb30 =>
    refine Or.inl ⟨by kernel_rfl, ?_⟩
    intro w hSw
    try dsimp only at hSw
    go_simp
    try with_reducible rfl
  try simp only [Act.put, List.setIfInBounds_toArray, List.set_cons_zero, List.set_cons_succ]
  refine wpAnyH_done (by kernel_rfl) ?_ _
  have ho := own_ext (HO.out.alloc (.cells #[.int .i64 f, .int .i64 t, .int .i64 n] 97)) hC.1
  have hle : w.heap.size + 1 ≤ wx.heap.size := by have := hC.1.size; simpa using this
  go_wp2_with ((at_builtin; refine wpList_append_fresh _ rfl _ _ 77 rfl (B) 97 i0 (.agg #[.int .i64 0, .int .i64 0, .int .i64 0]) 3 24 Tryd.underlying77 hi hz0 hz1 hz2 rfl (by decide) _ _ _ rfl (ho.alloc _) ⟨wx.heap.size, 0, none⟩ 1 1 [.int .i64 f, .int .i64 t, .int .i64 n] rfl rfl (cell_three_new _ _ _ _ _) (fun x hx => by simp at hx; rcases hx with rfl | rfl | rfl <;> rfl) (by unfold maxLen; omega) (by omega) (by simp; omega) ?_; intro v5 w5 hown5 hgrow5 hfresh5))
  go_ret
  refine ⟨v5, out ++ [⟨lf, lt, ln⟩] ++ [⟨f, t, n⟩], rfl, ?_, by rw [expL_app, expL_one], HG.out.app (GoodL.one HR.out), by simp, ?_, ?_⟩
  · rw [rowCells_app, rowCells_one]
    have e : (out ++ [(⟨lf, lt, ln⟩ : Rw)] ++ [(⟨f, t, n⟩ : Rw)]).length = m + 1 + 1 := by simp [HM.out]
    rw [e]
    exact hown5
  · exact grown_trans (((World.grownBy_alloc w _ _).trans' (hC.1.to_grown _)).trans' (World.grownBy_alloc wx _ _)) hgrow5 (.inl rfl)
  · rcases hfresh5 with h | h
    · exact .inl h
    · exact .inr ⟨_, h, by simp; omega⟩
end Go.Proofs.YtabcneomeemnpaaDoor
