/-
  The type of pairs of package run: lists of them that a call makes.
-/
import Derived.Test.YtabcneomeemnpaaDoorPrs
namespace Go.Proofs.YtabcneomeemnpaaDoor
open Go Go.ChangeShapes Go.WideShapes Go.ChangeAt Go.RowKit
set_option linter.unusedSimpArgs false
set_option linter.unusedVariables false

theorem info_rpair : (Tryd.prog.info? 41).map (fun i => (i.zero, i.size, i.bytes)) = some (some (.agg #[.int .i64 0, .int .i32 0]), 2, 16) := by kernel_rfl
theorem info_parts_rpair : ∃ i, Tryd.prog.info? 41 = some i ∧ i.zero = some (.agg #[.int .i64 0, .int .i32 0]) ∧ i.size = 2 ∧ i.bytes = 16 := by
  obtain ⟨i, hi, h2⟩ := Option.map_eq_some_iff.1 info_rpair
  obtain ⟨h3, h4⟩ := Prod.mk.inj h2
  obtain ⟨h5, h6⟩ := Prod.mk.inj h4
  exact ⟨i, hi, h3, h5, h6⟩
theorem make_rpairs (k : Nat) (hk : k ≤ 1000000000) (w : World) : ∃ w', (Instr.makeSlice 37 (.int .i64 0) (.int .i64 (k : Int))).run Tryd.prog w = .ok (.slice (some ⟨w.heap.size, 0, none⟩) 0 k) w' ∧
    (∀ B, B ≤ w.heap.size → w'.ownsRow B 41 2 (.slice (some ⟨w.heap.size, 0, none⟩) 0 k) 0 []) ∧ w.grownBy w' none := by
  obtain ⟨i, hi, h3, h5, h6⟩ := info_parts_rpair
  obtain ⟨w', h7, h8, h9⟩ := run_make_own (P := Tryd.prog) (w := w) w.heap.size 37 41 i (.agg #[.int .i64 0, .int .i32 0]) 2 Tryd.underlying37 hi h3 h5 .i64 .i64 k (by rw [h6]; omega) (by simp [maxLen]; omega) (Nat.le_refl _)
  exact ⟨w', h7, fun B hB => own_base h8 hB, h9⟩
theorem own_rpairs {w : World} {B : Nat} {v : Value} {n : Nat} {l : List Pr} (h : w.ownsRow B 41 2 v n (pairCells l)) : ∃ a cap, v = .slice a n cap ∧ IsPairs w a n cap l := by
  obtain ⟨hl, ⟨rfl, rfl⟩ | ⟨g, cap, cur, rfl, hg, hh, hn, hm, hs, ht⟩⟩ := h
  · rw [pairCells_len] at hl
    exact ⟨none, 0, rfl, by omega, .inl rfl⟩
  · rw [pairCells_len] at hl
    have hbl : l.length = n := by omega
    refine ⟨some ⟨g, 0, none⟩, cap, rfl, hbl, .inr ⟨g, 0, rfl, hn, lt_of_block hh, fun j z hj => ?_⟩⟩
    have hjl : j < l.length := (List.getElem?_eq_some_iff.1 hj).1
    obtain ⟨e1, e3⟩ := pairCells_get l j z hj
    rw [← ht, List.getElem?_take, if_pos (by omega)] at e1 e3
    have e2 : ∀ o, w.cell? ⟨g, 0 + o, none⟩ = cur.toList[o]? := by intro o; simp [World.cell?, hh]
    exact ⟨(e2 (j * 2)).trans e1, (e2 (j * 2 + 1)).trans e3⟩
end Go.Proofs.YtabcneomeemnpaaDoor
