/-
  Blocks of a few cells: what they hold, what they hold behind stores.
-/
import Derived.Test.YtbdjncnofpbkkaaBase
namespace Go.Proofs.Ytbdjncnofpbkkaa
open Go Go.ChangeShapes Go.WideShapes Go.ChangeAt Go.RowKit
set_option linter.unusedSimpArgs false
set_option linter.unusedVariables false

theorem facts2 {w : World} {b : Nat} {x y : Value} {T : TypeId} (h : w.heap[b]? = some (.cells #[x, y] T (0, 0))) : (w.cell? ⟨b, 0, none⟩ = some x ∧ w.cell? ⟨b, 1, none⟩ = some y) ∧ w.frozen? ⟨b, 0, none⟩ = false ∧ w.frozen? ⟨b, 1, none⟩ = false := by
  refine ⟨?_, by simp [World.frozen?, h], by simp [World.frozen?, h]⟩
  simp only [World.cell?, h]
  exact ⟨rfl, rfl⟩
theorem facts3 {w : World} {b : Nat} {x y z : Value} {T : TypeId} (h : w.heap[b]? = some (.cells #[x, y, z] T (0, 0))) : (w.cell? ⟨b, 0, none⟩ = some x ∧ w.cell? ⟨b, 1, none⟩ = some y ∧ w.cell? ⟨b, 2, none⟩ = some z) ∧ w.frozen? ⟨b, 0, none⟩ = false ∧ w.frozen? ⟨b, 1, none⟩ = false ∧ w.frozen? ⟨b, 2, none⟩ = false := by
  refine ⟨?_, by simp [World.frozen?, h], by simp [World.frozen?, h], by simp [World.frozen?, h]⟩
  simp only [World.cell?, h]
  exact ⟨rfl, rfl, rfl⟩
theorem facts4 {w : World} {b : Nat} {x y z u : Value} {T : TypeId} (h : w.heap[b]? = some (.cells #[x, y, z, u] T (0, 0))) : (w.cell? ⟨b, 0, none⟩ = some x ∧ w.cell? ⟨b, 1, none⟩ = some y ∧ w.cell? ⟨b, 2, none⟩ = some z ∧ w.cell? ⟨b, 3, none⟩ = some u) ∧ w.frozen? ⟨b, 0, none⟩ = false ∧ w.frozen? ⟨b, 1, none⟩ = false ∧ w.frozen? ⟨b, 2, none⟩ = false ∧ w.frozen? ⟨b, 3, none⟩ = false := by
  refine ⟨?_, by simp [World.frozen?, h], by simp [World.frozen?, h], by simp [World.frozen?, h], by simp [World.frozen?, h]⟩
  simp only [World.cell?, h]
  exact ⟨rfl, rfl, rfl, rfl⟩
/-- All cells of a block of two are stored: the block, the others, and what came ahead of it. -/
theorem put2 {W w : World} {b : Nat} {x y : Value} {T : TypeId} (h : w.heap[b]? = some (.cells #[x, y] T (0, 0))) (hx : Ext W w) (hb : W.heap.size ≤ b) (p q : Value) :
    ∃ wf, wf = (w.setCell ⟨b, 0, none⟩ p).setCell ⟨b, 1, none⟩ q ∧ Ext W wf ∧ wf.heap[b]? = some (.cells #[p, q] T (0, 0)) ∧ w.heap.size ≤ wf.heap.size ∧ (∀ k, k ≠ b → wf.heap[k]? = w.heap[k]?) :=
  ⟨_, rfl, (hx.setCell hb _).setCell hb _, Go.heap_setCell_same _ b 1 _ _ q (Go.heap_setCell_same w b 0 _ _ p h), by simp [World.setCell], fun k hk => by rw [heap_setCell_other _ _ _ _ hk, heap_setCell_other _ _ _ _ hk]⟩
theorem put3 {W w : World} {b : Nat} {x y z : Value} {T : TypeId} (h : w.heap[b]? = some (.cells #[x, y, z] T (0, 0))) (hx : Ext W w) (hb : W.heap.size ≤ b) (p q r : Value) :
    ∃ wf, wf = ((w.setCell ⟨b, 0, none⟩ p).setCell ⟨b, 1, none⟩ q).setCell ⟨b, 2, none⟩ r ∧ Ext W wf ∧ wf.heap[b]? = some (.cells #[p, q, r] T (0, 0)) ∧ w.heap.size ≤ wf.heap.size ∧ (∀ k, k ≠ b → wf.heap[k]? = w.heap[k]?) :=
  ⟨_, rfl, ((hx.setCell hb _).setCell hb _).setCell hb _, Go.heap_setCell_same _ b 2 _ _ r (Go.heap_setCell_same _ b 1 _ _ q (Go.heap_setCell_same w b 0 _ _ p h)), by simp [World.setCell], fun k hk => by rw [heap_setCell_other _ _ _ _ hk, heap_setCell_other _ _ _ _ hk, heap_setCell_other _ _ _ _ hk]⟩
theorem put4 {W w : World} {b : Nat} {x y z u : Value} {T : TypeId} (h : w.heap[b]? = some (.cells #[x, y, z, u] T (0, 0))) (hx : Ext W w) (hb : W.heap.size ≤ b) (p q r s : Value) :
    ∃ wf, wf = (((w.setCell ⟨b, 0, none⟩ p).setCell ⟨b, 1, none⟩ q).setCell ⟨b, 2, none⟩ r).setCell ⟨b, 3, none⟩ s ∧ Ext W wf ∧ wf.heap[b]? = some (.cells #[p, q, r, s] T (0, 0)) ∧ w.heap.size ≤ wf.heap.size ∧ (∀ k, k ≠ b → wf.heap[k]? = w.heap[k]?) :=
  ⟨_, rfl, (((hx.setCell hb _).setCell hb _).setCell hb _).setCell hb _, Go.heap_setCell_same _ b 3 _ _ s (Go.heap_setCell_same _ b 2 _ _ r (Go.heap_setCell_same _ b 1 _ _ q (Go.heap_setCell_same w b 0 _ _ p h))), by simp [World.setCell], fun k hk => by rw [heap_setCell_other _ _ _ _ hk, heap_setCell_other _ _ _ _ hk, heap_setCell_other _ _ _ _ hk, heap_setCell_other _ _ _ _ hk]⟩
end Go.Proofs.Ytbdjncnofpbkkaa
