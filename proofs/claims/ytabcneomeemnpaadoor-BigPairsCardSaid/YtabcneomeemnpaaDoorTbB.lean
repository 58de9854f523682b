/-
  What is found in rows that rise: a closure that looks at one row; a search; what a key has.
  A search by halves; what is found in rows that rise.
-/
import Derived.Test.YtabcneomeemnpaaDoorTb4
namespace Go.Proofs.YtabcneomeemnpaaDoor
open Go Go.ChangeShapes Go.WideShapes Go.ChangeAt Go.RowKit
set_option linter.unusedSimpArgs false
set_option linter.unusedVariables false

/-- Where a key lies of a row: ahead of it, behind it, in it. -/
def side (r : Rw) (key : Int) : Int := if key < r.f then -1 else if r.f + r.n ≤ key then 1 else 0
end Go.Proofs.YtabcneomeemnpaaDoor
namespace Go.Proofs.YtabcneomeemnpaaDoor
open Go Go.ChangeShapes Go.WideShapes Go.ChangeAt Go.RowKit
set_option linter.unusedSimpArgs false
set_option linter.unusedVariables false

/-- What a search by halves has seen. -/
def Seen (sd : Nat → Int) (n i j : Nat) : Prop := i ≤ j ∧ j ≤ n ∧ (∀ k, k < i → 0 < sd k) ∧ (∀ k, j ≤ k → k < n → sd k ≤ 0)
/-- Sides go from behind to ahead. -/
def Falls (sd : Nat → Int) (n : Nat) : Prop := ∀ i j, i < j → j < n → (sd i ≤ 0 → sd j ≤ 0)
theorem cell_one {w : World} {b : Nat} {x : Value} {T : TypeId} (h : w.heap[b]? = some (.cells #[x] T (0, 0))) : w.cell? ⟨b, 0, none⟩ = some x := by
  simp [World.cell?, h]
theorem keep_boxes (w : World) (x y : Value) (T U : TypeId) : Keep w [(⟨w.heap.size, 0, none⟩, x), (⟨w.heap.size + 1, 0, none⟩, y)] ((w.alloc (.cells #[x] T)).alloc (.cells #[y] U)) := by
  have h1 := heap_alloc_new w (.cells #[x] T)
  have h2 := heap_alloc_new (w.alloc (.cells #[x] T)) (.cells #[y] U)
  have e : (w.alloc (.cells #[x] T)).heap.size = w.heap.size + 1 := by simp
  rw [e] at h2
  have k := (Ext.refl (w.alloc (.cells #[x] T))).alloc (.cells #[y] U)
  refine ⟨((Ext.refl w).alloc _).alloc _, cell_ext k ?_, ?_, trivial⟩
  · exact cell_one h1
  · exact cell_one h2
/-- What the rows' sides are; they fall. -/
def sideAt (rows : List Rw) (key : Int) (k : Nat) : Int := side (rows[k]?.getD ⟨0, 0, 0⟩) key
theorem side_zero {r : Rw} {key : Int} (h : GoodR r) : side r key = 0 ↔ r.f ≤ key ∧ key < r.f + r.n := by
  unfold GoodR at h
  unfold side
  split
  · constructor
    · intro e; cases e
    · omega
  · split
    · constructor
      · intro e; cases e
      · omega
    · constructor <;> omega
theorem side_falls {rows : List Rw} {key : Int} (hg : GoodL rows) (hr : RisingR rows) : Falls (sideAt rows key) rows.length := by
  intro i j hij hj hs
  have hi : i < rows.length := by omega
  have hp := List.pairwise_iff_getElem.1 hr i j hi hj hij
  have gi := hg rows[i] (List.getElem_mem hi)
  have gj := hg rows[j] (List.getElem_mem hj)
  unfold GoodR at gi gj
  unfold sideAt at hs ⊢
  rw [List.getElem?_eq_getElem hi, Option.getD_some] at hs
  rw [List.getElem?_eq_getElem hj, Option.getD_some]
  unfold side at hs ⊢
  split at hs
  · rw [if_pos (by omega)]
    decide
  · split at hs
    · omega
    · split
      · decide
      · split <;> omega
end Go.Proofs.YtabcneomeemnpaaDoor
