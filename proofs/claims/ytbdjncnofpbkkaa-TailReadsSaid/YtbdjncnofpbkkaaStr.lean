/-
  Rows of texts that a call owns.
-/
import Derived.Test.YtbdjncnofpbkkaaPtA
import Derived.Test.YtbdjncnofpbkkaaPrs
import Derived.Test.YtbdjncnofpbkkaaShelf
import Derived.Laws.AppendOwn
namespace Go.Proofs.Ytbdjncnofpbkkaa
open Go Go.ChangeShapes Go.WideShapes Go.ChangeAt Go.RowKit
set_option linter.unusedSimpArgs false
set_option linter.unusedVariables false

/-- Texts, one behind the other. -/
def flat (xs : List ByteArray) : ByteArray := ⟨(xs.map (·.data.toList)).flatten.toArray⟩
theorem flat_list (xs : List ByteArray) : (flat xs).data.toList = (xs.map (·.data.toList)).flatten := rfl
theorem size_list (s : ByteArray) : s.size = s.data.toList.length := rfl
theorem flat_app (a b : List ByteArray) : (flat (a ++ b)).data.toList = (flat a).data.toList ++ (flat b).data.toList := by
  simp only [flat_list, List.map_append, List.flatten_append]
theorem flat_cons (x : ByteArray) (l : List ByteArray) : (flat (x :: l)).data.toList = x.data.toList ++ (flat l).data.toList := by
  simp only [flat_list, List.map_cons, List.flatten_cons]
theorem flat_nil : (flat []).data.toList = [] := rfl
/-- A list of texts: none, or in memory. -/
def IsTexts (w : World) (a : Option Addr) (len cap : Nat) (xs : List ByteArray) : Prop :=
  xs.length = len ∧ (len = 0 ∨ ∃ (x off : Nat), a = some ⟨x, off, none⟩ ∧ len ≤ cap ∧ ∀ (j : Nat) y, xs[j]? = some y → w.cell? ⟨x, off + j, none⟩ = some (.string y))
theorem IsTexts.ext {w w' : World} {a : Option Addr} {len cap : Nat} {xs : List ByteArray} (h : IsTexts w a len cap xs) (k : Ext w w') : IsTexts w' a len cap xs := by
  obtain ⟨h1, h2⟩ := h
  refine ⟨h1, ?_⟩
  rcases h2 with h2 | ⟨x, off, rfl, hc, hcell⟩
  · exact .inl h2
  · exact .inr ⟨x, off, rfl, hc, fun j z hj => (World.cell?_of_block (k.block x (World.block_lt_of_cell? w _ (hcell j z hj)))).trans (hcell j z hj)⟩
/-- Texts as cells. -/
def textCells (l : List ByteArray) : List Value := l.map fun z => .string z
theorem textCells_app (a b : List ByteArray) : textCells (a ++ b) = textCells a ++ textCells b := by simp [textCells]
theorem textCells_len (a : List ByteArray) : (textCells a).length = a.length := by simp [textCells]
theorem own_texts {w : World} {B : Nat} {v : Value} {n : Nat} {zs : List ByteArray} (h : w.ownsRow B 9 1 v n (textCells zs)) : ∃ a cap, v = .slice a n cap ∧ IsTexts w a n cap zs := by
  obtain ⟨hl, ⟨rfl, rfl⟩ | ⟨g, cap, cur, rfl, hg, hh, hn, hm, hs, ht⟩⟩ := h
  · exact ⟨none, 0, rfl, by simpa [textCells] using hl, .inl rfl⟩
  · have hbl : zs.length = n := by simpa [textCells] using hl
    refine ⟨some ⟨g, 0, none⟩, cap, rfl, hbl, .inr ⟨g, 0, rfl, hn, fun j z hj => ?_⟩⟩
    have hjl : j < zs.length := (List.getElem?_eq_some_iff.1 hj).1
    have e1 : (textCells zs)[j]? = some (.string z) := by simp [textCells, hj]
    rw [← ht, List.getElem?_take, if_pos (by omega)] at e1
    have e2 : w.cell? ⟨g, 0 + j, none⟩ = cur.toList[j]? := by simp [World.cell?, hh]
    rw [e2, e1]
/-- Two texts in a row that is made at once. -/
theorem two_texts (w : World) (s t : ByteArray) : IsTexts (w.alloc (.cells #[.string s, .string t] 9)) (some ⟨w.heap.size, 0, none⟩) 2 2 [s, t] := by
  have h : (w.alloc (.cells #[.string s, .string t] 9)).heap[w.heap.size]? = some (.cells #[.string s, .string t] 9 (0, 0)) := heap_alloc_new w _
  refine ⟨rfl, .inr ⟨w.heap.size, 0, rfl, by decide, fun j y hj => ?_⟩⟩
  match j, hj with
  | 0, hj => simp at hj; subst hj; simp only [World.cell?, h]; rfl
  | 1, hj => simp at hj; subst hj; simp only [World.cell?, h]; rfl
  | j + 2, hj => simp at hj
end Go.Proofs.Ytbdjncnofpbkkaa
