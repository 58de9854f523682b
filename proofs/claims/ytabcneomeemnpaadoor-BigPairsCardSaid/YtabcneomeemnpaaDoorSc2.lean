/-
  Contracts of package single (2): a charset by its number.
-/
import Derived.Test.YtabcneomeemnpaaDoorSc1
namespace Go.Proofs.YtabcneomeemnpaaDoor
open Go Go.ChangeShapes Go.WideShapes Go.ChangeAt Go.RowKit
set_option linter.unusedSimpArgs false
set_option linter.unusedVariables false

/-- A value is a charset: a table of these pairs, a number. -/
def IsSet (w : World) (v : Value) (c : Int) (l : List Pr) : Prop := ∃ (ta : Option Addr) (n1 tc : Nat) (tb : Option Addr) (n2 td : Nat), v = .agg #[.slice ta n1 tc, .slice tb n2 td, .int .i64 c] ∧ IsTab w (.agg #[.slice ta n1 tc, .slice tb n2 td]) l
theorem IsSet.ext {w w' : World} {v : Value} {c : Int} {l : List Pr} (h : IsSet w v c l) (k : Ext w w') : IsSet w' v c l := by
  obtain ⟨ta, n1, tc, tb, n2, td, rfl, h2⟩ := h
  exact ⟨ta, n1, tc, tb, n2, td, rfl, h2.ext k⟩
def SetOut (w : World) (c : Int) (l : List Pr) (e : Ending) (w' : World) : Prop := ∃ v, e = .returned (.tuple #[v, .bool true]) ∧ IsSet w' v c l ∧ Ext w w'
theorem rws_move3 {w wf : World} {a : Option Addr} {n cap b : Nat} {l : List Rw} {s1 s2 : Option Addr} {p1 p2 q1 q2 : Nat} {z : Value} {T : TypeId} (h : IsRws w a n cap l) (h1 : w.heap[b]? = some (.cells #[.slice s1 p1 p2, .slice s2 q1 q2, z] T (0, 0))) (hs : w.heap.size ≤ wf.heap.size) (hk : ∀ k, k ≠ b → wf.heap[k]? = w.heap[k]?) : IsRws wf a n cap l := by
  obtain ⟨h3, h4 | ⟨g, off, rfl, hc, hg, hcell⟩⟩ := h
  · exact ⟨h3, .inl h4⟩
  · by_cases hn : n = 0
    · exact ⟨h3, .inl hn⟩
    · have e : l[0]? = some l[0] := List.getElem?_eq_getElem (by omega)
      have h5 := hcell 0 _ e
      have g1 : g ≠ b := by
        rintro rfl
        simp only [World.cell?, h1] at h5
        obtain ⟨y1, y2, y3⟩ := h5
        have : off = 0 ∨ off = 1 ∨ 2 ≤ off := by omega
        rcases this with rfl | rfl | h6
        · simp at y1
        · simp at y1
        · have : (#[Value.slice s1 p1 p2, Value.slice s2 q1 q2, z] : Array Value)[off + 0 * 3 + 2]? = none := Array.getElem?_eq_none (by simp; omega)
          rw [this] at y3
          cases y3
      refine ⟨h3, .inr ⟨g, off, rfl, hc, by omega, fun j r hj => ?_⟩⟩
      obtain ⟨a0, a1, a2⟩ := hcell j r hj
      exact ⟨(World.cell?_of_block (hk g g1)).trans a0, (World.cell?_of_block (hk g g1)).trans a1, (World.cell?_of_block (hk g g1)).trans a2⟩
theorem IsTab.move3 {w wf : World} {v : Value} {l : List Pr} {b : Nat} {s1 s2 : Option Addr} {p1 p2 q1 q2 : Nat} {z : Value} {T : TypeId} (h : IsTab w v l) (h1 : w.heap[b]? = some (.cells #[.slice s1 p1 p2, .slice s2 q1 q2, z] T (0, 0))) (hs : w.heap.size ≤ wf.heap.size) (hk : ∀ k, k ≠ b → wf.heap[k]? = w.heap[k]?) : IsTab wf v l := by
  obtain ⟨a1, c1, a2, c2, F, G, rfl, y1, y2, r⟩ := h
  exact ⟨a1, c1, a2, c2, F, G, rfl, rws_move3 y1 h1 hs hk, rws_move3 y2 h1 hs hk, r⟩
end Go.Proofs.YtabcneomeemnpaaDoor
