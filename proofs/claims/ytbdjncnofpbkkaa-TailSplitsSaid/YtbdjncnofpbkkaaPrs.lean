/-
  Pairs of codes and signs, plainly, and as lists in memory; rows that a call owns (what holds of any).
-/
import Derived.Test.YtbdjncnofpbkkaaBase
import Derived.Laws.AppendOwn
namespace Go.Proofs.Ytbdjncnofpbkkaa
open Go Go.ChangeShapes Go.WideShapes Go.ChangeAt Go.RowKit
set_option linter.unusedSimpArgs false
set_option linter.unusedVariables false

/-- A code, its sign. -/
abbrev Pr := Int × Int
theorem own_ext {w w' : World} {B : Nat} {e : TypeId} {size : Nat} {v : Value} {n : Nat} {xs : List Value} (h : w.ownsRow B e size v n xs) (k : Ext w w') : w'.ownsRow B e size v n xs :=
  h.kept (row := none) ⟨k.os, k.tape, k.output, k.size, fun i hi _ => k.block i hi⟩ (by
    cases hv : v.ownBlock with
    | none => exact .inl rfl
    | some g => exact .inr (by simp))
theorem own_base {w : World} {B C : Nat} {e : TypeId} {size : Nat} {v : Value} {n : Nat} {xs : List Value} (h : w.ownsRow B e size v n xs) (hC : C ≤ B) : w.ownsRow C e size v n xs := by
  obtain ⟨a, b | ⟨g, cap, cur, e1, e2, r⟩⟩ := h
  · exact ⟨a, .inl b⟩
  · exact ⟨a, .inr ⟨g, cap, cur, e1, by omega, r⟩⟩
theorem cell_two_new (w : World) (a b : Value) (t : TypeId) : ∀ j u, [a, b][j]? = some u → (w.alloc (.cells #[a, b] t)).cell? ((⟨w.heap.size, 0, none⟩ : Addr).add j) = some u := by
  intro j u hj
  have h : (w.alloc (.cells #[a, b] t)).heap[w.heap.size]? = some (.cells #[a, b] t (0, 0)) := heap_alloc_new w _
  match j, hj with
  | 0, hj =>
    have e : ((⟨w.heap.size, 0, none⟩ : Addr).add 0) = ⟨w.heap.size, 0, none⟩ := by simp [Addr.add]
    simp at hj; subst hj; rw [e]; simp only [World.cell?, h]; rfl
  | 1, hj =>
    have e : ((⟨w.heap.size, 0, none⟩ : Addr).add 1) = ⟨w.heap.size, 1, none⟩ := by simp [Addr.add]
    simp at hj; subst hj; rw [e]; simp only [World.cell?, h]; rfl
  | j + 2, hj => simp at hj
/-! ### Pairs in memory -/
def pairCells (l : List Pr) : List Value := l.flatMap fun p => [.int .i64 p.1, .int .i32 p.2]
theorem pairCells_app (a b : List Pr) : pairCells (a ++ b) = pairCells a ++ pairCells b := by simp [pairCells]
theorem pairCells_one (p : Pr) : pairCells [p] = [.int .i64 p.1, .int .i32 p.2] := by simp [pairCells]
theorem pairCells_len : ∀ l : List Pr, (pairCells l).length = l.length * 2
  | [] => rfl
  | p :: l => by
    have := pairCells_len l
    rw [show p :: l = [p] ++ l from rfl, pairCells_app, pairCells_one, List.length_append, this]
    simp; omega
theorem pairCells_get : ∀ (l : List Pr) (j : Nat) (p : Pr), l[j]? = some p → (pairCells l)[j * 2]? = some (.int .i64 p.1) ∧ (pairCells l)[j * 2 + 1]? = some (.int .i32 p.2)
  | [], _, _, h => by simp at h
  | q :: l, 0, p, h => by
    simp at h
    subst h
    exact ⟨rfl, rfl⟩
  | q :: l, j + 1, p, h => by
    have ih := pairCells_get l j p (by simpa using h)
    have e : (j + 1) * 2 = j * 2 + 1 + 1 := by omega
    rw [e]
    exact ih
/-- A list of pairs: none, or in memory. -/
def IsPairs (w : World) (a : Option Addr) (len cap : Nat) (l : List Pr) : Prop :=
  l.length = len ∧ (len = 0 ∨ ∃ (x off : Nat), a = some ⟨x, off, none⟩ ∧ len ≤ cap ∧ x < w.heap.size ∧ ∀ (j : Nat) p, l[j]? = some p → w.cell? ⟨x, off + j * 2, none⟩ = some (.int .i64 p.1) ∧ w.cell? ⟨x, off + j * 2 + 1, none⟩ = some (.int .i32 p.2))
theorem IsPairs.block {w w' : World} {a : Option Addr} {len cap : Nat} {l : List Pr} (h : IsPairs w a len cap l) (hs : w.heap.size ≤ w'.heap.size) (k : ∀ x off, a = some ⟨x, off, none⟩ → w'.heap[x]? = w.heap[x]?) : IsPairs w' a len cap l := by
  obtain ⟨h1, h2⟩ := h
  refine ⟨h1, ?_⟩
  rcases h2 with h2 | ⟨x, off, rfl, hc, hx, hcell⟩
  · exact .inl h2
  · refine .inr ⟨x, off, rfl, hc, by omega, fun j z hj => ?_⟩
    have := hcell j z hj
    exact ⟨(World.cell?_of_block (k x off rfl)).trans this.1, (World.cell?_of_block (k x off rfl)).trans this.2⟩
theorem IsPairs.ext {w w' : World} {a : Option Addr} {len cap : Nat} {l : List Pr} (h : IsPairs w a len cap l) (k : Ext w w') : IsPairs w' a len cap l := by
  obtain ⟨h1, h2⟩ := h
  refine ⟨h1, ?_⟩
  rcases h2 with h2 | ⟨x, off, rfl, hc, hx, hcell⟩
  · exact .inl h2
  · refine .inr ⟨x, off, rfl, hc, Nat.lt_of_lt_of_le hx k.size, fun j z hj => ?_⟩
    have := hcell j z hj
    exact ⟨(World.cell?_of_block (k.block x hx)).trans this.1, (World.cell?_of_block (k.block x hx)).trans this.2⟩
theorem pairs_at {w : World} {a : Option Addr} {n cap : Nat} {l : List Pr} (h : IsPairs w a n cap l) (h0 : 0 < n) : ∃ x off, a = some ⟨x, off, none⟩ ∧ x < w.heap.size ∧ ∀ (j : Nat) p, l[j]? = some p → w.cell? ⟨x, off + j * 2, none⟩ = some (.int .i64 p.1) ∧ w.cell? ⟨x, off + j * 2 + 1, none⟩ = some (.int .i32 p.2) := by
  obtain ⟨h1, h2⟩ := h
  rcases h2 with h2 | ⟨x, off, rfl, hc, hx, hcell⟩
  · omega
  · exact ⟨x, off, rfl, hx, hcell⟩
end Go.Proofs.Ytbdjncnofpbkkaa
