/-
  Tables of codes and signs, plainly: pairs by rising codes; lists of pairs in memory.
-/
import Derived.Test.YtealeedbkjiabaaDoorPtPts
import Derived.Test.YtealeedbkjiabaaDoorStr
import Derived.Laws.AppendOwn
namespace Go.Proofs.YtealeedbkjiabaaDoor
open Go Go.ChangeShapes Go.WideShapes Go.ChangeAt Go.RowKit
set_option linter.unusedSimpArgs false
set_option linter.unusedVariables false

/-- A code, its sign. -/
abbrev Pr := Int × Int
/-- The place of a code among pairs, the first one's place being k; -1: it isn't there. -/
def findGo (c : Int) : Nat → List Pr → Int
  | _, [] => -1
  | k, p :: l => if p.1 = c then (k : Int) else findGo c (k + 1) l
def findP (l : List Pr) (c : Int) : Int := findGo c 0 l
/-- With a pair, by rising codes. -/
def putP : List Pr → Pr → List Pr
  | [], p => [p]
  | q :: l, p => if p.1 < q.1 then p :: q :: l else q :: putP l p
/-- Pairs, and others, of which none has a code of the first ones. -/
def joinP (l more : List Pr) : Option (List Pr) := if more.any (fun q => decide (0 ≤ findP l q.1)) then none else some (more.foldl putP l)
def overP (l other : List Pr) : List Pr := other.foldl (fun out q => if findP l q.1 < 0 then putP out q else out) l
/-- The first code of a sign; -1: there is none. -/
def revP (l : List Pr) (p : Int) : Int :=
  match l with
  | [] => -1
  | q :: l => if q.2 = p then q.1 else revP l p
theorem findGo_at (c : Int) : ∀ (l : List Pr) (k j : Nat), (∀ (i : Nat) (p : Pr), i < j → l[i]? = some p → p.1 ≠ c) → ∀ p : Pr, l[j]? = some p → p.1 = c → findGo c k l = ((k + j : Nat) : Int)
  | [], _, _, _, _, h, _ => by simp at h
  | q :: l, k, 0, _, p, h, e => by
    simp at h
    subst h
    rw [findGo, if_pos e]
    rfl
  | q :: l, k, j + 1, hn, p, h, e => by
    have h0 := hn 0 q (by omega) rfl
    rw [findGo, if_neg h0, findGo_at c l (k + 1) j (fun i p hi hp => hn (i + 1) p (by omega) (by simpa using hp)) p (by simpa using h) e]
    omega
theorem findGo_no (c : Int) : ∀ (l : List Pr) (k : Nat), (∀ (i : Nat) (p : Pr), l[i]? = some p → p.1 ≠ c) → findGo c k l = -1
  | [], _, _ => rfl
  | q :: l, k, hn => by
    have h0 := hn 0 q rfl
    rw [findGo, if_neg h0, findGo_no c l (k + 1) (fun i p hp => hn (i + 1) p (by simpa using hp))]
theorem revP_at (c : Int) : ∀ (l : List Pr) (j : Nat), (∀ (i : Nat) (p : Pr), i < j → l[i]? = some p → p.2 ≠ c) → ∀ p : Pr, l[j]? = some p → p.2 = c → revP l c = p.1
  | [], _, _, _, h, _ => by simp at h
  | q :: l, 0, _, p, h, e => by
    simp at h
    subst h
    rw [revP, if_pos e]
  | q :: l, j + 1, hn, p, h, e => by
    have h0 := hn 0 q (by omega) rfl
    rw [revP, if_neg h0, revP_at c l j (fun i p hi hp => hn (i + 1) p (by omega) (by simpa using hp)) p (by simpa using h) e]
theorem revP_no (c : Int) : ∀ (l : List Pr), (∀ (i : Nat) (p : Pr), l[i]? = some p → p.2 ≠ c) → revP l c = -1
  | [], _ => rfl
  | q :: l, hn => by
    have h0 := hn 0 q rfl
    rw [revP, if_neg h0, revP_no c l (fun i p hp => hn (i + 1) p (by simpa using hp))]
theorem putP_len : ∀ (l : List Pr) (p : Pr), (putP l p).length = l.length + 1
  | [], _ => rfl
  | q :: l, p => by
    unfold putP
    split
    · rfl
    · simp [putP_len l p]
/-- Where a pair goes in: behind all whose codes aren't above its own, up to the first whose code is. -/
theorem putP_at (p : Pr) : ∀ (l : List Pr) (j : Nat), j ≤ l.length → (∀ (i : Nat) (q : Pr), i < j → l[i]? = some q → ¬ p.1 < q.1) → (∀ q : Pr, l[j]? = some q → p.1 < q.1) → putP l p = l.take j ++ p :: l.drop j
  | [], 0, _, _, _ => rfl
  | [], j + 1, h, _, _ => by simp at h
  | q :: l, 0, _, _, h => by
    have := h q rfl
    unfold putP
    rw [if_pos this]
    rfl
  | q :: l, j + 1, hj, hn, h => by
    have h0 := hn 0 q (by omega) rfl
    unfold putP
    rw [if_neg h0, putP_at p l j (by simpa using hj) (fun i r hi hr => hn (i + 1) r (by omega) (by simpa using hr)) (fun r hr => h r (by simpa using hr))]
    rfl

/-! ### Pairs in memory -/
def pairCells (l : List Pr) : List Value := l.flatMap fun p => [.int .i64 p.1, .int .i32 p.2]
theorem pairCells_app (a b : List Pr) : pairCells (a ++ b) = pairCells a ++ pairCells b := by simp [pairCells]
theorem pairCells_one (p : Pr) : pairCells [p] = [.int .i64 p.1, .int .i32 p.2] := by simp [pairCells]
theorem pairCells_len : ∀ l : List Pr, (pairCells l).length = l.length * 2
  | [] => rfl
  | p :: l => by
    have := pairCells_len l
    rw [show p :: l = [p] ++ l from rfl, pairCells_app, pairCells_one, List.length_append, this]
    simp; omega
theorem pairCells_get : ∀ (l : List Pr) (j : Nat) (p : Pr), l[j]? = some p → (pairCells l)[j * 2]? = some (.int .i64 p.1) ∧ (pairCells l)[j * 2 + 1]? = some (.int .i32 p.2)
  | [], _, _, h => by simp at h
  | q :: l, 0, p, h => by
    simp at h
    subst h
    exact ⟨rfl, rfl⟩
  | q :: l, j + 1, p, h => by
    have ih := pairCells_get l j p (by simpa using h)
    have e : (j + 1) * 2 = j * 2 + 1 + 1 := by omega
    rw [e]
    exact ih
/-- A list of pairs: none, or in memory. -/
def IsPairs (w : World) (a : Option Addr) (len cap : Nat) (l : List Pr) : Prop :=
  l.length = len ∧ (len = 0 ∨ ∃ (x off : Nat), a = some ⟨x, off, none⟩ ∧ len ≤ cap ∧ x < w.heap.size ∧ ∀ (j : Nat) p, l[j]? = some p → w.cell? ⟨x, off + j * 2, none⟩ = some (.int .i64 p.1) ∧ w.cell? ⟨x, off + j * 2 + 1, none⟩ = some (.int .i32 p.2))
theorem IsPairs.block {w w' : World} {a : Option Addr} {len cap : Nat} {l : List Pr} (h : IsPairs w a len cap l) (hs : w.heap.size ≤ w'.heap.size) (k : ∀ x off, a = some ⟨x, off, none⟩ → w'.heap[x]? = w.heap[x]?) : IsPairs w' a len cap l := by
  obtain ⟨h1, h2⟩ := h
  refine ⟨h1, ?_⟩
  rcases h2 with h2 | ⟨x, off, rfl, hc, hx, hcell⟩
  · exact .inl h2
  · refine .inr ⟨x, off, rfl, hc, by omega, fun j z hj => ?_⟩
    have := hcell j z hj
    exact ⟨(World.cell?_of_block (k x off rfl)).trans this.1, (World.cell?_of_block (k x off rfl)).trans this.2⟩
theorem IsPairs.ext {w w' : World} {a : Option Addr} {len cap : Nat} {l : List Pr} (h : IsPairs w a len cap l) (k : Ext w w') : IsPairs w' a len cap l := by
  obtain ⟨h1, h2⟩ := h
  refine ⟨h1, ?_⟩
  rcases h2 with h2 | ⟨x, off, rfl, hc, hx, hcell⟩
  · exact .inl h2
  · refine .inr ⟨x, off, rfl, hc, Nat.lt_of_lt_of_le hx k.size, fun j z hj => ?_⟩
    have := hcell j z hj
    exact ⟨(World.cell?_of_block (k.block x hx)).trans this.1, (World.cell?_of_block (k.block x hx)).trans this.2⟩
theorem own_pairs {w : World} {B : Nat} {v : Value} {n : Nat} {l : List Pr} (h : w.ownsRow B 42 2 v n (pairCells l)) : ∃ a cap, v = .slice a n cap ∧ IsPairs w a n cap l := by
  obtain ⟨hl, ⟨rfl, rfl⟩ | ⟨g, cap, cur, rfl, hg, hh, hn, hm, hs, ht⟩⟩ := h
  · rw [pairCells_len] at hl
    exact ⟨none, 0, rfl, by omega, .inl rfl⟩
  · rw [pairCells_len] at hl
    have hbl : l.length = n := by omega
    refine ⟨some ⟨g, 0, none⟩, cap, rfl, hbl, .inr ⟨g, 0, rfl, hn, lt_of_block hh, fun j z hj => ?_⟩⟩
    have hjl : j < l.length := (List.getElem?_eq_some_iff.1 hj).1
    obtain ⟨e1, e3⟩ := pairCells_get l j z hj
    rw [← ht, List.getElem?_take, if_pos (by omega)] at e1 e3
    have e2 : ∀ o, w.cell? ⟨g, 0 + o, none⟩ = cur.toList[o]? := by intro o; simp [World.cell?, hh]
    exact ⟨(e2 (j * 2)).trans e1, (e2 (j * 2 + 1)).trans e3⟩
theorem info_pair : (Tryd.prog.info? 42).map (fun i => (i.zero, i.size, i.bytes)) = some (some (.agg #[.int .i64 0, .int .i32 0]), 2, 16) := by kernel_rfl
theorem info_parts_pair : ∃ i, Tryd.prog.info? 42 = some i ∧ i.zero = some (.agg #[.int .i64 0, .int .i32 0]) ∧ i.size = 2 ∧ i.bytes = 16 := by
  obtain ⟨i, hi, h2⟩ := Option.map_eq_some_iff.1 info_pair
  obtain ⟨h3, h4⟩ := Prod.mk.inj h2
  obtain ⟨h5, h6⟩ := Prod.mk.inj h4
  exact ⟨i, hi, h3, h5, h6⟩
theorem pairs_at {w : World} {a : Option Addr} {n cap : Nat} {l : List Pr} (h : IsPairs w a n cap l) (h0 : 0 < n) : ∃ x off, a = some ⟨x, off, none⟩ ∧ x < w.heap.size ∧ ∀ (j : Nat) p, l[j]? = some p → w.cell? ⟨x, off + j * 2, none⟩ = some (.int .i64 p.1) ∧ w.cell? ⟨x, off + j * 2 + 1, none⟩ = some (.int .i32 p.2) := by
  obtain ⟨h1, h2⟩ := h
  rcases h2 with h2 | ⟨x, off, rfl, hc, hx, hcell⟩
  · omega
  · exact ⟨x, off, rfl, hx, hcell⟩
end Go.Proofs.YtealeedbkjiabaaDoor
