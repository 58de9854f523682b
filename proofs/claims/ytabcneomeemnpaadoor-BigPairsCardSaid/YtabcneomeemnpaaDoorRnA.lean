/-
  Tables of codes and signs, plainly: pairs by rising codes; lists of pairs in memory.
  The document's answers of layer 4 (1): the place of a code, the first code of a sign.
  The document's answers of layer 4 (2): pairs joined, and one over the other.
  The document's answers of layer 4 (3): a piece's pairs.
  Pieces in memory; which are light; the document's pairs of pieces, or the first that is refused.
-/
import Derived.Test.YtabcneomeemnpaaDoorPtB
import Derived.Test.YtabcneomeemnpaaDoorStr
import Derived.Laws.AppendOwn
namespace Go.Proofs.YtabcneomeemnpaaDoor
open Go Go.ChangeShapes Go.WideShapes Go.ChangeAt Go.RowKit
set_option linter.unusedSimpArgs false
set_option linter.unusedVariables false

/-- The place of a code among pairs, the first one's place being k; -1: it isn't there. -/
def findGo (c : Int) : Nat → List Pr → Int
  | _, [] => -1
  | k, p :: l => if p.1 = c then (k : Int) else findGo c (k + 1) l
def findP (l : List Pr) (c : Int) : Int := findGo c 0 l
/-- With a pair, by rising codes. -/
def putP : List Pr → Pr → List Pr
  | [], p => [p]
  | q :: l, p => if p.1 < q.1 then p :: q :: l else q :: putP l p
/-- Pairs, and others, of which none has a code of the first ones. -/
def joinP (l more : List Pr) : Option (List Pr) := if more.any (fun q => decide (0 ≤ findP l q.1)) then none else some (more.foldl putP l)
def overP (l other : List Pr) : List Pr := other.foldl (fun out q => if findP l q.1 < 0 then putP out q else out) l
/-- The first code of a sign; -1: there is none. -/
def revP (l : List Pr) (p : Int) : Int :=
  match l with
  | [] => -1
  | q :: l => if q.2 = p then q.1 else revP l p
theorem findGo_at (c : Int) : ∀ (l : List Pr) (k j : Nat), (∀ (i : Nat) (p : Pr), i < j → l[i]? = some p → p.1 ≠ c) → ∀ p : Pr, l[j]? = some p → p.1 = c → findGo c k l = ((k + j : Nat) : Int)
  | [], _, _, _, _, h, _ => by simp at h
  | q :: l, k, 0, _, p, h, e => by
    simp at h
    subst h
    rw [findGo, if_pos e]
    rfl
  | q :: l, k, j + 1, hn, p, h, e => by
    have h0 := hn 0 q (by omega) rfl
    rw [findGo, if_neg h0, findGo_at c l (k + 1) j (fun i p hi hp => hn (i + 1) p (by omega) (by simpa using hp)) p (by simpa using h) e]
    omega
theorem findGo_no (c : Int) : ∀ (l : List Pr) (k : Nat), (∀ (i : Nat) (p : Pr), l[i]? = some p → p.1 ≠ c) → findGo c k l = -1
  | [], _, _ => rfl
  | q :: l, k, hn => by
    have h0 := hn 0 q rfl
    rw [findGo, if_neg h0, findGo_no c l (k + 1) (fun i p hp => hn (i + 1) p (by simpa using hp))]
theorem revP_at (c : Int) : ∀ (l : List Pr) (j : Nat), (∀ (i : Nat) (p : Pr), i < j → l[i]? = some p → p.2 ≠ c) → ∀ p : Pr, l[j]? = some p → p.2 = c → revP l c = p.1
  | [], _, _, _, h, _ => by simp at h
  | q :: l, 0, _, p, h, e => by
    simp at h
    subst h
    rw [revP, if_pos e]
  | q :: l, j + 1, hn, p, h, e => by
    have h0 := hn 0 q (by omega) rfl
    rw [revP, if_neg h0, revP_at c l j (fun i p hi hp => hn (i + 1) p (by omega) (by simpa using hp)) p (by simpa using h) e]
theorem revP_no (c : Int) : ∀ (l : List Pr), (∀ (i : Nat) (p : Pr), l[i]? = some p → p.2 ≠ c) → revP l c = -1
  | [], _ => rfl
  | q :: l, hn => by
    have h0 := hn 0 q rfl
    rw [revP, if_neg h0, revP_no c l (fun i p hp => hn (i + 1) p (by simpa using hp))]
theorem putP_len : ∀ (l : List Pr) (p : Pr), (putP l p).length = l.length + 1
  | [], _ => rfl
  | q :: l, p => by
    unfold putP
    split
    · rfl
    · simp [putP_len l p]
/-- Where a pair goes in: behind all whose codes aren't above its own, up to the first whose code is. -/
theorem putP_at (p : Pr) : ∀ (l : List Pr) (j : Nat), j ≤ l.length → (∀ (i : Nat) (q : Pr), i < j → l[i]? = some q → ¬ p.1 < q.1) → (∀ q : Pr, l[j]? = some q → p.1 < q.1) → putP l p = l.take j ++ p :: l.drop j
  | [], 0, _, _, _ => rfl
  | [], j + 1, h, _, _ => by simp at h
  | q :: l, 0, _, _, h => by
    have := h q rfl
    unfold putP
    rw [if_pos this]
    rfl
  | q :: l, j + 1, hj, hn, h => by
    have h0 := hn 0 q (by omega) rfl
    unfold putP
    rw [if_neg h0, putP_at p l j (by simpa using hj) (fun i r hi hr => hn (i + 1) r (by omega) (by simpa using hr)) (fun r hr => h r (by simpa using hr))]
    rfl

/-! ### Pairs in memory -/
end Go.Proofs.YtabcneomeemnpaaDoor
namespace Go.Proofs.YtabcneomeemnpaaDoor
open Go Go.ChangeShapes Go.WideShapes Go.ChangeAt Go.RowKit
set_option linter.unusedSimpArgs false
set_option linter.unusedVariables false

theorem own_drewN {w : World} {B : Nat} {e : TypeId} {size : Nat} {v : Value} {n : Nat} {xs : List Value} (h : w.ownsRow B e size v n xs) (k : Nat) : (w.drewN k).ownsRow B e size v n xs := h
/-- How far a pair is put in. -/
def PutTo (l : List Pr) (p : Pr) (k : Nat) (done : Bool) (out : List Pr) : Prop :=
  (done = false ∧ out = l.take k ∧ ∀ (i : Nat) (q : Pr), i < k → l[i]? = some q → ¬ p.1 < q.1) ∨ (done = true ∧ out ++ l.drop k = putP l p)
theorem PutTo.len {l : List Pr} {p : Pr} {k : Nat} {done : Bool} {out : List Pr} (h : PutTo l p k done out) (hk : k ≤ l.length) : out.length ≤ k + 1 := by
  rcases h with ⟨_, rfl, _⟩ | ⟨_, h2⟩
  · rw [List.length_take]; omega
  · have := congrArg List.length h2
    rw [putP_len, List.length_append, List.length_drop] at this
    omega
theorem PutTo.more {l : List Pr} {p : Pr} {k : Nat} {out : List Pr} (h : PutTo l p k true out) {q : Pr} (hq : l[k]? = some q) : PutTo l p (k + 1) true (out ++ [q]) := by
  rcases h with ⟨h1, _⟩ | ⟨_, h2⟩
  · cases h1
  · refine .inr ⟨rfl, ?_⟩
    obtain ⟨hlt, rfl⟩ := List.getElem?_eq_some_iff.1 hq
    rw [← h2, List.drop_eq_getElem_cons hlt, List.append_assoc]
    rfl
theorem PutTo.skip {l : List Pr} {p : Pr} {k : Nat} {out : List Pr} (h : PutTo l p k false out) {q : Pr} (hq : l[k]? = some q) (hn : ¬ p.1 < q.1) : PutTo l p (k + 1) false (out ++ [q]) := by
  rcases h with ⟨_, rfl, h2⟩ | ⟨h1, _⟩
  · refine .inl ⟨rfl, by rw [List.take_add_one, hq]; rfl, fun i r hi hr => ?_⟩
    by_cases e : i = k
    · subst e
      rw [hq] at hr
      cases hr
      exact hn
    · exact h2 i r (by omega) hr
  · cases h1
theorem PutTo.here {l : List Pr} {p : Pr} {k : Nat} {out : List Pr} (h : PutTo l p k false out) (hk : k ≤ l.length) (hq : ∀ q : Pr, l[k]? = some q → p.1 < q.1) : PutTo l p k true (out ++ [p]) := by
  rcases h with ⟨_, rfl, h2⟩ | ⟨h1, _⟩
  · refine .inr ⟨rfl, ?_⟩
    rw [putP_at p l k hk h2 hq, List.append_assoc]
    rfl
  · cases h1
end Go.Proofs.YtabcneomeemnpaaDoor
namespace Go.Proofs.YtabcneomeemnpaaDoor
open Go Go.ChangeShapes Go.WideShapes Go.ChangeAt Go.RowKit
set_option linter.unusedSimpArgs false
set_option linter.unusedVariables false

theorem joinP_some {l more r : List Pr} (h : joinP l more = some r) : (∀ (i : Nat) (q : Pr), more[i]? = some q → findP l q.1 < 0) ∧ more.foldl putP l = r := by
  unfold joinP at h
  split at h
  · cases h
  · rename_i hn
    refine ⟨fun i q hq => ?_, Option.some.inj h⟩
    have : (more.any fun q => decide (0 ≤ findP l q.1)) = false := by simpa using hn
    rw [List.any_eq_false] at this
    have := this q (List.mem_of_getElem? hq)
    simp at this
    omega
theorem joinP_none {l more : List Pr} (h : joinP l more = none) : ∃ (i : Nat) (q : Pr), more[i]? = some q ∧ 0 ≤ findP l q.1 := by
  unfold joinP at h
  split at h
  · rename_i hn
    rw [List.any_eq_true] at hn
    obtain ⟨q, hq, hd⟩ := hn
    obtain ⟨i, hi⟩ := List.getElem?_of_mem hq
    exact ⟨i, q, hi, by simpa using hd⟩
  · cases h
theorem foldl_put_len : ∀ (more l : List Pr), (more.foldl putP l).length = l.length + more.length
  | [], l => rfl
  | q :: more, l => by
    rw [List.foldl_cons, foldl_put_len more, putP_len, List.length_cons]
    omega
theorem foldl_take_succ {f : List Pr → Pr → List Pr} {more l : List Pr} {k : Nat} {q : Pr} (h : more[k]? = some q) : (more.take (k + 1)).foldl f l = f ((more.take k).foldl f l) q := by
  rw [List.take_add_one, h]
  simp
theorem overP_len (l : List Pr) : ∀ (other out : List Pr), (other.foldl (fun out q => if findP l q.1 < 0 then putP out q else out) out).length ≤ out.length + other.length
  | [], out => Nat.le_refl _
  | q :: other, out => by
    have := overP_len l other (if findP l q.1 < 0 then putP out q else out)
    rw [List.foldl_cons, List.length_cons]
    have h2 : (if findP l q.1 < 0 then putP out q else out).length ≤ out.length + 1 := by
      split
      · rw [putP_len]; exact Nat.le_refl _
      · omega
    omega
end Go.Proofs.YtabcneomeemnpaaDoor
namespace Go.Proofs.YtabcneomeemnpaaDoor
open Go Go.ChangeShapes Go.WideShapes Go.ChangeAt Go.RowKit
set_option linter.unusedSimpArgs false
set_option linter.unusedVariables false

/-- So many codes from one on, with their signs. -/
def pairsN (from0 : Int) (f : Nat → Int) (n : Nat) : List Pr := (List.range n).map fun (i : Nat) => (from0 + (i : Int), f i)
theorem pairsN_succ (from0 : Int) (f : Nat → Int) (n : Nat) : pairsN from0 f (n + 1) = pairsN from0 f n ++ [(from0 + (n : Int), f n)] := by simp [pairsN, List.range_succ]
theorem pairsN_len (from0 : Int) (f : Nat → Int) (n : Nat) : (pairsN from0 f n).length = n := by simp [pairsN]
theorem pairsN_get (from0 : Int) (f : Nat → Int) (n i : Nat) (h : i < n) : (pairsN from0 f n)[i]? = some (from0 + (i : Int), f i) := by
  unfold pairsN
  rw [List.getElem?_map, List.getElem?_range h]
  rfl
theorem row_cell' {w : World} {a : Option Addr} {n cap : Nat} {zs : List Int} (h : IsRow w a n cap zs) {k : Nat} (hk : k < n) : ∃ x off, a = some ⟨x, off, none⟩ ∧ x < w.heap.size ∧ ∃ p, zs[k]? = some p ∧ w.cell? ⟨x, off + k, none⟩ = some (.int .i32 p) := by
  obtain ⟨h1, h2⟩ := h
  rcases h2 with h2 | ⟨x, off, rfl, hc, hcell⟩
  · omega
  · have hkl : k < zs.length := by omega
    have e : zs[k]? = some zs[k] := by simp [hkl]
    exact ⟨x, off, rfl, World.block_lt_of_cell? w _ (hcell k _ e), _, e, hcell k _ e⟩
/-- A text's signs. -/
def sgn (t : ByteArray) : List Int := runesL t.data.toList
theorem sgn_len (t : ByteArray) : (sgn t).length ≤ t.size := by
  have := Lib.runeCount_le t
  rwa [runeCount_eq] at this
/-- A piece's pairs. -/
def pieceP (from0 tz cnt : Int) (t : ByteArray) : Option (List Pr) :=
  if t.data.toList = [] then
    if from0 < 0 ∨ cnt < 1 ∨ 1048576 < cnt ∨ 1048576 - cnt < from0 ∨ isSign tz = false ∨ isSign (tz + cnt - 1) = false ∨ (tz < 55296 ∧ 57343 < tz + cnt - 1) then none
    else some (pairsN from0 (fun (i : Nat) => tz + (i : Int)) cnt.toNat)
  else if ¬ badS t < 0 ∨ from0 < 0 ∨ 1048576 - ((sgn t).length : Int) < from0 then none
  else some (pairsN from0 (fun (i : Nat) => (sgn t).getD i 0) (sgn t).length)
theorem rscalar_at {p : Int} {c : Bool} (h : isSign p = c) (w : World) : Calls Tryd.prog 34 #[.int .i32 p] w fun e w' => e = .returned (.bool c) ∧ w = w' := by
  have := rscalar_any p w
  rwa [h] at this
theorem ne_facts {t : ByteArray} (h : t.data.toList ≠ []) : t.toList.isEmpty = false ∧ (t.toList == []) = false ∧ ¬ t.toList = [] := by
  rw [ByteArray.toList_eq]
  exact ⟨by simpa using h, beq_false_of_ne h, h⟩
end Go.Proofs.YtabcneomeemnpaaDoor
namespace Go.Proofs.YtabcneomeemnpaaDoor
open Go Go.ChangeShapes Go.WideShapes Go.ChangeAt Go.RowKit
set_option linter.unusedSimpArgs false
set_option linter.unusedVariables false

/-- A piece: its first code, its first sign's number, how many, its text. -/
structure Pv where
  f : Int
  t : Int
  c : Int
  x : ByteArray
/-- A list of pieces: none, or in memory. -/
def IsPieces (w : World) (a : Option Addr) (len cap : Nat) (l : List Pv) : Prop :=
  l.length = len ∧ (len = 0 ∨ ∃ (x off : Nat), a = some ⟨x, off, none⟩ ∧ len ≤ cap ∧ x < w.heap.size ∧ ∀ (j : Nat) (p : Pv), l[j]? = some p → w.cell? ⟨x, off + j * 4, none⟩ = some (.int .i64 p.f) ∧ w.cell? ⟨x, off + j * 4 + 1, none⟩ = some (.int .i32 p.t) ∧ w.cell? ⟨x, off + j * 4 + 2, none⟩ = some (.int .i64 p.c) ∧ w.cell? ⟨x, off + j * 4 + 3, none⟩ = some (.string p.x))
theorem IsPieces.ext {w w' : World} {a : Option Addr} {len cap : Nat} {l : List Pv} (h : IsPieces w a len cap l) (k : Ext w w') : IsPieces w' a len cap l := by
  obtain ⟨h1, h2⟩ := h
  refine ⟨h1, ?_⟩
  rcases h2 with h2 | ⟨x, off, rfl, hc, hx, hcell⟩
  · exact .inl h2
  · refine .inr ⟨x, off, rfl, hc, Nat.lt_of_lt_of_le hx k.size, fun j z hj => ?_⟩
    obtain ⟨a0, a1, a2, a3⟩ := hcell j z hj
    exact ⟨(World.cell?_of_block (k.block x hx)).trans a0, (World.cell?_of_block (k.block x hx)).trans a1, (World.cell?_of_block (k.block x hx)).trans a2, (World.cell?_of_block (k.block x hx)).trans a3⟩
theorem piece_at {w : World} {a : Option Addr} {n cap : Nat} {l : List Pv} (h : IsPieces w a n cap l) {k : Nat} (hk : k < n) : ∃ x off p, a = some ⟨x, off, none⟩ ∧ x < w.heap.size ∧ l[k]? = some p ∧ ∀ w', Ext w w' → w'.cell? ⟨x, off + k * 4, none⟩ = some (.int .i64 p.f) ∧ w'.cell? ⟨x, off + k * 4 + 1, none⟩ = some (.int .i32 p.t) ∧ w'.cell? ⟨x, off + k * 4 + 2, none⟩ = some (.int .i64 p.c) ∧ w'.cell? ⟨x, off + k * 4 + 3, none⟩ = some (.string p.x) := by
  have h0 := h
  obtain ⟨h1, h2⟩ := h
  rcases h2 with h2 | ⟨x, off, rfl, hc, hx, hcell⟩
  · omega
  · have e : l[k]? = some l[k] := by simp
    refine ⟨x, off, l[k], rfl, hx, e, fun w' hxx => ?_⟩
    obtain ⟨a0, a1, a2, a3⟩ := hcell k _ e
    exact ⟨(World.cell?_of_block (hxx.block x hx)).trans a0, (World.cell?_of_block (hxx.block x hx)).trans a1, (World.cell?_of_block (hxx.block x hx)).trans a2, (World.cell?_of_block (hxx.block x hx)).trans a3⟩
/-- Is a piece light? -/
def lightOne (p : Pv) : Bool := decide (p.c ≤ 100) && decide (p.x.size ≤ 300)
theorem lightOne_iff (p : Pv) : lightOne p = true ↔ p.c ≤ 100 ∧ p.x.size ≤ 300 := by simp [lightOne]
def lightP (l : List Pv) : Bool := decide (l.length ≤ 12) && l.all lightOne
/-- The pairs of pieces behind some pairs, or the place of the first that is refused. -/
def madeGo : List Pr → Nat → List Pv → List Pr × Int
  | all, _, [] => (all, -1)
  | all, i, v :: vs =>
    match pieceP v.f v.t v.c v.x with
    | none => ([], (i : Int))
    | some more =>
      match joinP all more with
      | none => ([], (i : Int))
      | some all2 => madeGo all2 (i + 1) vs
def madeP (vs : List Pv) : List Pr × Int := madeGo [] 0 vs
theorem madeGo_none {all : List Pr} {i : Nat} {v : Pv} {vs : List Pv} (h : pieceP v.f v.t v.c v.x = none) : madeGo all i (v :: vs) = ([], (i : Int)) := by rw [madeGo, h]
theorem madeGo_no {all more : List Pr} {i : Nat} {v : Pv} {vs : List Pv} (h : pieceP v.f v.t v.c v.x = some more) (k : joinP all more = none) : madeGo all i (v :: vs) = ([], (i : Int)) := by rw [madeGo, h]; simp only [k]
theorem madeGo_some {all more all2 : List Pr} {i : Nat} {v : Pv} {vs : List Pv} (h : pieceP v.f v.t v.c v.x = some more) (k : joinP all more = some all2) : madeGo all i (v :: vs) = madeGo all2 (i + 1) vs := by rw [madeGo, h]; simp only [k]
theorem joinP_len {l more r : List Pr} (h : joinP l more = some r) : r.length = l.length + more.length := by
  rw [← (joinP_some h).2, foldl_put_len]
theorem pieceP_len {f t c : Int} {x : ByteArray} {more : List Pr} (h : pieceP f t c x = some more) (hc : c ≤ 100) (hx : x.size ≤ 300) : more.length ≤ 300 := by
  unfold pieceP at h
  split at h
  · split at h
    · cases h
    · have := Option.some.inj h
      rw [← this, pairsN_len]
      omega
  · split at h
    · cases h
    · have := Option.some.inj h
      rw [← this, pairsN_len]
      have := sgn_len x
      omega
end Go.Proofs.YtabcneomeemnpaaDoor
