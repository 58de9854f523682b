/-
  Rows of keys, plainly: what they come to, pair by pair; rows by rising keys; what is found in them.
-/
import Derived.Test.YtealeedbkjiabaaDoorRnSort
namespace Go.Proofs.YtealeedbkjiabaaDoor
open Go Go.RowKit
set_option linter.unusedSimpArgs false
set_option linter.unusedVariables false

/-- A row: its first key, what that has, how many. -/
structure Rw where
  f : Int
  t : Int
  n : Int
instance : Inhabited Rw := ⟨⟨0, 0, 0⟩⟩
/-- A row's pairs; those of rows. -/
def expR (r : Rw) : List Pr := pairsN r.f (fun (i : Nat) => r.t + (i : Int)) r.n.toNat
def expL (rs : List Rw) : List Pr := rs.flatMap expR
theorem expL_nil : expL [] = [] := rfl
theorem expL_app (a b : List Rw) : expL (a ++ b) = expL a ++ expL b := by simp [expL]
theorem expL_one (r : Rw) : expL [r] = expR r := by simp [expL]
theorem expL_cons (r : Rw) (l : List Rw) : expL (r :: l) = expR r ++ expL l := by simp [expL]
theorem expR_len (r : Rw) : (expR r).length = r.n.toNat := pairsN_len _ _ _
theorem expR_zero (r : Rw) (h : r.n = 0) : expR r = [] := by
  unfold expR
  rw [h]
  rfl
/-- A row that may be in a table. -/
def GoodR (r : Rw) : Prop := 0 ≤ r.f ∧ r.f + r.n ≤ 2097152 ∧ 0 ≤ r.t ∧ r.t + r.n ≤ 2097152 ∧ 1 ≤ r.n
def GoodL (rs : List Rw) : Prop := ∀ r ∈ rs, GoodR r
theorem GoodL.nil : GoodL [] := fun r h => by simp at h
theorem GoodL.app {a b : List Rw} (h : GoodL a) (k : GoodL b) : GoodL (a ++ b) := fun r hr => (List.mem_append.1 hr).elim (h r) (k r)
theorem GoodL.one {r : Rw} (h : GoodR r) : GoodL [r] := fun q hq => by
  obtain rfl := List.mem_singleton.1 hq
  exact h
theorem mem_expR {r : Rw} {q : Pr} (h : 0 ≤ r.n) : q ∈ expR r ↔ r.f ≤ q.1 ∧ q.1 < r.f + r.n ∧ q.2 = r.t + (q.1 - r.f) := by
  unfold expR pairsN
  rw [List.mem_map]
  constructor
  · rintro ⟨i, hi, rfl⟩
    have := List.mem_range.1 hi
    exact ⟨by show r.f ≤ r.f + (i : Int); omega, by show r.f + (i : Int) < r.f + r.n; omega, by show r.t + (i : Int) = r.t + (r.f + (i : Int) - r.f); omega⟩
  · rintro ⟨h1, h2, h3⟩
    refine ⟨(q.1 - r.f).toNat, List.mem_range.2 (by omega), ?_⟩
    refine Prod.ext ?_ ?_
    · show r.f + (((q.1 - r.f).toNat : Nat) : Int) = q.1
      omega
    · show r.t + (((q.1 - r.f).toNat : Nat) : Int) = q.2
      omega
theorem pairsN_add (f0 : Int) (g : Nat → Int) (a : Nat) : ∀ b : Nat, pairsN f0 g (a + b) = pairsN f0 g a ++ pairsN (f0 + (a : Int)) (fun i => g (a + i)) b
  | 0 => by simp [pairsN]
  | b + 1 => by
    rw [← Nat.add_assoc, pairsN_succ, pairsN_add f0 g a b, pairsN_succ, List.append_assoc]
    congr 3
    refine Prod.ext ?_ rfl
    show f0 + ((a + b : Nat) : Int) = f0 + (a : Int) + (b : Int)
    omega
/-- A row that goes on with another one is one with it. -/
theorem expR_join (l r : Rw) (h : 0 ≤ l.n) (k : 0 ≤ r.n) (e1 : l.f + l.n = r.f) (e2 : l.t + l.n = r.t) : expR ⟨l.f, l.t, l.n + r.n⟩ = expR l ++ expR r := by
  unfold expR
  show pairsN l.f (fun (i : Nat) => l.t + (i : Int)) (l.n + r.n).toNat = _
  have e : (l.n + r.n).toNat = l.n.toNat + r.n.toNat := by omega
  rw [e, pairsN_add]
  congr 1
  have e3 : l.f + (l.n.toNat : Int) = r.f := by omega
  rw [e3]
  congr 1
  funext i
  show l.t + ((l.n.toNat + i : Nat) : Int) = r.t + (i : Int)
  omega
/-! ### Rows that rise -/
def RisingR (rs : List Rw) : Prop := rs.Pairwise fun a b => a.f + a.n ≤ b.f
theorem rising_expR (r : Rw) : Rising (expR r) := rising_pairsN _ _ _
theorem rising_expL {rs : List Rw} (hg : GoodL rs) : Rising (expL rs) ↔ RisingR rs := by
  unfold Rising expL RisingR
  rw [List.pairwise_flatMap]
  constructor
  · rintro ⟨_, h⟩
    refine List.Pairwise.imp_of_mem ?_ h
    intro a b ha hb hab
    have ga := hg a ha
    have gb := hg b hb
    unfold GoodR at ga gb
    have := hab (a.f + a.n - 1, a.t + a.n - 1) ((mem_expR (by omega)).2 ⟨by show a.f ≤ a.f + a.n - 1; omega, by show a.f + a.n - 1 < _; omega, by show a.t + a.n - 1 = a.t + (a.f + a.n - 1 - a.f); omega⟩) (b.f, b.t) ((mem_expR (by omega)).2 ⟨Int.le_refl _, by show b.f < b.f + b.n; omega, by show b.t = b.t + (b.f - b.f); omega⟩)
    have this : a.f + a.n - 1 < b.f := this
    omega
  · intro h
    refine ⟨fun r _ => rising_expR r, List.Pairwise.imp_of_mem ?_ h⟩
    intro a b ha hb hab q hq p hp
    have ga := hg a ha
    have gb := hg b hb
    unfold GoodR at ga gb
    have h1 := (mem_expR (by omega)).1 hq
    have h2 := (mem_expR (by omega)).1 hp
    omega
theorem mem_expL {rs : List Rw} {q : Pr} : q ∈ expL rs ↔ ∃ r ∈ rs, q ∈ expR r := by simp [expL, List.mem_flatMap]
theorem mem_expL_good {rs : List Rw} (hg : GoodL rs) {q : Pr} : q ∈ expL rs ↔ ∃ r ∈ rs, r.f ≤ q.1 ∧ q.1 < r.f + r.n ∧ q.2 = r.t + (q.1 - r.f) := by
  rw [mem_expL]
  constructor
  · rintro ⟨r, hr, h⟩
    have := hg r hr
    unfold GoodR at this
    exact ⟨r, hr, (mem_expR (by omega)).1 h⟩
  · rintro ⟨r, hr, h⟩
    have := hg r hr
    unfold GoodR at this
    exact ⟨r, hr, (mem_expR (by omega)).2 h⟩
/-- Rows of which no two have a key in common. -/
def Apart (a b : Rw) : Prop := ∀ q ∈ expR a, ∀ p ∈ expR b, q.1 ≠ p.1
theorem Apart.symm {a b : Rw} (h : Apart a b) : Apart b a := fun q hq p hp e => h p hp q hq e.symm
/-- No two pairs of a list have one key. -/
def Once (l : List Pr) : Prop := l.Pairwise fun a b => a.1 ≠ b.1
theorem Rising.once {l : List Pr} (h : Rising l) : Once l := List.Pairwise.imp (fun h => by omega) h
theorem once_app {a b : List Pr} : Once (a ++ b) ↔ Once a ∧ Once b ∧ ∀ p ∈ a, ∀ q ∈ b, p.1 ≠ q.1 := List.pairwise_append
theorem once_apart {rs : List Rw} (h : Once (expL rs)) : rs.Pairwise Apart := (List.pairwise_flatMap.1 h).2
/-- Rows in order of their first keys, no two with a key in common, rise. -/
theorem risingR_of {rs : List Rw} (hg : GoodL rs) (ha : rs.Pairwise Apart) (hs : rs.Pairwise fun a b => a.f ≤ b.f) : RisingR rs := by
  refine List.Pairwise.imp_of_mem ?_ (ha.and hs)
  intro a b ha hb ⟨hab, hle⟩
  have ga := hg a ha
  have gb := hg b hb
  unfold GoodR at ga gb
  by_cases hh : a.f + a.n ≤ b.f
  · exact hh
  · exfalso
    exact hab (b.f, a.t + (b.f - a.f)) ((mem_expR (by omega)).2 ⟨by show a.f ≤ b.f; omega, by show b.f < a.f + a.n; omega, rfl⟩) (b.f, b.t) ((mem_expR (by omega)).2 ⟨Int.le_refl _, by show b.f < b.f + b.n; omega, by show b.t = b.t + (b.f - b.f); omega⟩) rfl
theorem perm_apart {a b : List Rw} (h : a.Perm b) (k : b.Pairwise Apart) : a.Pairwise Apart := (h.pairwise_iff (fun {_ _} h => Apart.symm h)).2 k
theorem perm_good {a b : List Rw} (h : a.Perm b) (k : GoodL b) : GoodL a := fun r hr => k r (h.mem_iff.1 hr)
theorem perm_mem {a b : List Rw} (h : a.Perm b) (q : Pr) : q ∈ expL a ↔ q ∈ expL b := by
  rw [mem_expL, mem_expL]
  exact ⟨fun ⟨r, hr, k⟩ => ⟨r, h.mem_iff.1 hr, k⟩, fun ⟨r, hr, k⟩ => ⟨r, h.mem_iff.2 hr, k⟩⟩
/-- Rows in whatever order, sorted: the one rising list of their pairs. -/
theorem sorted_exp {rs ss : List Rw} {l : List Pr} (hp : ss.Perm rs) (hg : GoodL rs) (ho : Once (expL rs)) (hs : ss.Pairwise fun a b => a.f ≤ b.f) (hl : Rising l) (hm : ∀ q, q ∈ expL rs ↔ q ∈ l) : expL ss = l := by
  have g2 := perm_good hp hg
  refine rising_ext ((rising_expL g2).2 (risingR_of g2 (perm_apart hp (once_apart ho)) hs)) hl (fun q => ?_)
  rw [perm_mem hp, hm]
theorem expL_len (rs : List Rw) : (expL rs).length = (rs.map fun r => r.n.toNat).sum := by
  induction rs with
  | nil => rfl
  | cons r l ih => rw [expL_cons, List.length_append, ih, expR_len]; rfl
/-- Rows have no more places than pairs. -/
theorem rows_le {rs : List Rw} (hg : GoodL rs) : rs.length ≤ (expL rs).length := by
  induction rs with
  | nil => exact Nat.le_refl _
  | cons r l ih =>
    have := hg r (by simp)
    have h2 := ih (fun q hq => hg q (by simp [hq]))
    unfold GoodR at this
    rw [expL_cons, List.length_append, expR_len, List.length_cons]
    omega
/-- How many keys the first rows have. -/
def tot (rs : List Rw) : Nat := (expL rs).length
theorem tot_app (a b : List Rw) : tot (a ++ b) = tot a + tot b := by unfold tot; rw [expL_app, List.length_append]
theorem tot_one {r : Rw} (h : 0 ≤ r.n) : (tot [r] : Int) = r.n := by
  unfold tot
  rw [expL_one, expR_len]
  omega
theorem tot_take {rs : List Rw} {k : Nat} {r : Rw} (h : rs[k]? = some r) : tot (rs.take (k + 1)) = tot (rs.take k) + tot [r] := by
  rw [List.take_add_one, h, tot_app]
  rfl
theorem tot_take_le (rs : List Rw) (k : Nat) : tot (rs.take k) ≤ tot rs := by
  have := tot_app (rs.take k) (rs.drop k)
  rw [List.take_append_drop] at this
  omega
end Go.Proofs.YtealeedbkjiabaaDoor
