/-
  Rows of keys, plainly: what they come to, pair by pair; rows by rising keys; what is found in them.
  Rows in memory: read ones, a call's own ones; an append of which is known where it lies; a key's end, and how many keys rows have.
  Rows: what one has ahead of a key, and what from it on; a row put behind others.
-/
import Derived.Test.YtabcneomeemnpaaDoorRnSort
import Derived.Deep.RegionHeld3
import Derived.BigRegion
namespace Go.Proofs.YtabcneomeemnpaaDoor
open Go Go.RowKit
set_option linter.unusedSimpArgs false
set_option linter.unusedVariables false

/-- A row: its first key, what that has, how many. -/
structure Rw where
  f : Int
  t : Int
  n : Int
instance : Inhabited Rw := ⟨⟨0, 0, 0⟩⟩
/-- A row's pairs; those of rows. -/
def expR (r : Rw) : List Pr := pairsN r.f (fun (i : Nat) => r.t + (i : Int)) r.n.toNat
def expL (rs : List Rw) : List Pr := rs.flatMap expR
theorem expL_nil : expL [] = [] := rfl
theorem expL_app (a b : List Rw) : expL (a ++ b) = expL a ++ expL b := by simp [expL]
theorem expL_one (r : Rw) : expL [r] = expR r := by simp [expL]
theorem expL_cons (r : Rw) (l : List Rw) : expL (r :: l) = expR r ++ expL l := by simp [expL]
theorem expR_len (r : Rw) : (expR r).length = r.n.toNat := pairsN_len _ _ _
theorem expR_zero (r : Rw) (h : r.n = 0) : expR r = [] := by
  unfold expR
  rw [h]
  rfl
/-- A row that may be in a table. -/
def GoodR (r : Rw) : Prop := 0 ≤ r.f ∧ r.f + r.n ≤ 2097152 ∧ 0 ≤ r.t ∧ r.t + r.n ≤ 2097152 ∧ 1 ≤ r.n
def GoodL (rs : List Rw) : Prop := ∀ r ∈ rs, GoodR r
theorem GoodL.nil : GoodL [] := fun r h => by simp at h
theorem GoodL.app {a b : List Rw} (h : GoodL a) (k : GoodL b) : GoodL (a ++ b) := fun r hr => (List.mem_append.1 hr).elim (h r) (k r)
theorem GoodL.one {r : Rw} (h : GoodR r) : GoodL [r] := fun q hq => by
  obtain rfl := List.mem_singleton.1 hq
  exact h
theorem mem_expR {r : Rw} {q : Pr} (h : 0 ≤ r.n) : q ∈ expR r ↔ r.f ≤ q.1 ∧ q.1 < r.f + r.n ∧ q.2 = r.t + (q.1 - r.f) := by
  unfold expR pairsN
  rw [List.mem_map]
  constructor
  · rintro ⟨i, hi, rfl⟩
    have := List.mem_range.1 hi
    exact ⟨by show r.f ≤ r.f + (i : Int); omega, by show r.f + (i : Int) < r.f + r.n; omega, by show r.t + (i : Int) = r.t + (r.f + (i : Int) - r.f); omega⟩
  · rintro ⟨h1, h2, h3⟩
    refine ⟨(q.1 - r.f).toNat, List.mem_range.2 (by omega), ?_⟩
    refine Prod.ext ?_ ?_
    · show r.f + (((q.1 - r.f).toNat : Nat) : Int) = q.1
      omega
    · show r.t + (((q.1 - r.f).toNat : Nat) : Int) = q.2
      omega
theorem pairsN_add (f0 : Int) (g : Nat → Int) (a : Nat) : ∀ b : Nat, pairsN f0 g (a + b) = pairsN f0 g a ++ pairsN (f0 + (a : Int)) (fun i => g (a + i)) b
  | 0 => by simp [pairsN]
  | b + 1 => by
    rw [← Nat.add_assoc, pairsN_succ, pairsN_add f0 g a b, pairsN_succ, List.append_assoc]
    congr 3
    refine Prod.ext ?_ rfl
    show f0 + ((a + b : Nat) : Int) = f0 + (a : Int) + (b : Int)
    omega
/-- A row that goes on with another one is one with it. -/
theorem expR_join (l r : Rw) (h : 0 ≤ l.n) (k : 0 ≤ r.n) (e1 : l.f + l.n = r.f) (e2 : l.t + l.n = r.t) : expR ⟨l.f, l.t, l.n + r.n⟩ = expR l ++ expR r := by
  unfold expR
  show pairsN l.f (fun (i : Nat) => l.t + (i : Int)) (l.n + r.n).toNat = _
  have e : (l.n + r.n).toNat = l.n.toNat + r.n.toNat := by omega
  rw [e, pairsN_add]
  congr 1
  have e3 : l.f + (l.n.toNat : Int) = r.f := by omega
  rw [e3]
  congr 1
  funext i
  show l.t + ((l.n.toNat + i : Nat) : Int) = r.t + (i : Int)
  omega
/-! ### Rows that rise -/
def RisingR (rs : List Rw) : Prop := rs.Pairwise fun a b => a.f + a.n ≤ b.f
theorem rising_expR (r : Rw) : Rising (expR r) := rising_pairsN _ _ _
theorem rising_expL {rs : List Rw} (hg : GoodL rs) : Rising (expL rs) ↔ RisingR rs := by
  unfold Rising expL RisingR
  rw [List.pairwise_flatMap]
  constructor
  · rintro ⟨_, h⟩
    refine List.Pairwise.imp_of_mem ?_ h
    intro a b ha hb hab
    have ga := hg a ha
    have gb := hg b hb
    unfold GoodR at ga gb
    have := hab (a.f + a.n - 1, a.t + a.n - 1) ((mem_expR (by omega)).2 ⟨by show a.f ≤ a.f + a.n - 1; omega, by show a.f + a.n - 1 < _; omega, by show a.t + a.n - 1 = a.t + (a.f + a.n - 1 - a.f); omega⟩) (b.f, b.t) ((mem_expR (by omega)).2 ⟨Int.le_refl _, by show b.f < b.f + b.n; omega, by show b.t = b.t + (b.f - b.f); omega⟩)
    have this : a.f + a.n - 1 < b.f := this
    omega
  · intro h
    refine ⟨fun r _ => rising_expR r, List.Pairwise.imp_of_mem ?_ h⟩
    intro a b ha hb hab q hq p hp
    have ga := hg a ha
    have gb := hg b hb
    unfold GoodR at ga gb
    have h1 := (mem_expR (by omega)).1 hq
    have h2 := (mem_expR (by omega)).1 hp
    omega
theorem mem_expL {rs : List Rw} {q : Pr} : q ∈ expL rs ↔ ∃ r ∈ rs, q ∈ expR r := by simp [expL, List.mem_flatMap]
theorem mem_expL_good {rs : List Rw} (hg : GoodL rs) {q : Pr} : q ∈ expL rs ↔ ∃ r ∈ rs, r.f ≤ q.1 ∧ q.1 < r.f + r.n ∧ q.2 = r.t + (q.1 - r.f) := by
  rw [mem_expL]
  constructor
  · rintro ⟨r, hr, h⟩
    have := hg r hr
    unfold GoodR at this
    exact ⟨r, hr, (mem_expR (by omega)).1 h⟩
  · rintro ⟨r, hr, h⟩
    have := hg r hr
    unfold GoodR at this
    exact ⟨r, hr, (mem_expR (by omega)).2 h⟩
/-- Rows of which no two have a key in common. -/
def Apart (a b : Rw) : Prop := ∀ q ∈ expR a, ∀ p ∈ expR b, q.1 ≠ p.1
theorem Apart.symm {a b : Rw} (h : Apart a b) : Apart b a := fun q hq p hp e => h p hp q hq e.symm
/-- No two pairs of a list have one key. -/
def Once (l : List Pr) : Prop := l.Pairwise fun a b => a.1 ≠ b.1
theorem Rising.once {l : List Pr} (h : Rising l) : Once l := List.Pairwise.imp (fun h => by omega) h
theorem once_app {a b : List Pr} : Once (a ++ b) ↔ Once a ∧ Once b ∧ ∀ p ∈ a, ∀ q ∈ b, p.1 ≠ q.1 := List.pairwise_append
theorem once_apart {rs : List Rw} (h : Once (expL rs)) : rs.Pairwise Apart := (List.pairwise_flatMap.1 h).2
/-- Rows in order of their first keys, no two with a key in common, rise. -/
theorem risingR_of {rs : List Rw} (hg : GoodL rs) (ha : rs.Pairwise Apart) (hs : rs.Pairwise fun a b => a.f ≤ b.f) : RisingR rs := by
  refine List.Pairwise.imp_of_mem ?_ (ha.and hs)
  intro a b ha hb ⟨hab, hle⟩
  have ga := hg a ha
  have gb := hg b hb
  unfold GoodR at ga gb
  by_cases hh : a.f + a.n ≤ b.f
  · exact hh
  · exfalso
    exact hab (b.f, a.t + (b.f - a.f)) ((mem_expR (by omega)).2 ⟨by show a.f ≤ b.f; omega, by show b.f < a.f + a.n; omega, rfl⟩) (b.f, b.t) ((mem_expR (by omega)).2 ⟨Int.le_refl _, by show b.f < b.f + b.n; omega, by show b.t = b.t + (b.f - b.f); omega⟩) rfl
theorem perm_apart {a b : List Rw} (h : a.Perm b) (k : b.Pairwise Apart) : a.Pairwise Apart := (h.pairwise_iff (fun {_ _} h => Apart.symm h)).2 k
theorem perm_good {a b : List Rw} (h : a.Perm b) (k : GoodL b) : GoodL a := fun r hr => k r (h.mem_iff.1 hr)
theorem perm_mem {a b : List Rw} (h : a.Perm b) (q : Pr) : q ∈ expL a ↔ q ∈ expL b := by
  rw [mem_expL, mem_expL]
  exact ⟨fun ⟨r, hr, k⟩ => ⟨r, h.mem_iff.1 hr, k⟩, fun ⟨r, hr, k⟩ => ⟨r, h.mem_iff.2 hr, k⟩⟩
/-- Rows in whatever order, sorted: the one rising list of their pairs. -/
theorem sorted_exp {rs ss : List Rw} {l : List Pr} (hp : ss.Perm rs) (hg : GoodL rs) (ho : Once (expL rs)) (hs : ss.Pairwise fun a b => a.f ≤ b.f) (hl : Rising l) (hm : ∀ q, q ∈ expL rs ↔ q ∈ l) : expL ss = l := by
  have g2 := perm_good hp hg
  refine rising_ext ((rising_expL g2).2 (risingR_of g2 (perm_apart hp (once_apart ho)) hs)) hl (fun q => ?_)
  rw [perm_mem hp, hm]
theorem expL_len (rs : List Rw) : (expL rs).length = (rs.map fun r => r.n.toNat).sum := by
  induction rs with
  | nil => rfl
  | cons r l ih => rw [expL_cons, List.length_append, ih, expR_len]; rfl
/-- Rows have no more places than pairs. -/
theorem rows_le {rs : List Rw} (hg : GoodL rs) : rs.length ≤ (expL rs).length := by
  induction rs with
  | nil => exact Nat.le_refl _
  | cons r l ih =>
    have := hg r (by simp)
    have h2 := ih (fun q hq => hg q (by simp [hq]))
    unfold GoodR at this
    rw [expL_cons, List.length_append, expR_len, List.length_cons]
    omega
/-- How many keys the first rows have. -/
def tot (rs : List Rw) : Nat := (expL rs).length
theorem tot_app (a b : List Rw) : tot (a ++ b) = tot a + tot b := by unfold tot; rw [expL_app, List.length_append]
theorem tot_one {r : Rw} (h : 0 ≤ r.n) : (tot [r] : Int) = r.n := by
  unfold tot
  rw [expL_one, expR_len]
  omega
theorem tot_take {rs : List Rw} {k : Nat} {r : Rw} (h : rs[k]? = some r) : tot (rs.take (k + 1)) = tot (rs.take k) + tot [r] := by
  rw [List.take_add_one, h, tot_app]
  rfl
theorem tot_take_le (rs : List Rw) (k : Nat) : tot (rs.take k) ≤ tot rs := by
  have := tot_app (rs.take k) (rs.drop k)
  rw [List.take_append_drop] at this
  omega
end Go.Proofs.YtabcneomeemnpaaDoor
namespace Go.Proofs.YtabcneomeemnpaaDoor
open Go Go.ChangeShapes Go.WideShapes Go.ChangeAt Go.RowKit
set_option linter.unusedSimpArgs false
set_option linter.unusedVariables false

/-! ### An append to a row of the call's own: where it lies behind it -/
section
variable {P : Program} (w : World)
theorem run_append_fresh (base : Nat) (t ty e : TypeId) (i : TypeInfo) (z : Value) (size bytes : Nat) (ht : P.underlying t = some (.slice e)) (hi : P.info? e = some i) (hz : i.zero = some z)
    (hsize : i.size = size) (hby : i.bytes = bytes) (hzs : z.cells.size = size) (hsz : 0 < size)
    (v : Value) (n : Nat) (xs : List Value) (hown : w.ownsRow base e size v n xs)
    (a : Addr) (m c : Nat) (news : List Value) (hl : news.length = m * size) (hnews : ∀ j u, news[j]? = some u → w.cell? (a.add j) = some u) (h1 : ∀ u ∈ news, u.oneCell' = true)
    (h63 : n + m ≤ maxLen) (hbytes : (n + m) * bytes ≤ 140737488355328) (hbase : base ≤ w.heap.size) :
    ∃ v' w', (Builtin.append_ #[t, t] ty #[v, .slice (some a) m c]).run P w = .ok v' w' ∧ w'.ownsRow base e size v' (n + m) (xs ++ news) ∧ w.grownBy w' v.ownBlock ∧ (v'.ownBlock = v.ownBlock ∨ v'.ownBlock = some w.heap.size) := by
  obtain ⟨v', w', hr, h2, h3, h4⟩ := run_append_own (P := P) w base t ty e i z size bytes ht hi hz hsize hby hzs hsz v n xs hown a m c news hl hnews h1 h63 hbytes hbase
  refine ⟨v', w', hr, h2, h3, ?_⟩
  have hmx : n + m ≤ 9223372036854775807 := by simp only [maxLen] at h63; omega
  subst hsize
  subst hby
  rcases hown.2 with ⟨rfl, rfl⟩ | ⟨g, cap, cur, rfl, hbg, hg, hnc, hcm, hcs, htake⟩
  · by_cases hm : m = 0
    · left
      rw [h4.2 ⟨rfl, hm⟩]
    · right
      have hr2 := run_append_nil (P := P) w t ty e i z ht hi hz a m c news hl hnews (by omega) (by omega) (by have hb := hbytes; simp only [Nat.zero_add] at hb; omega)
      rw [hr] at hr2
      injection hr2 with h5
      rw [h5]
      rfl
  · by_cases hroom : n + m ≤ cap
    · left
      have hfit : n * i.size + news.length ≤ cur.size := by rw [hl, hcs, ← Nat.add_mul]; exact Nat.mul_le_mul_right _ hroom
      have hr2 := run_append_room (P := P) w t ty e i ht hi g n cap cur hg a m c news hl hnews h1 hroom hfit
      rw [hr] at hr2
      injection hr2 with h5
      rw [h5]
      rfl
    · right
      have hr2 := run_append_grow (P := P) w t ty e i z ht hi hz ⟨g, 0, none⟩ n cap xs hown.1 (hown.cells (g := g) rfl) a m c news hl hnews (by omega) (by omega) (growslice_fits (by omega) hbytes)
      rw [hr] at hr2
      injection hr2 with h5
      rw [h5]
      rfl
theorem wp_append_fresh {o : Oper} {a : Act} {K : Act → World → Prop} {Q : Exit → Act → World → Prop} (s x : Operand) (t : TypeId)
    (ho : o.op = .call { callee := .builtin .append, args := #[s, x], argTypes := #[t, t] })
    (base : Nat) (e : TypeId) (i : TypeInfo) (z : Value) (size bytes : Nat) (ht : P.underlying t = some (.slice e)) (hi : P.info? e = some i) (hz : i.zero = some z)
    (hsize : i.size = size) (hby : i.bytes = bytes) (hzs : z.cells.size = size) (hsz : 0 < size)
    (v : Value) (n : Nat) (xs : List Value) (hs : a.eval s = v) (hown : w.ownsRow base e size v n xs)
    (ad : Addr) (m c : Nat) (news : List Value) (hx : a.eval x = .slice (some ad) m c) (hl : news.length = m * size) (hnews : ∀ j u, news[j]? = some u → w.cell? (ad.add j) = some u) (h1 : ∀ u ∈ news, u.oneCell' = true)
    (h63 : n + m ≤ maxLen) (hbytes : (n + m) * bytes ≤ 140737488355328) (hbase : base ≤ w.heap.size)
    (h : ∀ v' w', w'.ownsRow base e size v' (n + m) (xs ++ news) → w.grownBy w' v.ownBlock → (v'.ownBlock = v.ownBlock ∨ v'.ownBlock = some w.heap.size) → K (a.put o.dst v') w') : o.wp P a w K Q := by
  obtain ⟨v', w', hr, h2, h3, h4⟩ := run_append_fresh (P := P) w base t o.type e i z size bytes ht hi hz hsize hby hzs hsz v n xs hown ad m c news hl hnews h1 h63 hbytes hbase
  unfold Oper.wp execOp
  simp only [ho, resolve, invoke, builtin, Sem.run_bind, Sem.run_pure, Result.andThen_ok, List.map_toArray, List.map_cons, List.map_nil, hs, hx, hr]
  exact h v' w' h2 h3 h4
theorem wpList_append_fresh {ops : Array Oper} {rest : List Oper} {o : Oper} {a : Act} {Q : Exit → Act → World → Prop} (hgd : o.guard = none) (s x : Operand) (t : TypeId)
    (ho : o.op = .call { callee := .builtin .append, args := #[s, x], argTypes := #[t, t] })
    (base : Nat) (e : TypeId) (i : TypeInfo) (z : Value) (size bytes : Nat) (ht : P.underlying t = some (.slice e)) (hi : P.info? e = some i) (hz : i.zero = some z)
    (hsize : i.size = size) (hby : i.bytes = bytes) (hzs : z.cells.size = size) (hsz : 0 < size)
    (v : Value) (n : Nat) (xs : List Value) (hs : a.eval s = v) (hown : w.ownsRow base e size v n xs)
    (ad : Addr) (m c : Nat) (news : List Value) (hx : a.eval x = .slice (some ad) m c) (hl : news.length = m * size) (hnews : ∀ j u, news[j]? = some u → w.cell? (ad.add j) = some u) (h1 : ∀ u ∈ news, u.oneCell' = true)
    (h63 : n + m ≤ maxLen) (hbytes : (n + m) * bytes ≤ 140737488355328) (hbase : base ≤ w.heap.size)
    (h : ∀ v' w', w'.ownsRow base e size v' (n + m) (xs ++ news) → w.grownBy w' v.ownBlock → (v'.ownBlock = v.ownBlock ∨ v'.ownBlock = some w.heap.size) → wpList P ops Q rest (a.put o.dst v') w') : wpList P ops Q (o :: rest) a w :=
  wpList_plain hgd fun _ hK => wp_append_fresh w s x t ho base e i z size bytes ht hi hz hsize hby hzs hsz v n xs hs hown ad m c news hx hl hnews h1 h63 hbytes hbase fun v' w' h2 h3 h4 => hK _ _ (h v' w' h2 h3 h4)
end

/-! ### Worlds that grow by writes to one row -/
theorem Ext.to_grown {w w' : World} (h : Ext w w') (r : Option Nat) : w.grownBy w' r := ⟨h.os, h.tape, h.output, h.size, fun i hi _ => h.block i hi⟩
theorem grown_trans {a b c : World} {r s : Option Nat} (h : a.grownBy b r) (k : b.grownBy c s) (hs : s = r ∨ s = none ∨ ∃ g, s = some g ∧ a.heap.size ≤ g) : a.grownBy c r := by
  refine ⟨k.os.trans h.os, k.tape.trans h.tape, k.output.trans h.output, Nat.le_trans h.size k.size, fun i hi hn => ?_⟩
  refine (k.block i (Nat.lt_of_lt_of_le hi h.size) ?_).trans (h.block i hi hn)
  rcases hs with rfl | rfl | ⟨g, rfl, hg⟩
  · exact hn
  · exact fun e => by cases e
  · intro e
    injection e with e
    omega
theorem Ext.grown {w0 w w' : World} {r : Option Nat} (h : Ext w0 w) (k : w.grownBy w' r) (hr : r = none ∨ ∃ g, r = some g ∧ w0.heap.size ≤ g) : Ext w0 w' :=
  Below.grown h k h.size (by
    intro g hg
    rcases hr with rfl | ⟨g2, rfl, h2⟩
    · cases hg
    · injection hg with hg
      omega)
theorem own_block {w : World} {B : Nat} {e : TypeId} {size : Nat} {v : Value} {n : Nat} {xs : List Value} (h : w.ownsRow B e size v n xs) : v.ownBlock = none ∨ ∃ g, v.ownBlock = some g ∧ B ≤ g ∧ g < w.heap.size := by
  cases hv : v.ownBlock with
  | none => exact .inl rfl
  | some g => exact .inr ⟨g, rfl, (h.lt g hv).1, (h.lt g hv).2⟩
theorem Ext.own_grown {w0 w w' : World} {B : Nat} {e : TypeId} {size : Nat} {v : Value} {n : Nat} {xs : List Value} (h : Ext w0 w) (ho : w.ownsRow B e size v n xs) (hB : w0.heap.size ≤ B) (k : w.grownBy w' v.ownBlock) : Ext w0 w' :=
  h.grown k (by
    rcases own_block ho with h1 | ⟨g, h1, h2, h3⟩
    · exact .inl h1
    · exact .inr ⟨g, h1, by omega⟩)

/-! ### Rows in memory -/
def rowCells (l : List Rw) : List Value := l.flatMap fun r => [.int .i64 r.f, .int .i64 r.t, .int .i64 r.n]
theorem rowCells_app (a b : List Rw) : rowCells (a ++ b) = rowCells a ++ rowCells b := by simp [rowCells]
theorem rowCells_one (r : Rw) : rowCells [r] = [.int .i64 r.f, .int .i64 r.t, .int .i64 r.n] := by simp [rowCells]
theorem rowCells_cons (r : Rw) (l : List Rw) : rowCells (r :: l) = .int .i64 r.f :: .int .i64 r.t :: .int .i64 r.n :: rowCells l := by simp [rowCells]
theorem rowCells_len : ∀ l : List Rw, (rowCells l).length = l.length * 3
  | [] => rfl
  | r :: l => by
    rw [rowCells_cons, List.length_cons, List.length_cons, List.length_cons, rowCells_len l, List.length_cons]
    omega
theorem rowCells_get : ∀ (l : List Rw) (j : Nat) (r : Rw), l[j]? = some r → (rowCells l)[j * 3]? = some (.int .i64 r.f) ∧ (rowCells l)[j * 3 + 1]? = some (.int .i64 r.t) ∧ (rowCells l)[j * 3 + 2]? = some (.int .i64 r.n)
  | [], _, _, h => by simp at h
  | q :: l, 0, r, h => by
    simp at h
    subst h
    exact ⟨rfl, rfl, rfl⟩
  | q :: l, j + 1, r, h => by
    have ih := rowCells_get l j r (by simpa using h)
    have e : (j + 1) * 3 = j * 3 + 1 + 1 + 1 := by omega
    rw [e, rowCells_cons]
    exact ih
/-- A list of rows: none, or in memory. -/
def IsRws (w : World) (a : Option Addr) (len cap : Nat) (l : List Rw) : Prop :=
  l.length = len ∧ (len = 0 ∨ ∃ (x off : Nat), a = some ⟨x, off, none⟩ ∧ len ≤ cap ∧ x < w.heap.size ∧ ∀ (j : Nat) (r : Rw), l[j]? = some r → w.cell? ⟨x, off + j * 3, none⟩ = some (.int .i64 r.f) ∧ w.cell? ⟨x, off + j * 3 + 1, none⟩ = some (.int .i64 r.t) ∧ w.cell? ⟨x, off + j * 3 + 2, none⟩ = some (.int .i64 r.n))
theorem IsRws.ext {w w' : World} {a : Option Addr} {len cap : Nat} {l : List Rw} (h : IsRws w a len cap l) (k : Ext w w') : IsRws w' a len cap l := by
  obtain ⟨h1, h2⟩ := h
  refine ⟨h1, ?_⟩
  rcases h2 with h2 | ⟨x, off, rfl, hc, hx, hcell⟩
  · exact .inl h2
  · refine .inr ⟨x, off, rfl, hc, Nat.lt_of_lt_of_le hx k.size, fun j z hj => ?_⟩
    obtain ⟨a0, a1, a2⟩ := hcell j z hj
    exact ⟨(World.cell?_of_block (k.block x hx)).trans a0, (World.cell?_of_block (k.block x hx)).trans a1, (World.cell?_of_block (k.block x hx)).trans a2⟩
theorem IsRws.none (w : World) (a : Option Addr) (cap : Nat) : IsRws w a 0 cap [] := ⟨rfl, .inl rfl⟩
theorem rws_at {w : World} {a : Option Addr} {n cap : Nat} {l : List Rw} (h : IsRws w a n cap l) {k : Nat} (hk : k < n) : ∃ x off r, a = some ⟨x, off, .none⟩ ∧ x < w.heap.size ∧ l[k]? = some r ∧ ∀ w', Ext w w' → w'.cell? ⟨x, off + k * 3, .none⟩ = some (.int .i64 r.f) ∧ w'.cell? ⟨x, off + k * 3 + 1, .none⟩ = some (.int .i64 r.t) ∧ w'.cell? ⟨x, off + k * 3 + 2, .none⟩ = some (.int .i64 r.n) := by
  obtain ⟨h1, h2⟩ := h
  rcases h2 with h2 | ⟨x, off, rfl, hc, hx, hcell⟩
  · omega
  · have e : l[k]? = some l[k] := by simp
    refine ⟨x, off, l[k], rfl, hx, e, fun w' hxx => ?_⟩
    obtain ⟨a0, a1, a2⟩ := hcell k _ e
    exact ⟨(World.cell?_of_block (hxx.block x hx)).trans a0, (World.cell?_of_block (hxx.block x hx)).trans a1, (World.cell?_of_block (hxx.block x hx)).trans a2⟩
/-- The rows behind the first ones. -/
theorem IsRws.drop {w : World} {a : Option Addr} {n cap : Nat} {l : List Rw} (h : IsRws w a n cap l) (x off : Nat) (e : a = some ⟨x, off, .none⟩) (k : Nat) (hk : k ≤ n) : IsRws w (some ⟨x, off + k * 3, .none⟩) (n - k) (cap - k) (l.drop k) := by
  obtain ⟨h1, h2⟩ := h
  refine ⟨by simp [h1], ?_⟩
  rcases h2 with h2 | ⟨x2, off2, rfl, hc, hx, hcell⟩
  · exact .inl (by omega)
  · obtain ⟨rfl, rfl⟩ : x2 = x ∧ off2 = off := by simpa using e
    by_cases h0 : n - k = 0
    · exact .inl h0
    · refine .inr ⟨x2, off2 + k * 3, rfl, by omega, hx, fun j r hj => ?_⟩
      rw [List.getElem?_drop] at hj
      have := hcell (k + j) r hj
      have e : off2 + (k + j) * 3 = off2 + k * 3 + j * 3 := by rw [Nat.add_mul]; omega
      rw [e] at this
      exact this
theorem own_rws {w : World} {B : Nat} {v : Value} {n : Nat} {l : List Rw} (h : w.ownsRow B 97 3 v n (rowCells l)) : ∃ a cap, v = .slice a n cap ∧ IsRws w a n cap l := by
  obtain ⟨hl, ⟨rfl, rfl⟩ | ⟨g, cap, cur, rfl, hg, hh, hn, hm, hs, ht⟩⟩ := h
  · rw [rowCells_len] at hl
    exact ⟨none, 0, rfl, by omega, .inl rfl⟩
  · rw [rowCells_len] at hl
    have hbl : l.length = n := by omega
    refine ⟨some ⟨g, 0, .none⟩, cap, rfl, hbl, .inr ⟨g, 0, rfl, hn, lt_of_block hh, fun j z hj => ?_⟩⟩
    have hjl : j < l.length := (List.getElem?_eq_some_iff.1 hj).1
    obtain ⟨e1, e3, e5⟩ := rowCells_get l j z hj
    rw [← ht, List.getElem?_take, if_pos (by omega)] at e1 e3 e5
    have e2 : ∀ o, w.cell? ⟨g, 0 + o, .none⟩ = cur.toList[o]? := by intro o; simp [World.cell?, hh]
    exact ⟨(e2 (j * 3)).trans e1, (e2 (j * 3 + 1)).trans e3, (e2 (j * 3 + 2)).trans e5⟩
theorem own_len {w : World} {B : Nat} {v : Value} {n : Nat} {l : List Rw} (h : w.ownsRow B 97 3 v n (rowCells l)) : l.length = n := by
  have := h.1
  rw [rowCells_len] at this
  omega
theorem info_row : (Tryd.prog.info? 97).map (fun i => (i.zero, i.size, i.bytes)) = some (some (.agg #[.int .i64 0, .int .i64 0, .int .i64 0]), 3, 24) := by kernel_rfl
theorem info_parts_row : ∃ i, Tryd.prog.info? 97 = some i ∧ i.zero = some (.agg #[.int .i64 0, .int .i64 0, .int .i64 0]) ∧ i.size = 3 ∧ i.bytes = 24 := by
  obtain ⟨i, hi, h2⟩ := Option.map_eq_some_iff.1 info_row
  obtain ⟨h3, h4⟩ := Prod.mk.inj h2
  obtain ⟨h5, h6⟩ := Prod.mk.inj h4
  exact ⟨i, hi, h3, h5, h6⟩
theorem cell_three_new (w : World) (a b c : Value) (t : TypeId) : ∀ j u, [a, b, c][j]? = some u → (w.alloc (.cells #[a, b, c] t)).cell? ((⟨w.heap.size, 0, .none⟩ : Addr).add j) = some u := by
  intro j u hj
  have h : (w.alloc (.cells #[a, b, c] t)).heap[w.heap.size]? = some (.cells #[a, b, c] t (0, 0)) := heap_alloc_new w _
  have e : ((⟨w.heap.size, 0, .none⟩ : Addr).add j) = ⟨w.heap.size, j, .none⟩ := by unfold Addr.add; split <;> simp_all
  rw [e]
  simp only [World.cell?, h]
  simpa using hj
/-! ### A row's end; how many keys there are -/
theorem end_any (r : Rw) (w : World) (h : GoodR r) : Calls Tryd.prog 66 #[.agg #[.int .i64 r.f, .int .i64 r.t, .int .i64 r.n]] w fun e w' => e = .returned (.int .i64 (r.f + r.n)) ∧ Ext w w' := by
  obtain ⟨f, t, n⟩ := r
  unfold GoodR at h
  obtain ⟨h0, h1, h2, h3, h4⟩ := h
  simp only at h0 h1 h2 h3 h4 ⊢
  go_enter Tryd.func66, Tryd.ntmps66
  go_wp2
  go_ret
  exact ⟨rfl, (Ext.refl w).alloc _⟩
set_option maxHeartbeats 1000000 in
theorem total_any (a : Option Addr) (cap : Nat) (l : List Rw) (w : World) (h : IsRws w a l.length cap l) (hg : GoodL l) (hl : tot l ≤ 1000000000) :
    Calls Tryd.prog 61 #[.slice a l.length cap] w fun e w' => e = .returned (.int .i64 (tot l)) ∧ Ext w w' := by
  have hll : l.length ≤ 1000000000 := Nat.le_trans (rows_le hg) hl
  have HG := Lib.hid hg
  have HL := Lib.hid hl
  clear hg hl
  go_enter Tryd.func61, Tryd.ntmps61
  go_wp2
  go_loopw [3, 8] (fun v i wr => ∃ (k n : Nat), k ≤ l.length ∧ i = .int .i64 k ∧ v = .int .i64 n ∧ n ≤ 1000000000 ∧ Hid (n = tot (l.take k)) ∧ Ext w wr) (fun _ i _ => l.length - (intOf i).toNat)
  case atStart => exact ⟨0, 0, by omega, rfl, rfl, by omega, rfl, Ext.refl _⟩
  case round =>
    obtain ⟨k, n, hk, rfl, rfl, hn, HN, hx⟩ := hrel
    by_cases hlt : k < l.length
    · obtain ⟨x, off, r, rfl, hxl, hp, hcell⟩ := rws_at h hlt
      obtain ⟨c0, c1, c2⟩ := hcell wr hx
      have hr := HG.out r (List.mem_of_getElem? hp)
      unfold GoodR at hr
      have h3 := tot_take hp
      have h4 := tot_take_le l (k + 1)
      have h5 : (tot [r] : Int) = r.n := tot_one (by omega)
      have h6 := HL.out
      have h7 := HN.out
      obtain ⟨m, hm⟩ : ∃ m : Nat, r.n = (m : Int) := ⟨tot [r], h5.symm⟩
      have h8 : n + m ≤ 1000000000 := by omega
      have HS : Hid (n + m = tot (l.take (k + 1))) := by show _ = _; omega
      rw [hm] at c2
      clear hcell hp hr h3 h4 h5 h6 h7 hm
      generalize r.f = rf at c0
      generalize r.t = rt at c1
      go_wp2
      go_roundw
      case rel => exact ⟨k + 1, n + m, by omega, by go_num, by go_num, h8, HS, hx.alloc _⟩
      case measure => simp [intOf]; omega
    · have hkl : k = l.length := by omega
      have hn2 : n = tot l := by have := HN.out; rw [hkl, List.take_length] at this; exact this
      subst hn2
      go_wp2
      go_ret
      exact ⟨rfl, hx⟩
end Go.Proofs.YtabcneomeemnpaaDoor
namespace Go.Proofs.YtabcneomeemnpaaDoor
open Go Go.ChangeShapes Go.WideShapes Go.ChangeAt Go.RowKit
set_option linter.unusedSimpArgs false
set_option linter.unusedVariables false

/-- What a row has ahead of a key, and what from it on. -/
def splitK (r : Rw) (key : Int) : Int := min (max (key - r.f) 0) r.n
def splitA (r : Rw) (key : Int) : Rw := ⟨r.f, r.t, splitK r key⟩
def splitB (r : Rw) (key : Int) : Rw := ⟨r.f + splitK r key, r.t + splitK r key, r.n - splitK r key⟩
theorem splitK_bd (r : Rw) (key : Int) (h : 0 ≤ r.n) : 0 ≤ splitK r key ∧ splitK r key ≤ r.n := by unfold splitK; omega
def rowV (r : Rw) : Value := .agg #[.int .i64 r.f, .int .i64 r.t, .int .i64 r.n]
/-- A row that may be in a table, or is empty. -/
def Good0 (r : Rw) : Prop := 0 ≤ r.f ∧ r.f + r.n ≤ 2097152 ∧ 0 ≤ r.t ∧ r.t + r.n ≤ 2097152 ∧ 0 ≤ r.n
theorem splitA_good (r : Rw) (key : Int) (h : Good0 r) : Good0 (splitA r key) := by
  have hb := splitK_bd r key h.2.2.2.2
  unfold Good0 at h ⊢
  simp only [splitA]
  omega
theorem splitB_good (r : Rw) (key : Int) (h : Good0 r) : Good0 (splitB r key) := by
  have hb := splitK_bd r key h.2.2.2.2
  unfold Good0 at h ⊢
  simp only [splitB]
  omega
theorem split_exp (r : Rw) (key : Int) (h : Good0 r) : expR r = expR (splitA r key) ++ expR (splitB r key) := by
  have hb := splitK_bd r key h.2.2.2.2
  have := expR_join (splitA r key) (splitB r key) hb.1 (by simp only [splitB]; omega) rfl rfl
  rw [← this]
  congr 1
  obtain ⟨f, t, n⟩ := r
  simp only [splitA, splitB]
  congr 1
  omega
theorem Good0.good {r : Rw} (h : Good0 r) (h1 : 1 ≤ r.n) : GoodR r := ⟨h.1, h.2.1, h.2.2.1, h.2.2.2.1, h1⟩
theorem GoodR.good0 {r : Rw} (h : GoodR r) : Good0 r := ⟨h.1, h.2.1, h.2.2.1, h.2.2.2.1, by have := h.2.2.2.2; omega⟩
/-! ### A row put behind others -/
/-- What add answers: the same rows' pairs and the row's; what it made, and that nothing else has turned. -/
def AddOut (w : World) (B : Nat) (v : Value) (out : List Rw) (l : List Pr) (e : Ending) (w' : World) : Prop :=
  ∃ (v' : Value) (out' : List Rw), e = .returned v' ∧ w'.ownsRow B 97 3 v' out'.length (rowCells out') ∧ expL out' = l ∧ GoodL out' ∧ out'.length ≤ out.length + 1 ∧ w.grownBy w' v.ownBlock ∧ (v'.ownBlock = v.ownBlock ∨ ∃ g, v'.ownBlock = some g ∧ w.heap.size ≤ g)
theorem _root_.Go.World.grownBy.trans' {a b c : World} {r : Option Nat} (h : a.grownBy b r) (k : b.grownBy c r) : a.grownBy c r := grown_trans h k (.inl rfl)
theorem add_zero (f t : Int) (v : Value) (B : Nat) (out : List Rw) (w : World) (ho : w.ownsRow B 97 3 v out.length (rowCells out)) (hg : GoodL out) :
    Calls Tryd.prog 56 #[v, .agg #[.int .i64 f, .int .i64 t, .int .i64 0]] w (AddOut w B v out (expL out)) := by
  have HO := Lib.hid ho
  clear ho
  go_enter Tryd.func56, Tryd.ntmps56
  go_wp2
  go_ret
  exact ⟨v, out, rfl, HO.out.alloc _, rfl, hg, by omega, World.grownBy_alloc _ _ _, .inl rfl⟩
/-- A world that came of another one, in which some cells hold what they hold. -/
def KeepC (w : World) : List (Addr × Value) → Prop
  | [] => True
  | p :: cs => w.cell? p.1 = some p.2 ∧ KeepC w cs
theorem cell_ext {w w' : World} {a : Addr} {v : Value} (h : Ext w w') (hc : w.cell? a = some v) : w'.cell? a = some v :=
  (World.cell?_of_block (h.block _ (World.block_lt_of_cell? w _ hc))).trans hc
theorem KeepC.ext {w w' : World} (k : Ext w w') : ∀ {cs : List (Addr × Value)}, KeepC w cs → KeepC w' cs
  | [], _ => trivial
  | _ :: _, h => ⟨cell_ext k h.1, KeepC.ext k h.2⟩
def Keep (W : World) (cs : List (Addr × Value)) (w : World) : Prop := Ext W w ∧ KeepC w cs
theorem Keep.ext {W w w' : World} {cs : List (Addr × Value)} (h : Keep W cs w) (k : Ext w w') : Keep W cs w' := ⟨h.1.trans k, h.2.ext k⟩
theorem cells_three {w : World} {b : Nat} {x y z : Value} {T : TypeId} (h : w.heap[b]? = some (.cells #[x, y, z] T (0, 0))) : w.cell? ⟨b, 0, none⟩ = some x ∧ w.cell? ⟨b, 1, none⟩ = some y ∧ w.cell? ⟨b, 2, none⟩ = some z := by
  refine ⟨?_, ?_, ?_⟩ <;> simp [World.cell?, h]
theorem keep_three (w : World) (x y z : Value) (T : TypeId) : Keep (w.alloc (.cells #[x, y, z] T)) [(⟨w.heap.size, 0, none⟩, x), (⟨w.heap.size, 1, none⟩, y), (⟨w.heap.size, 2, none⟩, z)] (w.alloc (.cells #[x, y, z] T)) := by
  obtain ⟨h1, h2, h3⟩ := cells_three (heap_alloc_new w (.cells #[x, y, z] T))
  exact ⟨Ext.refl _, h1, h2, h3, trivial⟩
set_option maxHeartbeats 2000000 in
set_option maxRecDepth 100000 in
theorem add_nil (f t n : Int) (a : Option Addr) (cap : Nat) (B : Nat) (w : World) (ho : w.ownsRow B 97 3 (.slice a 0 cap) 0 (rowCells [])) (hB : B ≤ w.heap.size) (hr : GoodR ⟨f, t, n⟩) :
    Calls Tryd.prog 56 #[.slice a 0 cap, .agg #[.int .i64 f, .int .i64 t, .int .i64 n]] w (AddOut w B (.slice a 0 cap) [] (expR ⟨f, t, n⟩)) := by
  obtain ⟨i0, hi, hz0, hz1, hz2⟩ := info_parts_row
  have HO := Lib.hid ho
  have HR := Lib.hid hr
  have hn0 : (n == 0) = false := by
    have := hr.2.2.2.2
    simp only at this
    exact beq_false_of_ne (by omega)
  have hC0 := keep_three w (.int .i64 f) (.int .i64 t) (.int .i64 n) 97
  have HC := Lib.hid hC0
  clear ho hr hC0
  go_enter Tryd.func56, Tryd.ntmps56
  go_wp2
  go_quiet (fail)
  have hC := HC.out.ext ((Ext.refl _).drewN nq)
  have ho := own_ext (HO.out.alloc (.cells #[.int .i64 f, .int .i64 t, .int .i64 n] 97)) hC.1
  have hle : w.heap.size + 1 ≤ ((w.alloc (.cells #[.int .i64 f, .int .i64 t, .int .i64 n] 97)).drewN nq).heap.size := by have := hC.1.size; simp at this ⊢
  generalize (w.alloc (.cells #[.int .i64 f, .int .i64 t, .int .i64 n] 97)).drewN nq = wq at hC ho hle ⊢
  obtain ⟨b0, b1, b2, _⟩ := hC.2
  go_wp2_with ((at_builtin; refine wpList_append_fresh _ rfl _ _ 77 rfl (B) 97 i0 (.agg #[.int .i64 0, .int .i64 0, .int .i64 0]) 3 24 Tryd.underlying77 hi hz0 hz1 hz2 rfl (by decide) _ _ _ rfl (ho.alloc _) ⟨wq.heap.size, 0, none⟩ 1 1 [.int .i64 f, .int .i64 t, .int .i64 n] rfl rfl (cell_three_new _ _ _ _ _) (fun x hx => by simp at hx; rcases hx with rfl | rfl | rfl <;> rfl) (by unfold maxLen; omega) (by omega) (by simp; omega) ?_; intro v5 w5 hown5 hgrow5 hfresh5))
  go_ret
  refine ⟨v5, [⟨f, t, n⟩], rfl, ?_, by rw [expL_one], GoodL.one HR.out, by simp, ?_, ?_⟩
  · rw [rowCells_one]
    exact hown5
  · exact grown_trans (((World.grownBy_alloc w _ _).trans' (hC.1.to_grown _)).trans' (World.grownBy_alloc wq _ _)) hgrow5 (.inl rfl)
  · rcases hfresh5 with h | h
    · exact .inl h
    · exact .inr ⟨_, h, by simp; omega⟩
end Go.Proofs.YtabcneomeemnpaaDoor
