/-
  What the proof of this claim leans on (S16).
-/
import Derived.Test.YtndopjmdpmkgeaaGreatDoorS5
import Derived.BigRegion
import Derived.Deep.RegionHeld3
namespace Go.Proofs.YtndopjmdpmkgeaaGreatDoor
open Go Go.RowKit
set_option linter.unusedSimpArgs false
set_option linter.unusedVariables false

/-- A row: its first key, what that has, how many. -/
structure Rw where
  f : Int
  t : Int
  n : Int
instance : Inhabited Rw := ⟨⟨0, 0, 0⟩⟩
/-- A row's pairs; those of rows. -/
def expR (r : Rw) : List Pr := pairsN r.f (fun (i : Nat) => r.t + (i : Int)) r.n.toNat
def expL (rs : List Rw) : List Pr := rs.flatMap expR
theorem expL_app (a b : List Rw) : expL (a ++ b) = expL a ++ expL b := by simp [expL]
theorem expL_one (r : Rw) : expL [r] = expR r := by simp [expL]
theorem expL_cons (r : Rw) (l : List Rw) : expL (r :: l) = expR r ++ expL l := by simp [expL]
theorem expR_len (r : Rw) : (expR r).length = r.n.toNat := pairsN_len _ _ _
theorem expR_zero (r : Rw) (h : r.n = 0) : expR r = [] := by
  unfold expR
  rw [h]
  rfl
/-- A row that may be in a table. -/
def GoodR (r : Rw) : Prop := 0 ≤ r.f ∧ r.f + r.n ≤ 2097152 ∧ 0 ≤ r.t ∧ r.t + r.n ≤ 2097152 ∧ 1 ≤ r.n
def GoodL (rs : List Rw) : Prop := ∀ r ∈ rs, GoodR r
theorem GoodL.nil : GoodL [] := fun r h => by simp at h
theorem GoodL.app {a b : List Rw} (h : GoodL a) (k : GoodL b) : GoodL (a ++ b) := fun r hr => (List.mem_append.1 hr).elim (h r) (k r)
theorem GoodL.one {r : Rw} (h : GoodR r) : GoodL [r] := fun q hq => by
  obtain rfl := List.mem_singleton.1 hq
  exact h
theorem mem_expR {r : Rw} {q : Pr} (h : 0 ≤ r.n) : q ∈ expR r ↔ r.f ≤ q.1 ∧ q.1 < r.f + r.n ∧ q.2 = r.t + (q.1 - r.f) := by
  unfold expR pairsN
  rw [List.mem_map]
  constructor
  · rintro ⟨i, hi, rfl⟩
    have := List.mem_range.1 hi
    exact ⟨by show r.f ≤ r.f + (i : Int); omega, by show r.f + (i : Int) < r.f + r.n; omega, by show r.t + (i : Int) = r.t + (r.f + (i : Int) - r.f); omega⟩
  · rintro ⟨h1, h2, h3⟩
    refine ⟨(q.1 - r.f).toNat, List.mem_range.2 (by omega), ?_⟩
    refine Prod.ext ?_ ?_
    · show r.f + (((q.1 - r.f).toNat : Nat) : Int) = q.1
      omega
    · show r.t + (((q.1 - r.f).toNat : Nat) : Int) = q.2
      omega
theorem pairsN_add (f0 : Int) (g : Nat → Int) (a : Nat) : ∀ b : Nat, pairsN f0 g (a + b) = pairsN f0 g a ++ pairsN (f0 + (a : Int)) (fun i => g (a + i)) b
  | 0 => by simp [pairsN]
  | b + 1 => by
    rw [← Nat.add_assoc, pairsN_succ, pairsN_add f0 g a b, pairsN_succ, List.append_assoc]
    congr 3
    refine Prod.ext ?_ rfl
    show f0 + ((a + b : Nat) : Int) = f0 + (a : Int) + (b : Int)
    omega
/-- A row that goes on with another one is one with it. -/
theorem expR_join (l r : Rw) (h : 0 ≤ l.n) (k : 0 ≤ r.n) (e1 : l.f + l.n = r.f) (e2 : l.t + l.n = r.t) : expR ⟨l.f, l.t, l.n + r.n⟩ = expR l ++ expR r := by
  unfold expR
  show pairsN l.f (fun (i : Nat) => l.t + (i : Int)) (l.n + r.n).toNat = _
  have e : (l.n + r.n).toNat = l.n.toNat + r.n.toNat := by omega
  rw [e, pairsN_add]
  congr 1
  have e3 : l.f + (l.n.toNat : Int) = r.f := by omega
  rw [e3]
  congr 1
  funext i
  show l.t + ((l.n.toNat + i : Nat) : Int) = r.t + (i : Int)
  omega
def RisingR (rs : List Rw) : Prop := rs.Pairwise fun a b => a.f + a.n ≤ b.f
theorem rising_expR (r : Rw) : Rising (expR r) := rising_pairsN _ _ _
theorem rising_expL {rs : List Rw} (hg : GoodL rs) : Rising (expL rs) ↔ RisingR rs := by
  unfold Rising expL RisingR
  rw [List.pairwise_flatMap]
  constructor
  · rintro ⟨_, h⟩
    refine List.Pairwise.imp_of_mem ?_ h
    intro a b ha hb hab
    have ga := hg a ha
    have gb := hg b hb
    unfold GoodR at ga gb
    have := hab (a.f + a.n - 1, a.t + a.n - 1) ((mem_expR (by omega)).2 ⟨by show a.f ≤ a.f + a.n - 1; omega, by show a.f + a.n - 1 < _; omega, by show a.t + a.n - 1 = a.t + (a.f + a.n - 1 - a.f); omega⟩) (b.f, b.t) ((mem_expR (by omega)).2 ⟨Int.le_refl _, by show b.f < b.f + b.n; omega, by show b.t = b.t + (b.f - b.f); omega⟩)
    have this : a.f + a.n - 1 < b.f := this
    omega
  · intro h
    refine ⟨fun r _ => rising_expR r, List.Pairwise.imp_of_mem ?_ h⟩
    intro a b ha hb hab q hq p hp
    have ga := hg a ha
    have gb := hg b hb
    unfold GoodR at ga gb
    have h1 := (mem_expR (by omega)).1 hq
    have h2 := (mem_expR (by omega)).1 hp
    omega
theorem mem_expL {rs : List Rw} {q : Pr} : q ∈ expL rs ↔ ∃ r ∈ rs, q ∈ expR r := by simp [expL, List.mem_flatMap]
theorem mem_expL_good {rs : List Rw} (hg : GoodL rs) {q : Pr} : q ∈ expL rs ↔ ∃ r ∈ rs, r.f ≤ q.1 ∧ q.1 < r.f + r.n ∧ q.2 = r.t + (q.1 - r.f) := by
  rw [mem_expL]
  constructor
  · rintro ⟨r, hr, h⟩
    have := hg r hr
    unfold GoodR at this
    exact ⟨r, hr, (mem_expR (by omega)).1 h⟩
  · rintro ⟨r, hr, h⟩
    have := hg r hr
    unfold GoodR at this
    exact ⟨r, hr, (mem_expR (by omega)).2 h⟩
/-- Rows of which no two have a key in common. -/
def Apart (a b : Rw) : Prop := ∀ q ∈ expR a, ∀ p ∈ expR b, q.1 ≠ p.1
theorem Apart.symm {a b : Rw} (h : Apart a b) : Apart b a := fun q hq p hp e => h p hp q hq e.symm
/-- No two pairs of a list have one key. -/
def Once (l : List Pr) : Prop := l.Pairwise fun a b => a.1 ≠ b.1
theorem Rising.once {l : List Pr} (h : Rising l) : Once l := List.Pairwise.imp (fun h => by omega) h
theorem once_app {a b : List Pr} : Once (a ++ b) ↔ Once a ∧ Once b ∧ ∀ p ∈ a, ∀ q ∈ b, p.1 ≠ q.1 := List.pairwise_append
theorem once_apart {rs : List Rw} (h : Once (expL rs)) : rs.Pairwise Apart := (List.pairwise_flatMap.1 h).2
/-- Rows in order of their first keys, no two with a key in common, rise. -/
theorem risingR_of {rs : List Rw} (hg : GoodL rs) (ha : rs.Pairwise Apart) (hs : rs.Pairwise fun a b => a.f ≤ b.f) : RisingR rs := by
  refine List.Pairwise.imp_of_mem ?_ (ha.and hs)
  intro a b ha hb ⟨hab, hle⟩
  have ga := hg a ha
  have gb := hg b hb
  unfold GoodR at ga gb
  by_cases hh : a.f + a.n ≤ b.f
  · exact hh
  · exfalso
    exact hab (b.f, a.t + (b.f - a.f)) ((mem_expR (by omega)).2 ⟨by show a.f ≤ b.f; omega, by show b.f < a.f + a.n; omega, rfl⟩) (b.f, b.t) ((mem_expR (by omega)).2 ⟨Int.le_refl _, by show b.f < b.f + b.n; omega, by show b.t = b.t + (b.f - b.f); omega⟩) rfl
theorem perm_apart {a b : List Rw} (h : a.Perm b) (k : b.Pairwise Apart) : a.Pairwise Apart := (h.pairwise_iff (fun {_ _} h => Apart.symm h)).2 k
theorem perm_good {a b : List Rw} (h : a.Perm b) (k : GoodL b) : GoodL a := fun r hr => k r (h.mem_iff.1 hr)
theorem perm_mem {a b : List Rw} (h : a.Perm b) (q : Pr) : q ∈ expL a ↔ q ∈ expL b := by
  rw [mem_expL, mem_expL]
  exact ⟨fun ⟨r, hr, k⟩ => ⟨r, h.mem_iff.1 hr, k⟩, fun ⟨r, hr, k⟩ => ⟨r, h.mem_iff.2 hr, k⟩⟩
/-- Rows in whatever order, sorted: the one rising list of their pairs. -/
theorem sorted_exp {rs ss : List Rw} {l : List Pr} (hp : ss.Perm rs) (hg : GoodL rs) (ho : Once (expL rs)) (hs : ss.Pairwise fun a b => a.f ≤ b.f) (hl : Rising l) (hm : ∀ q, q ∈ expL rs ↔ q ∈ l) : expL ss = l := by
  have g2 := perm_good hp hg
  refine rising_ext ((rising_expL g2).2 (risingR_of g2 (perm_apart hp (once_apart ho)) hs)) hl (fun q => ?_)
  rw [perm_mem hp, hm]
/-- Rows have no more places than pairs. -/
theorem rows_le {rs : List Rw} (hg : GoodL rs) : rs.length ≤ (expL rs).length := by
  induction rs with
  | nil => exact Nat.le_refl _
  | cons r l ih =>
    have := hg r (by simp)
    have h2 := ih (fun q hq => hg q (by simp [hq]))
    unfold GoodR at this
    rw [expL_cons, List.length_append, expR_len, List.length_cons]
    omega
/-- How many keys the first rows have. -/
def tot (rs : List Rw) : Nat := (expL rs).length
theorem tot_app (a b : List Rw) : tot (a ++ b) = tot a + tot b := by unfold tot; rw [expL_app, List.length_append]
theorem tot_one {r : Rw} (h : 0 ≤ r.n) : (tot [r] : Int) = r.n := by
  unfold tot
  rw [expL_one, expR_len]
  omega
theorem tot_take {rs : List Rw} {k : Nat} {r : Rw} (h : rs[k]? = some r) : tot (rs.take (k + 1)) = tot (rs.take k) + tot [r] := by
  rw [List.take_add_one, h, tot_app]
  rfl
theorem tot_take_le (rs : List Rw) (k : Nat) : tot (rs.take k) ≤ tot rs := by
  have := tot_app (rs.take k) (rs.drop k)
  rw [List.take_append_drop] at this
  omega
end Go.Proofs.YtndopjmdpmkgeaaGreatDoor
namespace Go.Proofs.YtndopjmdpmkgeaaGreatDoor
open Go Go.ChangeShapes Go.WideShapes Go.ChangeAt Go.RowKit
set_option linter.unusedSimpArgs false
set_option linter.unusedVariables false

section
variable {P : Program} (w : World)
theorem run_append_fresh (base : Nat) (t ty e : TypeId) (i : TypeInfo) (z : Value) (size bytes : Nat) (ht : P.underlying t = some (.slice e)) (hi : P.info? e = some i) (hz : i.zero = some z)
    (hsize : i.size = size) (hby : i.bytes = bytes) (hzs : z.cells.size = size) (hsz : 0 < size)
    (v : Value) (n : Nat) (xs : List Value) (hown : w.ownsRow base e size v n xs)
    (a : Addr) (m c : Nat) (news : List Value) (hl : news.length = m * size) (hnews : ∀ j u, news[j]? = some u → w.cell? (a.add j) = some u) (h1 : ∀ u ∈ news, u.oneCell' = true)
    (h63 : n + m ≤ maxLen) (hbytes : (n + m) * bytes ≤ 140737488355328) (hbase : base ≤ w.heap.size) :
    ∃ v' w', (Builtin.append_ #[t, t] ty #[v, .slice (some a) m c]).run P w = .ok v' w' ∧ w'.ownsRow base e size v' (n + m) (xs ++ news) ∧ w.grownBy w' v.ownBlock ∧ (v'.ownBlock = v.ownBlock ∨ v'.ownBlock = some w.heap.size) := by
  obtain ⟨v', w', hr, h2, h3, h4⟩ := run_append_own (P := P) w base t ty e i z size bytes ht hi hz hsize hby hzs hsz v n xs hown a m c news hl hnews h1 h63 hbytes hbase
  refine ⟨v', w', hr, h2, h3, ?_⟩
  have hmx : n + m ≤ 9223372036854775807 := by simp only [maxLen] at h63; omega
  subst hsize
  subst hby
  rcases hown.2 with ⟨rfl, rfl⟩ | ⟨g, cap, cur, rfl, hbg, hg, hnc, hcm, hcs, htake⟩
  · by_cases hm : m = 0
    · left
      rw [h4.2 ⟨rfl, hm⟩]
    · right
      have hr2 := run_append_nil (P := P) w t ty e i z ht hi hz a m c news hl hnews (by omega) (by omega) (by have hb := hbytes; simp only [Nat.zero_add] at hb; omega)
      rw [hr] at hr2
      injection hr2 with h5
      rw [h5]
      rfl
  · by_cases hroom : n + m ≤ cap
    · left
      have hfit : n * i.size + news.length ≤ cur.size := by rw [hl, hcs, ← Nat.add_mul]; exact Nat.mul_le_mul_right _ hroom
      have hr2 := run_append_room (P := P) w t ty e i ht hi g n cap cur hg a m c news hl hnews h1 hroom hfit
      rw [hr] at hr2
      injection hr2 with h5
      rw [h5]
      rfl
    · right
      have hr2 := run_append_grow (P := P) w t ty e i z ht hi hz ⟨g, 0, none⟩ n cap xs hown.1 (hown.cells (g := g) rfl) a m c news hl hnews (by omega) (by omega) (growslice_fits (by omega) hbytes)
      rw [hr] at hr2
      injection hr2 with h5
      rw [h5]
      rfl
theorem wp_append_fresh {o : Oper} {a : Act} {K : Act → World → Prop} {Q : Exit → Act → World → Prop} (s x : Operand) (t : TypeId)
    (ho : o.op = .call { callee := .builtin .append, args := #[s, x], argTypes := #[t, t] })
    (base : Nat) (e : TypeId) (i : TypeInfo) (z : Value) (size bytes : Nat) (ht : P.underlying t = some (.slice e)) (hi : P.info? e = some i) (hz : i.zero = some z)
    (hsize : i.size = size) (hby : i.bytes = bytes) (hzs : z.cells.size = size) (hsz : 0 < size)
    (v : Value) (n : Nat) (xs : List Value) (hs : a.eval s = v) (hown : w.ownsRow base e size v n xs)
    (ad : Addr) (m c : Nat) (news : List Value) (hx : a.eval x = .slice (some ad) m c) (hl : news.length = m * size) (hnews : ∀ j u, news[j]? = some u → w.cell? (ad.add j) = some u) (h1 : ∀ u ∈ news, u.oneCell' = true)
    (h63 : n + m ≤ maxLen) (hbytes : (n + m) * bytes ≤ 140737488355328) (hbase : base ≤ w.heap.size)
    (h : ∀ v' w', w'.ownsRow base e size v' (n + m) (xs ++ news) → w.grownBy w' v.ownBlock → (v'.ownBlock = v.ownBlock ∨ v'.ownBlock = some w.heap.size) → K (a.put o.dst v') w') : o.wp P a w K Q := by
  obtain ⟨v', w', hr, h2, h3, h4⟩ := run_append_fresh (P := P) w base t o.type e i z size bytes ht hi hz hsize hby hzs hsz v n xs hown ad m c news hl hnews h1 h63 hbytes hbase
  unfold Oper.wp execOp
  simp only [ho, resolve, invoke, builtin, Sem.run_bind, Sem.run_pure, Result.andThen_ok, List.map_toArray, List.map_cons, List.map_nil, hs, hx, hr]
  exact h v' w' h2 h3 h4
theorem wpList_append_fresh {ops : Array Oper} {rest : List Oper} {o : Oper} {a : Act} {Q : Exit → Act → World → Prop} (hgd : o.guard = none) (s x : Operand) (t : TypeId)
    (ho : o.op = .call { callee := .builtin .append, args := #[s, x], argTypes := #[t, t] })
    (base : Nat) (e : TypeId) (i : TypeInfo) (z : Value) (size bytes : Nat) (ht : P.underlying t = some (.slice e)) (hi : P.info? e = some i) (hz : i.zero = some z)
    (hsize : i.size = size) (hby : i.bytes = bytes) (hzs : z.cells.size = size) (hsz : 0 < size)
    (v : Value) (n : Nat) (xs : List Value) (hs : a.eval s = v) (hown : w.ownsRow base e size v n xs)
    (ad : Addr) (m c : Nat) (news : List Value) (hx : a.eval x = .slice (some ad) m c) (hl : news.length = m * size) (hnews : ∀ j u, news[j]? = some u → w.cell? (ad.add j) = some u) (h1 : ∀ u ∈ news, u.oneCell' = true)
    (h63 : n + m ≤ maxLen) (hbytes : (n + m) * bytes ≤ 140737488355328) (hbase : base ≤ w.heap.size)
    (h : ∀ v' w', w'.ownsRow base e size v' (n + m) (xs ++ news) → w.grownBy w' v.ownBlock → (v'.ownBlock = v.ownBlock ∨ v'.ownBlock = some w.heap.size) → wpList P ops Q rest (a.put o.dst v') w') : wpList P ops Q (o :: rest) a w :=
  wpList_plain hgd fun _ hK => wp_append_fresh w s x t ho base e i z size bytes ht hi hz hsize hby hzs hsz v n xs hs hown ad m c news hx hl hnews h1 h63 hbytes hbase fun v' w' h2 h3 h4 => hK _ _ (h v' w' h2 h3 h4)
end

theorem Ext.to_grown {w w' : World} (h : Ext w w') (r : Option Nat) : w.grownBy w' r := ⟨h.os, h.tape, h.output, h.size, fun i hi _ => h.block i hi⟩
theorem grown_trans {a b c : World} {r s : Option Nat} (h : a.grownBy b r) (k : b.grownBy c s) (hs : s = r ∨ s = none ∨ ∃ g, s = some g ∧ a.heap.size ≤ g) : a.grownBy c r := by
  refine ⟨k.os.trans h.os, k.tape.trans h.tape, k.output.trans h.output, Nat.le_trans h.size k.size, fun i hi hn => ?_⟩
  refine (k.block i (Nat.lt_of_lt_of_le hi h.size) ?_).trans (h.block i hi hn)
  rcases hs with rfl | rfl | ⟨g, rfl, hg⟩
  · exact hn
  · exact fun e => by cases e
  · intro e
    injection e with e
    omega
theorem Ext.grown {w0 w w' : World} {r : Option Nat} (h : Ext w0 w) (k : w.grownBy w' r) (hr : r = none ∨ ∃ g, r = some g ∧ w0.heap.size ≤ g) : Ext w0 w' :=
  Below.grown h k h.size (by
    intro g hg
    rcases hr with rfl | ⟨g2, rfl, h2⟩
    · cases hg
    · injection hg with hg
      omega)
theorem own_block {w : World} {B : Nat} {e : TypeId} {size : Nat} {v : Value} {n : Nat} {xs : List Value} (h : w.ownsRow B e size v n xs) : v.ownBlock = none ∨ ∃ g, v.ownBlock = some g ∧ B ≤ g ∧ g < w.heap.size := by
  cases hv : v.ownBlock with
  | none => exact .inl rfl
  | some g => exact .inr ⟨g, rfl, (h.lt g hv).1, (h.lt g hv).2⟩
theorem Ext.own_grown {w0 w w' : World} {B : Nat} {e : TypeId} {size : Nat} {v : Value} {n : Nat} {xs : List Value} (h : Ext w0 w) (ho : w.ownsRow B e size v n xs) (hB : w0.heap.size ≤ B) (k : w.grownBy w' v.ownBlock) : Ext w0 w' :=
  h.grown k (by
    rcases own_block ho with h1 | ⟨g, h1, h2, h3⟩
    · exact .inl h1
    · exact .inr ⟨g, h1, by omega⟩)

def rowCells (l : List Rw) : List Value := l.flatMap fun r => [.int .i64 r.f, .int .i64 r.t, .int .i64 r.n]
theorem rowCells_app (a b : List Rw) : rowCells (a ++ b) = rowCells a ++ rowCells b := by simp [rowCells]
theorem rowCells_one (r : Rw) : rowCells [r] = [.int .i64 r.f, .int .i64 r.t, .int .i64 r.n] := by simp [rowCells]
theorem rowCells_cons (r : Rw) (l : List Rw) : rowCells (r :: l) = .int .i64 r.f :: .int .i64 r.t :: .int .i64 r.n :: rowCells l := by simp [rowCells]
theorem rowCells_len : ∀ l : List Rw, (rowCells l).length = l.length * 3
  | [] => rfl
  | r :: l => by
    rw [rowCells_cons, List.length_cons, List.length_cons, List.length_cons, rowCells_len l, List.length_cons]
    omega
theorem rowCells_get : ∀ (l : List Rw) (j : Nat) (r : Rw), l[j]? = some r → (rowCells l)[j * 3]? = some (.int .i64 r.f) ∧ (rowCells l)[j * 3 + 1]? = some (.int .i64 r.t) ∧ (rowCells l)[j * 3 + 2]? = some (.int .i64 r.n)
  | [], _, _, h => by simp at h
  | q :: l, 0, r, h => by
    simp at h
    subst h
    exact ⟨rfl, rfl, rfl⟩
  | q :: l, j + 1, r, h => by
    have ih := rowCells_get l j r (by simpa using h)
    have e : (j + 1) * 3 = j * 3 + 1 + 1 + 1 := by omega
    rw [e, rowCells_cons]
    exact ih
/-- A list of rows: none, or in memory. -/
def IsRws (w : World) (a : Option Addr) (len cap : Nat) (l : List Rw) : Prop :=
  l.length = len ∧ (len = 0 ∨ ∃ (x off : Nat), a = some ⟨x, off, none⟩ ∧ len ≤ cap ∧ x < w.heap.size ∧ ∀ (j : Nat) (r : Rw), l[j]? = some r → w.cell? ⟨x, off + j * 3, none⟩ = some (.int .i64 r.f) ∧ w.cell? ⟨x, off + j * 3 + 1, none⟩ = some (.int .i64 r.t) ∧ w.cell? ⟨x, off + j * 3 + 2, none⟩ = some (.int .i64 r.n))
theorem IsRws.ext {w w' : World} {a : Option Addr} {len cap : Nat} {l : List Rw} (h : IsRws w a len cap l) (k : Ext w w') : IsRws w' a len cap l := by
  obtain ⟨h1, h2⟩ := h
  refine ⟨h1, ?_⟩
  rcases h2 with h2 | ⟨x, off, rfl, hc, hx, hcell⟩
  · exact .inl h2
  · refine .inr ⟨x, off, rfl, hc, Nat.lt_of_lt_of_le hx k.size, fun j z hj => ?_⟩
    obtain ⟨a0, a1, a2⟩ := hcell j z hj
    exact ⟨(World.cell?_of_block (k.block x hx)).trans a0, (World.cell?_of_block (k.block x hx)).trans a1, (World.cell?_of_block (k.block x hx)).trans a2⟩
theorem IsRws.none (w : World) (a : Option Addr) (cap : Nat) : IsRws w a 0 cap [] := ⟨rfl, .inl rfl⟩
theorem rws_at {w : World} {a : Option Addr} {n cap : Nat} {l : List Rw} (h : IsRws w a n cap l) {k : Nat} (hk : k < n) : ∃ x off r, a = some ⟨x, off, .none⟩ ∧ x < w.heap.size ∧ l[k]? = some r ∧ ∀ w', Ext w w' → w'.cell? ⟨x, off + k * 3, .none⟩ = some (.int .i64 r.f) ∧ w'.cell? ⟨x, off + k * 3 + 1, .none⟩ = some (.int .i64 r.t) ∧ w'.cell? ⟨x, off + k * 3 + 2, .none⟩ = some (.int .i64 r.n) := by
  obtain ⟨h1, h2⟩ := h
  rcases h2 with h2 | ⟨x, off, rfl, hc, hx, hcell⟩
  · omega
  · have e : l[k]? = some l[k] := by simp
    refine ⟨x, off, l[k], rfl, hx, e, fun w' hxx => ?_⟩
    obtain ⟨a0, a1, a2⟩ := hcell k _ e
    exact ⟨(World.cell?_of_block (hxx.block x hx)).trans a0, (World.cell?_of_block (hxx.block x hx)).trans a1, (World.cell?_of_block (hxx.block x hx)).trans a2⟩
/-- The rows behind the first ones. -/
theorem IsRws.drop {w : World} {a : Option Addr} {n cap : Nat} {l : List Rw} (h : IsRws w a n cap l) (x off : Nat) (e : a = some ⟨x, off, .none⟩) (k : Nat) (hk : k ≤ n) : IsRws w (some ⟨x, off + k * 3, .none⟩) (n - k) (cap - k) (l.drop k) := by
  obtain ⟨h1, h2⟩ := h
  refine ⟨by simp [h1], ?_⟩
  rcases h2 with h2 | ⟨x2, off2, rfl, hc, hx, hcell⟩
  · exact .inl (by omega)
  · obtain ⟨rfl, rfl⟩ : x2 = x ∧ off2 = off := by simpa using e
    by_cases h0 : n - k = 0
    · exact .inl h0
    · refine .inr ⟨x2, off2 + k * 3, rfl, by omega, hx, fun j r hj => ?_⟩
      rw [List.getElem?_drop] at hj
      have := hcell (k + j) r hj
      have e : off2 + (k + j) * 3 = off2 + k * 3 + j * 3 := by rw [Nat.add_mul]; omega
      rw [e] at this
      exact this
theorem own_rws {w : World} {B : Nat} {v : Value} {n : Nat} {l : List Rw} (h : w.ownsRow B 189 3 v n (rowCells l)) : ∃ a cap, v = .slice a n cap ∧ IsRws w a n cap l := by
  obtain ⟨hl, ⟨rfl, rfl⟩ | ⟨g, cap, cur, rfl, hg, hh, hn, hm, hs, ht⟩⟩ := h
  · rw [rowCells_len] at hl
    exact ⟨none, 0, rfl, by omega, .inl rfl⟩
  · rw [rowCells_len] at hl
    have hbl : l.length = n := by omega
    refine ⟨some ⟨g, 0, .none⟩, cap, rfl, hbl, .inr ⟨g, 0, rfl, hn, lt_of_block hh, fun j z hj => ?_⟩⟩
    have hjl : j < l.length := (List.getElem?_eq_some_iff.1 hj).1
    obtain ⟨e1, e3, e5⟩ := rowCells_get l j z hj
    rw [← ht, List.getElem?_take, if_pos (by omega)] at e1 e3 e5
    have e2 : ∀ o, w.cell? ⟨g, 0 + o, .none⟩ = cur.toList[o]? := by intro o; simp [World.cell?, hh]
    exact ⟨(e2 (j * 3)).trans e1, (e2 (j * 3 + 1)).trans e3, (e2 (j * 3 + 2)).trans e5⟩
theorem own_len {w : World} {B : Nat} {v : Value} {n : Nat} {l : List Rw} (h : w.ownsRow B 189 3 v n (rowCells l)) : l.length = n := by
  have := h.1
  rw [rowCells_len] at this
  omega
theorem info_row : (Tryz.prog.info? 189).map (fun i => (i.zero, i.size, i.bytes)) = some (some (.agg #[.int .i64 0, .int .i64 0, .int .i64 0]), 3, 24) := by kernel_rfl
theorem info_parts_row : ∃ i, Tryz.prog.info? 189 = some i ∧ i.zero = some (.agg #[.int .i64 0, .int .i64 0, .int .i64 0]) ∧ i.size = 3 ∧ i.bytes = 24 := by
  obtain ⟨i, hi, h2⟩ := Option.map_eq_some_iff.1 info_row
  obtain ⟨h3, h4⟩ := Prod.mk.inj h2
  obtain ⟨h5, h6⟩ := Prod.mk.inj h4
  exact ⟨i, hi, h3, h5, h6⟩
theorem cell_three_new (w : World) (a b c : Value) (t : TypeId) : ∀ j u, [a, b, c][j]? = some u → (w.alloc (.cells #[a, b, c] t)).cell? ((⟨w.heap.size, 0, .none⟩ : Addr).add j) = some u := by
  intro j u hj
  have h : (w.alloc (.cells #[a, b, c] t)).heap[w.heap.size]? = some (.cells #[a, b, c] t (0, 0)) := heap_alloc_new w _
  have e : ((⟨w.heap.size, 0, .none⟩ : Addr).add j) = ⟨w.heap.size, j, .none⟩ := by unfold Addr.add; split <;> simp_all
  rw [e]
  simp only [World.cell?, h]
  simpa using hj
theorem end_any (r : Rw) (w : World) (h : GoodR r) : Calls Tryz.prog 164 #[.agg #[.int .i64 r.f, .int .i64 r.t, .int .i64 r.n]] w fun e w' => e = .returned (.int .i64 (r.f + r.n)) ∧ Ext w w' := by
  obtain ⟨f, t, n⟩ := r
  unfold GoodR at h
  obtain ⟨h0, h1, h2, h3, h4⟩ := h
  simp only at h0 h1 h2 h3 h4 ⊢
  go_enter Tryz.func164, Tryz.ntmps164
  go_wp2
  go_ret
  exact ⟨rfl, (Ext.refl w).alloc _⟩
set_option maxHeartbeats 1000000 in
theorem total_any (a : Option Addr) (cap : Nat) (l : List Rw) (w : World) (h : IsRws w a l.length cap l) (hg : GoodL l) (hl : tot l ≤ 1000000000) :
    Calls Tryz.prog 171 #[.slice a l.length cap] w fun e w' => e = .returned (.int .i64 (tot l)) ∧ Ext w w' := by
  have hll : l.length ≤ 1000000000 := Nat.le_trans (rows_le hg) hl
  have HG := Lib.hid hg
  have HL := Lib.hid hl
  clear hg hl
  go_enter Tryz.func171, Tryz.ntmps171
  go_wp2
  go_loopw [3, 8] (fun v i wr => ∃ (k n : Nat), k ≤ l.length ∧ i = .int .i64 k ∧ v = .int .i64 n ∧ n ≤ 1000000000 ∧ Hid (n = tot (l.take k)) ∧ Ext w wr) (fun _ i _ => l.length - (intOf i).toNat)
  case atStart => exact ⟨0, 0, by omega, rfl, rfl, by omega, rfl, Ext.refl _⟩
  case round =>
    obtain ⟨k, n, hk, rfl, rfl, hn, HN, hx⟩ := hrel
    by_cases hlt : k < l.length
    · obtain ⟨x, off, r, rfl, hxl, hp, hcell⟩ := rws_at h hlt
      obtain ⟨c0, c1, c2⟩ := hcell wr hx
      have hr := HG.out r (List.mem_of_getElem? hp)
      unfold GoodR at hr
      have h3 := tot_take hp
      have h4 := tot_take_le l (k + 1)
      have h5 : (tot [r] : Int) = r.n := tot_one (by omega)
      have h6 := HL.out
      have h7 := HN.out
      obtain ⟨m, hm⟩ : ∃ m : Nat, r.n = (m : Int) := ⟨tot [r], h5.symm⟩
      have h8 : n + m ≤ 1000000000 := by omega
      have HS : Hid (n + m = tot (l.take (k + 1))) := by show _ = _; omega
      rw [hm] at c2
      clear hcell hp hr h3 h4 h5 h6 h7 hm
      generalize r.f = rf at c0
      generalize r.t = rt at c1
      go_wp2
      go_roundw
      case rel => exact ⟨k + 1, n + m, by omega, by go_num, by go_num, h8, HS, hx.alloc _⟩
      case measure => simp [intOf]; omega
    · have hkl : k = l.length := by omega
      have hn2 : n = tot l := by have := HN.out; rw [hkl, List.take_length] at this; exact this
      subst hn2
      go_wp2
      go_ret
      exact ⟨rfl, hx⟩
end Go.Proofs.YtndopjmdpmkgeaaGreatDoor
namespace Go.Proofs.YtndopjmdpmkgeaaGreatDoor
open Go Go.ChangeShapes Go.WideShapes Go.ChangeAt Go.RowKit
set_option linter.unusedSimpArgs false
set_option linter.unusedVariables false

set_option maxHeartbeats 1000000 in
theorem split_go (f t n key j k : Int) (w : World) (h0 : 0 ≤ f) (h1 : f + n ≤ 2097152) (h2 : 0 ≤ t) (h3 : t + n ≤ 2097152) (h4 : 0 ≤ n) (h5 : 0 ≤ key) (h6 : key ≤ 2097152) (m1 : max (key - f) 0 = j) (m2 : min j n = k) (hk0 : 0 ≤ k) (hkn : k ≤ n) :
    Calls Tryz.prog 196 #[.agg #[.int .i64 f, .int .i64 t, .int .i64 n], .int .i64 key] w fun e w' => e = .returned (.tuple #[.agg #[.int .i64 f, .int .i64 t, .int .i64 k], .agg #[.int .i64 (f + k), .int .i64 (t + k), .int .i64 (n - k)]]) ∧ Ext w w' := by
  go_enter Tryz.func196, Tryz.ntmps196
  go_wp2
  clear m1 m2 h5 h6
  go_region
  go_wp2
  refine bodyPost_ret (v := .tuple #[.agg #[.int .i64 f, .int .i64 t, .int .i64 k], .agg #[.int .i64 (f + k), .int .i64 (t + k), .int .i64 (n - k)]]) (by simp [results, Tryz.results196, go_sem]) rfl ?_
  exact ⟨rfl, Ext.drew (((Ext.refl w).alloc _ |>.alloc _).alloc _)⟩
/-- What a row has ahead of a key, and what from it on. -/
def splitK (r : Rw) (key : Int) : Int := min (max (key - r.f) 0) r.n
def splitA (r : Rw) (key : Int) : Rw := ⟨r.f, r.t, splitK r key⟩
def splitB (r : Rw) (key : Int) : Rw := ⟨r.f + splitK r key, r.t + splitK r key, r.n - splitK r key⟩
theorem splitK_bd (r : Rw) (key : Int) (h : 0 ≤ r.n) : 0 ≤ splitK r key ∧ splitK r key ≤ r.n := by unfold splitK; omega
def rowV (r : Rw) : Value := .agg #[.int .i64 r.f, .int .i64 r.t, .int .i64 r.n]
/-- A row that may be in a table, or is empty. -/
def Good0 (r : Rw) : Prop := 0 ≤ r.f ∧ r.f + r.n ≤ 2097152 ∧ 0 ≤ r.t ∧ r.t + r.n ≤ 2097152 ∧ 0 ≤ r.n
theorem split_any (r : Rw) (key : Int) (w : World) (h : Good0 r) (h5 : 0 ≤ key) (h6 : key ≤ 2097152) :
    Calls Tryz.prog 196 #[.agg #[.int .i64 r.f, .int .i64 r.t, .int .i64 r.n], .int .i64 key] w fun e w' => e = .returned (.tuple #[rowV (splitA r key), rowV (splitB r key)]) ∧ Ext w w' := by
  obtain ⟨a0, a1, a2, a3, a4⟩ := h
  have hb := splitK_bd r key a4
  exact split_go r.f r.t r.n key _ _ w a0 a1 a2 a3 a4 h5 h6 rfl rfl hb.1 hb.2
theorem splitA_good (r : Rw) (key : Int) (h : Good0 r) : Good0 (splitA r key) := by
  have hb := splitK_bd r key h.2.2.2.2
  unfold Good0 at h ⊢
  simp only [splitA]
  omega
theorem splitB_good (r : Rw) (key : Int) (h : Good0 r) : Good0 (splitB r key) := by
  have hb := splitK_bd r key h.2.2.2.2
  unfold Good0 at h ⊢
  simp only [splitB]
  omega
theorem split_exp (r : Rw) (key : Int) (h : Good0 r) : expR r = expR (splitA r key) ++ expR (splitB r key) := by
  have hb := splitK_bd r key h.2.2.2.2
  have := expR_join (splitA r key) (splitB r key) hb.1 (by simp only [splitB]; omega) rfl rfl
  rw [← this]
  congr 1
  obtain ⟨f, t, n⟩ := r
  simp only [splitA, splitB]
  congr 1
  omega
theorem Good0.good {r : Rw} (h : Good0 r) (h1 : 1 ≤ r.n) : GoodR r := ⟨h.1, h.2.1, h.2.2.1, h.2.2.2.1, h1⟩
theorem GoodR.good0 {r : Rw} (h : GoodR r) : Good0 r := ⟨h.1, h.2.1, h.2.2.1, h.2.2.2.1, by have := h.2.2.2.2; omega⟩
/-- What add answers: the same rows' pairs and the row's; what it made, and that nothing else has turned. -/
def AddOut (w : World) (B : Nat) (v : Value) (out : List Rw) (l : List Pr) (e : Ending) (w' : World) : Prop :=
  ∃ (v' : Value) (out' : List Rw), e = .returned v' ∧ w'.ownsRow B 189 3 v' out'.length (rowCells out') ∧ expL out' = l ∧ GoodL out' ∧ out'.length ≤ out.length + 1 ∧ w.grownBy w' v.ownBlock ∧ (v'.ownBlock = v.ownBlock ∨ ∃ g, v'.ownBlock = some g ∧ w.heap.size ≤ g)
theorem _root_.Go.World.grownBy.trans' {a b c : World} {r : Option Nat} (h : a.grownBy b r) (k : b.grownBy c r) : a.grownBy c r := grown_trans h k (.inl rfl)
theorem add_zero (f t : Int) (v : Value) (B : Nat) (out : List Rw) (w : World) (ho : w.ownsRow B 189 3 v out.length (rowCells out)) (hg : GoodL out) :
    Calls Tryz.prog 191 #[v, .agg #[.int .i64 f, .int .i64 t, .int .i64 0]] w (AddOut w B v out (expL out)) := by
  have HO := Lib.hid ho
  clear ho
  go_enter Tryz.func191, Tryz.ntmps191
  go_wp2
  go_ret
  exact ⟨v, out, rfl, HO.out.alloc _, rfl, hg, by omega, World.grownBy_alloc _ _ _, .inl rfl⟩
/-- A world that came of another one, in which some cells hold what they hold. -/
def KeepC (w : World) : List (Addr × Value) → Prop
  | [] => True
  | p :: cs => w.cell? p.1 = some p.2 ∧ KeepC w cs
theorem cell_ext {w w' : World} {a : Addr} {v : Value} (h : Ext w w') (hc : w.cell? a = some v) : w'.cell? a = some v :=
  (World.cell?_of_block (h.block _ (World.block_lt_of_cell? w _ hc))).trans hc
theorem KeepC.ext {w w' : World} (k : Ext w w') : ∀ {cs : List (Addr × Value)}, KeepC w cs → KeepC w' cs
  | [], _ => trivial
  | _ :: _, h => ⟨cell_ext k h.1, KeepC.ext k h.2⟩
def Keep (W : World) (cs : List (Addr × Value)) (w : World) : Prop := Ext W w ∧ KeepC w cs
theorem Keep.ext {W w w' : World} {cs : List (Addr × Value)} (h : Keep W cs w) (k : Ext w w') : Keep W cs w' := ⟨h.1.trans k, h.2.ext k⟩
theorem cells_three {w : World} {b : Nat} {x y z : Value} {T : TypeId} (h : w.heap[b]? = some (.cells #[x, y, z] T (0, 0))) : w.cell? ⟨b, 0, none⟩ = some x ∧ w.cell? ⟨b, 1, none⟩ = some y ∧ w.cell? ⟨b, 2, none⟩ = some z := by
  refine ⟨?_, ?_, ?_⟩ <;> simp [World.cell?, h]
theorem keep_three (w : World) (x y z : Value) (T : TypeId) : Keep (w.alloc (.cells #[x, y, z] T)) [(⟨w.heap.size, 0, none⟩, x), (⟨w.heap.size, 1, none⟩, y), (⟨w.heap.size, 2, none⟩, z)] (w.alloc (.cells #[x, y, z] T)) := by
  obtain ⟨h1, h2, h3⟩ := cells_three (heap_alloc_new w (.cells #[x, y, z] T))
  exact ⟨Ext.refl _, h1, h2, h3, trivial⟩
set_option maxHeartbeats 2000000 in
set_option maxRecDepth 100000 in
theorem add_nil (f t n : Int) (a : Option Addr) (cap : Nat) (B : Nat) (w : World) (ho : w.ownsRow B 189 3 (.slice a 0 cap) 0 (rowCells [])) (hB : B ≤ w.heap.size) (hr : GoodR ⟨f, t, n⟩) :
    Calls Tryz.prog 191 #[.slice a 0 cap, .agg #[.int .i64 f, .int .i64 t, .int .i64 n]] w (AddOut w B (.slice a 0 cap) [] (expR ⟨f, t, n⟩)) := by
  obtain ⟨i0, hi, hz0, hz1, hz2⟩ := info_parts_row
  have HO := Lib.hid ho
  have HR := Lib.hid hr
  have hn0 : (n == 0) = false := by
    have := hr.2.2.2.2
    simp only at this
    exact beq_false_of_ne (by omega)
  have hC0 := keep_three w (.int .i64 f) (.int .i64 t) (.int .i64 n) 189
  have HC := Lib.hid hC0
  clear ho hr hC0
  go_enter Tryz.func191, Tryz.ntmps191
  go_wp2
  go_quiet (fail)
  have hC := HC.out.ext ((Ext.refl _).drewN nq)
  have ho := own_ext (HO.out.alloc (.cells #[.int .i64 f, .int .i64 t, .int .i64 n] 189)) hC.1
  have hle : w.heap.size + 1 ≤ ((w.alloc (.cells #[.int .i64 f, .int .i64 t, .int .i64 n] 189)).drewN nq).heap.size := by have := hC.1.size; simp at this ⊢
  generalize (w.alloc (.cells #[.int .i64 f, .int .i64 t, .int .i64 n] 189)).drewN nq = wq at hC ho hle ⊢
  obtain ⟨b0, b1, b2, _⟩ := hC.2
  go_wp2_with ((at_builtin; refine wpList_append_fresh _ rfl _ _ 72 rfl (B) 189 i0 (.agg #[.int .i64 0, .int .i64 0, .int .i64 0]) 3 24 Tryz.underlying72 hi hz0 hz1 hz2 rfl (by decide) _ _ _ rfl (ho.alloc _) ⟨wq.heap.size, 0, none⟩ 1 1 [.int .i64 f, .int .i64 t, .int .i64 n] rfl rfl (cell_three_new _ _ _ _ _) (fun x hx => by simp at hx; rcases hx with rfl | rfl | rfl <;> rfl) (by unfold maxLen; omega) (by omega) (by simp; omega) ?_; intro v5 w5 hown5 hgrow5 hfresh5))
  go_ret
  refine ⟨v5, [⟨f, t, n⟩], rfl, ?_, by rw [expL_one], GoodL.one HR.out, by simp, ?_, ?_⟩
  · rw [rowCells_one]
    exact hown5
  · exact grown_trans (((World.grownBy_alloc w _ _).trans' (hC.1.to_grown _)).trans' (World.grownBy_alloc wq _ _)) hgrow5 (.inl rfl)
  · rcases hfresh5 with h | h
    · exact .inl h
    · exact .inr ⟨_, h, by simp; omega⟩
end Go.Proofs.YtndopjmdpmkgeaaGreatDoor

namespace Go.Proofs.YtndopjmdpmkgeaaGreatDoor
open Go Go.ChangeShapes Go.WideShapes Go.ChangeAt Go.RowKit
set_option linter.unusedSimpArgs false
set_option linter.unusedVariables false

theorem end_at (f t n s : Int) (w : World) (h : GoodR ⟨f, t, n⟩) (e : f + n = s) : Calls Tryz.prog 164 #[.agg #[.int .i64 f, .int .i64 t, .int .i64 n]] w fun e w' => e = .returned (.int .i64 s) ∧ Ext w w' := by
  subst e
  exact end_any ⟨f, t, n⟩ w h
/-- The last row of a row of rows, in memory. -/
theorem last_cells {w : World} {B g cap m : Nat} {out : List Rw} {l : Rw} (ho : w.ownsRow B 189 3 (.slice (some ⟨g, 0, none⟩) (m + 1) cap) (m + 1) (rowCells (out ++ [l]))) (hm : out.length = m) :
    w.cell? ⟨g, m * 3, none⟩ = some (.int .i64 l.f) ∧ w.cell? ⟨g, m * 3 + 1, none⟩ = some (.int .i64 l.t) ∧ w.cell? ⟨g, m * 3 + 2, none⟩ = some (.int .i64 l.n) := by
  obtain ⟨a, c, h1, h2, h3⟩ := own_rws ho
  rcases h3 with h3 | ⟨x, off, rfl, _, _, hc⟩
  · omega
  · obtain ⟨⟨rfl, rfl⟩, rfl⟩ : (g = x ∧ 0 = off) ∧ cap = c := by simpa using h1
    have := hc m l (by rw [List.getElem?_append_right (by omega), hm]; simp)
    simpa using this
theorem Keep.hold {W w : World} {cs : List (Addr × Value)} (h : Keep W cs w) : ∃ wa, wa = w ∧ Keep W cs wa := ⟨w, rfl, h⟩
set_option maxHeartbeats 2000000 in
set_option maxRecDepth 100000 in
theorem add_far (f t n lf lt ln s : Int) (g cap m : Nat) (B : Nat) (out : List Rw) (w : World) (hm : out.length = m) (ho : w.ownsRow B 189 3 (.slice (some ⟨g, 0, none⟩) (m + 1) cap) (m + 1) (rowCells (out ++ [⟨lf, lt, ln⟩]))) (hB : B ≤ w.heap.size) (hr : GoodR ⟨f, t, n⟩) (hg : GoodL (out ++ [⟨lf, lt, ln⟩])) (hm2 : m ≤ 1000000000) (hs : lf + ln = s) (hne : (s == f) = false) :
    Calls Tryz.prog 191 #[.slice (some ⟨g, 0, none⟩) (m + 1) cap, .agg #[.int .i64 f, .int .i64 t, .int .i64 n]] w (AddOut w B (.slice (some ⟨g, 0, none⟩) (m + 1) cap) (out ++ [⟨lf, lt, ln⟩]) (expL (out ++ [⟨lf, lt, ln⟩]) ++ expR ⟨f, t, n⟩)) := by
  obtain ⟨i0, hi, hz0, hz1, hz2⟩ := info_parts_row
  have HE := Lib.hid (fun w => end_at lf lt ln s w (hg _ (by simp)) hs)
  have HO := Lib.hid ho
  have HR := Lib.hid hr
  have HG := Lib.hid hg
  have HM := Lib.hid hm
  have hn0 : (n == 0) = false := by
    have := hr.2.2.2.2
    simp only at this
    exact beq_false_of_ne (by omega)
  have hw1 : IntKind.i64.wrap ((m : Int) + 1) = (m : Int) + 1 := IntWalk.i64_in _ (by omega)
  have hw2 : IntKind.i64.wrap (m : Int) = (m : Int) := IntWalk.i64_in _ (by omega)
  have hw3 : (m : Int) < (m : Int) + 1 := by omega
  have hk0 := keep_three w (.int .i64 f) (.int .i64 t) (.int .i64 n) 189
  obtain ⟨l0, l1, l2⟩ := last_cells ho hm
  have hx := (Ext.refl w).alloc (.cells #[.int .i64 f, .int .i64 t, .int .i64 n] 189)
  have hC0 : Keep (w.alloc (.cells #[.int .i64 f, .int .i64 t, .int .i64 n] 189)) [(⟨w.heap.size, 0, none⟩, .int .i64 f), (⟨w.heap.size, 1, none⟩, .int .i64 t), (⟨w.heap.size, 2, none⟩, .int .i64 n), (⟨g, m * 3, none⟩, .int .i64 lf), (⟨g, m * 3 + 1, none⟩, .int .i64 lt), (⟨g, m * 3 + 2, none⟩, .int .i64 ln)] (w.alloc (.cells #[.int .i64 f, .int .i64 t, .int .i64 n] 189)) :=
    ⟨Ext.refl _, hk0.2.1, hk0.2.2.1, hk0.2.2.2.1, cell_ext hx l0, cell_ext hx l1, cell_ext hx l2, trivial⟩
  have HC := Lib.hid hC0
  clear ho hr hg hm hk0 l0 l1 l2 hx hC0 hs
  go_enter Tryz.func191, Tryz.ntmps191
  go_wp2
  obtain ⟨wa, ha, hC1⟩ := HC.out.hold
  rw [← ha]
  clear ha
  have hC := hC1.ext (Ext.drew (Ext.refl _))
  clear hC1
  obtain ⟨b0, b1, b2, q0, q1, q2, _⟩ := hC.2
  refine wp_region_held_drew (S := (fun W' => W'.cell? ⟨w.heap.size, 0, none⟩ = some (.int .i64 f) ∧ W'.cell? ⟨g, m * 3, none⟩ = some (.int .i64 lf) ∧ W'.cell? ⟨g, m * 3 + 1, none⟩ = some (.int .i64 lt) ∧ W'.cell? ⟨g, m * 3 + 2, none⟩ = some (.int .i64 ln))) (by kernel_rfl) ?_ (fun hHeld => ?_)
  · (try dsimp only); go_keep
  refine' wpAnyH_take (i := 0) (oi := { dst := some 12, op := _, type := _, pos := _, after := _, guard := _ }) (v := _) ?hixa0 (by kernel_rfl) ?hfxa0 ?hrxa0 ?hqxa0 ?hyxa0 ?hsxa0 ?restxa0
  case hixa0 => exact rfl
  case hfxa0 => kernel_rfl
  case hrxa0 => kernel_rfl
  case hqxa0 => exact fun _ _ _ h => h
  case hsxa0 => assumption
  case hyxa0 =>
    refine Or.inl ⟨by kernel_rfl, ?_⟩
    intro w hSw
    try dsimp only at hSw
    go_simp
    try with_reducible rfl
  try simp only [Act.put, List.setIfInBounds_toArray, List.set_cons_zero, List.set_cons_succ]
  refine' wpAnyH_take (i := 1) (oi := { dst := some 13, op := _, type := _, pos := _, after := _, guard := _ }) (v := _) ?hixa1 (by kernel_rfl) ?hfxa1 ?hrxa1 ?hqxa1 ?hyxa1 ?hsxa1 ?restxa1
  case hixa1 => exact rfl
  case hfxa1 => kernel_rfl
  case hrxa1 => kernel_rfl
  case hqxa1 => exact fun _ _ _ h => h
  case hsxa1 => assumption
  case hyxa1 =>
    refine Or.inl ⟨by kernel_rfl, ?_⟩
    intro w hSw
    try dsimp only at hSw
    go_simp
    try with_reducible rfl
  try simp only [Act.put, List.setIfInBounds_toArray, List.set_cons_zero, List.set_cons_succ]
  refine' wpAnyH_take (i := 2) (oi := { dst := some 14, op := _, type := _, pos := _, after := _, guard := _ }) (v := _) ?hixa2 (by kernel_rfl) ?hfxa2 ?hrxa2 ?hqxa2 ?hyxa2 ?hsxa2 ?restxa2
  case hixa2 => exact rfl
  case hfxa2 => kernel_rfl
  case hrxa2 => kernel_rfl
  case hqxa2 => exact fun _ _ _ h => h
  case hsxa2 => assumption
  case hyxa2 =>
    refine Or.inl ⟨by kernel_rfl, ?_⟩
    intro w hSw
    try dsimp only at hSw
    go_simp
    try with_reducible rfl
  try simp only [Act.put, List.setIfInBounds_toArray, List.set_cons_zero, List.set_cons_succ]
  refine' wpAnyH_take (i := 3) (oi := { dst := some 15, op := _, type := _, pos := _, after := _, guard := _ }) (v := _) ?hixa3 (by kernel_rfl) ?hfxa3 ?hrxa3 ?hqxa3 ?hyxa3 ?hsxa3 ?restxa3
  case hixa3 => exact rfl
  case hfxa3 => kernel_rfl
  case hrxa3 => kernel_rfl
  case hqxa3 => exact fun _ _ _ h => h
  case hsxa3 => assumption
  case hyxa3 =>
    refine Or.inl ⟨by kernel_rfl, ?_⟩
    intro w hSw
    try dsimp only at hSw
    go_simp
    try with_reducible rfl
  try simp only [Act.put, List.setIfInBounds_toArray, List.set_cons_zero, List.set_cons_succ]
  refine' wpAnyH_take (i := 4) (oi := { dst := some 16, op := _, type := _, pos := _, after := _, guard := _ }) (v := _) ?hixa4 (by kernel_rfl) ?hfxa4 ?hrxa4 ?hqxa4 ?hyxa4 ?hsxa4 ?restxa4
  case hixa4 => exact rfl
  case hfxa4 => kernel_rfl
  case hrxa4 => kernel_rfl
  case hqxa4 => exact fun _ _ _ h => h
  case hsxa4 => assumption
  case hyxa4 =>
    refine Or.inl ⟨by kernel_rfl, ?_⟩
    intro w hSw
    try dsimp only at hSw
    go_simp
    try with_reducible rfl
  try simp only [Act.put, List.setIfInBounds_toArray, List.set_cons_zero, List.set_cons_succ]
  refine' wpAnyH_take (i := 5) (oi := { dst := some 17, op := _, type := _, pos := _, after := _, guard := _ }) (v := _) ?hixa5 (by kernel_rfl) ?hfxa5 ?hrxa5 ?hqxa5 ?hyxa5 ?hsxa5 ?restxa5
  case hixa5 => exact rfl
  case hfxa5 => kernel_rfl
  case hrxa5 => kernel_rfl
  case hqxa5 => exact fun _ _ _ h => h
  case hsxa5 => assumption
  case hyxa5 =>
    refine Or.inl ⟨by kernel_rfl, ?_⟩
    intro w hSw
    try dsimp only at hSw
    go_simp
    try with_reducible rfl
  try simp only [Act.put, List.setIfInBounds_toArray, List.set_cons_zero, List.set_cons_succ]
  refine' wpAnyH_take (i := 6) (oi := { dst := some 18, op := _, type := _, pos := _, after := _, guard := _ }) (v := _) ?hixa6 (by kernel_rfl) ?hfxa6 ?hrxa6 ?hqxa6 ?hyxa6 ?hsxa6 ?restxa6
  case hixa6 => exact rfl
  case hfxa6 => kernel_rfl
  case hrxa6 => kernel_rfl
  case hqxa6 => exact fun _ _ _ h => h
  case hsxa6 => assumption
  case hyxa6 =>
    refine Or.inl ⟨by kernel_rfl, ?_⟩
    intro w hSw
    try dsimp only at hSw
    go_simp
    try with_reducible rfl
  try simp only [Act.put, List.setIfInBounds_toArray, List.set_cons_zero, List.set_cons_succ]
  refine' wpAnyH_take (i := 7) (oi := { dst := some 19, op := _, type := _, pos := _, after := _, guard := _ }) (v := _) ?hixa7 (by kernel_rfl) ?hfxa7 ?hrxa7 ?hqxa7 ?hyxa7 ?hsxa7 ?restxa7
  case hixa7 => exact rfl
  case hfxa7 => kernel_rfl
  case hrxa7 => kernel_rfl
  case hqxa7 => exact fun _ _ _ h => h
  case hsxa7 => assumption
  case hyxa7 =>
    refine Or.inl ⟨by kernel_rfl, ?_⟩
    intro w hSw
    try dsimp only at hSw
    go_simp
    try with_reducible rfl
  try simp only [Act.put, List.setIfInBounds_toArray, List.set_cons_zero, List.set_cons_succ]
  refine' wpAnyH_take (i := 9) (oi := { dst := some 21, op := _, type := _, pos := _, after := _, guard := _ }) (v := _) ?hixa9 (by kernel_rfl) ?hfxa9 ?hrxa9 ?hqxa9 ?hyxa9 ?hsxa9 ?restxa9
  case hixa9 => exact rfl
  case hfxa9 => kernel_rfl
  case hrxa9 => kernel_rfl
  case hqxa9 => exact fun _ _ _ h => h
  case hsxa9 => assumption
  case hyxa9 =>
    refine Or.inl ⟨by kernel_rfl, ?_⟩
    intro w hSw
    try dsimp only at hSw
    go_simp
    try with_reducible rfl
  try simp only [Act.put, List.setIfInBounds_toArray, List.set_cons_zero, List.set_cons_succ]
  refine' wpAnyH_take (i := 10) (oi := { dst := some 22, op := _, type := _, pos := _, after := _, guard := _ }) (v := _) ?hixa10 (by kernel_rfl) ?hfxa10 ?hrxa10 ?hqxa10 ?hyxa10 ?hsxa10 ?restxa10
  case hixa10 => exact rfl
  case hfxa10 => kernel_rfl
  case hrxa10 => kernel_rfl
  case hqxa10 => exact fun _ _ _ h => h
  case hsxa10 => assumption
  case hyxa10 =>
    refine Or.inl ⟨by kernel_rfl, ?_⟩
    intro w hSw
    try dsimp only at hSw
    go_simp
    try with_reducible rfl
  try simp only [Act.put, List.setIfInBounds_toArray, List.set_cons_zero, List.set_cons_succ]
  refine wpAnyH_ready (rs := [8]) (by kernel_rfl) (by simp) ?_
  refine' AllReadyH.cons (o := _) ?hixa8 (fun K hK => ?hk0xa8) AllReadyH.nil
  case hixa8 => exact rfl
  go_simp
  go_at_call 164
  refine (HE.out _).mono ?_
  rintro e wx ⟨rfl, hbx⟩
  have hC' := hC.ext hbx
  clear hC hbx
  have hC := hC'
  clear hC'
  clear b0 b1 b2 q0 q1 q2
  obtain ⟨b0, b1, b2, q0, q1, q2, _⟩ := hC.2
  try go_wp2_with fail
  refine hK.out _ _ ?hS0xa8 (fun hHeld => ?restxa8)
  case hS0xa8 => (try dsimp only); go_keep
  clear hK K
  try simp only [Act.put, List.setIfInBounds_toArray, List.set_cons_zero, List.set_cons_succ]
  refine' wpAnyH_take (i := 11) (oi := { dst := some 23, op := _, type := _, pos := _, after := _, guard := _ }) (v := _) ?hixa11 (by kernel_rfl) ?hfxa11 ?hrxa11 ?hqxa11 ?hyxa11 ?hsxa11 ?restxa11
  case hixa11 => exact rfl
  case hfxa11 => kernel_rfl
  case hrxa11 => kernel_rfl
  case hqxa11 => exact fun _ _ _ h => h
  case hsxa11 => assumption
  case hyxa11 =>
    refine Or.inl ⟨by kernel_rfl, ?_⟩
    intro w hSw
    try dsimp only at hSw
    go_simp
    try with_reducible rfl
  try simp only [Act.put, List.setIfInBounds_toArray, List.set_cons_zero, List.set_cons_succ]
  refine' wpAnyH_take (i := 12) (oi := { dst := some 24, op := _, type := _, pos := _, after := _, guard := _ }) (v := _) ?hixa12 (by kernel_rfl) ?hfxa12 ?hrxa12 ?hqxa12 ?hyxa12 ?hsxa12 ?restxa12
  case hixa12 => exact rfl
  case hfxa12 => kernel_rfl
  case hrxa12 => kernel_rfl
  case hqxa12 => exact fun _ _ _ h => h
  case hsxa12 => assumption
  case hyxa12 =>
    refine Or.inl ⟨by kernel_rfl, ?_⟩
    intro w hSw
    try dsimp only at hSw
    go_simp
    try with_reducible rfl
  try simp only [Act.put, List.setIfInBounds_toArray, List.set_cons_zero, List.set_cons_succ]
  refine' wpAnyH_take (i := 13) (oi := { dst := some 25, op := _, type := _, pos := _, after := _, guard := _ }) (v := _) ?hixa13 (by kernel_rfl) ?hfxa13 ?hrxa13 ?hqxa13 ?hyxa13 ?hsxa13 ?restxa13
  case hixa13 => exact rfl
  case hfxa13 => kernel_rfl
  case hrxa13 => kernel_rfl
  case hqxa13 => exact fun _ _ _ h => h
  case hsxa13 => assumption
  case hyxa13 =>
    refine Or.inl ⟨by kernel_rfl, ?_⟩
    intro w hSw
    try dsimp only at hSw
    go_simp
    try with_reducible rfl
  try simp only [Act.put, List.setIfInBounds_toArray, List.set_cons_zero, List.set_cons_succ]
  refine' wpAnyH_take (i := 14) (oi := { dst := some 26, op := _, type := _, pos := _, after := _, guard := _ }) (v := undef) ?hixa14 (by kernel_rfl) ?hfxa14 ?hrxa14 ?hqxa14 ?hyxa14 ?hsxa14 ?restxa14
  case hixa14 => exact rfl
  case hfxa14 => kernel_rfl
  case hrxa14 => kernel_rfl
  case hqxa14 => exact fun _ _ _ h => h
  case hsxa14 => assumption
  case hyxa14 => exact Or.inr ⟨by kernel_rfl, rfl⟩
  try simp only [Act.put, List.setIfInBounds_toArray, List.set_cons_zero, List.set_cons_succ]
  refine' wpAnyH_take (i := 15) (oi := { dst := some 27, op := _, type := _, pos := _, after := _, guard := _ }) (v := undef) ?hixa15 (by kernel_rfl) ?hfxa15 ?hrxa15 ?hqxa15 ?hyxa15 ?hsxa15 ?restxa15
  case hixa15 => exact rfl
  case hfxa15 => kernel_rfl
  case hrxa15 => kernel_rfl
  case hqxa15 => exact fun _ _ _ h => h
  case hsxa15 => assumption
  case hyxa15 => exact Or.inr ⟨by kernel_rfl, rfl⟩
  try simp only [Act.put, List.setIfInBounds_toArray, List.set_cons_zero, List.set_cons_succ]
  refine' wpAnyH_take (i := 16) (oi := { dst := some 28, op := _, type := _, pos := _, after := _, guard := _ }) (v := undef) ?hixa16 (by kernel_rfl) ?hfxa16 ?hrxa16 ?hqxa16 ?hyxa16 ?hsxa16 ?restxa16
  case hixa16 => exact rfl
  case hfxa16 => kernel_rfl
  case hrxa16 => kernel_rfl
  case hqxa16 => exact fun _ _ _ h => h
  case hsxa16 => assumption
  case hyxa16 => exact Or.inr ⟨by kernel_rfl, rfl⟩
  try simp only [Act.put, List.setIfInBounds_toArray, List.set_cons_zero, List.set_cons_succ]
  refine' wpAnyH_take (i := 17) (oi := { dst := some 29, op := _, type := _, pos := _, after := _, guard := _ }) (v := undef) ?hixa17 (by kernel_rfl) ?hfxa17 ?hrxa17 ?hqxa17 ?hyxa17 ?hsxa17 ?restxa17
  case hixa17 => exact rfl
  case hfxa17 => kernel_rfl
  case hrxa17 => kernel_rfl
  case hqxa17 => exact fun _ _ _ h => h
  case hsxa17 => assumption
  case hyxa17 => exact Or.inr ⟨by kernel_rfl, rfl⟩
  try simp only [Act.put, List.setIfInBounds_toArray, List.set_cons_zero, List.set_cons_succ]
  refine' wpAnyH_take (i := 18) (oi := { dst := some 30, op := _, type := _, pos := _, after := _, guard := _ }) (v := undef) ?hixa18 (by kernel_rfl) ?hfxa18 ?hrxa18 ?hqxa18 ?hyxa18 ?hsxa18 ?restxa18
  case hixa18 => exact rfl
  case hfxa18 => kernel_rfl
  case hrxa18 => kernel_rfl
  case hqxa18 => exact fun _ _ _ h => h
  case hsxa18 => assumption
  case hyxa18 => exact Or.inr ⟨by kernel_rfl, rfl⟩
  try simp only [Act.put, List.setIfInBounds_toArray, List.set_cons_zero, List.set_cons_succ]
  refine' wpAnyH_take (i := 19) (oi := { dst := some 31, op := _, type := _, pos := _, after := _, guard := _ }) (v := undef) ?hixa19 (by kernel_rfl) ?hfxa19 ?hrxa19 ?hqxa19 ?hyxa19 ?hsxa19 ?restxa19
  case hixa19 => exact rfl
  case hfxa19 => kernel_rfl
  case hrxa19 => kernel_rfl
  case hqxa19 => exact fun _ _ _ h => h
  case hsxa19 => assumption
  case hyxa19 => exact Or.inr ⟨by kernel_rfl, rfl⟩
  try simp only [Act.put, List.setIfInBounds_toArray, List.set_cons_zero, List.set_cons_succ]
  refine' wpAnyH_take (i := 20) (oi := { dst := some 32, op := _, type := _, pos := _, after := _, guard := _ }) (v := undef) ?hixa20 (by kernel_rfl) ?hfxa20 ?hrxa20 ?hqxa20 ?hyxa20 ?hsxa20 ?restxa20
  case hixa20 => exact rfl
  case hfxa20 => kernel_rfl
  case hrxa20 => kernel_rfl
  case hqxa20 => exact fun _ _ _ h => h
  case hsxa20 => assumption
  case hyxa20 => exact Or.inr ⟨by kernel_rfl, rfl⟩
  try simp only [Act.put, List.setIfInBounds_toArray, List.set_cons_zero, List.set_cons_succ]
  refine' wpAnyH_take (i := 21) (oi := { dst := some 33, op := _, type := _, pos := _, after := _, guard := _ }) (v := undef) ?hixa21 (by kernel_rfl) ?hfxa21 ?hrxa21 ?hqxa21 ?hyxa21 ?hsxa21 ?restxa21
  case hixa21 => exact rfl
  case hfxa21 => kernel_rfl
  case hrxa21 => kernel_rfl
  case hqxa21 => exact fun _ _ _ h => h
  case hsxa21 => assumption
  case hyxa21 => exact Or.inr ⟨by kernel_rfl, rfl⟩
  try simp only [Act.put, List.setIfInBounds_toArray, List.set_cons_zero, List.set_cons_succ]
  refine' wpAnyH_take (i := 22) (oi := { dst := some 34, op := _, type := _, pos := _, after := _, guard := _ }) (v := undef) ?hixa22 (by kernel_rfl) ?hfxa22 ?hrxa22 ?hqxa22 ?hyxa22 ?hsxa22 ?restxa22
  case hixa22 => exact rfl
  case hfxa22 => kernel_rfl
  case hrxa22 => kernel_rfl
  case hqxa22 => exact fun _ _ _ h => h
  case hsxa22 => assumption
  case hyxa22 => exact Or.inr ⟨by kernel_rfl, rfl⟩
  try simp only [Act.put, List.setIfInBounds_toArray, List.set_cons_zero, List.set_cons_succ]
  refine' wpAnyH_take (i := 23) (oi := { dst := some 35, op := _, type := _, pos := _, after := _, guard := _ }) (v := undef) ?hixa23 (by kernel_rfl) ?hfxa23 ?hrxa23 ?hqxa23 ?hyxa23 ?hsxa23 ?restxa23
  case hixa23 => exact rfl
  case hfxa23 => kernel_rfl
  case hrxa23 => kernel_rfl
  case hqxa23 => exact fun _ _ _ h => h
  case hsxa23 => assumption
  case hyxa23 => exact Or.inr ⟨by kernel_rfl, rfl⟩
  try simp only [Act.put, List.setIfInBounds_toArray, List.set_cons_zero, List.set_cons_succ]
  refine' wpAnyH_take (i := 24) (oi := { dst := some 36, op := _, type := _, pos := _, after := _, guard := _ }) (v := undef) ?hixa24 (by kernel_rfl) ?hfxa24 ?hrxa24 ?hqxa24 ?hyxa24 ?hsxa24 ?restxa24
  case hixa24 => exact rfl
  case hfxa24 => kernel_rfl
  case hrxa24 => kernel_rfl
  case hqxa24 => exact fun _ _ _ h => h
  case hsxa24 => assumption
  case hyxa24 => exact Or.inr ⟨by kernel_rfl, rfl⟩
  try simp only [Act.put, List.setIfInBounds_toArray, List.set_cons_zero, List.set_cons_succ]
  refine' wpAnyH_take (i := 25) (oi := { dst := some 37, op := _, type := _, pos := _, after := _, guard := _ }) (v := undef) ?hixa25 (by kernel_rfl) ?hfxa25 ?hrxa25 ?hqxa25 ?hyxa25 ?hsxa25 ?restxa25
  case hixa25 => exact rfl
  case hfxa25 => kernel_rfl
  case hrxa25 => kernel_rfl
  case hqxa25 => exact fun _ _ _ h => h
  case hsxa25 => assumption
  case hyxa25 => exact Or.inr ⟨by kernel_rfl, rfl⟩
  try simp only [Act.put, List.setIfInBounds_toArray, List.set_cons_zero, List.set_cons_succ]
  refine' wpAnyH_take (i := 26) (oi := { dst := some 38, op := _, type := _, pos := _, after := _, guard := _ }) (v := undef) ?hixa26 (by kernel_rfl) ?hfxa26 ?hrxa26 ?hqxa26 ?hyxa26 ?hsxa26 ?restxa26
  case hixa26 => exact rfl
  case hfxa26 => kernel_rfl
  case hrxa26 => kernel_rfl
  case hqxa26 => exact fun _ _ _ h => h
  case hsxa26 => assumption
  case hyxa26 => exact Or.inr ⟨by kernel_rfl, rfl⟩
  try simp only [Act.put, List.setIfInBounds_toArray, List.set_cons_zero, List.set_cons_succ]
  refine' wpAnyH_take (i := 27) (oi := { dst := some 39, op := _, type := _, pos := _, after := _, guard := _ }) (v := undef) ?hixa27 (by kernel_rfl) ?hfxa27 ?hrxa27 ?hqxa27 ?hyxa27 ?hsxa27 ?restxa27
  case hixa27 => exact rfl
  case hfxa27 => kernel_rfl
  case hrxa27 => kernel_rfl
  case hqxa27 => exact fun _ _ _ h => h
  case hsxa27 => assumption
  case hyxa27 => exact Or.inr ⟨by kernel_rfl, rfl⟩
  try simp only [Act.put, List.setIfInBounds_toArray, List.set_cons_zero, List.set_cons_succ]
  refine' wpAnyH_take (i := 28) (oi := { dst := some 40, op := _, type := _, pos := _, after := _, guard := _ }) (v := undef) ?hixa28 (by kernel_rfl) ?hfxa28 ?hrxa28 ?hqxa28 ?hyxa28 ?hsxa28 ?restxa28
  case hixa28 => exact rfl
  case hfxa28 => kernel_rfl
  case hrxa28 => kernel_rfl
  case hqxa28 => exact fun _ _ _ h => h
  case hsxa28 => assumption
  case hyxa28 => exact Or.inr ⟨by kernel_rfl, rfl⟩
  try simp only [Act.put, List.setIfInBounds_toArray, List.set_cons_zero, List.set_cons_succ]
  refine' wpAnyH_take (i := 29) (oi := { dst := some 41, op := _, type := _, pos := _, after := _, guard := _ }) (v := undef) ?hixa29 (by kernel_rfl) ?hfxa29 ?hrxa29 ?hqxa29 ?hyxa29 ?hsxa29 ?restxa29
  case hixa29 => exact rfl
  case hfxa29 => kernel_rfl
  case hrxa29 => kernel_rfl
  case hqxa29 => exact fun _ _ _ h => h
  case hsxa29 => assumption
  case hyxa29 => exact Or.inr ⟨by kernel_rfl, rfl⟩
  try simp only [Act.put, List.setIfInBounds_toArray, List.set_cons_zero, List.set_cons_succ]
  refine' wpAnyH_take (i := 30) (oi := { dst := some 42, op := _, type := _, pos := _, after := _, guard := _ }) (v := _) ?hixa30 (by kernel_rfl) ?hfxa30 ?hrxa30 ?hqxa30 ?hyxa30 ?hsxa30 ?restxa30
  case hixa30 => exact rfl
  case hfxa30 => kernel_rfl
  case hrxa30 => kernel_rfl
  case hqxa30 => exact fun _ _ _ h => h
  case hsxa30 => assumption
  case hyxa30 =>
    refine Or.inl ⟨by kernel_rfl, ?_⟩
    intro w hSw
    try dsimp only at hSw
    go_simp
    try with_reducible rfl
  try simp only [Act.put, List.setIfInBounds_toArray, List.set_cons_zero, List.set_cons_succ]
  refine wpAnyH_done (by kernel_rfl) ?_ _
  have ho := own_ext (HO.out.alloc (.cells #[.int .i64 f, .int .i64 t, .int .i64 n] 189)) hC.1
  have hle : w.heap.size + 1 ≤ wx.heap.size := by have := hC.1.size; simpa using this
  go_wp2_with ((at_builtin; refine wpList_append_fresh _ rfl _ _ 72 rfl (B) 189 i0 (.agg #[.int .i64 0, .int .i64 0, .int .i64 0]) 3 24 Tryz.underlying72 hi hz0 hz1 hz2 rfl (by decide) _ _ _ rfl (ho.alloc _) ⟨wx.heap.size, 0, none⟩ 1 1 [.int .i64 f, .int .i64 t, .int .i64 n] rfl rfl (cell_three_new _ _ _ _ _) (fun x hx => by simp at hx; rcases hx with rfl | rfl | rfl <;> rfl) (by unfold maxLen; omega) (by omega) (by simp; omega) ?_; intro v5 w5 hown5 hgrow5 hfresh5))
  go_ret
  refine ⟨v5, out ++ [⟨lf, lt, ln⟩] ++ [⟨f, t, n⟩], rfl, ?_, by rw [expL_app, expL_one], HG.out.app (GoodL.one HR.out), by simp, ?_, ?_⟩
  · rw [rowCells_app, rowCells_one]
    have e : (out ++ [(⟨lf, lt, ln⟩ : Rw)] ++ [(⟨f, t, n⟩ : Rw)]).length = m + 1 + 1 := by simp [HM.out]
    rw [e]
    exact hown5
  · exact grown_trans (((World.grownBy_alloc w _ _).trans' (hC.1.to_grown _)).trans' (World.grownBy_alloc wx _ _)) hgrow5 (.inl rfl)
  · rcases hfresh5 with h | h
    · exact .inl h
    · exact .inr ⟨_, h, by simp; omega⟩
set_option maxHeartbeats 2000000 in
set_option maxRecDepth 100000 in
theorem add_off (f t n lf lt ln v : Int) (g cap m : Nat) (B : Nat) (out : List Rw) (w : World) (hm : out.length = m) (ho : w.ownsRow B 189 3 (.slice (some ⟨g, 0, none⟩) (m + 1) cap) (m + 1) (rowCells (out ++ [⟨lf, lt, ln⟩]))) (hB : B ≤ w.heap.size) (hr : GoodR ⟨f, t, n⟩) (hg : GoodL (out ++ [⟨lf, lt, ln⟩])) (hm2 : m ≤ 1000000000) (hs : lf + ln = f) (hv : lt + ln = v) (hne : (v == t) = false) :
    Calls Tryz.prog 191 #[.slice (some ⟨g, 0, none⟩) (m + 1) cap, .agg #[.int .i64 f, .int .i64 t, .int .i64 n]] w (AddOut w B (.slice (some ⟨g, 0, none⟩) (m + 1) cap) (out ++ [⟨lf, lt, ln⟩]) (expL (out ++ [⟨lf, lt, ln⟩]) ++ expR ⟨f, t, n⟩)) := by
  have hb := hg (⟨lf, lt, ln⟩ : Rw) (by simp)
  unfold GoodR at hb
  simp only at hb
  have hw4 : IntKind.i64.wrap (lt + ln) = v := by rw [IntWalk.i64_in _ (by omega)]; exact hv
  obtain ⟨i0, hi, hz0, hz1, hz2⟩ := info_parts_row
  have HE := Lib.hid (fun w => end_at lf lt ln f w (hg _ (by simp)) hs)
  have HO := Lib.hid ho
  have HR := Lib.hid hr
  have HG := Lib.hid hg
  have HM := Lib.hid hm
  have hn0 : (n == 0) = false := by
    have := hr.2.2.2.2
    simp only at this
    exact beq_false_of_ne (by omega)
  have hw1 : IntKind.i64.wrap ((m : Int) + 1) = (m : Int) + 1 := IntWalk.i64_in _ (by omega)
  have hw2 : IntKind.i64.wrap (m : Int) = (m : Int) := IntWalk.i64_in _ (by omega)
  have hw3 : (m : Int) < (m : Int) + 1 := by omega
  have hk0 := keep_three w (.int .i64 f) (.int .i64 t) (.int .i64 n) 189
  obtain ⟨l0, l1, l2⟩ := last_cells ho hm
  have hx := (Ext.refl w).alloc (.cells #[.int .i64 f, .int .i64 t, .int .i64 n] 189)
  have hC0 : Keep (w.alloc (.cells #[.int .i64 f, .int .i64 t, .int .i64 n] 189)) [(⟨w.heap.size, 0, none⟩, .int .i64 f), (⟨w.heap.size, 1, none⟩, .int .i64 t), (⟨w.heap.size, 2, none⟩, .int .i64 n), (⟨g, m * 3, none⟩, .int .i64 lf), (⟨g, m * 3 + 1, none⟩, .int .i64 lt), (⟨g, m * 3 + 2, none⟩, .int .i64 ln)] (w.alloc (.cells #[.int .i64 f, .int .i64 t, .int .i64 n] 189)) :=
    ⟨Ext.refl _, hk0.2.1, hk0.2.2.1, hk0.2.2.2.1, cell_ext hx l0, cell_ext hx l1, cell_ext hx l2, trivial⟩
  have HC := Lib.hid hC0
  clear hb hv ho hr hg hm hk0 l0 l1 l2 hx hC0 hs
  go_enter Tryz.func191, Tryz.ntmps191
  go_wp2
  obtain ⟨wa, ha, hC1⟩ := HC.out.hold
  rw [← ha]
  clear ha
  have hC := hC1.ext (Ext.drew (Ext.refl _))
  clear hC1
  obtain ⟨b0, b1, b2, q0, q1, q2, _⟩ := hC.2
  refine wp_region_held_drew (S := (fun W' => W'.cell? ⟨w.heap.size, 0, none⟩ = some (.int .i64 f) ∧ W'.cell? ⟨w.heap.size, 1, none⟩ = some (.int .i64 t) ∧ W'.cell? ⟨g, m * 3, none⟩ = some (.int .i64 lf) ∧ W'.cell? ⟨g, m * 3 + 1, none⟩ = some (.int .i64 lt) ∧ W'.cell? ⟨g, m * 3 + 2, none⟩ = some (.int .i64 ln))) (by kernel_rfl) ?_ (fun hHeld => ?_)
  · (try dsimp only); go_keep
  refine' wpAnyH_take (i := 0) (oi := { dst := some 12, op := _, type := _, pos := _, after := _, guard := _ }) (v := _) ?hixb0 (by kernel_rfl) ?hfxb0 ?hrxb0 ?hqxb0 ?hyxb0 ?hsxb0 ?restxb0
  case hixb0 => exact rfl
  case hfxb0 => kernel_rfl
  case hrxb0 => kernel_rfl
  case hqxb0 => exact fun _ _ _ h => h
  case hsxb0 => assumption
  case hyxb0 =>
    refine Or.inl ⟨by kernel_rfl, ?_⟩
    intro w hSw
    try dsimp only at hSw
    go_simp
    try with_reducible rfl
  try simp only [Act.put, List.setIfInBounds_toArray, List.set_cons_zero, List.set_cons_succ]
  refine' wpAnyH_take (i := 1) (oi := { dst := some 13, op := _, type := _, pos := _, after := _, guard := _ }) (v := _) ?hixb1 (by kernel_rfl) ?hfxb1 ?hrxb1 ?hqxb1 ?hyxb1 ?hsxb1 ?restxb1
  case hixb1 => exact rfl
  case hfxb1 => kernel_rfl
  case hrxb1 => kernel_rfl
  case hqxb1 => exact fun _ _ _ h => h
  case hsxb1 => assumption
  case hyxb1 =>
    refine Or.inl ⟨by kernel_rfl, ?_⟩
    intro w hSw
    try dsimp only at hSw
    go_simp
    try with_reducible rfl
  try simp only [Act.put, List.setIfInBounds_toArray, List.set_cons_zero, List.set_cons_succ]
  refine' wpAnyH_take (i := 2) (oi := { dst := some 14, op := _, type := _, pos := _, after := _, guard := _ }) (v := _) ?hixb2 (by kernel_rfl) ?hfxb2 ?hrxb2 ?hqxb2 ?hyxb2 ?hsxb2 ?restxb2
  case hixb2 => exact rfl
  case hfxb2 => kernel_rfl
  case hrxb2 => kernel_rfl
  case hqxb2 => exact fun _ _ _ h => h
  case hsxb2 => assumption
  case hyxb2 =>
    refine Or.inl ⟨by kernel_rfl, ?_⟩
    intro w hSw
    try dsimp only at hSw
    go_simp
    try with_reducible rfl
  try simp only [Act.put, List.setIfInBounds_toArray, List.set_cons_zero, List.set_cons_succ]
  refine' wpAnyH_take (i := 3) (oi := { dst := some 15, op := _, type := _, pos := _, after := _, guard := _ }) (v := _) ?hixb3 (by kernel_rfl) ?hfxb3 ?hrxb3 ?hqxb3 ?hyxb3 ?hsxb3 ?restxb3
  case hixb3 => exact rfl
  case hfxb3 => kernel_rfl
  case hrxb3 => kernel_rfl
  case hqxb3 => exact fun _ _ _ h => h
  case hsxb3 => assumption
  case hyxb3 =>
    refine Or.inl ⟨by kernel_rfl, ?_⟩
    intro w hSw
    try dsimp only at hSw
    go_simp
    try with_reducible rfl
  try simp only [Act.put, List.setIfInBounds_toArray, List.set_cons_zero, List.set_cons_succ]
  refine' wpAnyH_take (i := 4) (oi := { dst := some 16, op := _, type := _, pos := _, after := _, guard := _ }) (v := _) ?hixb4 (by kernel_rfl) ?hfxb4 ?hrxb4 ?hqxb4 ?hyxb4 ?hsxb4 ?restxb4
  case hixb4 => exact rfl
  case hfxb4 => kernel_rfl
  case hrxb4 => kernel_rfl
  case hqxb4 => exact fun _ _ _ h => h
  case hsxb4 => assumption
  case hyxb4 =>
    refine Or.inl ⟨by kernel_rfl, ?_⟩
    intro w hSw
    try dsimp only at hSw
    go_simp
    try with_reducible rfl
  try simp only [Act.put, List.setIfInBounds_toArray, List.set_cons_zero, List.set_cons_succ]
  refine' wpAnyH_take (i := 5) (oi := { dst := some 17, op := _, type := _, pos := _, after := _, guard := _ }) (v := _) ?hixb5 (by kernel_rfl) ?hfxb5 ?hrxb5 ?hqxb5 ?hyxb5 ?hsxb5 ?restxb5
  case hixb5 => exact rfl
  case hfxb5 => kernel_rfl
  case hrxb5 => kernel_rfl
  case hqxb5 => exact fun _ _ _ h => h
  case hsxb5 => assumption
  case hyxb5 =>
    refine Or.inl ⟨by kernel_rfl, ?_⟩
    intro w hSw
    try dsimp only at hSw
    go_simp
    try with_reducible rfl
  try simp only [Act.put, List.setIfInBounds_toArray, List.set_cons_zero, List.set_cons_succ]
  refine' wpAnyH_take (i := 6) (oi := { dst := some 18, op := _, type := _, pos := _, after := _, guard := _ }) (v := _) ?hixb6 (by kernel_rfl) ?hfxb6 ?hrxb6 ?hqxb6 ?hyxb6 ?hsxb6 ?restxb6
  case hixb6 => exact rfl
  case hfxb6 => kernel_rfl
  case hrxb6 => kernel_rfl
  case hqxb6 => exact fun _ _ _ h => h
  case hsxb6 => assumption
  case hyxb6 =>
    refine Or.inl ⟨by kernel_rfl, ?_⟩
    intro w hSw
    try dsimp only at hSw
    go_simp
    try with_reducible rfl
  try simp only [Act.put, List.setIfInBounds_toArray, List.set_cons_zero, List.set_cons_succ]
  refine' wpAnyH_take (i := 7) (oi := { dst := some 19, op := _, type := _, pos := _, after := _, guard := _ }) (v := _) ?hixb7 (by kernel_rfl) ?hfxb7 ?hrxb7 ?hqxb7 ?hyxb7 ?hsxb7 ?restxb7
  case hixb7 => exact rfl
  case hfxb7 => kernel_rfl
  case hrxb7 => kernel_rfl
  case hqxb7 => exact fun _ _ _ h => h
  case hsxb7 => assumption
  case hyxb7 =>
    refine Or.inl ⟨by kernel_rfl, ?_⟩
    intro w hSw
    try dsimp only at hSw
    go_simp
    try with_reducible rfl
  try simp only [Act.put, List.setIfInBounds_toArray, List.set_cons_zero, List.set_cons_succ]
  refine' wpAnyH_take (i := 9) (oi := { dst := some 21, op := _, type := _, pos := _, after := _, guard := _ }) (v := _) ?hixb9 (by kernel_rfl) ?hfxb9 ?hrxb9 ?hqxb9 ?hyxb9 ?hsxb9 ?restxb9
  case hixb9 => exact rfl
  case hfxb9 => kernel_rfl
  case hrxb9 => kernel_rfl
  case hqxb9 => exact fun _ _ _ h => h
  case hsxb9 => assumption
  case hyxb9 =>
    refine Or.inl ⟨by kernel_rfl, ?_⟩
    intro w hSw
    try dsimp only at hSw
    go_simp
    try with_reducible rfl
  try simp only [Act.put, List.setIfInBounds_toArray, List.set_cons_zero, List.set_cons_succ]
  refine' wpAnyH_take (i := 10) (oi := { dst := some 22, op := _, type := _, pos := _, after := _, guard := _ }) (v := _) ?hixb10 (by kernel_rfl) ?hfxb10 ?hrxb10 ?hqxb10 ?hyxb10 ?hsxb10 ?restxb10
  case hixb10 => exact rfl
  case hfxb10 => kernel_rfl
  case hrxb10 => kernel_rfl
  case hqxb10 => exact fun _ _ _ h => h
  case hsxb10 => assumption
  case hyxb10 =>
    refine Or.inl ⟨by kernel_rfl, ?_⟩
    intro w hSw
    try dsimp only at hSw
    go_simp
    try with_reducible rfl
  try simp only [Act.put, List.setIfInBounds_toArray, List.set_cons_zero, List.set_cons_succ]
  refine wpAnyH_ready (rs := [8]) (by kernel_rfl) (by simp) ?_
  refine' AllReadyH.cons (o := _) ?hixb8 (fun K hK => ?hk0xb8) AllReadyH.nil
  case hixb8 => exact rfl
  go_simp
  go_at_call 164
  refine (HE.out _).mono ?_
  rintro e wx ⟨rfl, hbx⟩
  have hC' := hC.ext hbx
  clear hC hbx
  have hC := hC'
  clear hC'
  clear b0 b1 b2 q0 q1 q2
  obtain ⟨b0, b1, b2, q0, q1, q2, _⟩ := hC.2
  try go_wp2_with fail
  refine hK.out _ _ ?hS0xb8 (fun hHeld => ?restxb8)
  case hS0xb8 => (try dsimp only); go_keep
  clear hK K
  try simp only [Act.put, List.setIfInBounds_toArray, List.set_cons_zero, List.set_cons_succ]
  refine' wpAnyH_take (i := 11) (oi := { dst := some 23, op := _, type := _, pos := _, after := _, guard := _ }) (v := _) ?hixb11 (by kernel_rfl) ?hfxb11 ?hrxb11 ?hqxb11 ?hyxb11 ?hsxb11 ?restxb11
  case hixb11 => exact rfl
  case hfxb11 => kernel_rfl
  case hrxb11 => kernel_rfl
  case hqxb11 => exact fun _ _ _ h => h
  case hsxb11 => assumption
  case hyxb11 =>
    refine Or.inl ⟨by kernel_rfl, ?_⟩
    intro w hSw
    try dsimp only at hSw
    go_simp
    try with_reducible rfl
  try simp only [Act.put, List.setIfInBounds_toArray, List.set_cons_zero, List.set_cons_succ]
  refine' wpAnyH_take (i := 12) (oi := { dst := some 24, op := _, type := _, pos := _, after := _, guard := _ }) (v := _) ?hixb12 (by kernel_rfl) ?hfxb12 ?hrxb12 ?hqxb12 ?hyxb12 ?hsxb12 ?restxb12
  case hixb12 => exact rfl
  case hfxb12 => kernel_rfl
  case hrxb12 => kernel_rfl
  case hqxb12 => exact fun _ _ _ h => h
  case hsxb12 => assumption
  case hyxb12 =>
    refine Or.inl ⟨by kernel_rfl, ?_⟩
    intro w hSw
    try dsimp only at hSw
    go_simp
    try with_reducible rfl
  try simp only [Act.put, List.setIfInBounds_toArray, List.set_cons_zero, List.set_cons_succ]
  refine' wpAnyH_take (i := 13) (oi := { dst := some 25, op := _, type := _, pos := _, after := _, guard := _ }) (v := _) ?hixb13 (by kernel_rfl) ?hfxb13 ?hrxb13 ?hqxb13 ?hyxb13 ?hsxb13 ?restxb13
  case hixb13 => exact rfl
  case hfxb13 => kernel_rfl
  case hrxb13 => kernel_rfl
  case hqxb13 => exact fun _ _ _ h => h
  case hsxb13 => assumption
  case hyxb13 =>
    refine Or.inl ⟨by kernel_rfl, ?_⟩
    intro w hSw
    try dsimp only at hSw
    go_simp
    try with_reducible rfl
  try simp only [Act.put, List.setIfInBounds_toArray, List.set_cons_zero, List.set_cons_succ]
  refine' wpAnyH_take (i := 14) (oi := { dst := some 26, op := _, type := _, pos := _, after := _, guard := _ }) (v := _) ?hixb14 (by kernel_rfl) ?hfxb14 ?hrxb14 ?hqxb14 ?hyxb14 ?hsxb14 ?restxb14
  case hixb14 => exact rfl
  case hfxb14 => kernel_rfl
  case hrxb14 => kernel_rfl
  case hqxb14 => exact fun _ _ _ h => h
  case hsxb14 => assumption
  case hyxb14 =>
    refine Or.inl ⟨by kernel_rfl, ?_⟩
    intro w hSw
    try dsimp only at hSw
    go_simp
    try with_reducible rfl
  try simp only [Act.put, List.setIfInBounds_toArray, List.set_cons_zero, List.set_cons_succ]
  refine' wpAnyH_take (i := 15) (oi := { dst := some 27, op := _, type := _, pos := _, after := _, guard := _ }) (v := _) ?hixb15 (by kernel_rfl) ?hfxb15 ?hrxb15 ?hqxb15 ?hyxb15 ?hsxb15 ?restxb15
  case hixb15 => exact rfl
  case hfxb15 => kernel_rfl
  case hrxb15 => kernel_rfl
  case hqxb15 => exact fun _ _ _ h => h
  case hsxb15 => assumption
  case hyxb15 =>
    refine Or.inl ⟨by kernel_rfl, ?_⟩
    intro w hSw
    try dsimp only at hSw
    go_simp
    try with_reducible rfl
  try simp only [Act.put, List.setIfInBounds_toArray, List.set_cons_zero, List.set_cons_succ]
  refine' wpAnyH_take (i := 16) (oi := { dst := some 28, op := _, type := _, pos := _, after := _, guard := _ }) (v := _) ?hixb16 (by kernel_rfl) ?hfxb16 ?hrxb16 ?hqxb16 ?hyxb16 ?hsxb16 ?restxb16
  case hixb16 => exact rfl
  case hfxb16 => kernel_rfl
  case hrxb16 => kernel_rfl
  case hqxb16 => exact fun _ _ _ h => h
  case hsxb16 => assumption
  case hyxb16 =>
    refine Or.inl ⟨by kernel_rfl, ?_⟩
    intro w hSw
    try dsimp only at hSw
    go_simp
    try with_reducible rfl
  try simp only [Act.put, List.setIfInBounds_toArray, List.set_cons_zero, List.set_cons_succ]
  refine' wpAnyH_take (i := 17) (oi := { dst := some 29, op := _, type := _, pos := _, after := _, guard := _ }) (v := _) ?hixb17 (by kernel_rfl) ?hfxb17 ?hrxb17 ?hqxb17 ?hyxb17 ?hsxb17 ?restxb17
  case hixb17 => exact rfl
  case hfxb17 => kernel_rfl
  case hrxb17 => kernel_rfl
  case hqxb17 => exact fun _ _ _ h => h
  case hsxb17 => assumption
  case hyxb17 =>
    refine Or.inl ⟨by kernel_rfl, ?_⟩
    intro w hSw
    try dsimp only at hSw
    go_simp
    try with_reducible rfl
  try simp only [Act.put, List.setIfInBounds_toArray, List.set_cons_zero, List.set_cons_succ]
  refine' wpAnyH_take (i := 18) (oi := { dst := some 30, op := _, type := _, pos := _, after := _, guard := _ }) (v := _) ?hixb18 (by kernel_rfl) ?hfxb18 ?hrxb18 ?hqxb18 ?hyxb18 ?hsxb18 ?restxb18
  case hixb18 => exact rfl
  case hfxb18 => kernel_rfl
  case hrxb18 => kernel_rfl
  case hqxb18 => exact fun _ _ _ h => h
  case hsxb18 => assumption
  case hyxb18 =>
    refine Or.inl ⟨by kernel_rfl, ?_⟩
    intro w hSw
    try dsimp only at hSw
    go_simp
    try with_reducible rfl
  try simp only [Act.put, List.setIfInBounds_toArray, List.set_cons_zero, List.set_cons_succ]
  refine' wpAnyH_take (i := 19) (oi := { dst := some 31, op := _, type := _, pos := _, after := _, guard := _ }) (v := _) ?hixb19 (by kernel_rfl) ?hfxb19 ?hrxb19 ?hqxb19 ?hyxb19 ?hsxb19 ?restxb19
  case hixb19 => exact rfl
  case hfxb19 => kernel_rfl
  case hrxb19 => kernel_rfl
  case hqxb19 => exact fun _ _ _ h => h
  case hsxb19 => assumption
  case hyxb19 =>
    refine Or.inl ⟨by kernel_rfl, ?_⟩
    intro w hSw
    try dsimp only at hSw
    go_simp
    try with_reducible rfl
  try simp only [Act.put, List.setIfInBounds_toArray, List.set_cons_zero, List.set_cons_succ]
  refine' wpAnyH_take (i := 20) (oi := { dst := some 32, op := _, type := _, pos := _, after := _, guard := _ }) (v := _) ?hixb20 (by kernel_rfl) ?hfxb20 ?hrxb20 ?hqxb20 ?hyxb20 ?hsxb20 ?restxb20
  case hixb20 => exact rfl
  case hfxb20 => kernel_rfl
  case hrxb20 => kernel_rfl
  case hqxb20 => exact fun _ _ _ h => h
  case hsxb20 => assumption
  case hyxb20 =>
    refine Or.inl ⟨by kernel_rfl, ?_⟩
    intro w hSw
    try dsimp only at hSw
    go_simp
    try with_reducible rfl
  try simp only [Act.put, List.setIfInBounds_toArray, List.set_cons_zero, List.set_cons_succ]
  refine' wpAnyH_take (i := 21) (oi := { dst := some 33, op := _, type := _, pos := _, after := _, guard := _ }) (v := _) ?hixb21 (by kernel_rfl) ?hfxb21 ?hrxb21 ?hqxb21 ?hyxb21 ?hsxb21 ?restxb21
  case hixb21 => exact rfl
  case hfxb21 => kernel_rfl
  case hrxb21 => kernel_rfl
  case hqxb21 => exact fun _ _ _ h => h
  case hsxb21 => assumption
  case hyxb21 =>
    refine Or.inl ⟨by kernel_rfl, ?_⟩
    intro w hSw
    try dsimp only at hSw
    go_simp
    try with_reducible rfl
  try simp only [Act.put, List.setIfInBounds_toArray, List.set_cons_zero, List.set_cons_succ]
  refine' wpAnyH_take (i := 22) (oi := { dst := some 34, op := _, type := _, pos := _, after := _, guard := _ }) (v := _) ?hixb22 (by kernel_rfl) ?hfxb22 ?hrxb22 ?hqxb22 ?hyxb22 ?hsxb22 ?restxb22
  case hixb22 => exact rfl
  case hfxb22 => kernel_rfl
  case hrxb22 => kernel_rfl
  case hqxb22 => exact fun _ _ _ h => h
  case hsxb22 => assumption
  case hyxb22 =>
    refine Or.inl ⟨by kernel_rfl, ?_⟩
    intro w hSw
    try dsimp only at hSw
    go_simp
    try with_reducible rfl
  try simp only [Act.put, List.setIfInBounds_toArray, List.set_cons_zero, List.set_cons_succ]
  refine' wpAnyH_take (i := 23) (oi := { dst := some 35, op := _, type := _, pos := _, after := _, guard := _ }) (v := _) ?hixb23 (by kernel_rfl) ?hfxb23 ?hrxb23 ?hqxb23 ?hyxb23 ?hsxb23 ?restxb23
  case hixb23 => exact rfl
  case hfxb23 => kernel_rfl
  case hrxb23 => kernel_rfl
  case hqxb23 => exact fun _ _ _ h => h
  case hsxb23 => assumption
  case hyxb23 =>
    refine Or.inl ⟨by kernel_rfl, ?_⟩
    intro w hSw
    try dsimp only at hSw
    go_simp
    try with_reducible rfl
  try simp only [Act.put, List.setIfInBounds_toArray, List.set_cons_zero, List.set_cons_succ]
  refine' wpAnyH_take (i := 24) (oi := { dst := some 36, op := _, type := _, pos := _, after := _, guard := _ }) (v := _) ?hixb24 (by kernel_rfl) ?hfxb24 ?hrxb24 ?hqxb24 ?hyxb24 ?hsxb24 ?restxb24
  case hixb24 => exact rfl
  case hfxb24 => kernel_rfl
  case hrxb24 => kernel_rfl
  case hqxb24 => exact fun _ _ _ h => h
  case hsxb24 => assumption
  case hyxb24 =>
    refine Or.inl ⟨by kernel_rfl, ?_⟩
    intro w hSw
    try dsimp only at hSw
    go_simp
    try with_reducible rfl
  try simp only [Act.put, List.setIfInBounds_toArray, List.set_cons_zero, List.set_cons_succ]
  refine' wpAnyH_take (i := 25) (oi := { dst := some 37, op := _, type := _, pos := _, after := _, guard := _ }) (v := _) ?hixb25 (by kernel_rfl) ?hfxb25 ?hrxb25 ?hqxb25 ?hyxb25 ?hsxb25 ?restxb25
  case hixb25 => exact rfl
  case hfxb25 => kernel_rfl
  case hrxb25 => kernel_rfl
  case hqxb25 => exact fun _ _ _ h => h
  case hsxb25 => assumption
  case hyxb25 =>
    refine Or.inl ⟨by kernel_rfl, ?_⟩
    intro w hSw
    try dsimp only at hSw
    go_simp
    try with_reducible rfl
  try simp only [Act.put, List.setIfInBounds_toArray, List.set_cons_zero, List.set_cons_succ]
  refine' wpAnyH_take (i := 26) (oi := { dst := some 38, op := _, type := _, pos := _, after := _, guard := _ }) (v := _) ?hixb26 (by kernel_rfl) ?hfxb26 ?hrxb26 ?hqxb26 ?hyxb26 ?hsxb26 ?restxb26
  case hixb26 => exact rfl
  case hfxb26 => kernel_rfl
  case hrxb26 => kernel_rfl
  case hqxb26 => exact fun _ _ _ h => h
  case hsxb26 => assumption
  case hyxb26 =>
    refine Or.inl ⟨by kernel_rfl, ?_⟩
    intro w hSw
    try dsimp only at hSw
    go_simp
    try with_reducible rfl
  try simp only [Act.put, List.setIfInBounds_toArray, List.set_cons_zero, List.set_cons_succ]
  refine' wpAnyH_take (i := 27) (oi := { dst := some 39, op := _, type := _, pos := _, after := _, guard := _ }) (v := _) ?hixb27 (by kernel_rfl) ?hfxb27 ?hrxb27 ?hqxb27 ?hyxb27 ?hsxb27 ?restxb27
  case hixb27 => exact rfl
  case hfxb27 => kernel_rfl
  case hrxb27 => kernel_rfl
  case hqxb27 => exact fun _ _ _ h => h
  case hsxb27 => assumption
  case hyxb27 =>
    refine Or.inl ⟨by kernel_rfl, ?_⟩
    intro w hSw
    try dsimp only at hSw
    go_simp
    try with_reducible rfl
  try simp only [Act.put, List.setIfInBounds_toArray, List.set_cons_zero, List.set_cons_succ]
  refine' wpAnyH_take (i := 28) (oi := { dst := some 40, op := _, type := _, pos := _, after := _, guard := _ }) (v := _) ?hixb28 (by kernel_rfl) ?hfxb28 ?hrxb28 ?hqxb28 ?hyxb28 ?hsxb28 ?restxb28
  case hixb28 => exact rfl
  case hfxb28 => kernel_rfl
  case hrxb28 => kernel_rfl
  case hqxb28 => exact fun _ _ _ h => h
  case hsxb28 => assumption
  case hyxb28 =>
    refine Or.inl ⟨by kernel_rfl, ?_⟩
    intro w hSw
    try dsimp only at hSw
    go_simp
    try with_reducible rfl
  try simp only [Act.put, List.setIfInBounds_toArray, List.set_cons_zero, List.set_cons_succ]
  refine' wpAnyH_take (i := 29) (oi := { dst := some 41, op := _, type := _, pos := _, after := _, guard := _ }) (v := _) ?hixb29 (by kernel_rfl) ?hfxb29 ?hrxb29 ?hqxb29 ?hyxb29 ?hsxb29 ?restxb29
  case hixb29 => exact rfl
  case hfxb29 => kernel_rfl
  case hrxb29 => kernel_rfl
  case hqxb29 => exact fun _ _ _ h => h
  case hsxb29 => assumption
  case hyxb29 =>
    refine Or.inl ⟨by kernel_rfl, ?_⟩
    intro w hSw
    try dsimp only at hSw
    go_simp
    try with_reducible rfl
  try simp only [Act.put, List.setIfInBounds_toArray, List.set_cons_zero, List.set_cons_succ]
  refine' wpAnyH_take (i := 30) (oi := { dst := some 42, op := _, type := _, pos := _, after := _, guard := _ }) (v := _) ?hixb30 (by kernel_rfl) ?hfxb30 ?hrxb30 ?hqxb30 ?hyxb30 ?hsxb30 ?restxb30
  case hixb30 => exact rfl
  case hfxb30 => kernel_rfl
  case hrxb30 => kernel_rfl
  case hqxb30 => exact fun _ _ _ h => h
  case hsxb30 => assumption
  case hyxb30 =>
    refine Or.inl ⟨by kernel_rfl, ?_⟩
    intro w hSw
    try dsimp only at hSw
    go_simp
    try with_reducible rfl
  try simp only [Act.put, List.setIfInBounds_toArray, List.set_cons_zero, List.set_cons_succ]
  refine wpAnyH_done (by kernel_rfl) ?_ _
  have ho := own_ext (HO.out.alloc (.cells #[.int .i64 f, .int .i64 t, .int .i64 n] 189)) hC.1
  have hle : w.heap.size + 1 ≤ wx.heap.size := by have := hC.1.size; simpa using this
  go_wp2_with ((at_builtin; refine wpList_append_fresh _ rfl _ _ 72 rfl (B) 189 i0 (.agg #[.int .i64 0, .int .i64 0, .int .i64 0]) 3 24 Tryz.underlying72 hi hz0 hz1 hz2 rfl (by decide) _ _ _ rfl (ho.alloc _) ⟨wx.heap.size, 0, none⟩ 1 1 [.int .i64 f, .int .i64 t, .int .i64 n] rfl rfl (cell_three_new _ _ _ _ _) (fun x hx => by simp at hx; rcases hx with rfl | rfl | rfl <;> rfl) (by unfold maxLen; omega) (by omega) (by simp; omega) ?_; intro v5 w5 hown5 hgrow5 hfresh5))
  go_ret
  refine ⟨v5, out ++ [⟨lf, lt, ln⟩] ++ [⟨f, t, n⟩], rfl, ?_, by rw [expL_app, expL_one], HG.out.app (GoodL.one HR.out), by simp, ?_, ?_⟩
  · rw [rowCells_app, rowCells_one]
    have e : (out ++ [(⟨lf, lt, ln⟩ : Rw)] ++ [(⟨f, t, n⟩ : Rw)]).length = m + 1 + 1 := by simp [HM.out]
    rw [e]
    exact hown5
  · exact grown_trans (((World.grownBy_alloc w _ _).trans' (hC.1.to_grown _)).trans' (World.grownBy_alloc wx _ _)) hgrow5 (.inl rfl)
  · rcases hfresh5 with h | h
    · exact .inl h
    · exact .inr ⟨_, h, by simp; omega⟩
end Go.Proofs.YtndopjmdpmkgeaaGreatDoor

