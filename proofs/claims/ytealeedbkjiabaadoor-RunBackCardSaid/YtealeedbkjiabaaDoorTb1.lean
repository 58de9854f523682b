/-
  Rows in memory: read ones, a call's own ones; an append of which is known where it lies; a key's end, and how many keys rows have.
-/
import Derived.Test.YtealeedbkjiabaaDoorTb0
import Derived.Deep.RegionHeld3
import Derived.BigRegion
namespace Go.Proofs.YtealeedbkjiabaaDoor
open Go Go.ChangeShapes Go.WideShapes Go.ChangeAt Go.RowKit
set_option linter.unusedSimpArgs false
set_option linter.unusedVariables false

/-! ### An append to a row of the call's own: where it lies behind it -/
section
variable {P : Program} (w : World)
theorem run_append_fresh (base : Nat) (t ty e : TypeId) (i : TypeInfo) (z : Value) (size bytes : Nat) (ht : P.underlying t = some (.slice e)) (hi : P.info? e = some i) (hz : i.zero = some z)
    (hsize : i.size = size) (hby : i.bytes = bytes) (hzs : z.cells.size = size) (hsz : 0 < size)
    (v : Value) (n : Nat) (xs : List Value) (hown : w.ownsRow base e size v n xs)
    (a : Addr) (m c : Nat) (news : List Value) (hl : news.length = m * size) (hnews : ∀ j u, news[j]? = some u → w.cell? (a.add j) = some u) (h1 : ∀ u ∈ news, u.oneCell' = true)
    (h63 : n + m ≤ maxLen) (hbytes : (n + m) * bytes ≤ 140737488355328) (hbase : base ≤ w.heap.size) :
    ∃ v' w', (Builtin.append_ #[t, t] ty #[v, .slice (some a) m c]).run P w = .ok v' w' ∧ w'.ownsRow base e size v' (n + m) (xs ++ news) ∧ w.grownBy w' v.ownBlock ∧ (v'.ownBlock = v.ownBlock ∨ v'.ownBlock = some w.heap.size) := by
  obtain ⟨v', w', hr, h2, h3, h4⟩ := run_append_own (P := P) w base t ty e i z size bytes ht hi hz hsize hby hzs hsz v n xs hown a m c news hl hnews h1 h63 hbytes hbase
  refine ⟨v', w', hr, h2, h3, ?_⟩
  have hmx : n + m ≤ 9223372036854775807 := by simp only [maxLen] at h63; omega
  subst hsize
  subst hby
  rcases hown.2 with ⟨rfl, rfl⟩ | ⟨g, cap, cur, rfl, hbg, hg, hnc, hcm, hcs, htake⟩
  · by_cases hm : m = 0
    · left
      rw [h4.2 ⟨rfl, hm⟩]
    · right
      have hr2 := run_append_nil (P := P) w t ty e i z ht hi hz a m c news hl hnews (by omega) (by omega) (by have hb := hbytes; simp only [Nat.zero_add] at hb; omega)
      rw [hr] at hr2
      injection hr2 with h5
      rw [h5]
      rfl
  · by_cases hroom : n + m ≤ cap
    · left
      have hfit : n * i.size + news.length ≤ cur.size := by rw [hl, hcs, ← Nat.add_mul]; exact Nat.mul_le_mul_right _ hroom
      have hr2 := run_append_room (P := P) w t ty e i ht hi g n cap cur hg a m c news hl hnews h1 hroom hfit
      rw [hr] at hr2
      injection hr2 with h5
      rw [h5]
      rfl
    · right
      have hr2 := run_append_grow (P := P) w t ty e i z ht hi hz ⟨g, 0, none⟩ n cap xs hown.1 (hown.cells (g := g) rfl) a m c news hl hnews (by omega) (by omega) (growslice_fits (by omega) hbytes)
      rw [hr] at hr2
      injection hr2 with h5
      rw [h5]
      rfl
theorem wp_append_fresh {o : Oper} {a : Act} {K : Act → World → Prop} {Q : Exit → Act → World → Prop} (s x : Operand) (t : TypeId)
    (ho : o.op = .call { callee := .builtin .append, args := #[s, x], argTypes := #[t, t] })
    (base : Nat) (e : TypeId) (i : TypeInfo) (z : Value) (size bytes : Nat) (ht : P.underlying t = some (.slice e)) (hi : P.info? e = some i) (hz : i.zero = some z)
    (hsize : i.size = size) (hby : i.bytes = bytes) (hzs : z.cells.size = size) (hsz : 0 < size)
    (v : Value) (n : Nat) (xs : List Value) (hs : a.eval s = v) (hown : w.ownsRow base e size v n xs)
    (ad : Addr) (m c : Nat) (news : List Value) (hx : a.eval x = .slice (some ad) m c) (hl : news.length = m * size) (hnews : ∀ j u, news[j]? = some u → w.cell? (ad.add j) = some u) (h1 : ∀ u ∈ news, u.oneCell' = true)
    (h63 : n + m ≤ maxLen) (hbytes : (n + m) * bytes ≤ 140737488355328) (hbase : base ≤ w.heap.size)
    (h : ∀ v' w', w'.ownsRow base e size v' (n + m) (xs ++ news) → w.grownBy w' v.ownBlock → (v'.ownBlock = v.ownBlock ∨ v'.ownBlock = some w.heap.size) → K (a.put o.dst v') w') : o.wp P a w K Q := by
  obtain ⟨v', w', hr, h2, h3, h4⟩ := run_append_fresh (P := P) w base t o.type e i z size bytes ht hi hz hsize hby hzs hsz v n xs hown ad m c news hl hnews h1 h63 hbytes hbase
  unfold Oper.wp execOp
  simp only [ho, resolve, invoke, builtin, Sem.run_bind, Sem.run_pure, Result.andThen_ok, List.map_toArray, List.map_cons, List.map_nil, hs, hx, hr]
  exact h v' w' h2 h3 h4
theorem wpList_append_fresh {ops : Array Oper} {rest : List Oper} {o : Oper} {a : Act} {Q : Exit → Act → World → Prop} (hgd : o.guard = none) (s x : Operand) (t : TypeId)
    (ho : o.op = .call { callee := .builtin .append, args := #[s, x], argTypes := #[t, t] })
    (base : Nat) (e : TypeId) (i : TypeInfo) (z : Value) (size bytes : Nat) (ht : P.underlying t = some (.slice e)) (hi : P.info? e = some i) (hz : i.zero = some z)
    (hsize : i.size = size) (hby : i.bytes = bytes) (hzs : z.cells.size = size) (hsz : 0 < size)
    (v : Value) (n : Nat) (xs : List Value) (hs : a.eval s = v) (hown : w.ownsRow base e size v n xs)
    (ad : Addr) (m c : Nat) (news : List Value) (hx : a.eval x = .slice (some ad) m c) (hl : news.length = m * size) (hnews : ∀ j u, news[j]? = some u → w.cell? (ad.add j) = some u) (h1 : ∀ u ∈ news, u.oneCell' = true)
    (h63 : n + m ≤ maxLen) (hbytes : (n + m) * bytes ≤ 140737488355328) (hbase : base ≤ w.heap.size)
    (h : ∀ v' w', w'.ownsRow base e size v' (n + m) (xs ++ news) → w.grownBy w' v.ownBlock → (v'.ownBlock = v.ownBlock ∨ v'.ownBlock = some w.heap.size) → wpList P ops Q rest (a.put o.dst v') w') : wpList P ops Q (o :: rest) a w :=
  wpList_plain hgd fun _ hK => wp_append_fresh w s x t ho base e i z size bytes ht hi hz hsize hby hzs hsz v n xs hs hown ad m c news hx hl hnews h1 h63 hbytes hbase fun v' w' h2 h3 h4 => hK _ _ (h v' w' h2 h3 h4)
end

/-! ### Worlds that grow by writes to one row -/
theorem Ext.to_grown {w w' : World} (h : Ext w w') (r : Option Nat) : w.grownBy w' r := ⟨h.os, h.tape, h.output, h.size, fun i hi _ => h.block i hi⟩
theorem grown_trans {a b c : World} {r s : Option Nat} (h : a.grownBy b r) (k : b.grownBy c s) (hs : s = r ∨ s = none ∨ ∃ g, s = some g ∧ a.heap.size ≤ g) : a.grownBy c r := by
  refine ⟨k.os.trans h.os, k.tape.trans h.tape, k.output.trans h.output, Nat.le_trans h.size k.size, fun i hi hn => ?_⟩
  refine (k.block i (Nat.lt_of_lt_of_le hi h.size) ?_).trans (h.block i hi hn)
  rcases hs with rfl | rfl | ⟨g, rfl, hg⟩
  · exact hn
  · exact fun e => by cases e
  · intro e
    injection e with e
    omega
theorem Ext.grown {w0 w w' : World} {r : Option Nat} (h : Ext w0 w) (k : w.grownBy w' r) (hr : r = none ∨ ∃ g, r = some g ∧ w0.heap.size ≤ g) : Ext w0 w' :=
  Below.grown h k h.size (by
    intro g hg
    rcases hr with rfl | ⟨g2, rfl, h2⟩
    · cases hg
    · injection hg with hg
      omega)
theorem own_block {w : World} {B : Nat} {e : TypeId} {size : Nat} {v : Value} {n : Nat} {xs : List Value} (h : w.ownsRow B e size v n xs) : v.ownBlock = none ∨ ∃ g, v.ownBlock = some g ∧ B ≤ g ∧ g < w.heap.size := by
  cases hv : v.ownBlock with
  | none => exact .inl rfl
  | some g => exact .inr ⟨g, rfl, (h.lt g hv).1, (h.lt g hv).2⟩
theorem Ext.own_grown {w0 w w' : World} {B : Nat} {e : TypeId} {size : Nat} {v : Value} {n : Nat} {xs : List Value} (h : Ext w0 w) (ho : w.ownsRow B e size v n xs) (hB : w0.heap.size ≤ B) (k : w.grownBy w' v.ownBlock) : Ext w0 w' :=
  h.grown k (by
    rcases own_block ho with h1 | ⟨g, h1, h2, h3⟩
    · exact .inl h1
    · exact .inr ⟨g, h1, by omega⟩)

/-! ### Rows in memory -/
def rowCells (l : List Rw) : List Value := l.flatMap fun r => [.int .i64 r.f, .int .i64 r.t, .int .i64 r.n]
theorem rowCells_app (a b : List Rw) : rowCells (a ++ b) = rowCells a ++ rowCells b := by simp [rowCells]
theorem rowCells_one (r : Rw) : rowCells [r] = [.int .i64 r.f, .int .i64 r.t, .int .i64 r.n] := by simp [rowCells]
theorem rowCells_cons (r : Rw) (l : List Rw) : rowCells (r :: l) = .int .i64 r.f :: .int .i64 r.t :: .int .i64 r.n :: rowCells l := by simp [rowCells]
theorem rowCells_len : ∀ l : List Rw, (rowCells l).length = l.length * 3
  | [] => rfl
  | r :: l => by
    rw [rowCells_cons, List.length_cons, List.length_cons, List.length_cons, rowCells_len l, List.length_cons]
    omega
theorem rowCells_get : ∀ (l : List Rw) (j : Nat) (r : Rw), l[j]? = some r → (rowCells l)[j * 3]? = some (.int .i64 r.f) ∧ (rowCells l)[j * 3 + 1]? = some (.int .i64 r.t) ∧ (rowCells l)[j * 3 + 2]? = some (.int .i64 r.n)
  | [], _, _, h => by simp at h
  | q :: l, 0, r, h => by
    simp at h
    subst h
    exact ⟨rfl, rfl, rfl⟩
  | q :: l, j + 1, r, h => by
    have ih := rowCells_get l j r (by simpa using h)
    have e : (j + 1) * 3 = j * 3 + 1 + 1 + 1 := by omega
    rw [e, rowCells_cons]
    exact ih
/-- A list of rows: none, or in memory. -/
def IsRws (w : World) (a : Option Addr) (len cap : Nat) (l : List Rw) : Prop :=
  l.length = len ∧ (len = 0 ∨ ∃ (x off : Nat), a = some ⟨x, off, none⟩ ∧ len ≤ cap ∧ x < w.heap.size ∧ ∀ (j : Nat) (r : Rw), l[j]? = some r → w.cell? ⟨x, off + j * 3, none⟩ = some (.int .i64 r.f) ∧ w.cell? ⟨x, off + j * 3 + 1, none⟩ = some (.int .i64 r.t) ∧ w.cell? ⟨x, off + j * 3 + 2, none⟩ = some (.int .i64 r.n))
theorem IsRws.ext {w w' : World} {a : Option Addr} {len cap : Nat} {l : List Rw} (h : IsRws w a len cap l) (k : Ext w w') : IsRws w' a len cap l := by
  obtain ⟨h1, h2⟩ := h
  refine ⟨h1, ?_⟩
  rcases h2 with h2 | ⟨x, off, rfl, hc, hx, hcell⟩
  · exact .inl h2
  · refine .inr ⟨x, off, rfl, hc, Nat.lt_of_lt_of_le hx k.size, fun j z hj => ?_⟩
    obtain ⟨a0, a1, a2⟩ := hcell j z hj
    exact ⟨(World.cell?_of_block (k.block x hx)).trans a0, (World.cell?_of_block (k.block x hx)).trans a1, (World.cell?_of_block (k.block x hx)).trans a2⟩
theorem IsRws.none (w : World) (a : Option Addr) (cap : Nat) : IsRws w a 0 cap [] := ⟨rfl, .inl rfl⟩
theorem rws_at {w : World} {a : Option Addr} {n cap : Nat} {l : List Rw} (h : IsRws w a n cap l) {k : Nat} (hk : k < n) : ∃ x off r, a = some ⟨x, off, .none⟩ ∧ x < w.heap.size ∧ l[k]? = some r ∧ ∀ w', Ext w w' → w'.cell? ⟨x, off + k * 3, .none⟩ = some (.int .i64 r.f) ∧ w'.cell? ⟨x, off + k * 3 + 1, .none⟩ = some (.int .i64 r.t) ∧ w'.cell? ⟨x, off + k * 3 + 2, .none⟩ = some (.int .i64 r.n) := by
  obtain ⟨h1, h2⟩ := h
  rcases h2 with h2 | ⟨x, off, rfl, hc, hx, hcell⟩
  · omega
  · have e : l[k]? = some l[k] := by simp
    refine ⟨x, off, l[k], rfl, hx, e, fun w' hxx => ?_⟩
    obtain ⟨a0, a1, a2⟩ := hcell k _ e
    exact ⟨(World.cell?_of_block (hxx.block x hx)).trans a0, (World.cell?_of_block (hxx.block x hx)).trans a1, (World.cell?_of_block (hxx.block x hx)).trans a2⟩
/-- The rows behind the first ones. -/
theorem IsRws.drop {w : World} {a : Option Addr} {n cap : Nat} {l : List Rw} (h : IsRws w a n cap l) (x off : Nat) (e : a = some ⟨x, off, .none⟩) (k : Nat) (hk : k ≤ n) : IsRws w (some ⟨x, off + k * 3, .none⟩) (n - k) (cap - k) (l.drop k) := by
  obtain ⟨h1, h2⟩ := h
  refine ⟨by simp [h1], ?_⟩
  rcases h2 with h2 | ⟨x2, off2, rfl, hc, hx, hcell⟩
  · exact .inl (by omega)
  · obtain ⟨rfl, rfl⟩ : x2 = x ∧ off2 = off := by simpa using e
    by_cases h0 : n - k = 0
    · exact .inl h0
    · refine .inr ⟨x2, off2 + k * 3, rfl, by omega, hx, fun j r hj => ?_⟩
      rw [List.getElem?_drop] at hj
      have := hcell (k + j) r hj
      have e : off2 + (k + j) * 3 = off2 + k * 3 + j * 3 := by rw [Nat.add_mul]; omega
      rw [e] at this
      exact this
theorem own_rws {w : World} {B : Nat} {v : Value} {n : Nat} {l : List Rw} (h : w.ownsRow B 90 3 v n (rowCells l)) : ∃ a cap, v = .slice a n cap ∧ IsRws w a n cap l := by
  obtain ⟨hl, ⟨rfl, rfl⟩ | ⟨g, cap, cur, rfl, hg, hh, hn, hm, hs, ht⟩⟩ := h
  · rw [rowCells_len] at hl
    exact ⟨none, 0, rfl, by omega, .inl rfl⟩
  · rw [rowCells_len] at hl
    have hbl : l.length = n := by omega
    refine ⟨some ⟨g, 0, .none⟩, cap, rfl, hbl, .inr ⟨g, 0, rfl, hn, lt_of_block hh, fun j z hj => ?_⟩⟩
    have hjl : j < l.length := (List.getElem?_eq_some_iff.1 hj).1
    obtain ⟨e1, e3, e5⟩ := rowCells_get l j z hj
    rw [← ht, List.getElem?_take, if_pos (by omega)] at e1 e3 e5
    have e2 : ∀ o, w.cell? ⟨g, 0 + o, .none⟩ = cur.toList[o]? := by intro o; simp [World.cell?, hh]
    exact ⟨(e2 (j * 3)).trans e1, (e2 (j * 3 + 1)).trans e3, (e2 (j * 3 + 2)).trans e5⟩
theorem own_len {w : World} {B : Nat} {v : Value} {n : Nat} {l : List Rw} (h : w.ownsRow B 90 3 v n (rowCells l)) : l.length = n := by
  have := h.1
  rw [rowCells_len] at this
  omega
theorem info_row : (Tryd.prog.info? 90).map (fun i => (i.zero, i.size, i.bytes)) = some (some (.agg #[.int .i64 0, .int .i64 0, .int .i64 0]), 3, 24) := by kernel_rfl
theorem info_parts_row : ∃ i, Tryd.prog.info? 90 = some i ∧ i.zero = some (.agg #[.int .i64 0, .int .i64 0, .int .i64 0]) ∧ i.size = 3 ∧ i.bytes = 24 := by
  obtain ⟨i, hi, h2⟩ := Option.map_eq_some_iff.1 info_row
  obtain ⟨h3, h4⟩ := Prod.mk.inj h2
  obtain ⟨h5, h6⟩ := Prod.mk.inj h4
  exact ⟨i, hi, h3, h5, h6⟩
theorem cell_three_new (w : World) (a b c : Value) (t : TypeId) : ∀ j u, [a, b, c][j]? = some u → (w.alloc (.cells #[a, b, c] t)).cell? ((⟨w.heap.size, 0, .none⟩ : Addr).add j) = some u := by
  intro j u hj
  have h : (w.alloc (.cells #[a, b, c] t)).heap[w.heap.size]? = some (.cells #[a, b, c] t (0, 0)) := heap_alloc_new w _
  have e : ((⟨w.heap.size, 0, .none⟩ : Addr).add j) = ⟨w.heap.size, j, .none⟩ := by unfold Addr.add; split <;> simp_all
  rw [e]
  simp only [World.cell?, h]
  simpa using hj
/-! ### A row's end; how many keys there are -/
theorem end_any (r : Rw) (w : World) (h : GoodR r) : Calls Tryd.prog 71 #[.agg #[.int .i64 r.f, .int .i64 r.t, .int .i64 r.n]] w fun e w' => e = .returned (.int .i64 (r.f + r.n)) ∧ Ext w w' := by
  obtain ⟨f, t, n⟩ := r
  unfold GoodR at h
  obtain ⟨h0, h1, h2, h3, h4⟩ := h
  simp only at h0 h1 h2 h3 h4 ⊢
  go_enter Tryd.func71, Tryd.ntmps71
  go_wp2
  go_ret
  exact ⟨rfl, (Ext.refl w).alloc _⟩
set_option maxHeartbeats 1000000 in
theorem total_any (a : Option Addr) (cap : Nat) (l : List Rw) (w : World) (h : IsRws w a l.length cap l) (hg : GoodL l) (hl : tot l ≤ 1000000000) :
    Calls Tryd.prog 44 #[.slice a l.length cap] w fun e w' => e = .returned (.int .i64 (tot l)) ∧ Ext w w' := by
  have hll : l.length ≤ 1000000000 := Nat.le_trans (rows_le hg) hl
  have HG := Lib.hid hg
  have HL := Lib.hid hl
  clear hg hl
  go_enter Tryd.func44, Tryd.ntmps44
  go_wp2
  go_loopw [3, 8] (fun v i wr => ∃ (k n : Nat), k ≤ l.length ∧ i = .int .i64 k ∧ v = .int .i64 n ∧ n ≤ 1000000000 ∧ Hid (n = tot (l.take k)) ∧ Ext w wr) (fun _ i _ => l.length - (intOf i).toNat)
  case atStart => exact ⟨0, 0, by omega, rfl, rfl, by omega, rfl, Ext.refl _⟩
  case round =>
    obtain ⟨k, n, hk, rfl, rfl, hn, HN, hx⟩ := hrel
    by_cases hlt : k < l.length
    · obtain ⟨x, off, r, rfl, hxl, hp, hcell⟩ := rws_at h hlt
      obtain ⟨c0, c1, c2⟩ := hcell wr hx
      have hr := HG.out r (List.mem_of_getElem? hp)
      unfold GoodR at hr
      have h3 := tot_take hp
      have h4 := tot_take_le l (k + 1)
      have h5 : (tot [r] : Int) = r.n := tot_one (by omega)
      have h6 := HL.out
      have h7 := HN.out
      obtain ⟨m, hm⟩ : ∃ m : Nat, r.n = (m : Int) := ⟨tot [r], h5.symm⟩
      have h8 : n + m ≤ 1000000000 := by omega
      have HS : Hid (n + m = tot (l.take (k + 1))) := by show _ = _; omega
      rw [hm] at c2
      clear hcell hp hr h3 h4 h5 h6 h7 hm
      generalize r.f = rf at c0
      generalize r.t = rt at c1
      go_wp2
      go_roundw
      case rel => exact ⟨k + 1, n + m, by omega, by go_num, by go_num, h8, HS, hx.alloc _⟩
      case measure => simp [intOf]; omega
    · have hkl : k = l.length := by omega
      have hn2 : n = tot l := by have := HN.out; rw [hkl, List.take_length] at this; exact this
      subst hn2
      go_wp2
      go_ret
      exact ⟨rfl, hx⟩
end Go.Proofs.YtealeedbkjiabaaDoor
