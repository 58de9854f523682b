/-
  Tables that stand in memory behind calls; pieces that are made at once; the document's example of layer 4.
  Has a table just these pairs: yes. A table of pieces, or one without a code.
-/
import Derived.Test.YtabcneomeemnpaaDoorTbG
namespace Go.Proofs.YtabcneomeemnpaaDoor
open Go Go.ChangeShapes Go.WideShapes Go.ChangeAt Go.RowKit
set_option linter.unusedSimpArgs false
set_option linter.unusedVariables false

/-- A world that came of another one, in which some cells hold what they hold, and some values are tables. -/
def TabsC (w : World) : List (Value × List Pr) → Prop
  | [] => True
  | p :: ts => IsTab w p.1 p.2 ∧ TabsC w ts
theorem TabsC.ext {w w' : World} (k : Ext w w') : ∀ {ts : List (Value × List Pr)}, TabsC w ts → TabsC w' ts
  | [], _ => trivial
  | _ :: _, h => ⟨h.1.ext k, TabsC.ext k h.2⟩
structure KeepT (W : World) (cs : List (Addr × Value)) (ts : List (Value × List Pr)) (w : World) : Prop where
  ex : Ext W w
  tb : Tabs w
  c : KeepC w cs
  t : TabsC w ts
theorem KeepT.start {w : World} (hT : Tabs w) : KeepT w [] [] w := ⟨Ext.refl _, hT, trivial, trivial⟩
theorem KeepT.ext {W w w' : World} {cs : List (Addr × Value)} {ts : List (Value × List Pr)} (h : KeepT W cs ts w) (k : Ext w w') : KeepT W cs ts w' := ⟨h.ex.trans k, h.tb.ext k, h.c.ext k, h.t.ext k⟩
theorem KeepT.tab {W w : World} {cs : List (Addr × Value)} {ts : List (Value × List Pr)} (h : KeepT W cs ts w) {v : Value} {l : List Pr} (ht : IsTab w v l) : KeepT W cs ((v, l) :: ts) w := ⟨h.ex, h.tb, h.c, ht, h.t⟩
theorem KeepT.two {W w : World} {cs : List (Addr × Value)} {ts : List (Value × List Pr)} (h : KeepT W cs ts w) (x y : Value) (T : TypeId) : KeepT W ((⟨w.heap.size, 0, none⟩, x) :: (⟨w.heap.size, 1, none⟩, y) :: cs) ts (w.alloc (.cells #[x, y] T)) := by
  obtain ⟨h1, h2, _⟩ := cells_two (heap_alloc_new w (.cells #[x, y] T))
  have k := h.ext ((Ext.refl w).alloc (.cells #[x, y] T))
  exact ⟨k.ex, k.tb, ⟨h1, h2, k.c⟩, k.t⟩
theorem KeepT.four {W w : World} {cs : List (Addr × Value)} {ts : List (Value × List Pr)} (h : KeepT W cs ts w) (x y : Value) (T : TypeId) (u v : Value) (U : TypeId) : KeepT W ((⟨w.heap.size + 1, 0, none⟩, u) :: (⟨w.heap.size + 1, 1, none⟩, v) :: (⟨w.heap.size, 0, none⟩, x) :: (⟨w.heap.size, 1, none⟩, y) :: cs) ts ((w.alloc (.cells #[x, y] T)).alloc (.cells #[u, v] U)) := by
  have := (h.two x y T).two u v U
  have e : (w.alloc (.cells #[x, y] T)).heap.size = w.heap.size + 1 := by simp
  rw [e] at this
  exact this
theorem list_any (f : Int) (x : ByteArray) (w : World) : Calls Tryd.prog 38 #[.int .i64 f, .string x] w fun e w' => e = .returned (.agg #[.int .i64 f, .int .i32 0, .int .i64 0, .string x]) ∧ Ext w w' := by
  go_enter Tryd.func38, Tryd.ntmps38
  go_wp2
  refine bodyPost_ret (v := .agg #[.int .i64 f, .int .i32 0, .int .i64 0, .string x]) (by simp [results, Tryd.results38, go_sem]) rfl ?_
  exact ⟨rfl, (by repeat (first | exact Ext.refl _ | refine Ext.alloc ?_ _ | refine Ext.setCell ?_ (Nat.le_refl _) _))⟩
def pvCells (l : List Pv) : List Value := l.flatMap fun p => [.int .i64 p.f, .int .i32 p.t, .int .i64 p.c, .string p.x]
theorem pvCells_get : ∀ (l : List Pv) (j : Nat) (p : Pv), l[j]? = some p → (pvCells l)[j * 4]? = some (.int .i64 p.f) ∧ (pvCells l)[j * 4 + 1]? = some (.int .i32 p.t) ∧ (pvCells l)[j * 4 + 2]? = some (.int .i64 p.c) ∧ (pvCells l)[j * 4 + 3]? = some (.string p.x)
  | [], _, _, h => by simp at h
  | q :: l, 0, p, h => by
    simp at h
    subst h
    exact ⟨rfl, rfl, rfl, rfl⟩
  | q :: l, j + 1, p, h => by
    have ih := pvCells_get l j p (by simpa using h)
    have e : (j + 1) * 4 = j * 4 + 1 + 1 + 1 + 1 := by omega
    rw [e]
    exact ih
/-- Pieces that are made at once. -/
theorem pieces_made (w : World) (l : List Pv) (T : TypeId) : IsPieces (w.alloc (.cells (pvCells l).toArray T)) (some ⟨w.heap.size, 0, none⟩) l.length l.length l := by
  have h := heap_alloc_new w (.cells (pvCells l).toArray T)
  refine ⟨rfl, .inr ⟨w.heap.size, 0, rfl, Nat.le_refl _, by simp, fun j p hj => ?_⟩⟩
  obtain ⟨a0, a1, a2, a3⟩ := pvCells_get l j p hj
  have e : ∀ o, (w.alloc (.cells (pvCells l).toArray T)).cell? ⟨w.heap.size, 0 + o, none⟩ = (pvCells l)[o]? := by
    intro o
    simp only [World.cell?, h]
    simp
  exact ⟨(e _).trans a0, (e _).trans a1, (e _).trans a2, (e _).trans a3⟩
/-- A table of pieces that are made at once. -/
theorem new_made (l : List Pv) (T : TypeId) (r : List Pr) (w : World) (hT : Tabs w) (hm : Mid l) (hr : madeP l = (r, -1)) :
    Calls Tryd.prog 39 #[.slice (some ⟨w.heap.size, 0, none⟩) l.length l.length] (w.alloc (.cells (pvCells l).toArray T)) fun e w' => ∃ v, e = .returned (.tuple #[v, .agg #[.int .i64 0, .int .i64 0]]) ∧ IsTab w' v r ∧ Ext w w' := by
  have k := (Ext.refl w).alloc (.cells (pvCells l).toArray T)
  refine (new_any _ _ l _ (hT.ext k) (pieces_made w l T) hm).mono ?_
  rintro e w' ⟨h1, h2⟩
  rw [hr] at h2
  rcases h2 with ⟨_, v, rfl, h3⟩ | ⟨h3, _⟩
  · exact ⟨v, rfl, h3, k.trans h1⟩
  · exact absurd (show (-1 : Int) < 0 by decide) h3
theorem IsTab.open {w : World} {v : Value} {l : List Pr} (h : IsTab w v l) : ∃ (ta : Option Addr) (n1 tc : Nat) (tb : Option Addr) (n2 td : Nat), v = .agg #[.slice ta n1 tc, .slice tb n2 td] := by
  obtain ⟨a1, c1, a2, c2, F, G, rfl, _⟩ := h
  exact ⟨a1, _, c1, a2, _, c2, rfl⟩
/-! ### The example -/
def exT : List Pv := [⟨0, 65, 3, ⟨#[]⟩⟩, ⟨10, 0, 0, ⟨#[120, 121]⟩⟩]
def exU : List Pv := [⟨1, 65, 1, ⟨#[]⟩⟩]
def exTl : List Pr := [(0, 65), (1, 66), (2, 67), (10, 120), (11, 121)]
def exUl : List Pr := [(1, 65)]
def exVl : List Pr := [(0, 65), (1, 65), (2, 67), (10, 120), (11, 121)]
theorem exT_made : madeP exT = (exTl, -1) := by decide +kernel
theorem exU_made : madeP exU = (exUl, -1) := by decide +kernel
theorem exV_over : overP exUl exTl = exVl := by decide +kernel
theorem exT_mid : Mid exT := ⟨by decide, by decide⟩
theorem exU_mid : Mid exU := ⟨by decide, by decide⟩
theorem exV_from : From0 exVl := by unfold From0 exVl; decide
theorem ex_newT (w : World) (hT : Tabs w) : Calls Tryd.prog 39 #[.slice (some ⟨w.heap.size, 0, none⟩) 2 2] (w.alloc (.cells #[.int .i64 0, .int .i32 65, .int .i64 3, .string ⟨#[]⟩, .int .i64 10, .int .i32 0, .int .i64 0, .string ⟨#[120, 121]⟩] 64)) fun e w' => ∃ v, e = .returned (.tuple #[v, .agg #[.int .i64 0, .int .i64 0]]) ∧ IsTab w' v exTl ∧ Ext w w' :=
  new_made exT 64 exTl w hT exT_mid exT_made
theorem ex_newU (w : World) (hT : Tabs w) : Calls Tryd.prog 39 #[.slice (some ⟨w.heap.size, 0, none⟩) 1 1] (w.alloc (.cells #[.int .i64 1, .int .i32 65, .int .i64 1, .string ⟨#[]⟩] 64)) fun e w' => ∃ v, e = .returned (.tuple #[v, .agg #[.int .i64 0, .int .i64 0]]) ∧ IsTab w' v exUl ∧ Ext w w' :=
  new_made exU 64 exUl w hT exU_mid exU_made
theorem ex_size (v : Value) (w : World) (h : IsTab w v exTl) : Calls Tryd.prog 51 #[v] w fun e w' => e = .returned (.int .i64 5) ∧ Ext w w' :=
  table_size v exTl w h
end Go.Proofs.YtabcneomeemnpaaDoor
namespace Go.Proofs.YtabcneomeemnpaaDoor
open Go Go.ChangeShapes Go.WideShapes Go.ChangeAt Go.RowKit
set_option linter.unusedSimpArgs false
set_option linter.unusedVariables false

theorem pairs_cell {w : World} {a : Option Addr} {n cap : Nat} {l : List Pr} (h : IsPairs w a n cap l) {k : Nat} (hk : k < n) : ∃ x off q, a = some ⟨x, off, none⟩ ∧ x < w.heap.size ∧ l[k]? = some q ∧ ∀ w', Ext w w' → w'.cell? ⟨x, off + k * 2, none⟩ = some (.int .i64 q.1) ∧ w'.cell? ⟨x, off + k * 2 + 1, none⟩ = some (.int .i32 q.2) := by
  obtain ⟨x, off, rfl, hx, hc⟩ := pairs_at h (by omega)
  have hl : k < l.length := by rw [h.1]; exact hk
  have e : l[k]? = some l[k] := List.getElem?_eq_getElem hl
  exact ⟨x, off, l[k], rfl, hx, e, fun w' hxx => ⟨cell_ext hxx (hc k _ e).1, cell_ext hxx (hc k _ e).2⟩⟩
theorem rws_move1 {w wf : World} {a : Option Addr} {n cap b : Nat} {l : List Rw} {x y : Value} {T : TypeId} (h : IsRws w a n cap l) (h1 : w.heap[b]? = some (.cells #[x, y] T (0, 0))) (hs : w.heap.size ≤ wf.heap.size) (hk : ∀ k, k ≠ b → wf.heap[k]? = w.heap[k]?) : IsRws wf a n cap l := by
  obtain ⟨h3, h4 | ⟨g, off, rfl, hc, hg, hcell⟩⟩ := h
  · exact ⟨h3, .inl h4⟩
  · by_cases hn : n = 0
    · exact ⟨h3, .inl hn⟩
    · have e : l[0]? = some l[0] := List.getElem?_eq_getElem (by omega)
      have h5 := (hcell 0 _ e).2.2
      have g1 : g ≠ b := by
        rintro rfl
        simp [World.cell?, h1] at h5
      refine ⟨h3, .inr ⟨g, off, rfl, hc, by omega, fun j r hj => ?_⟩⟩
      obtain ⟨a0, a1, a2⟩ := hcell j r hj
      exact ⟨(World.cell?_of_block (hk g g1)).trans a0, (World.cell?_of_block (hk g g1)).trans a1, (World.cell?_of_block (hk g g1)).trans a2⟩
theorem IsTab.move {w wf : World} {v : Value} {l : List Pr} {b : Nat} {x y : Value} {T : TypeId} (h : IsTab w v l) (h1 : w.heap[b]? = some (.cells #[x, y] T (0, 0))) (hs : w.heap.size ≤ wf.heap.size) (hk : ∀ k, k ≠ b → wf.heap[k]? = w.heap[k]?) : IsTab wf v l := by
  obtain ⟨a1, c1, a2, c2, F, G, rfl, y1, y2, r⟩ := h
  exact ⟨a1, c1, a2, c2, F, G, rfl, rws_move1 y1 h1 hs hk, rws_move1 y2 h1 hs hk, r⟩
/-- The pairs of a table that is made of pieces, if they may be. -/
def tabL (vs : List Pv) : List Pr := (madeP vs).1
theorem madeGo_neg : ∀ (vs : List Pv) (cur : List Pr) (i : Nat), ¬ (madeGo cur i vs).2 < 0 → (madeGo cur i vs).1 = []
  | [], cur, i, h => absurd (show (-1 : Int) < 0 by decide) h
  | v :: vs, cur, i, h => by
    cases hp : pieceP v.f v.t v.c v.x with
    | none => rw [madeGo_none hp]
    | some more =>
      cases hj : joinP cur more with
      | none => rw [madeGo_no hp hj]
      | some all2 =>
        rw [madeGo_some hp hj] at h ⊢
        exact madeGo_neg vs all2 (i + 1) h
theorem tab_nil (w : World) : IsTab w (.agg #[.slice none 0 0, .slice none 0 0]) [] :=
  ⟨none, 0, none, 0, [], [], rfl, IsRws.none _ _ _, IsRws.none _ _ _, rfl, GoodL.nil, GoodL.nil, ⟨Rising.nil, fun p c => by simp [expL]⟩, Rising.nil, fun q hq => by simp at hq, by simp, by simp⟩
/-- New, in whatever way: a table, and a fault. -/
theorem new_tab (a : Option Addr) (cap : Nat) (vs : List Pv) (w : World) (hT : Tabs w) (h : IsPieces w a vs.length cap vs) (hm : Mid vs) :
    Calls Tryd.prog 39 #[.slice a vs.length cap] w fun e w' => ∃ (v : Value) (er pl : Int), e = .returned (.tuple #[v, .agg #[.int .i64 er, .int .i64 pl]]) ∧ IsTab w' v (tabL vs) ∧ (((madeP vs).2 < 0 ∧ er = 0 ∧ pl = 0) ∨ (¬ (madeP vs).2 < 0 ∧ er = 5 ∧ pl = (madeP vs).2)) ∧ Ext w w' := by
  refine (new_any a cap vs w hT h hm).mono ?_
  rintro e w' ⟨hx, ⟨h1, v, rfl, h2⟩ | ⟨h1, rfl⟩⟩
  · exact ⟨v, 0, 0, rfl, h2, .inl ⟨h1, rfl, rfl⟩, hx⟩
  · refine ⟨_, 5, (madeP vs).2, rfl, ?_, .inr ⟨h1, rfl, rfl⟩, hx⟩
    have : tabL vs = [] := madeGo_neg vs [] 0 h1
    rw [this]
    exact tab_nil w'
end Go.Proofs.YtabcneomeemnpaaDoor
