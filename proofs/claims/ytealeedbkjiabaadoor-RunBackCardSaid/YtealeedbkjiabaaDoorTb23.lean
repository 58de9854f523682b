/-
  Has a table just these pairs: yes. A table of pieces, or one without a code.
-/
import Derived.Test.YtealeedbkjiabaaDoorTb22
namespace Go.Proofs.YtealeedbkjiabaaDoor
open Go Go.ChangeShapes Go.WideShapes Go.ChangeAt Go.RowKit
set_option linter.unusedSimpArgs false
set_option linter.unusedVariables false

theorem pairs_cell {w : World} {a : Option Addr} {n cap : Nat} {l : List Pr} (h : IsPairs w a n cap l) {k : Nat} (hk : k < n) : ∃ x off q, a = some ⟨x, off, none⟩ ∧ x < w.heap.size ∧ l[k]? = some q ∧ ∀ w', Ext w w' → w'.cell? ⟨x, off + k * 2, none⟩ = some (.int .i64 q.1) ∧ w'.cell? ⟨x, off + k * 2 + 1, none⟩ = some (.int .i32 q.2) := by
  obtain ⟨x, off, rfl, hx, hc⟩ := pairs_at h (by omega)
  have hl : k < l.length := by rw [h.1]; exact hk
  have e : l[k]? = some l[k] := List.getElem?_eq_getElem hl
  exact ⟨x, off, l[k], rfl, hx, e, fun w' hxx => ⟨cell_ext hxx (hc k _ e).1, cell_ext hxx (hc k _ e).2⟩⟩
set_option maxRecDepth 100000 in
set_option maxHeartbeats 2000000 in
theorem is_yes (v : Value) (l : List Pr) (a : Option Addr) (cap : Nat) (w : World) (h : IsTab w v l) (k : IsPairs w a l.length cap l) :
    Calls Tryd.prog 18 #[v, .slice a l.length cap] w fun e w' => e = .returned (.bool true) ∧ Ext w w' := by
  have hll : l.length ≤ 10000000 := by obtain ⟨_, _, _, _, _, _, _, _, _, _, _, _, _, _, _, h9, _⟩ := h; exact h9
  have HP := Lib.hid (fun w' (x : Ext w w') => table_pairs v l w' (h.ext x))
  have HS := Lib.hid (fun w' (x : Ext w w') => table_size v l w' (h.ext x))
  have HW := Lib.hid k
  obtain ⟨ta, n1, tc, tb, n2, td, rfl⟩ := h.open
  have hk := keep_boxT w (.slice ta n1 tc) (.slice tb n2 td) 27
  have HK := Lib.hid hk
  clear h k hk
  go_enter Tryd.func18, Tryd.ntmps18
  go_wp2_with (first
    | (go_at_call 26; refine (HP.out _ HK.out.1).mono ?_; rintro e w1 ⟨pa, pc, rfl, hp1, hb1⟩; have hC := HK.out.ext hb1; obtain ⟨k0, k1, _⟩ := hC.2)
    | (go_at_call 16; refine (HS.out _ hC.1).mono ?_; rintro e w2 ⟨rfl, hb2⟩; have hC2 := hC.ext hb2))
  have HP2 := Lib.hid (hp1.ext hb2)
  have HX2 := Lib.hid hC2.1
  have hxr := Ext.refl w2
  clear hp1 hb2 hC2 hC k0 k1
  go_loopw [24] (fun i wr => ∃ (j : Nat), j ≤ l.length ∧ i = .int .i64 j ∧ Ext w2 wr) (fun i _ => l.length - (intOf i).toNat)
  case atStart => exact ⟨0, by omega, rfl, hxr⟩
  case round =>
    obtain ⟨j, hj, rfl, hx⟩ := hrel
    clear hxr
    by_cases hlt : j < l.length
    · obtain ⟨x, off, q, rfl, hxl, hq, hc⟩ := pairs_cell HP2.out hlt
      obtain ⟨y, off2, q2, rfl, hyl, hq2, hc2⟩ := pairs_cell HW.out hlt
      have e : q = q2 := by rw [hq] at hq2; exact Option.some.inj hq2
      subst e
      obtain ⟨a0, a1⟩ := hc wr hx
      obtain ⟨b0, b1⟩ := hc2 wr (HX2.out.trans hx)
      obtain ⟨qc, qp⟩ := q
      simp only at a0 a1 b0 b1
      have k2 := keep_boxT wr (.int .i64 qc) (.int .i32 qp) 53
      obtain ⟨k3, k4, k5, _⟩ := k2
      have b0' := cell_ext k3 b0
      have b1' := cell_ext k3 b1
      have HK3 := Lib.hid k3
      clear hc hc2 hq hq2 k3
      go_wp2
      go_quiet (fail)
      go_wp2
      go_roundw
      case rel => exact ⟨j + 1, by omega, by go_num, (hx.trans HK3.out).drewN _⟩
      case measure => simp [intOf]; omega
    · have hjl : j = l.length := by omega
      subst hjl
      go_wp2
      go_ret
      exact ⟨rfl, HX2.out.trans hx⟩
theorem rws_move1 {w wf : World} {a : Option Addr} {n cap b : Nat} {l : List Rw} {x y : Value} {T : TypeId} (h : IsRws w a n cap l) (h1 : w.heap[b]? = some (.cells #[x, y] T (0, 0))) (hs : w.heap.size ≤ wf.heap.size) (hk : ∀ k, k ≠ b → wf.heap[k]? = w.heap[k]?) : IsRws wf a n cap l := by
  obtain ⟨h3, h4 | ⟨g, off, rfl, hc, hg, hcell⟩⟩ := h
  · exact ⟨h3, .inl h4⟩
  · by_cases hn : n = 0
    · exact ⟨h3, .inl hn⟩
    · have e : l[0]? = some l[0] := List.getElem?_eq_getElem (by omega)
      have h5 := (hcell 0 _ e).2.2
      have g1 : g ≠ b := by
        rintro rfl
        simp [World.cell?, h1] at h5
      refine ⟨h3, .inr ⟨g, off, rfl, hc, by omega, fun j r hj => ?_⟩⟩
      obtain ⟨a0, a1, a2⟩ := hcell j r hj
      exact ⟨(World.cell?_of_block (hk g g1)).trans a0, (World.cell?_of_block (hk g g1)).trans a1, (World.cell?_of_block (hk g g1)).trans a2⟩
theorem IsTab.move {w wf : World} {v : Value} {l : List Pr} {b : Nat} {x y : Value} {T : TypeId} (h : IsTab w v l) (h1 : w.heap[b]? = some (.cells #[x, y] T (0, 0))) (hs : w.heap.size ≤ wf.heap.size) (hk : ∀ k, k ≠ b → wf.heap[k]? = w.heap[k]?) : IsTab wf v l := by
  obtain ⟨a1, c1, a2, c2, F, G, rfl, y1, y2, r⟩ := h
  exact ⟨a1, c1, a2, c2, F, G, rfl, rws_move1 y1 h1 hs hk, rws_move1 y2 h1 hs hk, r⟩
/-- The pairs of a table that is made of pieces, if they may be. -/
def tabL (vs : List Pv) : List Pr := (madeP vs).1
theorem madeGo_neg : ∀ (vs : List Pv) (cur : List Pr) (i : Nat), ¬ (madeGo cur i vs).2 < 0 → (madeGo cur i vs).1 = []
  | [], cur, i, h => absurd (show (-1 : Int) < 0 by decide) h
  | v :: vs, cur, i, h => by
    cases hp : pieceP v.f v.t v.c v.x with
    | none => rw [madeGo_none hp]
    | some more =>
      cases hj : joinP cur more with
      | none => rw [madeGo_no hp hj]
      | some all2 =>
        rw [madeGo_some hp hj] at h ⊢
        exact madeGo_neg vs all2 (i + 1) h
theorem tab_nil (w : World) : IsTab w (.agg #[.slice none 0 0, .slice none 0 0]) [] :=
  ⟨none, 0, none, 0, [], [], rfl, IsRws.none _ _ _, IsRws.none _ _ _, rfl, GoodL.nil, GoodL.nil, ⟨Rising.nil, fun p c => by simp [expL]⟩, Rising.nil, fun q hq => by simp at hq, by simp, by simp⟩
/-- New, in whatever way: a table, and a fault. -/
theorem new_tab (a : Option Addr) (cap : Nat) (vs : List Pv) (w : World) (hT : Tabs w) (h : IsPieces w a vs.length cap vs) (hm : Mid vs) :
    Calls Tryd.prog 14 #[.slice a vs.length cap] w fun e w' => ∃ (v : Value) (er pl : Int), e = .returned (.tuple #[v, .agg #[.int .i64 er, .int .i64 pl]]) ∧ IsTab w' v (tabL vs) ∧ (((madeP vs).2 < 0 ∧ er = 0 ∧ pl = 0) ∨ (¬ (madeP vs).2 < 0 ∧ er = 5 ∧ pl = (madeP vs).2)) ∧ Ext w w' := by
  refine (new_any a cap vs w hT h hm).mono ?_
  rintro e w' ⟨hx, ⟨h1, v, rfl, h2⟩ | ⟨h1, rfl⟩⟩
  · exact ⟨v, 0, 0, rfl, h2, .inl ⟨h1, rfl, rfl⟩, hx⟩
  · refine ⟨_, 5, (madeP vs).2, rfl, ?_, .inr ⟨h1, rfl, rfl⟩, hx⟩
    have : tabL vs = [] := madeGo_neg vs [] 0 h1
    rw [this]
    exact tab_nil w'
set_option maxHeartbeats 1000000 in
theorem lawtable_any (a : Option Addr) (cap : Nat) (vs : List Pv) (w : World) (hT : Tabs w) (h : IsPieces w a vs.length cap vs) (hm : Mid vs) :
    Calls Tryd.prog 23 #[.slice a vs.length cap] w fun e w' => ∃ v, e = .returned v ∧ IsTab w' v (tabL vs) ∧ Ext w w' := by
  have hb0 := heap_alloc_new w (.cells #[.slice none 0 0, .slice none 0 0] 27)
  have hx0 := (Ext.refl w).alloc (.cells #[.slice none 0 0, .slice none 0 0] 27)
  have HN := Lib.hid (new_tab a cap vs _ (hT.ext hx0) (h.ext hx0) hm)
  have HB0 := Lib.hid hb0
  clear hT h hm hb0
  go_enter Tryd.func23, Tryd.ntmps23
  go_wp2_with (go_at_call 14; refine HN.out.mono ?_; rintro e w1 ⟨v, er, pl, rfl, ht, hep, hb1⟩; obtain ⟨ta, n1, tc, tb, n2, td, rfl⟩ := ht.open; have HTB := Lib.hid ht; have hx1 := hx0.trans hb1; have HF1 := Lib.hid ((hb1.block _ (lt_of_block HB0.out)).trans HB0.out); have hxa := ((Ext.refl w1).alloc (.cells #[.slice ta n1 tc, .slice tb n2 td] 27)).alloc (.cells #[.int .i64 er, .int .i64 pl] 30); obtain ⟨t0, t1, t2, t3⟩ := cells_two ((hxa.block _ (lt_of_block HF1.out)).trans HF1.out); clear ht hep hb1)
  have hB2 := (hxa.block _ (lt_of_block HF1.out)).trans HF1.out
  have htb := HTB.out.ext hxa
  have hx2 := hx1.trans hxa
  generalize (w1.alloc (.cells #[.slice ta n1 tc, .slice tb n2 td] 27)).alloc (.cells #[.int .i64 er, .int .i64 pl] 30) = wq at hB2 htb hx2 ⊢
  have hfin := set_two hB2 (.slice ta n1 tc) (.slice tb n2 td)
  have hmv := htb.move hB2 (wf := (wq.setCell ⟨w.heap.size, 0, none⟩ (.slice ta n1 tc)).setCell ⟨w.heap.size, 1, none⟩ (.slice tb n2 td)) (by simp [World.setCell]) (fun k h4 => by rw [heap_setCell_other _ _ _ _ h4, heap_setCell_other _ _ _ _ h4])
  have hxf : Ext w ((wq.setCell ⟨w.heap.size, 0, none⟩ (.slice ta n1 tc)).setCell ⟨w.heap.size, 1, none⟩ (.slice tb n2 td)) := Ext.setCell (Ext.setCell hx2 (Nat.le_refl _) _) (Nat.le_refl _) _
  generalize (wq.setCell ⟨w.heap.size, 0, none⟩ (.slice ta n1 tc)).setCell ⟨w.heap.size, 1, none⟩ (.slice tb n2 td) = wf at hfin hmv hxf ⊢
  obtain ⟨k0, k1, _, _⟩ := cells_two hfin
  refine bodyPost_ret (v := .agg #[.slice ta n1 tc, .slice tb n2 td]) (by simp [results, Tryd.results23, go_sem, k0, k1]) rfl ?_
  exact ⟨_, rfl, hmv, hxf⟩
end Go.Proofs.YtealeedbkjiabaaDoor
