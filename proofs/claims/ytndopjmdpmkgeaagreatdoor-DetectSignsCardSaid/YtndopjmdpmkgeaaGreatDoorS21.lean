/-
  What the proof of this claim leans on (S21).
-/
import Derived.Test.YtndopjmdpmkgeaaGreatDoorS15
import Derived.Test.YtndopjmdpmkgeaaGreatDoorS19
import Derived.Test.YtndopjmdpmkgeaaGreatDoorS20
namespace Go.Proofs.YtndopjmdpmkgeaaGreatDoor
open Go Go.ChangeShapes Go.WideShapes Go.ChangeAt Go.RowKit
set_option linter.unusedSimpArgs false
set_option linter.unusedVariables false

/-- A table of pairs. -/
def IsTab (w : World) (v : Value) (l : List Pr) : Prop :=
  ∃ (a1 : Option Addr) (c1 : Nat) (a2 : Option Addr) (c2 : Nat) (F G : List Rw), v = .agg #[.slice a1 F.length c1, .slice a2 G.length c2] ∧ IsRws w a1 F.length c1 F ∧ IsRws w a2 G.length c2 G ∧ expL F = l ∧ GoodL F ∧ GoodL G ∧ RevOf l (expL G) ∧ Rising l ∧ Fit l ∧ l.length ≤ 10000000 ∧ G.length ≤ 100000000
theorem IsTab.ext {w w' : World} {v : Value} {l : List Pr} (h : IsTab w v l) (k : Ext w w') : IsTab w' v l := by
  obtain ⟨a1, c1, a2, c2, F, G, rfl, h1, h2, r⟩ := h
  exact ⟨a1, c1, a2, c2, F, G, rfl, h1.ext k, h2.ext k, r⟩
theorem cells_two {w : World} {b : Nat} {x y : Value} {T : TypeId} (h : w.heap[b]? = some (.cells #[x, y] T (0, 0))) : w.cell? ⟨b, 0, none⟩ = some x ∧ w.cell? ⟨b, 1, none⟩ = some y ∧ w.frozen? ⟨b, 0, none⟩ = false ∧ w.frozen? ⟨b, 1, none⟩ = false := by
  refine ⟨?_, ?_, ?_, ?_⟩ <;> simp [World.cell?, World.frozen?, h]
set_option maxHeartbeats 1000000 in
theorem tableOf_any (a : Option Addr) (cap : Nat) (F : List Rw) (w : World) (h : IsRws w a F.length cap F) (hg : GoodL F) (hr : Rising (expL F)) (hf : Fit (expL F)) (hl : tot F ≤ 10000000) :
    Calls Tryz.prog 160 #[.slice a F.length cap] w fun e w' => ∃ v, e = .returned v ∧ IsTab w' v (expL F) ∧ Ext w w' := by
  have hb0 := heap_alloc_new w (.cells #[.slice none 0 0, .slice none 0 0] 74)
  have hx0 := (Ext.refl w).alloc (.cells #[.slice none 0 0, .slice none 0 0] 74)
  have HT := Lib.hid (turned_any a cap F _ (h.ext hx0) hg hf (by omega))
  have HB0 := Lib.hid hb0
  have HH := Lib.hid h
  have HG := Lib.hid hg
  have HR := Lib.hid hr
  have HF := Lib.hid hf
  have HL := Lib.hid hl
  clear hb0 h hg hr hf hl
  go_enter Tryz.func160, Tryz.ntmps160
  go_wp2_with (go_at_call 192; refine HT.out.mono ?_; rintro e w1 ⟨v1, out, rfl, ho1, hg1, hrv, hgl1, hb1⟩; obtain ⟨a2, c2, rfl, hrw⟩ := own_rws ho1; have hF1 := (hb1.block _ (lt_of_block HB0.out)).trans HB0.out; obtain ⟨k0, k1, f0, f1⟩ := cells_two hF1)
  have hfin := set_two hF1 (.slice a F.length cap) (.slice a2 out.length c2)
  have hxf : Ext w ((w1.setCell ⟨w.heap.size, 0, none⟩ (.slice a F.length cap)).setCell ⟨w.heap.size, 1, none⟩ (.slice a2 out.length c2)) := Ext.setCell (Ext.setCell (hx0.trans hb1) (Nat.le_refl _) _) (Nat.le_refl _) _
  have hgo : IsRws ((w1.setCell ⟨w.heap.size, 0, none⟩ (.slice a F.length cap)).setCell ⟨w.heap.size, 1, none⟩ (.slice a2 out.length c2)) a2 out.length c2 out := by
    have hlt : w.heap.size < (w.alloc (.cells #[.slice none 0 0, .slice none 0 0] 74)).heap.size := by simp
    have ho2 := ownsRow_setCell_below (ownsRow_setCell_below ho1 (a := ⟨w.heap.size, 0, none⟩) hlt (.slice a F.length cap)) (a := ⟨w.heap.size, 1, none⟩) hlt (.slice a2 out.length c2)
    obtain ⟨a3, c3, e3, h3⟩ := own_rws ho2
    obtain ⟨rfl, rfl⟩ : a2 = a3 ∧ c2 = c3 := by simpa using e3
    exact h3
  generalize (w1.setCell ⟨w.heap.size, 0, none⟩ (.slice a F.length cap)).setCell ⟨w.heap.size, 1, none⟩ (.slice a2 out.length c2) = wf at hfin hxf hgo ⊢
  obtain ⟨k0, k1, _, _⟩ := cells_two hfin
  refine bodyPost_ret (v := .agg #[.slice a F.length cap, .slice a2 out.length c2]) (by simp [results, Tryz.results160, go_sem, k0, k1]) rfl ?_
  exact ⟨_, rfl, ⟨a, cap, a2, c2, F, out, rfl, HH.out.ext hxf, hgo, rfl, HG.out, hg1, hrv, HR.out, HF.out, HL.out, hgl1⟩, hxf⟩
/-- What New answers. -/
def NewEnd (w : World) (r : List Pr × Int) (e : Ending) (w' : World) : Prop :=
  Ext w w' ∧ ((r.2 < 0 ∧ ∃ v, e = .returned (.tuple #[v, .agg #[.int .i64 0, .int .i64 0]]) ∧ IsTab w' v r.1) ∨ (¬ r.2 < 0 ∧ e = .returned (.tuple #[.agg #[.slice none 0 0, .slice none 0 0], .agg #[.int .i64 5, .int .i64 r.2]])))
/-- Pieces of which a table can be made within bounds. -/
def Mid (vs : List Pv) : Prop := vs.length ≤ 100 ∧ ∀ p ∈ vs, p.f ≤ 9223372036854775807 ∧ p.c ≤ 10000 ∧ p.x.size ≤ 10000
theorem piece_len {f t c : Int} {x : ByteArray} {more : List Pr} (h : pieceP f t c x = some more) (hc : c ≤ 10000) (hx : x.size ≤ 10000) : more.length ≤ 10000 := by
  unfold pieceP at h
  split at h
  · split at h
    · cases h
    · have := Option.some.inj h
      rw [← this, pairsN_len]
      omega
  · split at h
    · cases h
    · have := Option.some.inj h
      rw [← this, pairsN_len]
      have := sgn_len x
      omega
/-- How far New has come: the document's pairs; the rows; what is taken. -/
def NewTo (vs : List Pv) (r : List Pr × Int) (k : Nat) (cur : List Pr) (R : List Rw) (bs : List Bool) : Prop :=
  MadeTo vs r k cur ∧ RowsOk cur R ∧ TakenOk cur bs ∧ Rising cur ∧ Fit cur ∧ cur.length ≤ 10000 * k ∧ R.length ≤ 10000 * k ∧ bs.length ≤ 1048576
theorem take_yes (v : Value) (B : Nat) (bs : List Bool) (f n : Nat) (w : World) (ho : w.ownsRow B 4 1 v bs.length (boolCells bs)) (hB : B ≤ w.heap.size) (hn : 1 ≤ n) (hf : f + n ≤ 100000000) (hb : bs.length ≤ 100000000) (hfree : ∀ i, f ≤ i → i < f + n → bs.getD i false = false) :
    Calls Tryz.prog 158 #[v, .int .i64 f, .int .i64 n] w fun e w' => ∃ v', e = .returned (.tuple #[v', .bool true]) ∧ w'.ownsRow B 4 1 v' (marked (longer bs (f + n)) f n).length (boolCells (marked (longer bs (f + n)) f n)) ∧ Only 4 B w w' := by
  refine (take_any v B bs f n w ho hB hn hf hb).mono ?_
  rintro e w' ⟨h1, ⟨_, v', rfl, h2⟩ | ⟨⟨i, h3, h4, h5⟩, _⟩⟩
  · exact ⟨v', rfl, by rw [marked_len, longer_len]; exact h2, h1⟩
  · rw [hfree i h3 h4] at h5
    cases h5
theorem take_no (v : Value) (B : Nat) (bs : List Bool) (f n : Nat) (w : World) (ho : w.ownsRow B 4 1 v bs.length (boolCells bs)) (hB : B ≤ w.heap.size) (hn : 1 ≤ n) (hf : f + n ≤ 100000000) (hb : bs.length ≤ 100000000) (htk : ∃ i, f ≤ i ∧ i < f + n ∧ bs.getD i false = true) :
    Calls Tryz.prog 158 #[v, .int .i64 f, .int .i64 n] w fun e w' => e = .returned (.tuple #[.slice none 0 0, .bool false]) ∧ Only 4 B w w' := by
  refine (take_any v B bs f n w ho hB hn hf hb).mono ?_
  rintro e w' ⟨h1, ⟨h2, _⟩ | ⟨_, rfl⟩⟩
  · obtain ⟨i, h3, h4, h5⟩ := htk
    rw [h2 i h3 h4] at h5
    cases h5
  · exact ⟨rfl, h1⟩
theorem cells_four {w : World} {b : Nat} {x y z u : Value} {T : TypeId} (h : w.heap[b]? = some (.cells #[x, y, z, u] T (0, 0))) : w.cell? ⟨b, 0, none⟩ = some x ∧ w.cell? ⟨b, 1, none⟩ = some y ∧ w.cell? ⟨b, 2, none⟩ = some z ∧ w.cell? ⟨b, 3, none⟩ = some u := by
  refine ⟨?_, ?_, ?_, ?_⟩ <;> simp [World.cell?, h]
/-- The cells of rows that are put behind others. -/
theorem rws_news {w : World} {a : Option Addr} {n cap : Nat} {l : List Rw} (h : IsRws w a n cap l) (hn : 1 ≤ n) : ∃ x off, a = some ⟨x, off, none⟩ ∧ x < w.heap.size ∧ ∀ j u, (rowCells l)[j]? = some u → w.cell? ((⟨x, off, none⟩ : Addr).add j) = some u := by
  obtain ⟨h1, h2 | ⟨x, off, rfl, hc, hx, hcell⟩⟩ := h
  · omega
  · refine ⟨x, off, rfl, hx, fun j u hj => ?_⟩
    have hjl : j < l.length * 3 := by
      have := (List.getElem?_eq_some_iff.1 hj).1
      rwa [rowCells_len] at this
    have hq : j / 3 < l.length := by omega
    obtain ⟨e1, e2, e3⟩ := rowCells_get l (j / 3) l[j / 3] (List.getElem?_eq_getElem hq)
    obtain ⟨c1, c2, c3⟩ := hcell (j / 3) l[j / 3] (List.getElem?_eq_getElem hq)
    have e4 : (⟨x, off, none⟩ : Addr).add j = ⟨x, off + j, none⟩ := by
      unfold Addr.add
      split <;> simp_all
    rw [e4]
    have h3 : j % 3 = 0 ∨ j % 3 = 1 ∨ j % 3 = 2 := by omega
    rcases h3 with h | h | h
    · have e5 : j / 3 * 3 = j := by omega
      rw [e5] at e1 c1
      rw [hj] at e1
      rw [c1, e1]
    · have e5 : j / 3 * 3 + 1 = j := by omega
      rw [e5] at e2
      rw [Nat.add_assoc, e5] at c2
      rw [hj] at e2
      rw [c2, e2]
    · have e5 : j / 3 * 3 + 2 = j := by omega
      rw [e5] at e3
      rw [Nat.add_assoc, e5] at c3
      rw [hj] at e3
      rw [c3, e3]
/-- The two results in their cells. -/
theorem fin_cells {w : World} {b : Nat} {x y u v : Value} {T U : TypeId} (h1 : w.heap[b]? = some (.cells #[x, y] T (0, 0))) (h2 : w.heap[b + 1]? = some (.cells #[u, v] U (0, 0))) (x' y' u' v' : Value) (W : World) (hW : Ext W w) (hb : W.heap.size ≤ b) :
    ∃ wf, wf = ((((w.setCell ⟨b, 0, none⟩ x').setCell ⟨b, 1, none⟩ y').setCell ⟨b + 1, 0, none⟩ u').setCell ⟨b + 1, 1, none⟩ v') ∧ wf.cell? ⟨b, 0, none⟩ = some x' ∧ wf.cell? ⟨b, 1, none⟩ = some y' ∧ wf.cell? ⟨b + 1, 0, none⟩ = some u' ∧ wf.cell? ⟨b + 1, 1, none⟩ = some v' ∧ Ext W wf ∧ (∀ k, k ≠ b → k ≠ b + 1 → wf.heap[k]? = w.heap[k]?) ∧ wf.heap.size = w.heap.size := by
  refine ⟨_, rfl, ?_, ?_, ?_, ?_, ?_, ?_, ?_⟩
  · rw [World.cell?_setCell_far _ _ _ _ (by show b + 1 ≠ b; omega), World.cell?_setCell_far _ _ _ _ (by show b + 1 ≠ b; omega)]
    exact (cells_two (set_two h1 x' y')).1
  · rw [World.cell?_setCell_far _ _ _ _ (by show b + 1 ≠ b; omega), World.cell?_setCell_far _ _ _ _ (by show b + 1 ≠ b; omega)]
    exact (cells_two (set_two h1 x' y')).2.1
  · have h3 : ((w.setCell ⟨b, 0, none⟩ x').setCell ⟨b, 1, none⟩ y').heap[b + 1]? = some (.cells #[u, v] U (0, 0)) := by
      rw [heap_setCell_other _ _ _ _ (by show b + 1 ≠ b; omega), heap_setCell_other _ _ _ _ (by show b + 1 ≠ b; omega)]
      exact h2
    exact (cells_two (set_two h3 u' v')).1
  · have h3 : ((w.setCell ⟨b, 0, none⟩ x').setCell ⟨b, 1, none⟩ y').heap[b + 1]? = some (.cells #[u, v] U (0, 0)) := by
      rw [heap_setCell_other _ _ _ _ (by show b + 1 ≠ b; omega), heap_setCell_other _ _ _ _ (by show b + 1 ≠ b; omega)]
      exact h2
    exact (cells_two (set_two h3 u' v')).2.1
  · exact Ext.setCell (Ext.setCell (Ext.setCell (Ext.setCell hW (p := ⟨b, 0, none⟩) hb _) (p := ⟨b, 1, none⟩) hb _) (p := ⟨b + 1, 0, none⟩) (by show W.heap.size ≤ b + 1; omega) _) (p := ⟨b + 1, 1, none⟩) (by show W.heap.size ≤ b + 1; omega) _
  · intro k h3 h4
    rw [heap_setCell_other _ _ _ _ h4, heap_setCell_other _ _ _ _ h4, heap_setCell_other _ _ _ _ h3, heap_setCell_other _ _ _ _ h3]
  · simp [World.setCell]
theorem rowCells_cell {l : List Rw} : ∀ u ∈ rowCells l, u.oneCell' = true := by
  intro u hu
  unfold rowCells at hu
  obtain ⟨r, _, hr⟩ := List.mem_flatMap.1 hu
  simp at hr
  rcases hr with rfl | rfl | rfl <;> rfl
theorem rows_pos {l : List Rw} {more : List Pr} (h : expL l = more) (hm : 1 ≤ more.length) : 1 ≤ l.length := by
  cases l with
  | nil => subst h; simp [expL] at hm
  | cons r l => simp
theorem new_next {vs : List Pv} {r : List Pr × Int} {k : Nat} {cur more all2 : List Pr} {R l : List Rw} {bs : List Bool} {fn n : Nat} {pt pc : Int} {px : ByteArray} {g : Nat → Int} (hN : NewTo vs r k cur R bs) (hp : vs[k]? = some ⟨fn, pt, pc, px⟩) (hpp : pieceP fn pt pc px = some more) (hmn : more = pairsN fn g n) (hfn : (fn : Int) + n ≤ 1048576) (hml : more.length ≤ 10000) (hjj : joinP cur more = some all2) (hl : expL l = more) (hgl : GoodL l) :
    NewTo vs r (k + 1) all2 (R ++ l) (marked (longer bs (fn + n)) fn n) := by
  obtain ⟨q1, q2, q3, q4, q5, q6, q7, q8⟩ := hN
  obtain ⟨g1, g2⟩ := pieceP_good hpp
  unfold MadeTo at q1
  rw [drop_at hp, madeGo_some hpp hjj] at q1
  have hjl := joinP_len hjj
  have hll := rows_le hgl
  rw [hl] at hll
  refine ⟨q1, join_rows q4 g1 hjj q2 hl hgl, join_marks q4 hmn hjj q3, (rising_joinP q4 g1 hjj).1, join_fit q4 q5 hpp hjj, by omega, by rw [List.length_append]; omega, ?_⟩
  rw [marked_len, longer_len]
  omega
theorem rws_move {w wf : World} {a : Option Addr} {n cap b : Nat} {l : List Rw} {x y u v : Value} {T U : TypeId} (h : IsRws w a n cap l) (h1 : w.heap[b]? = some (.cells #[x, y] T (0, 0))) (h2 : w.heap[b + 1]? = some (.cells #[u, v] U (0, 0))) (hs : w.heap.size ≤ wf.heap.size) (hk : ∀ k, k ≠ b → k ≠ b + 1 → wf.heap[k]? = w.heap[k]?) : IsRws wf a n cap l := by
  obtain ⟨h3, h4 | ⟨g, off, rfl, hc, hg, hcell⟩⟩ := h
  · exact ⟨h3, .inl h4⟩
  · by_cases hn : n = 0
    · exact ⟨h3, .inl hn⟩
    · have e : l[0]? = some l[0] := List.getElem?_eq_getElem (by omega)
      have h5 := (hcell 0 _ e).2.2
      have g1 : g ≠ b := by
        rintro rfl
        simp [World.cell?, h1] at h5
      have g2 : g ≠ b + 1 := by
        rintro rfl
        simp [World.cell?, h2] at h5
      refine ⟨h3, .inr ⟨g, off, rfl, hc, by omega, fun j r hj => ?_⟩⟩
      obtain ⟨a0, a1, a2⟩ := hcell j r hj
      exact ⟨(World.cell?_of_block (hk g g1 g2)).trans a0, (World.cell?_of_block (hk g g1 g2)).trans a1, (World.cell?_of_block (hk g g1 g2)).trans a2⟩
set_option maxHeartbeats 4000000 in
set_option maxRecDepth 100000 in
theorem new_any (a : Option Addr) (cap : Nat) (vs : List Pv) (w : World) (hT : Tabs w) (h : IsPieces w a vs.length cap vs) (hm : Mid vs) :
    Calls Tryz.prog 119 #[.slice a vs.length cap] w (NewEnd w (madeP vs)) := by
  have hl100 : vs.length ≤ 100 := hm.1
  have HM := Lib.hid hm.2
  obtain ⟨r, hr⟩ : ∃ r, madeP vs = r := ⟨_, rfl⟩
  rw [hr]
  have H0 : Hid (NewTo vs r 0 [] [] []) := ⟨hr, RowsOk.nil, TakenOk.nil, Rising.nil, fun q hq => by simp at hq, by simp, by simp, by simp⟩
  have hbt := heap_alloc_new w (.cells #[.slice none 0 0, .slice none 0 0] 74)
  have hbf := heap_alloc_new (w.alloc (.cells #[.slice none 0 0, .slice none 0 0] 74)) (.cells #[.int .i64 0, .int .i64 0] 54)
  have hx0 := ((Ext.refl w).alloc (.cells #[.slice none 0 0, .slice none 0 0] 74)).alloc (.cells #[.int .i64 0, .int .i64 0] 54)
  have hk0 := (Ext.refl (w.alloc (.cells #[.slice none 0 0, .slice none 0 0] 74))).alloc (.cells #[.int .i64 0, .int .i64 0] 54)
  have HB1 := Lib.hid ((hk0.block _ (lt_of_block hbt)).trans hbt)
  have HB2 := Lib.hid hbf
  have HT := Lib.hid hT
  clear hm hr hbt hbf hT hk0
  go_enter Tryz.func119, Tryz.ntmps119
  go_wp2
  obtain ⟨b, hb⟩ : ∃ b, b = w.heap.size := ⟨_, rfl⟩
  have hsz0 : (w.alloc (.cells #[.slice none 0 0, .slice none 0 0] 74)).heap.size = b + 1 := by rw [hb]; simp
  rw [hsz0] at HB2
  rw [← hb] at HB1 ⊢
  have hB0 : ((w.alloc (.cells #[.slice none 0 0, .slice none 0 0] 74)).alloc (.cells #[.int .i64 0, .int .i64 0] 54)).heap.size = b + 2 := by rw [hb]; simp
  generalize (w.alloc (.cells #[.slice none 0 0, .slice none 0 0] 74)).alloc (.cells #[.int .i64 0, .int .i64 0] 54) = w0 at HB1 HB2 hx0 hB0 ⊢
  have hBw : w0.heap.size ≤ b + 2 := by omega
  have hoR := World.ownsRow_nil w0 (b + 2) 189 3
  have hoB := World.ownsRow_nil w0 (b + 2) 4 1
  have HX0 := Lib.hid hx0
  have HBB := Lib.hid hB0
  have hwb : w.heap.size ≤ b := by omega
  clear hx0 hsz0 hB0 hb
  go_loopw [4, 5, 12] (fun v u i wr => ∃ (k : Nat) (cur : List Pr) (R : List Rw) (bs : List Bool), k ≤ vs.length ∧ i = .int .i64 k ∧ wr.ownsRow (b + 2) 189 3 v R.length (rowCells R) ∧ wr.ownsRow (b + 2) 4 1 u bs.length (boolCells bs) ∧ Hid (NewTo vs r k cur R bs) ∧ Ext w0 wr) (fun _ _ i _ => vs.length - (intOf i).toNat)
  case atStart => exact ⟨0, [], [], [], by omega, rfl, hoR, hoB, H0, Ext.refl _⟩
  case round =>
    obtain ⟨k, cur, R, bs, hk, rfl, hoR, hoB, HN, hx⟩ := hrel
    clear H0
    have hsz := hx.size
    have hb2 := HBB.out
    by_cases hlt : k < vs.length
    · obtain ⟨x, off, p, rfl, hxl, hp, hcell⟩ := piece_at h hlt
      obtain ⟨m1, m2, m3⟩ := HM.out p (List.mem_of_getElem? hp)
      obtain ⟨q1, q2, q3, q4, q5, q6, q7, q8⟩ := HN.out
      unfold MadeTo at q1
      have hpv := hp
      rw [drop_at hp] at q1
      obtain ⟨pf, pt, pc, px⟩ := p
      have hcell : ∀ w', Ext w w' → w'.cell? ⟨x, off + k * 4, none⟩ = some (.int .i64 pf) ∧ w'.cell? ⟨x, off + k * 4 + 1, none⟩ = some (.int .i32 pt) ∧ w'.cell? ⟨x, off + k * 4 + 2, none⟩ = some (.int .i64 pc) ∧ w'.cell? ⟨x, off + k * 4 + 3, none⟩ = some (.string px) := hcell
      obtain ⟨c0, c1, c2, c3⟩ := hcell wr (HX0.out.trans hx)
      have m1 : pf ≤ 9223372036854775807 := m1
      have m2 : pc ≤ 10000 := m2
      have m3 : px.size ≤ 10000 := m3
      have hbx := heap_alloc_new wr (.cells #[.int .i64 pf, .int .i32 pt, .int .i64 pc, .string px] 105)
      have hxa := (Ext.refl wr).alloc (.cells #[.int .i64 pf, .int .i32 pt, .int .i64 pc, .string px] 105)
      obtain ⟨s0, s1, s2, s3⟩ := cells_four hbx
      have hTw := HT.out.ext (HX0.out.trans hx)
      clear hcell hp
      cases hpp : pieceP pf pt pc px with
      | none =>
        have hq : madeGo cur k ((⟨pf, pt, pc, px⟩ : Pv) :: vs.drop (k + 1)) = ([], (k : Int)) := madeGo_none hpp
        rw [hq] at q1
        have HF : Hid (r = ([], (k : Int))) := q1.symm
        have HS := Lib.hid (fun w (hT : Tabs w) => piece_size_no pf pt pc px w hT m1 (by omega) hpp)
        have HXA := Lib.hid hxa
        have HTW := Lib.hid hTw
        clear q1 q2 q3 q4 q5 q6 q7 q8 hq hpp hxa hTw hbx HN
        go_wp2_with (go_at_call 157; refine (HS.out _ (HTW.out.ext HXA.out)).mono ?_; rintro e w2 ⟨⟨nn, rfl⟩, hb2⟩; have hx2 := (hx.trans HXA.out).trans hb2; have hF1 := (hx2.block _ (lt_of_block HB1.out)).trans HB1.out; have hF2 := (hx2.block _ (lt_of_block HB2.out)).trans HB2.out; obtain ⟨t0, t1, t2, t3⟩ := cells_two hF1; obtain ⟨f0, f1, f2, f3⟩ := cells_two hF2)
        obtain ⟨wf, hwf, k0, k1, k2, k3, hxf, _, _⟩ := fin_cells hF1 hF2 (.slice none 0 0) (.slice none 0 0) (.int .i64 5) (.int .i64 k) w (HX0.out.trans hx2) hwb
        rw [← hwf]
        clear hwf
        refine bodyPost_ret (v := .tuple #[.agg #[.slice none 0 0, .slice none 0 0], .agg #[.int .i64 5, .int .i64 k]]) (by simp [results, Tryz.results119, go_sem, k0, k1, k2, k3]) rfl ?_
        have hk0 : ¬ (k : Int) < 0 := by omega
        exact ⟨hxf, .inr ⟨by rw [HF.out]; exact hk0, by rw [HF.out]⟩⟩
      | some more =>
        obtain ⟨g, n, hmn, f0, hn1, hfn⟩ := pieceP_form hpp
        obtain ⟨fn, rfl⟩ := Int.eq_ofNat_of_zero_le f0
        have hml := piece_len hpp m2 m3
        have hnl : more.length = n := by rw [hmn, pairsN_len]
        have HS := Lib.hid (fun w (hT : Tabs w) => piece_size_yes fn pt pc px more w hT m1 (by omega) hpp)
        rw [hnl] at HS
        cases hjj : joinP cur more with
        | none =>
          have hq : madeGo cur k ((⟨fn, pt, pc, px⟩ : Pv) :: vs.drop (k + 1)) = ([], (k : Int)) := madeGo_no hpp hjj
          rw [hq] at q1
          have HF : Hid (r = ([], (k : Int))) := q1.symm
          have HTK := Lib.hid (join_taken hmn hjj q3)
          have HXA := Lib.hid hxa
          have HTW := Lib.hid hTw
          have HOB := Lib.hid hoB
          have HOR := Lib.hid hoR
          have hfn2 : fn + n ≤ 100000000 := by omega
          clear q1 q2 q3 q4 q5 q6 q7 hq hpp hjj hxa hTw hbx HN hmn hnl f0 hoB hoR
          go_wp2_with (first
            | (go_at_call 157; refine (HS.out _ (HTW.out.ext HXA.out)).mono ?_; rintro e w2 ⟨rfl, hb2⟩; have hb3 := HXA.out.trans hb2; obtain ⟨s0, s1, s2, s3⟩ := cells_four ((hb2.block _ (by simp)).trans (heap_alloc_new wr (.cells #[.int .i64 (fn : Int), .int .i32 pt, .int .i64 pc, .string px] 105))))
            | (go_at_call 158; refine (take_no _ (b + 2) bs fn n _ (own_ext HOB.out hb3) (by have := hb3.size; omega) hn1 hfn2 (by omega) HTK.out).mono ?_; rintro e w3 ⟨rfl, hon⟩; have hx2 := hon.to_ext (hx.trans hb3) hBw; have hF1 := (hx2.block _ (lt_of_block HB1.out)).trans HB1.out; have hF2 := (hx2.block _ (lt_of_block HB2.out)).trans HB2.out; obtain ⟨t0, t1, t2, t3⟩ := cells_two hF1; obtain ⟨f0, f1, f2, f3⟩ := cells_two hF2))
          obtain ⟨wf, hwf, k0, k1, k2, k3, hxf, _, _⟩ := fin_cells hF1 hF2 (.slice none 0 0) (.slice none 0 0) (.int .i64 5) (.int .i64 k) w (HX0.out.trans hx2) hwb
          rw [← hwf]
          clear hwf
          refine bodyPost_ret (v := .tuple #[.agg #[.slice none 0 0, .slice none 0 0], .agg #[.int .i64 5, .int .i64 k]]) (by simp [results, Tryz.results119, go_sem, k0, k1, k2, k3]) rfl ?_
          have hk0 : ¬ (k : Int) < 0 := by omega
          exact ⟨hxf, .inr ⟨by rw [HF.out]; exact hk0, by rw [HF.out]⟩⟩
        | some all2 =>
          have HNX : Hid (∀ l : List Rw, expL l = more → GoodL l → NewTo vs r (k + 1) all2 (R ++ l) (marked (longer bs (fn + n)) fn n)) := fun l h1 h2 => new_next HN.out hpv hpp hmn hfn hml hjj h1 h2
          have HTK := Lib.hid (join_free hmn hjj q3)
          have HRW := Lib.hid (fun w (hT : Tabs w) => piece_rows fn pt pc px more w hT (by omega) hpp)
          have HXA := Lib.hid hxa
          have HTW := Lib.hid hTw
          have HOB := Lib.hid hoB
          have HOR := Lib.hid hoR
          have HML := Lib.hid (show 1 ≤ more.length by omega)
          have HML2 := Lib.hid hml
          have hfn2 : fn + n ≤ 100000000 := by omega
          obtain ⟨i0, hi, hz0, hz1, hz2⟩ := info_parts_row
          clear q1 q2 q3 q4 q5 q6 hpp hjj hxa hTw hbx HN hmn hnl f0 hoB hoR hml hpv
          go_wp2_with (first
            | (go_at_call 157; refine (HS.out _ (HTW.out.ext HXA.out)).mono ?_; rintro e w2 ⟨rfl, hb2⟩; have hb3 := HXA.out.trans hb2; have hbx2 := (hb2.block _ (by simp)).trans (heap_alloc_new wr (.cells #[.int .i64 (fn : Int), .int .i32 pt, .int .i64 pc, .string px] 105)); obtain ⟨s0, s1, s2, s3⟩ := cells_four hbx2)
            | (go_at_call 158; refine (take_yes _ (b + 2) bs fn n _ (own_ext HOB.out hb3) (by have := hb3.size; omega) hn1 hfn2 (by omega) HTK.out).mono ?_; rintro e w3 ⟨v3, rfl, ho3, hon⟩; have hx2 := hon.to_ext (hx.trans hb3) hBw; obtain ⟨s0, s1, s2, s3⟩ := cells_four (hon.box hbx2 (by decide)); have HO3 := Lib.hid ho3; have hoR3 := hon.own (own_ext HOR.out hb3) (by decide); clear ho3 hbx2 hon)
            | (go_at_call 159; refine (HRW.out _ (HT.out.ext (HX0.out.trans hx2))).mono ?_; rintro e w4 ⟨a4, cap4, l4, rfl, hw4, he4, hg4, hb4⟩; have HL4 := Lib.hid he4; have hp4 := rows_pos he4 HML.out; have hll4 : l4.length ≤ 10000 := (by have h5 := rows_le hg4; rw [he4] at h5; have h6 := HML2.out; omega); have HG4 := Lib.hid hg4; obtain ⟨x4, off4, rfl, hx4, hnews⟩ := rws_news hw4 hp4; have HNW := Lib.hid hnews; have hoR4 := own_ext hoR3 hb4; have hx5 := hx2.trans hb4; have HO4 := Lib.hid (own_ext HO3.out hb4); have hsz5 := hx5.size; clear he4 hg4 hw4 hnews hoR3 hx2)
            | (at_builtin; refine wpList_append_own _ rfl _ _ 72 rfl (b + 2) 189 i0 (.agg #[.int .i64 0, .int .i64 0, .int .i64 0]) 3 24 Tryz.underlying72 hi hz0 hz1 hz2 rfl (by decide) _ _ _ rfl hoR4 ⟨x4, off4, none⟩ l4.length cap4 (rowCells l4) rfl (rowCells_len l4) HNW.out rowCells_cell (by unfold maxLen; omega) (by omega) (by omega) ?_; intro v9 w9 hown9 hgrow9 hnil9; clear hnil9))
          have hx9 := hx5.own_grown hoR4 hBw hgrow9
          have hO9 := (Only.of_grown hoR4 hgrow9).own HO4.out (by decide)
          have hown9' : w9.ownsRow (b + 2) 189 3 v9 (R ++ l4).length (rowCells (R ++ l4)) := by
            rw [List.length_append, rowCells_app]
            exact hown9
          have HNN := Lib.hid (HNX.out l4 HL4.out HG4.out)
          clear hgrow9 hown9
          go_roundw
          case rel => exact ⟨k + 1, all2, R ++ l4, _, by omega, by go_num, hown9', hO9, HNN, hx9⟩
          case measure => simp [intOf]; omega
    · have hkl : k = vs.length := by omega
      obtain ⟨q1, q2, q3, q4, q5, q6, q7, q8⟩ := HN.out
      unfold MadeTo at q1
      rw [hkl, List.drop_length] at q1
      have HF : Hid (r = (cur, -1)) := q1.symm
      obtain ⟨r1, r2, r3⟩ := q2
      have HRS := Lib.hid (rising_any _ (b + 2) R cur wr hoR (by omega) r1 r2 q4 r3)
      have HQ4 := Lib.hid q4
      have HQ5 := Lib.hid q5
      have hcl : cur.length ≤ 1000000 := by omega
      have HOR := Lib.hid hoR
      clear q1 q3 q4 q5 q6 q7 q8 r1 r2 r3 HN hoB hoR
      go_wp2_with (first
        | (go_at_call 161; refine HRS.out.mono ?_; rintro e w2 ⟨v2, out2, rfl, ho2, he2, hg2, hgr2⟩; have hx2 := hx.own_grown HOR.out hBw hgr2; obtain ⟨a2, cap2, rfl, hw2⟩ := own_rws ho2; have HTO : Hid (Calls Tryz.prog 160 #[.slice a2 out2.length cap2] w2 fun e w' => ∃ v, e = .returned v ∧ IsTab w' v cur ∧ Ext w2 w') := (by rw [← he2]; exact tableOf_any a2 cap2 out2 w2 hw2 hg2 (by rw [he2]; exact HQ4.out) (by rw [he2]; exact HQ5.out) (by unfold tot; rw [he2]; omega)); clear he2 hg2 hgr2 ho2 hw2)
        | (go_at_call 160; refine HTO.out.mono ?_; rintro e w3 ⟨v3, rfl, htab, hb3⟩; obtain ⟨ta, tc, tb, td, TF, TG, rfl, tr⟩ := htab; have HTR := Lib.hid tr; clear tr; have hx3 := hx2.trans hb3; have hF1 := (hx3.block _ (lt_of_block HB1.out)).trans HB1.out; have hF2 := (hx3.block _ (lt_of_block HB2.out)).trans HB2.out; obtain ⟨t0, t1, t2, t3⟩ := cells_two hF1; obtain ⟨f0, f1, f2, f3⟩ := cells_two hF2))
      obtain ⟨wf, hwf, k0, k1, k2, k3, hxf, hkk, hss⟩ := fin_cells hF1 hF2 (.slice ta TF.length tc) (.slice tb TG.length td) (.int .i64 0) (.int .i64 0) w (HX0.out.trans hx3) hwb
      rw [← hwf]
      clear hwf
      obtain ⟨y1, y2, y3⟩ := HTR.out
      refine bodyPost_ret (v := .tuple #[.agg #[.slice ta TF.length tc, .slice tb TG.length td], .agg #[.int .i64 0, .int .i64 0]]) (by simp [results, Tryz.results119, go_sem, k0, k1, k2, k3]) rfl ?_
      exact ⟨hxf, .inl ⟨by rw [HF.out]; show (-1 : Int) < 0; decide, _, rfl, by rw [HF.out]; exact ⟨ta, tc, tb, td, TF, TG, rfl, rws_move y1 hF1 hF2 (Nat.le_of_eq hss.symm) hkk, rws_move y2 hF1 hF2 (Nat.le_of_eq hss.symm) hkk, y3⟩⟩⟩
end Go.Proofs.YtndopjmdpmkgeaaGreatDoor

