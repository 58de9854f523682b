/-
  Contracts of package single (1): tables of pieces of which it is sure that they may be; the four tables.
-/
import Derived.Test.YtjlghdlbkibneaaDoorSc0
import Derived.Test.YtjlghdlbkibneaaDoorTbH
import Derived.Test.YtjlghdlbkibneaaDoorCel
namespace Go.Proofs.YtjlghdlbkibneaaDoor
open Go Go.ChangeShapes Go.WideShapes Go.ChangeAt Go.RowKit
set_option linter.unusedSimpArgs false
set_option linter.unusedVariables false

set_option maxHeartbeats 1000000 in
theorem sgtable_any (a : Option Addr) (cap : Nat) (vs : List Pv) (w : World) (hT : Tabs w) (h : IsPieces w a vs.length cap vs) (hm : Mid vs) :
    Calls Tryd.prog 48 #[.slice a vs.length cap] w fun e w' => ∃ v, e = .returned v ∧ IsTab w' v (tabL vs) ∧ Ext w w' := by
  have hb0 := heap_alloc_new w (.cells #[.slice none 0 0, .slice none 0 0] 27)
  have hx0 := (Ext.refl w).alloc (.cells #[.slice none 0 0, .slice none 0 0] 27)
  have HN := Lib.hid (new_tab a cap vs _ (hT.ext hx0) (h.ext hx0) hm)
  have HB0 := Lib.hid hb0
  clear hT h hm hb0
  go_enter Tryd.func48, Tryd.ntmps48
  go_wp2_with (go_at_call 14; refine HN.out.mono ?_; rintro e w1 ⟨v, er, pl, rfl, ht, hep, hb1⟩; obtain ⟨ta, n1, tc, tb, n2, td, rfl⟩ := ht.open; have HTB := Lib.hid ht; have hx1 := hx0.trans hb1; have HF1 := Lib.hid ((hb1.block _ (lt_of_block HB0.out)).trans HB0.out); have hxa := ((Ext.refl w1).alloc (.cells #[.slice ta n1 tc, .slice tb n2 td] 27)).alloc (.cells #[.int .i64 er, .int .i64 pl] 30); obtain ⟨t0, t1, t2, t3⟩ := cells_two ((hxa.block _ (lt_of_block HF1.out)).trans HF1.out); clear ht hep hb1)
  have hB2 := (hxa.block _ (lt_of_block HF1.out)).trans HF1.out
  have htb := HTB.out.ext hxa
  have hx2 := hx1.trans hxa
  generalize (w1.alloc (.cells #[.slice ta n1 tc, .slice tb n2 td] 27)).alloc (.cells #[.int .i64 er, .int .i64 pl] 30) = wq at hB2 htb hx2 ⊢
  have hfin := set_two hB2 (.slice ta n1 tc) (.slice tb n2 td)
  have hmv := htb.move hB2 (wf := (wq.setCell ⟨w.heap.size, 0, none⟩ (.slice ta n1 tc)).setCell ⟨w.heap.size, 1, none⟩ (.slice tb n2 td)) (by simp [World.setCell]) (fun k h4 => by rw [heap_setCell_other _ _ _ _ h4, heap_setCell_other _ _ _ _ h4])
  have hxf : Ext w ((wq.setCell ⟨w.heap.size, 0, none⟩ (.slice ta n1 tc)).setCell ⟨w.heap.size, 1, none⟩ (.slice tb n2 td)) := Ext.setCell (Ext.setCell hx2 (Nat.le_refl _) _) (Nat.le_refl _) _
  generalize (wq.setCell ⟨w.heap.size, 0, none⟩ (.slice ta n1 tc)).setCell ⟨w.heap.size, 1, none⟩ (.slice tb n2 td) = wf at hfin hmv hxf ⊢
  obtain ⟨k0, k1, _, _⟩ := cells_two hfin
  refine bodyPost_ret (v := .agg #[.slice ta n1 tc, .slice tb n2 td]) (by simp [results, Tryd.results48, go_sem, k0, k1]) rfl ?_
  exact ⟨_, rfl, hmv, hxf⟩
theorem table_made (l : List Pv) (T : TypeId) (r : List Pr) (w : World) (hT : Tabs w) (hm : Mid l) (hr : madeP l = (r, -1)) :
    Calls Tryd.prog 48 #[.slice (some ⟨w.heap.size, 0, none⟩) l.length l.length] (w.alloc (.cells (pvCells l).toArray T)) fun e w' => ∃ v, e = .returned v ∧ IsTab w' v r ∧ Ext w w' := by
  have k := (Ext.refl w).alloc (.cells (pvCells l).toArray T)
  refine (sgtable_any _ _ l _ (hT.ext k) (pieces_made w l T) hm).mono ?_
  rintro e w' ⟨v, rfl, h1, h2⟩
  have e1 : tabL l = r := congrArg Prod.fst hr
  rw [e1] at h1
  exact ⟨v, rfl, h1, k.trans h2⟩
/-- A list of signs whose text is told otherwise. -/
theorem list_to (f : Int) (x y : ByteArray) (w : World) (h : x = y) : Calls Tryd.prog 61 #[.int .i64 f, .string x] w fun e w' => e = .returned (.agg #[.int .i64 f, .int .i32 0, .int .i64 0, .string y]) ∧ Ext w w' := by
  subst h
  exact list_any f x w
theorem plain_any (w : World) : Calls Tryd.prog 74 #[] w fun e w' => e = .returned (.agg #[.int .i64 0, .int .i32 0, .int .i64 128, .string ⟨#[]⟩]) ∧ Ext w w' := by
  have HB0 := Lib.hid (heap_alloc_new w (.cells #[.int .i64 0, .int .i32 0, .int .i64 0, .string ⟨#[]⟩] 74))
  go_enter Tryd.func74, Tryd.ntmps74
  go_wp2_with (go_at_call 49; refine (seq_any _ _ _ _).mono ?_; rintro e w1 ⟨rfl, hb1⟩; have HB := Lib.hid ((hb1.block _ (by simp)).trans HB0.out); have hx1 := ((Ext.refl w).alloc _).trans hb1; obtain ⟨⟨c0, c1, c2, c3⟩, z0, z1, z2, z3⟩ := facts4 HB.out; clear hb1)
  obtain ⟨wf, hwf, hx, hB, _, _⟩ := put4 HB.out hx1 (Nat.le_refl _) (.int .i64 0) (.int .i32 0) (.int .i64 128) (.string ⟨#[]⟩)
  rw [← hwf]
  obtain ⟨⟨k0, k1, k2, k3⟩, _⟩ := facts4 hB
  clear hwf hB c0 c1 c2 c3 z0 z1 z2 z3
  refine bodyPost_ret (v := .agg #[.int .i64 0, .int .i32 0, .int .i64 128, .string ⟨#[]⟩]) (by simp [results, Tryd.results74, go_sem, k0, k1, k2, k3]) rfl ?_
  exact ⟨rfl, hx⟩
/-- A table that a call has made: it came of the world, and is a table of these pairs. -/
def TabOut (w : World) (l : List Pr) (e : Ending) (w' : World) : Prop := ∃ v, e = .returned v ∧ IsTab w' v l ∧ Ext w w'
set_option maxRecDepth 100000 in
set_option maxHeartbeats 1000000 in
theorem koi8r_any (w : World) (hT : Tabs w) : Calls Tryd.prog 50 #[] w (TabOut w (tabP 1)) := by
  have hB0 := heap_alloc_new w (.cells #[.slice none 0 0, .slice none 0 0] 27)
  have hx0 := (Ext.refl w).alloc (.cells #[.slice none 0 0, .slice none 0 0] 27)
  have HTM : Hid (∀ w : World, Tabs w → Calls Tryd.prog 48 #[.slice (some ⟨w.heap.size, 0, none⟩) 2 2] (w.alloc (.cells #[.int .i64 0, .int .i32 0, .int .i64 128, .string ⟨#[]⟩, .int .i64 128, .int .i32 0, .int .i64 0, .string koiS] 74)) fun e w' => ∃ v, e = .returned v ∧ IsTab w' v (tabP 1) ∧ Ext w w') := fun w hT => table_made koiP 74 (tabP 1) w hT ⟨by decide, by decide +kernel⟩ koi_made
  have HB0 := Lib.hid hB0
  have HT := Lib.hid (hT.ext hx0)
  clear hB0 hT
  go_enter Tryd.func50, Tryd.ntmps50
  go_wp2_with (first
    | (go_at_call 74; refine (plain_any _).mono ?_; rintro e w1 ⟨rfl, hb1⟩)
    | (go_at_call 61; refine (list_to _ _ koiS _ (by decide +kernel)).mono ?_; rintro e w2 ⟨rfl, hb2⟩)
    | (go_at_call 48; refine (HTM.out _ ((HT.out.ext hb1).ext hb2)).mono ?_; rintro e w3 ⟨v, rfl, ht, hb3⟩; obtain ⟨ta, n1, tc, tb, n2, td, rfl⟩ := ht.open; have hbb := (hb1.trans hb2).trans hb3; have HTB := Lib.hid ht; have HB := Lib.hid ((hbb.block _ (by simp)).trans HB0.out); have hx1 := hx0.trans hbb; obtain ⟨⟨c0, c1⟩, z0, z1⟩ := facts2 HB.out; clear ht hb1 hb2 hb3 hbb))
  obtain ⟨wf, hwf, hx, hB, hs, hk⟩ := put2 HB.out hx1 (Nat.le_refl _) (.slice ta n1 tc) (.slice tb n2 td)
  rw [← hwf]
  obtain ⟨⟨k0, k1⟩, _⟩ := facts2 hB
  have ht := HTB.out.move HB.out hs hk
  clear hwf hB c0 c1 z0 z1 hs hk
  refine bodyPost_ret (v := .agg #[.slice ta n1 tc, .slice tb n2 td]) (by simp [results, Tryd.results50, go_sem, k0, k1]) rfl ?_
  exact ⟨_, rfl, ht, hx⟩
set_option maxRecDepth 100000 in
set_option maxHeartbeats 1000000 in
theorem cp866_any (w : World) (hT : Tabs w) : Calls Tryd.prog 52 #[] w (TabOut w (tabP 3)) := by
  have hB0 := heap_alloc_new w (.cells #[.slice none 0 0, .slice none 0 0] 27)
  have hx0 := (Ext.refl w).alloc (.cells #[.slice none 0 0, .slice none 0 0] 27)
  have HTM : Hid (∀ w : World, Tabs w → Calls Tryd.prog 48 #[.slice (some ⟨w.heap.size, 0, none⟩) 5 5] (w.alloc (.cells #[.int .i64 0, .int .i32 0, .int .i64 128, .string ⟨#[]⟩, .int .i64 128, .int .i32 1040, .int .i64 48, .string ⟨#[]⟩, .int .i64 176, .int .i32 0, .int .i64 0, .string lineS, .int .i64 224, .int .i32 1088, .int .i64 16, .string ⟨#[]⟩, .int .i64 240, .int .i32 0, .int .i64 0, .string signS] 74)) fun e w' => ∃ v, e = .returned v ∧ IsTab w' v (tabP 3) ∧ Ext w w') := fun w hT => table_made cpP 74 (tabP 3) w hT ⟨by decide, by decide +kernel⟩ cp_made
  have HB0 := Lib.hid hB0
  have HX := Lib.hid hx0
  have HT := Lib.hid hT
  clear hB0 hT hx0
  go_enter Tryd.func52, Tryd.ntmps52
  go_wp2_with (first
    | (go_at_call 74; refine (plain_any _).mono ?_; rintro e w1 ⟨rfl, hb1⟩; have hx := HX.out.trans hb1; have hB := (hb1.block _ (by simp)).trans HB0.out; clear hb1)
    | (go_at_call 61; refine (list_to _ _ lineS _ (by decide +kernel)).mono ?_; rintro e w1 ⟨rfl, hb1⟩; have hx' := hx.trans hb1; have hB' := (hb1.block _ (lt_of_block hB)).trans hB; clear hx hB hb1; have hx := hx'; have hB := hB'; clear hx' hB')
    | (go_at_call 61; refine (list_to _ _ signS _ (by decide +kernel)).mono ?_; rintro e w1 ⟨rfl, hb1⟩; have hx' := hx.trans hb1; have hB' := (hb1.block _ (lt_of_block hB)).trans hB; clear hx hB hb1; have hx := hx'; have hB := hB'; clear hx' hB')
    | (go_at_call 49; refine (seq_any _ _ _ _).mono ?_; rintro e w1 ⟨rfl, hb1⟩; have hx' := hx.trans hb1; have hB' := (hb1.block _ (lt_of_block hB)).trans hB; clear hx hB hb1; have hx := hx'; have hB := hB'; clear hx' hB')
    | (go_at_call 48; refine (HTM.out _ (HT.out.ext hx)).mono ?_; rintro e w3 ⟨v, rfl, ht, hb3⟩; obtain ⟨ta, n1, tc, tb, n2, td, rfl⟩ := ht.open; have HTB := Lib.hid ht; have HB := Lib.hid ((hb3.block _ (lt_of_block hB)).trans hB); have hx1 := hx.trans hb3; obtain ⟨⟨c0, c1⟩, z0, z1⟩ := facts2 HB.out; clear ht hb3 hx hB))
  obtain ⟨wf, hwf, hx, hB, hs, hk⟩ := put2 HB.out hx1 (Nat.le_refl _) (.slice ta n1 tc) (.slice tb n2 td)
  rw [← hwf]
  obtain ⟨⟨k0, k1⟩, _⟩ := facts2 hB
  have ht := HTB.out.move HB.out hs hk
  clear hwf hB c0 c1 z0 z1 hs hk
  refine bodyPost_ret (v := .agg #[.slice ta n1 tc, .slice tb n2 td]) (by simp [results, Tryd.results52, go_sem, k0, k1]) rfl ?_
  exact ⟨_, rfl, ht, hx⟩
set_option maxRecDepth 100000 in
set_option maxHeartbeats 1000000 in
theorem koi8u_any (w : World) (hT : Tabs w) : Calls Tryd.prog 51 #[] w (TabOut w (tabP 2)) := by
  have hB0 := heap_alloc_new w (.cells #[.slice none 0 0, .slice none 0 0] 27)
  have hx0 := (Ext.refl w).alloc (.cells #[.slice none 0 0, .slice none 0 0] 27)
  have HTM : Hid (∀ w : World, Tabs w → Calls Tryd.prog 48 #[.slice (some ⟨w.heap.size, 0, none⟩) 6 6] (w.alloc (.cells #[.int .i64 164, .int .i32 0, .int .i64 0, .string ⟨#[209, 148]⟩, .int .i64 166, .int .i32 0, .int .i64 0, .string ⟨#[209, 150, 209, 151]⟩, .int .i64 173, .int .i32 0, .int .i64 0, .string ⟨#[210, 145]⟩, .int .i64 180, .int .i32 0, .int .i64 0, .string ⟨#[208, 132]⟩, .int .i64 182, .int .i32 0, .int .i64 0, .string ⟨#[208, 134, 208, 135]⟩, .int .i64 189, .int .i32 0, .int .i64 0, .string ⟨#[210, 144]⟩] 74)) fun e w' => ∃ v, e = .returned v ∧ IsTab w' v letL5 ∧ Ext w w') := fun w hT => table_made letP5 74 letL5 w hT ⟨by decide, by decide +kernel⟩ let_made
  have HOV : Hid (∀ (v u : Value) (w : World), IsTab w v letL5 → IsTab w u (tabP 1) → Calls Tryd.prog 25 #[v, u] w fun e w' => ∃ v', e = .returned v' ∧ IsTab w' v' (tabP 2) ∧ Ext w w') := fun v u w h k => by
    have := over_any v u letL5 (tabP 1) w h k (by decide) (by decide +kernel)
    rwa [koiu_over] at this
  have HB0 := Lib.hid hB0
  have HX := Lib.hid hx0
  have HT := Lib.hid hT
  have hx := Ext.refl (w.alloc (.cells #[.slice none 0 0, .slice none 0 0] 27))
  clear hB0 hT hx0
  go_enter Tryd.func51, Tryd.ntmps51
  go_wp2_with (first
    | (go_at_call 61; refine (list_any _ _ _).mono ?_; rintro e w1 ⟨rfl, hb1⟩; have hx' := hx.trans hb1; clear hx hb1; have hx := hx'; clear hx')
    | (go_at_call 48; refine (HTM.out _ (HT.out.ext (HX.out.trans hx))).mono ?_; rintro e w3 ⟨v, rfl, ht, hb3⟩; obtain ⟨ta, n1, tc, tb, n2, td, rfl⟩ := ht.open; have hx' := hx.trans hb3; clear hx hb3; have hx := hx'; clear hx'))
  have hb := heap_alloc_new w3 (.cells #[.slice ta n1 tc, .slice tb n2 td] 27)
  have hxa := (Ext.refl w3).alloc (.cells #[.slice ta n1 tc, .slice tb n2 td] 27)
  have HBL := Lib.hid hb
  have HXA := Lib.hid (hxa.drew)
  have HTB := Lib.hid ht
  have HX3 := Lib.hid hx
  clear hb hxa ht hx
  go_region_with (first
    | (go_at_call 50; refine (koi8r_any _ (HT.out.ext ((HX.out.trans HX3.out).trans HXA.out))).mono ?_; rintro e w4 ⟨v4, rfl, ht4, hb4⟩; obtain ⟨ua, m1, uc, ub, m2, ud, rfl⟩ := ht4.open; have hl := (hb4.block _ (by simp [World.drew])).trans HBL.out; obtain ⟨⟨d0, d1⟩, _⟩ := facts2 hl; have HB4 := Lib.hid hb4; have HT4 := Lib.hid ht4; clear ht4 hb4 hl)
    | (go_at_call 25; refine (HOV.out _ _ _ (HTB.out.ext (HXA.out.trans HB4.out)) HT4.out).mono ?_; rintro e w5 ⟨v5, rfl, ht5, hb5⟩; obtain ⟨xa, l1, xc, xb, l2, xd, rfl⟩ := ht5.open; have hbb := ((HX3.out.trans HXA.out).trans HB4.out).trans hb5; have HTF := Lib.hid ht5; have HB := Lib.hid ((hbb.block _ (by simp)).trans HB0.out); have hx1 := HX.out.trans hbb; obtain ⟨⟨c0, c1⟩, z0, z1⟩ := facts2 HB.out; clear ht5 hb5 hbb d0 d1))
  all_goals
    go_wp2
    obtain ⟨wf, hwf, hx, hB, hs, hk⟩ := put2 HB.out hx1 (Nat.le_refl _) (.slice xa l1 xc) (.slice xb l2 xd)
    rw [← hwf]
    obtain ⟨⟨k0, k1⟩, _⟩ := facts2 hB
    have ht := HTF.out.move HB.out hs hk
    clear hwf hB c0 c1 z0 z1 hs hk
    refine bodyPost_ret (v := .agg #[.slice xa l1 xc, .slice xb l2 xd]) (by simp [results, Tryd.results51, go_sem, k0, k1]) rfl ?_
    exact ⟨_, rfl, ht, hx⟩
end Go.Proofs.YtjlghdlbkibneaaDoor
