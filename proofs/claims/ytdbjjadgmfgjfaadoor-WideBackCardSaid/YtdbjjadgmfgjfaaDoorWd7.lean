/-
  Contracts of package wide (7): a text as units, whatever it is; behind a mark.
-/
import Derived.Test.YtdbjjadgmfgjfaaDoorWd6
namespace Go.Proofs.YtdbjjadgmfgjfaaDoor
open Go Go.ChangeShapes Go.WideShapes Go.ChangeAt Go.RowKit
set_option linter.unusedSimpArgs false
set_option linter.unusedVariables false

/-- A text's signs. -/
def signsOf (s : ByteArray) : List Int := runesL s.data.toList
theorem signs_all (s : ByteArray) : allSigns (signsOf s) = true := runesL_signs _ s.data.toList (Nat.le_refl _)
theorem signs_len (s : ByteArray) : (signsOf s).length ≤ s.size := by
  have := Lib.runeCount_le s
  rwa [runeCount_eq] at this
theorem signs_back {s : ByteArray} (h : badS s < 0) : txt (signsOf s) = s := by
  have h2 := runesL_back _ 0 s.data.toList (Nat.le_refl _) h
  apply bytes_inj
  show encs (runesL s.data.toList) = _
  exact h2
theorem signs_txt {zs : List Int} (h : allSigns zs = true) : signsOf (txt zs) = zs := runesL_encs zs h
theorem bad_txt {zs : List Int} (h : allSigns zs = true) : badS (txt zs) < 0 := by
  have h2 := badL_encs zs 0 [] h
  rw [List.append_nil, badL_nil] at h2
  show badL 0 (encs zs) < 0
  omega
theorem encode_good (s : ByteArray) (big : Bool) (w : World) (hT : Tabs w) (hs : s.size ≤ 1099511627776) (hb : badS s < 0) :
    Calls Tryd.prog 11 #[.string s, .bool big] w fun e w' => e = .returned (.tuple #[.string (weTxt big (signsOf s)), .agg #[.int .i64 0, .int .i64 0]]) ∧ Ext w w' :=
  encode_ok s big (signsOf s) w hT (by have := signs_len s; omega) (signs_all s) (fun w hT => points_ok s w hT hs hb)
set_option maxHeartbeats 400000 in
theorem withmark_bad (s : ByteArray) (a : Int) (w : World) (hT : Tabs w) (hs : s.size ≤ 1099511627776) (hb : badS s = a) (ha : ¬ a < 0) :
    Calls Tryd.prog 17 #[.string s] w fun e w' => e = .returned (.tuple #[.string ⟨#[]⟩, .agg #[.int .i64 2, .int .i64 a]]) ∧ Ext w w' := by
  have HP := Lib.hid (fun w hT => encode_bad s false a w hT hs hb ha)
  have hF0 : (w.alloc (.cells #[.int .i64 0, .int .i64 0] 25)).heap[w.heap.size]? = some (.cells #[.int .i64 0, .int .i64 0] 25 (0, 0)) := heap_alloc_new w _
  have hx0 := (Ext.refl w).alloc (.cells #[.int .i64 0, .int .i64 0] 25)
  have HT := Lib.hid (hT.ext hx0)
  have HF0 := Lib.hid hF0
  clear hT hF0 hb
  go_enter Tryd.func17, Tryd.ntmps17
  go_wp2_with (first
    | (go_at_call 11; refine (HP.out _ HT.out).mono ?_; rintro e w1 ⟨rfl, hb1⟩; have hx1 := hx0.trans hb1; have HF1 := Lib.hid ((hb1.block _ (lt_of_block HF0.out)).trans HF0.out); clear hx0 HF0 hb1)
    | (go_at_call 12; refine (bad_yes _ _ _ (by decide)).mono ?_; rintro e w2 ⟨rfl, hb2⟩))
  have hl1 := lt_of_block HF1.out
  have hb3 := ((Ext.refl w1).alloc (.cells #[.int .i64 2, .int .i64 a] 25)).trans hb2
  have hx2 := hx1.trans hb3
  have hR := (hb3.block _ hl1).trans HF1.out
  have hF : w2.heap[w1.heap.size]? = some (.cells #[.int .i64 2, .int .i64 a] 25 (0, 0)) := (hb2.block w1.heap.size (by simp)).trans (heap_alloc_new w1 _)
  obtain ⟨c, hc⟩ : ∃ c, c = w1.heap.size := ⟨_, rfl⟩
  obtain ⟨f, hf⟩ : ∃ f, f = w.heap.size := ⟨_, rfl⟩
  have hfc : f ≠ c := by omega
  have hlf : w.heap.size ≤ f := by omega
  rw [← hc] at hF ⊢
  rw [← hf] at hR ⊢
  clear hc hf hl1 hb3 hb2 hx1
  obtain ⟨f0, f1, _, _⟩ := fault_cells hF
  obtain ⟨r0, r1, z0, z1⟩ := fault_cells hR
  clear hF
  go_region
  all_goals go_wp2
  have hfin := set_two hR (.int .i64 2) (.int .i64 a)
  have hxf : Ext w ((w2.setCell ⟨f, 0, none⟩ (.int .i64 2)).setCell ⟨f, 1, none⟩ (.int .i64 a)) := Ext.setCell (Ext.setCell hx2 hlf _) hlf _
  generalize (w2.setCell ⟨f, 0, none⟩ (.int .i64 2)).setCell ⟨f, 1, none⟩ (.int .i64 a) = wf at hfin hxf ⊢
  have k0 : wf.drew.cell? ⟨f, 0, none⟩ = some (.int .i64 2) := by show wf.cell? _ = _; simp [World.cell?, hfin]
  have k1 : wf.drew.cell? ⟨f, 1, none⟩ = some (.int .i64 a) := by show wf.cell? _ = _; simp [World.cell?, hfin]
  refine bodyPost_ret (v := .tuple #[.string ⟨#[]⟩, .agg #[.int .i64 2, .int .i64 a]]) (by simp [results, Tryd.results17, go_sem, k0, k1]) rfl ?_
  exact ⟨rfl, hxf.drew⟩
/-- A text in units behind a mark. -/
def markTxt (zs : List Int) : ByteArray := ⟨(255 :: 254 :: we false zs).toArray⟩
theorem flat_mark (zs : List Int) : flat [⟨#[255, 254]⟩, weTxt false zs] = markTxt zs := by
  apply bytes_inj
  rw [flat_cons, flat_cons, flat_nil, List.append_nil]
  rfl
set_option maxHeartbeats 1000000 in
theorem withmark_good (s : ByteArray) (w : World) (hT : Tabs w) (hs : s.size ≤ 1099511627776) (hb : badS s < 0) :
    Calls Tryd.prog 17 #[.string s] w fun e w' => e = .returned (.tuple #[.string (markTxt (signsOf s)), .agg #[.int .i64 0, .int .i64 0]]) ∧ Ext w w' := by
  have HP := Lib.hid (fun w hT => encode_good s false w hT hs hb)
  have hsz : (markTxt (signsOf s)).size ≤ 140737488355328 := by
    have h1 := we_len_le false (signsOf s)
    have h2 := signs_len s
    have h3 : (markTxt (signsOf s)).size = (we false (signsOf s)).length + 1 + 1 := rfl
    omega
  have HJ : Hid (∀ (w : World), Calls Tryd.prog 25 #[.slice (some ⟨w.heap.size, 0, none⟩) 2 2] (w.alloc (.cells #[.string ⟨#[255, 254]⟩, .string (weTxt false (signsOf s))] 9)) fun e w' => e = .returned (.string (markTxt (signsOf s))) ∧ Ext (w.alloc (.cells #[.string ⟨#[255, 254]⟩, .string (weTxt false (signsOf s))] 9)) w') := fun w => by
    have := ojoin_row (two_texts w ⟨#[255, 254]⟩ (weTxt false (signsOf s))) (by decide) (by rw [flat_mark]; exact hsz)
    rwa [flat_mark] at this
  generalize markTxt (signsOf s) = m at HJ
  generalize weTxt false (signsOf s) = u at HJ HP
  have hF0 : (w.alloc (.cells #[.int .i64 0, .int .i64 0] 25)).heap[w.heap.size]? = some (.cells #[.int .i64 0, .int .i64 0] 25 (0, 0)) := heap_alloc_new w _
  have hx0 := (Ext.refl w).alloc (.cells #[.int .i64 0, .int .i64 0] 25)
  have HT := Lib.hid (hT.ext hx0)
  have HF0 := Lib.hid hF0
  clear hT hF0 hb hsz
  go_enter Tryd.func17, Tryd.ntmps17
  go_wp2_with (first
    | (go_at_call 11; refine (HP.out _ HT.out).mono ?_; rintro e w1 ⟨rfl, hb1⟩; have hx1 := hx0.trans hb1; have HF1 := Lib.hid ((hb1.block _ (lt_of_block HF0.out)).trans HF0.out); clear hx0 HF0 hb1)
    | (go_at_call 12; refine (bad_no _ _ _ (by decide)).mono ?_; rintro e w2 ⟨rfl, hb2⟩; have hb3 := (((Ext.refl w1).alloc (.cells #[.int .i64 0, .int .i64 0] 25)).trans hb2).alloc (.cells #[.string ⟨#[255, 254]⟩, .string u] 9); have hx3 := hx1.trans hb3; have HF3 := Lib.hid ((hb3.block _ (lt_of_block HF1.out)).trans HF1.out); clear hx1 HF1 hb3 hb2)
    | (go_at_call 25; refine (HJ.out _).mono ?_; rintro e w4 ⟨rfl, hb4⟩; have hx4 := hx3.trans hb4; have hF4 := (hb4.block _ (lt_of_block HF3.out)).trans HF3.out; obtain ⟨c0, c1, g0, g1⟩ := fault_cells hF4))
  have hfin := set_two hF4 (.int .i64 0) (.int .i64 0)
  have hxf : Ext w ((w4.setCell ⟨w.heap.size, 0, none⟩ (.int .i64 0)).setCell ⟨w.heap.size, 1, none⟩ (.int .i64 0)) := Ext.setCell (Ext.setCell hx4 (Nat.le_refl _) _) (Nat.le_refl _) _
  generalize (w4.setCell ⟨w.heap.size, 0, none⟩ (.int .i64 0)).setCell ⟨w.heap.size, 1, none⟩ (.int .i64 0) = wf at hfin hxf ⊢
  obtain ⟨k0, k1, _, _⟩ := fault_cells hfin
  refine bodyPost_ret (v := .tuple #[.string m, .agg #[.int .i64 0, .int .i64 0]]) (by simp [results, Tryd.results17, go_sem, k0, k1]) rfl ?_
  exact ⟨rfl, hxf⟩
end Go.Proofs.YtdbjjadgmfgjfaaDoor
