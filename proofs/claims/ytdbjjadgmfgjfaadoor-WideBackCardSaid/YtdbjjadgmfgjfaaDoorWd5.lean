/-
  Contracts of package wide (5): marks.
-/
import Derived.Test.YtdbjjadgmfgjfaaDoorWd4
namespace Go.Proofs.YtdbjjadgmfgjfaaDoor
open Go Go.ChangeShapes Go.WideShapes Go.ChangeAt Go.RowKit
set_option linter.unusedSimpArgs false
set_option linter.unusedVariables false

/-- The first two bytes of a text, or as many as there are. -/
def ahead (s : ByteArray) : ByteArray := ⟨(s.data.toList.take 2).toArray⟩
theorem peek2 (w : World) (b : Nat) (t : ByteArray) (H : Rdr w b t 0 0 0 0) : Calls Tryd.prog 28 #[.pointer (some ⟨b, 0, none⟩), .int .i64 2] w fun e w' => e = .returned (.string (ahead t)) ∧ Ext w w' := by
  have h := peek_ok 2 w b t 0 0 0 H
  have e : t.extract 0 (0 + (shown 2 (t.size - 0)).toNat) = ahead t := by
    have h1 := extract_list t 0 (shown 2 (t.size - 0)).toNat
    have h2 : (t.data.toList.drop 0).take (shown 2 (t.size - 0)).toNat = t.data.toList.take 2 := by
      rw [List.drop_zero]
      unfold shown
      have hl : t.data.toList.length = t.size := rfl
      by_cases h3 : t.size < 2
      · rw [List.take_of_length_le (by omega), List.take_of_length_le (by omega)]
      · congr 1
        omega
    rw [h2] at h1
    unfold ahead
    rw [← h1]
  rw [Int.natCast_zero, e] at h
  exact h
theorem toList_eq (a : ByteArray) : a.toList = a.data.toList := ByteArray.toList_eq a
theorem mark_big (s : ByteArray) (w : World) (hs : s.size ≤ 1099511627776) (h : s.data.toList.take 2 = [254, 255]) :
    Calls Tryd.prog 15 #[.string s] w fun e w' => e = .returned (.tuple #[.bool true, .bool true]) ∧ Ext w w' := by
  have HP := Lib.hid (fun w b H => peek2 w b s H)
  have ha : (ahead s).toList = [254, 255] := by rw [toList_eq]; exact h
  generalize ahead s = a at HP ha
  clear h
  go_enter Tryd.func15, Tryd.ntmps15
  go_wp2_with (first
    | (go_at_call 20; refine (read_any _ _ hs).mono ?_; rintro e w1 ⟨rfl, H1, hb1⟩)
    | (go_at_call 28; refine (HP.out _ _ H1).mono ?_; rintro e w2 ⟨rfl, hb2⟩))
  go_ret2
  exact ⟨rfl, hb1.trans hb2⟩
theorem mark_small (s : ByteArray) (w : World) (hs : s.size ≤ 1099511627776) (h : s.data.toList.take 2 = [255, 254]) :
    Calls Tryd.prog 15 #[.string s] w fun e w' => e = .returned (.tuple #[.bool false, .bool true]) ∧ Ext w w' := by
  have HP := Lib.hid (fun w b H => peek2 w b s H)
  have ha : (ahead s).toList = [255, 254] := by rw [toList_eq]; exact h
  have hb : ((ahead s).toList == [254, 255]) = false := by rw [ha]; rfl
  have hc : ((ahead s).toList == [255, 254]) = true := by rw [ha]; rfl
  clear ha
  generalize ahead s = a at HP hb hc
  clear h
  go_enter Tryd.func15, Tryd.ntmps15
  go_wp2_with (first
    | (go_at_call 20; refine (read_any _ _ hs).mono ?_; rintro e w1 ⟨rfl, H1, hb1⟩)
    | (go_at_call 28; refine (HP.out _ _ H1).mono ?_; rintro e w2 ⟨rfl, hb2⟩))
  go_ret2
  exact ⟨by simp_all, hb1.trans hb2⟩
theorem mark_no (s : ByteArray) (w : World) (hs : s.size ≤ 1099511627776) (h : s.data.toList.take 2 ≠ [254, 255]) (k : s.data.toList.take 2 ≠ [255, 254]) :
    Calls Tryd.prog 15 #[.string s] w fun e w' => e = .returned (.tuple #[.bool false, .bool false]) ∧ Ext w w' := by
  have HP := Lib.hid (fun w b H => peek2 w b s H)
  have hb : ((ahead s).toList == [254, 255]) = false := by rw [toList_eq]; exact beq_false_of_ne h
  have hc : ((ahead s).toList == [255, 254]) = false := by rw [toList_eq]; exact beq_false_of_ne k
  generalize ahead s = a at HP hb hc
  clear h k
  go_enter Tryd.func15, Tryd.ntmps15
  go_wp2_with (first
    | (go_at_call 20; refine (read_any _ _ hs).mono ?_; rintro e w1 ⟨rfl, H1, hb1⟩)
    | (go_at_call 28; refine (HP.out _ _ H1).mono ?_; rintro e w2 ⟨rfl, hb2⟩))
  go_ret2
  exact ⟨by simp_all, hb1.trans hb2⟩
theorem take2 (w : World) (b : Nat) (t : ByteArray) (H : Rdr w b t 0 0 0 0) (h : 2 ≤ t.size) : Calls Tryd.prog 29 #[.pointer (some ⟨b, 0, none⟩), .int .i64 2] w fun e w' => ∃ s : ByteArray, e = .returned (.string s) ∧ Rdr w' b t 2 0 0 0 ∧ Mod b w w' := by
  refine (take_ok 2 w b t 0 0 0 H (by decide) (by omega)).mono ?_
  rintro e w' ⟨rfl, h1, h2⟩
  exact ⟨_, rfl, h1, h2⟩
/-- The cells of a fault that a function will answer, in a world that came of the one in which it was made. -/
theorem fault_cells {w : World} {f : Nat} {x y : Value} (h : w.heap[f]? = some (.cells #[x, y] 25 (0, 0))) : w.cell? ⟨f, 0, none⟩ = some x ∧ w.cell? ⟨f, 1, none⟩ = some y ∧ w.frozen? ⟨f, 0, none⟩ = false ∧ w.frozen? ⟨f, 1, none⟩ = false := by
  refine ⟨?_, ?_, ?_, ?_⟩ <;> simp [World.cell?, World.frozen?, h]
theorem marked_nil (w : World) : Calls Tryd.prog 16 #[.string ⟨#[]⟩] w fun e w' => e = .returned (.tuple #[.string ⟨#[]⟩, .agg #[.int .i64 0, .int .i64 0]]) ∧ Ext w w' := by
  have hF0 : (w.alloc (.cells #[.int .i64 0, .int .i64 0] 25)).heap[w.heap.size]? = some (.cells #[.int .i64 0, .int .i64 0] 25 (0, 0)) := heap_alloc_new w _
  obtain ⟨c0, c1, g0, g1⟩ := fault_cells hF0
  go_enter Tryd.func16, Tryd.ntmps16
  go_wp2
  exact bodyPost_ret (v := .tuple #[.string ⟨#[]⟩, .agg #[.int .i64 0, .int .i64 0]]) (by simp [results, Tryd.results16, go_sem]) rfl ⟨rfl, (by repeat (first | exact Ext.refl _ | refine Ext.alloc ?_ _ | refine Ext.setCell ?_ (Nat.le_refl _) _))⟩
set_option maxHeartbeats 400000 in
theorem marked_no (s : ByteArray) (w : World) (hs : s.size ≤ 1099511627776) (h0 : s.data.toList ≠ []) (h : s.data.toList.take 2 ≠ [254, 255]) (k : s.data.toList.take 2 ≠ [255, 254]) : Calls Tryd.prog 16 #[.string s] w fun e w' => e = .returned (.tuple #[.string ⟨#[]⟩, .agg #[.int .i64 2, .int .i64 0]]) ∧ Ext w w' := by
  have hF0 : (w.alloc (.cells #[.int .i64 0, .int .i64 0] 25)).heap[w.heap.size]? = some (.cells #[.int .i64 0, .int .i64 0] 25 (0, 0)) := heap_alloc_new w _
  have hx0 := (Ext.refl w).alloc (.cells #[.int .i64 0, .int .i64 0] 25)
  have HM := Lib.hid (fun w => mark_no s w hs h k)
  have h1 : s.toList.isEmpty = false := by rw [toList_eq]; simpa using h0
  have h2 : (s.toList == []) = false := by rw [toList_eq]; exact beq_false_of_ne h0
  have h3 : ¬ s.toList = [] := by rw [toList_eq]; exact h0
  have HF0 := Lib.hid hF0
  clear h k h0 hF0
  go_enter Tryd.func16, Tryd.ntmps16
  go_wp2_with (go_at_call 15; refine (HM.out _).mono ?_; rintro e w1 ⟨rfl, hb1⟩; have hx1 := hx0.trans hb1; have hF1 := (hb1.block _ (lt_of_block HF0.out)).trans HF0.out; obtain ⟨c0, c1, g0, g1⟩ := fault_cells hF1)
  have hfin := set_two hF1 (.int .i64 2) (.int .i64 0)
  have hxf : Ext w ((w1.setCell ⟨w.heap.size, 0, none⟩ (.int .i64 2)).setCell ⟨w.heap.size, 1, none⟩ (.int .i64 0)) := Ext.setCell (Ext.setCell hx1 (Nat.le_refl _) _) (Nat.le_refl _) _
  generalize (w1.setCell ⟨w.heap.size, 0, none⟩ (.int .i64 2)).setCell ⟨w.heap.size, 1, none⟩ (.int .i64 0) = wf at hfin hxf ⊢
  obtain ⟨k0, k1, _, _⟩ := fault_cells hfin
  refine bodyPost_ret (v := .tuple #[.string ⟨#[]⟩, .agg #[.int .i64 2, .int .i64 0]]) (by simp [results, Tryd.results16, go_sem, k0, k1]) rfl ?_
  exact ⟨rfl, hxf⟩
set_option maxHeartbeats 400000 in
theorem marked_yes (s : ByteArray) (big : Bool) (w : World) (hs : s.size ≤ 1099511627776) (h2s : 2 ≤ s.size) (M : ∀ w, Calls Tryd.prog 15 #[.string s] w fun e w' => e = .returned (.tuple #[.bool big, .bool true]) ∧ Ext w w') :
    Calls Tryd.prog 16 #[.string s] w fun e w' => e = .returned (.tuple #[.string (wtxt (wdAt big s 2).1 (wdAt big s 2).2), .agg #[.int .i64 (fNum (wdAt big s 2).2), .int .i64 (fPlace (wdAt big s 2).2)]]) ∧ Ext w w' := by
  have HD : Hid (∀ (w : World) (b : Nat), Rdr w b s 2 0 0 0 → Calls Tryd.prog 19 #[.pointer (some ⟨b, 0, none⟩), .bool big] w fun e w' => e = .returned (.tuple #[.string (wtxt (wdAt big s 2).1 (wdAt big s 2).2), .agg #[.int .i64 (fNum (wdAt big s 2).2), .int .i64 (fPlace (wdAt big s 2).2)]]) ∧ Mod b w w') := fun w b H => decode_rd big w b s 2 0 H _ _ rfl rfl
  generalize wtxt (wdAt big s 2).1 (wdAt big s 2).2 = u at HD
  generalize fNum (wdAt big s 2).2 = x at HD
  generalize fPlace (wdAt big s 2).2 = y at HD
  have HM := Lib.hid M
  clear M
  have h0 : s.data.toList ≠ [] := by
    intro e
    have e2 : s.data.toList.length = s.size := rfl
    rw [e, List.length_nil] at e2
    omega
  have h1 : s.toList.isEmpty = false := by rw [toList_eq]; simpa using h0
  have h2 : (s.toList == []) = false := by rw [toList_eq]; exact beq_false_of_ne h0
  have h3 : ¬ s.toList = [] := by rw [toList_eq]; exact h0
  have hF0 : (w.alloc (.cells #[.int .i64 0, .int .i64 0] 25)).heap[w.heap.size]? = some (.cells #[.int .i64 0, .int .i64 0] 25 (0, 0)) := heap_alloc_new w _
  have hx0 := (Ext.refl w).alloc (.cells #[.int .i64 0, .int .i64 0] 25)
  have HF0 := Lib.hid hF0
  clear h0 hF0
  go_enter Tryd.func16, Tryd.ntmps16
  go_wp2_with (first
    | (go_at_call 15; refine (HM.out _).mono ?_; rintro e w1 ⟨rfl, hb1⟩; have hx1 := hx0.trans hb1; have HF1 := Lib.hid ((hb1.block _ (lt_of_block HF0.out)).trans HF0.out); clear hx0 HF0 hb1)
    | (go_at_call 20; refine (read_any _ _ hs).mono ?_; rintro e w2 ⟨rfl, H2, hb2⟩; have hx2 := hx1.trans hb2; have HF2 := Lib.hid ((hb2.block _ (lt_of_block HF1.out)).trans HF1.out); have hlt := lt_of_block HF1.out; have hle := hx1.size; clear hx1 HF1 hb2)
    | (go_at_call 29; refine (take2 _ _ _ H2 h2s).mono ?_; rintro e w3 ⟨sx, rfl, H3, hm3⟩; have hx3 := hx2.mod hm3 hle; have HF3 := Lib.hid ((hm3.block _ (lt_of_block HF2.out) (by simp; omega)).trans HF2.out); clear hx2 HF2 hm3)
    | (go_at_call 19; refine (HD.out _ _ H3).mono ?_; rintro e w4 ⟨rfl, hm4⟩; have hx4 := hx3.mod hm4 hle; have hF4 := (hm4.block _ (lt_of_block HF3.out) (by simp; omega)).trans HF3.out; obtain ⟨c0, c1, g0, g1⟩ := fault_cells hF4))
  have hfin := set_two hF4 (.int .i64 x) (.int .i64 y)
  have hxf : Ext w ((w4.setCell ⟨w.heap.size, 0, none⟩ (.int .i64 x)).setCell ⟨w.heap.size, 1, none⟩ (.int .i64 y)) := Ext.setCell (Ext.setCell hx4 (Nat.le_refl _) _) (Nat.le_refl _) _
  generalize (w4.setCell ⟨w.heap.size, 0, none⟩ (.int .i64 x)).setCell ⟨w.heap.size, 1, none⟩ (.int .i64 y) = wf at hfin hxf ⊢
  obtain ⟨k0, k1, _, _⟩ := fault_cells hfin
  refine bodyPost_ret (v := .tuple #[.string u, .agg #[.int .i64 x, .int .i64 y]]) (by simp [results, Tryd.results16, go_sem, k0, k1]) rfl ?_
  exact ⟨rfl, hxf⟩
end Go.Proofs.YtdbjjadgmfgjfaaDoor
