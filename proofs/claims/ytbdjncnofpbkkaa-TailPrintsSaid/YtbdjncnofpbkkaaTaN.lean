/-
  Layer 12, the program (4): Parse.
-/
import Derived.Test.YtbdjncnofpbkkaaTaP
import Derived.Test.YtbdjncnofpbkkaaTa3
import Derived.Test.YtbdjncnofpbkkaaOctW
import Derived.Deep.RegionHeld3
namespace Go.Proofs.Ytbdjncnofpbkkaa
open Go Go.ChangeShapes Go.WideShapes Go.ChangeAt Go.RowKit
set_option linter.unusedSimpArgs false
set_option linter.unusedVariables false

theorem index_rooms (z : Int) (w : World) (h0 : 0 ≤ z) (h5 : z < 5) : (Instr.index 55 (.agg #[.int .i64 30, .int .i64 30, .int .i64 30, .int .i64 4, .int .i64 30]) (.int .i64 z)).run Try.prog w = .ok (.int .i64 (widthZ z 0)) w := by
  obtain rfl | rfl | rfl | rfl | rfl : z = 0 ∨ z = 1 ∨ z = 2 ∨ z = 3 ∨ z = 4 := by omega
  all_goals kernel_rfl
/-- The bytes of a text, with those behind its end. -/
def rawZ (b : ByteArray) (z : Int) : ByteArray := b.extract (offZ z).toNat (offZ z + widthZ z 0).toNat
def rwZ (b : ByteArray) (z j : Int) : Value := .string (if j < z then rawZ b j else ⟨#[]⟩)
def rwA (b : ByteArray) (z : Int) : Array Value := #[rwZ b z 0, rwZ b z 1, rwZ b z 2, rwZ b z 3, rwZ b z 4]
theorem rwA_zero (b : ByteArray) : rwA b 0 = #[.string ⟨#[]⟩, .string ⟨#[]⟩, .string ⟨#[]⟩, .string ⟨#[]⟩, .string ⟨#[]⟩] := rfl
theorem rwA_all (b : ByteArray) : rwA b 5 = #[.string (rawZ b 0), .string (rawZ b 1), .string (rawZ b 2), .string (rawZ b 3), .string (rawZ b 4)] := rfl
theorem rwA_set (b : ByteArray) (z : Int) (h0 : 0 ≤ z) (h5 : z < 5) : (rwA b z).setIfInBounds z.toNat (.string (rawZ b z)) = rwA b (z + 1) := by
  obtain rfl | rfl | rfl | rfl | rfl : z = 0 ∨ z = 1 ∨ z = 2 ∨ z = 3 ∨ z = 4 := by omega
  all_goals rfl
theorem cutL_take : ∀ (l : List UInt8) (k : Nat), l[k]? = some 0 → cutL l = cutL (l.take k)
  | [], k, h => by simp at h
  | x :: l, 0, h => by
    simp at h
    subst h
    rfl
  | x :: l, k + 1, h => by
    have ih := cutL_take l k (by simpa using h)
    rw [List.take_succ_cons]
    unfold cutL
    rw [ih]
theorem raw_field (b : ByteArray) (hb : b.size = 128) (z : Int) (h0 : 0 ≤ z) (h5 : z < 5) : cutZ (rawZ b z) = fieldZ b z := by
  unfold rawZ fieldZ
  by_cases h : z = 4
  · subst h
    by_cases ht : trackZ b = 0
    · rw [ht]
    · have e0 : (b.data.toList.getD 125 0).toNat = 0 := by
        refine Decidable.byContradiction fun h => ht ?_
        unfold trackZ
        rw [if_neg h]
      have e1 : b.data.toList[125]? = some 0 := by
        have h125 : 125 < b.size := by omega
        rw [getD_at b 125 h125] at e0
        rw [list_at b 125 h125]
        exact congrArg some (UInt8.toNat_inj.1 e0)
      have e2 : widthZ 4 (trackZ b) = 28 := by unfold widthZ; rw [if_neg (by decide), if_pos ⟨rfl, ht⟩]
      rw [e2, show (offZ 4).toNat = 97 from rfl, show (offZ 4 + widthZ 4 0).toNat = 127 from rfl, show (offZ 4 + 28).toNat = 125 from rfl]
      unfold cutZ
      rw [ext_list, ext_list, show 127 - 97 = 30 from rfl, show 125 - 97 = 28 from rfl]
      have e3 : ((b.data.toList.drop 97).take 30)[28]? = some 0 := by rw [List.getElem?_take_of_lt (by decide), List.getElem?_drop]; exact e1
      rw [cutL_take _ 28 e3, List.take_take, show min 28 30 = 28 from rfl]
  · have e : widthZ z (trackZ b) = widthZ z 0 := by
      unfold widthZ
      rw [if_neg (show ¬ (z = 4 ∧ trackZ b ≠ 0) from fun k => h k.1), if_neg (show ¬ (z = 4 ∧ (0 : Int) ≠ 0) from fun k => h k.1)]
    rw [e]
theorem Rdr.set_other {w : World} {b g : Nat} {t : ByteArray} {r : Nat} {ba er pl : Int} (h : Rdr w b t r ba er pl) (hg : b ≠ g) (o : Nat) (v : Value) : Rdr (w.setCell ⟨g, o, none⟩ v) b t r ba er pl :=
  ⟨(heap_setCell_other _ _ _ _ hg).trans h.here, h.le, h.small, h.lo, h.hi⟩
theorem want_tag (w : World) (g : Nat) (b : ByteArray) (H : Rdr w g b 0 0 0 0) (h : (b.data.toList.drop 0).take 3 = [84, 65, 71]) : Calls Try.prog 32 #[.pointer (some ⟨g, 0, none⟩), .string ⟨#[84, 65, 71]⟩] w fun e w' => e = .returned (.bool true) ∧ Rdr w' g b 3 0 0 0 ∧ Mod g w w' := by
  refine (want_ok ⟨#[84, 65, 71]⟩ w g b 0 0 0 H (by decide)).mono ?_
  have hc : cpAt b 0 ⟨#[84, 65, 71]⟩ = 3 := by
    have h2 := (cpAt_le b 0 ⟨#[84, 65, 71]⟩ (Nat.zero_le _)).2
    have h3 : 3 ≤ (b.data.toList.drop 0).length := by
      have := congrArg List.length h
      rw [List.length_take] at this
      simp at this ⊢
      omega
    have h1 := (cp_iff (b.data.toList.drop 0) [84, 65, 71] 3 h3 (by decide)).2 h
    show cp (b.data.toList.drop 0) [84, 65, 71] = 3
    have h4 : cp (b.data.toList.drop 0) [84, 65, 71] ≤ 3 := h2
    omega
  rintro e w' ⟨hm, ⟨h1, h2, h3⟩ | ⟨h1, _⟩⟩
  · exact ⟨h2, h3, hm⟩
  · rw [hc] at h1
    exact absurd h1 (by decide)
theorem want_none (w : World) (g : Nat) (b : ByteArray) (H : Rdr w g b 0 0 0 0) (hb : b.size = 128) (h : ¬ (b.data.toList.drop 0).take 3 = [84, 65, 71]) : Calls Try.prog 32 #[.pointer (some ⟨g, 0, none⟩), .string ⟨#[84, 65, 71]⟩] w fun e w' => e = .returned (.bool false) ∧ Mod g w w' := by
  refine (want_ok ⟨#[84, 65, 71]⟩ w g b 0 0 0 H (by decide)).mono ?_
  rintro e w' ⟨hm, ⟨h1, h2, h3⟩ | ⟨h1, h2, _⟩⟩
  · refine absurd ?_ h
    have h3 : 3 ≤ (b.data.toList.drop 0).length := by
      show 3 ≤ b.size
      omega
    exact (cp_iff (b.data.toList.drop 0) [84, 65, 71] 3 h3 (by decide)).1 (Nat.le_of_eq h1.symm)
  · exact ⟨h2, hm⟩
set_option maxRecDepth 100000 in
set_option maxHeartbeats 4000000 in
theorem cparse_no (b : ByteArray) (w : World) (hs : b.size ≤ 100000) (h : ¬ tagAt b 0) : Calls Try.prog 18 #[.string b] w fun e w' => e = .returned (.tuple #[.agg (tailA noT), .bool false]) ∧ Ext w w' := by
  have HRd := Lib.hid (fun w => read_any b w (by omega))
  have HA0 := Lib.hid (heap_alloc_new w (.cells #[.string ⟨#[]⟩, .string ⟨#[]⟩, .string ⟨#[]⟩, .string ⟨#[]⟩, .string ⟨#[]⟩, .int .u8 0, .int .u8 0] 31))
  by_cases hz : b.size = 128
  · have hw : ¬ (b.data.toList.drop 0).take 3 = [84, 65, 71] := fun e => h ⟨hz, e⟩
    have HWn := Lib.hid (fun w g H => want_none w g b H hz hw)
    have g0 : ((b.size : Int) != 128) = false := by rw [hz]; rfl
    clear hz h hw
    unfold tailA noT
    go_enter Try.func18, Try.ntmps18
    go_wp2_with (first
      | (go_at_call 31; refine (HRd.out _).mono ?_; rintro e w1 ⟨rfl, hR1, hb1⟩; have hT1 := (hb1.block w.heap.size (by simp)).trans HA0.out; rw [show (w.alloc (.cells #[.string ⟨#[]⟩, .string ⟨#[]⟩, .string ⟨#[]⟩, .string ⟨#[]⟩, .string ⟨#[]⟩, .int .u8 0, .int .u8 0] 31)).heap.size = w.heap.size + 1 by simp] at hR1)
      | (go_at_call 32; refine (HWn.out _ _ hR1).mono ?_; rintro e w2 ⟨rfl, hm2⟩; have hT2 := (hm2.block w.heap.size (lt_of_block hT1) (by simp)).trans hT1; obtain ⟨m0, m1, m2, m3, m4, m5, m6⟩ := facts7 hT2; have f0 := free7 hT2 0; have f1 := free7 hT2 1; have f2 := free7 hT2 2; have f3 := free7 hT2 3; have f4 := free7 hT2 4; have f5 := free7 hT2 5; have f6 := free7 hT2 6; obtain ⟨wf, hwf, hxf, hB⟩ := put7 hT2 ((((Ext.refl w).alloc (.cells #[.string ⟨#[]⟩, .string ⟨#[]⟩, .string ⟨#[]⟩, .string ⟨#[]⟩, .string ⟨#[]⟩, .int .u8 0, .int .u8 0] 31)).trans hb1).mod hm2 (by simp)) (Nat.le_refl _) (.string ⟨#[]⟩) (.string ⟨#[]⟩) (.string ⟨#[]⟩) (.string ⟨#[]⟩) (.string ⟨#[]⟩) (.int .u8 0) (.int .u8 0); have HWF := Lib.hid hwf; have HBF := Lib.hid hB; clear hwf hB))
    rw [← HWF.out]
    obtain ⟨n0, n1, n2, n3, n4, n5, n6⟩ := facts7 HBF.out
    clear m0 m1 m2 m3 m4 m5 m6 f0 f1 f2 f3 f4 f5 f6
    refine bodyPost_ret (v := .tuple #[.agg #[.string ⟨#[]⟩, .string ⟨#[]⟩, .string ⟨#[]⟩, .string ⟨#[]⟩, .string ⟨#[]⟩, .int .u8 0, .int .u8 0], .bool false]) (by simp [results, Try.results18, go_sem, n0, n1, n2, n3, n4, n5, n6]) rfl ?_
    exact ⟨rfl, hxf⟩
  · have g0 : ((b.size : Int) != 128) = true := by rw [bne, beq_false_of_ne (by omega)]; rfl
    clear hz h
    unfold tailA noT
    go_enter Try.func18, Try.ntmps18
    go_wp2_with (go_at_call 31; refine (HRd.out _).mono ?_; rintro e w1 ⟨rfl, hR1, hb1⟩; have hT2 := (hb1.block w.heap.size (by simp)).trans HA0.out; obtain ⟨m0, m1, m2, m3, m4, m5, m6⟩ := facts7 hT2; have f0 := free7 hT2 0; have f1 := free7 hT2 1; have f2 := free7 hT2 2; have f3 := free7 hT2 3; have f4 := free7 hT2 4; have f5 := free7 hT2 5; have f6 := free7 hT2 6; obtain ⟨wf, hwf, hxf, hB⟩ := put7 hT2 (((Ext.refl w).alloc (.cells #[.string ⟨#[]⟩, .string ⟨#[]⟩, .string ⟨#[]⟩, .string ⟨#[]⟩, .string ⟨#[]⟩, .int .u8 0, .int .u8 0] 31)).trans hb1) (Nat.le_refl _) (.string ⟨#[]⟩) (.string ⟨#[]⟩) (.string ⟨#[]⟩) (.string ⟨#[]⟩) (.string ⟨#[]⟩) (.int .u8 0) (.int .u8 0); have HWF := Lib.hid hwf; have HBF := Lib.hid hB; clear hwf hB)
    rw [← HWF.out]
    obtain ⟨n0, n1, n2, n3, n4, n5, n6⟩ := facts7 HBF.out
    clear m0 m1 m2 m3 m4 m5 m6 f0 f1 f2 f3 f4 f5 f6
    refine bodyPost_ret (v := .tuple #[.agg #[.string ⟨#[]⟩, .string ⟨#[]⟩, .string ⟨#[]⟩, .string ⟨#[]⟩, .string ⟨#[]⟩, .int .u8 0, .int .u8 0], .bool false]) (by simp [results, Try.results18, go_sem, n0, n1, n2, n3, n4, n5, n6]) rfl ?_
    exact ⟨rfl, hxf⟩
theorem be_last (b : ByteArray) (hb : b.size = 128) : bePart b 127 1 = (b.data.toList.getD 127 0).toNat := by
  have h127 : 127 < b.size := by omega
  show beN (b.extract 127 (127 + 1)).data.toList = _
  rw [one_at b 127 h127, getD_at b 127 h127]
  show 0 * 256 + (b[127]'h127).toNat = _
  omega
set_option maxRecDepth 100000 in
set_option maxHeartbeats 4000000 in
theorem cparse_yes (b : ByteArray) (w : World) (h : tagAt b 0) : Calls Try.prog 18 #[.string b] w fun e w' => e = .returned (.tuple #[.agg (tailA (parseZ b)), .bool true]) ∧ Ext w w' := by
  obtain ⟨hz, hw⟩ := h
  rw [Nat.zero_add] at hz
  have HRd := Lib.hid (fun w => read_any b w (by omega))
  have HA0 := Lib.hid (heap_alloc_new w (.cells #[.string ⟨#[]⟩, .string ⟨#[]⟩, .string ⟨#[]⟩, .string ⟨#[]⟩, .string ⟨#[]⟩, .int .u8 0, .int .u8 0] 31))
  have HWt := Lib.hid (fun w g H => want_tag w g b H hw)
  have HRm : Hid (∀ w, Calls Try.prog 33 #[.int .u8 0] w fun e w' => e = .returned (.agg #[.int .i64 30, .int .i64 30, .int .i64 30, .int .i64 4, .int .i64 30]) ∧ Ext w w') := fun w => crooms9 0 w
  have hsz : ∀ z, (TailZ.tx ⟨rawZ b 0, rawZ b 1, rawZ b 2, rawZ b 3, rawZ b 4, 0, 0⟩ z).size ≤ 1000000 := fun z => by
    unfold TailZ.tx rawZ
    simp only
    (repeat' split) <;> (rw [ByteArray.size_extract]; omega)
  have HNm : Hid (∀ w, Calls Try.prog 35 #[.agg #[.string (rawZ b 0), .string (rawZ b 1), .string (rawZ b 2), .string (rawZ b 3), .string (rawZ b 4)]] w fun e w' => e = .returned (.agg #[.string (fieldZ b 0), .string (fieldZ b 1), .string (fieldZ b 2), .string (fieldZ b 3), .string (fieldZ b 4)]) ∧ Ext w w') := fun w => by
    have := cnamed ⟨rawZ b 0, rawZ b 1, rawZ b 2, rawZ b 3, rawZ b 4, 0, 0⟩ w hsz
    simp only [raw_field b hz 0 (by decide) (by decide), raw_field b hz 1 (by decide) (by decide), raw_field b hz 2 (by decide) (by decide), raw_field b hz 3 (by decide) (by decide), raw_field b hz 4 (by decide) (by decide)] at this
    exact this
  have hr4 : (rawZ b 4).size = 30 := by
    show (b.extract 97 127).size = 30
    rw [ByteArray.size_extract]
    omega
  have HTr : Hid (∀ w, Calls Try.prog 36 #[.string (rawZ b 4)] w fun e w' => e = .returned (.int .u8 (trackZ b)) ∧ Ext w w') := fun w => by
    have h := ctrack (rawZ b 4) w (by omega) (by omega)
    have e1 : (rawZ b 4)[28]'(by omega) = b[125]'(by omega) := ByteArray.getElem_extract (show 28 < (b.extract 97 127).size by rw [ByteArray.size_extract]; omega)
    have e2 : (rawZ b 4)[29]'(by omega) = b[126]'(by omega) := ByteArray.getElem_extract (show 29 < (b.extract 97 127).size by rw [ByteArray.size_extract]; omega)
    rw [e1, e2, ← getD_at b 125 (by omega), ← getD_at b 126 (by omega)] at h
    exact h
  have HBe := Lib.hid (be_last b hz)
  have hu := (b.data.toList.getD 127 0).toNat_lt
  have HSet := Lib.hid (fun z h0 h5 => rwA_set b z h0 h5)
  have HIx := Lib.hid (fun z h0 h5 w => index_rooms z w h0 h5)
  have g0 : ((b.size : Int) != 128) = false := by rw [hz]; rfl
  have hszi : (b.size : Int) = 128 := by omega
  have HP : Hid (tailA (parseZ b) = #[.string (fieldZ b 0), .string (fieldZ b 1), .string (fieldZ b 2), .string (fieldZ b 3), .string (fieldZ b 4), .int .u8 (trackZ b), .int .u8 ((b.data.toList.getD 127 0).toNat : Int)]) := rfl
  rw [HP.out]
  clear HP hw hsz hr4
  go_enter Try.func18, Try.ntmps18
  go_wp2_with (first
    | (go_at_call 31; refine (HRd.out _).mono ?_; rintro e w1 ⟨rfl, hR1, hb1⟩; have hT1 := (hb1.block w.heap.size (by simp)).trans HA0.out; rw [show (w.alloc (.cells #[.string ⟨#[]⟩, .string ⟨#[]⟩, .string ⟨#[]⟩, .string ⟨#[]⟩, .string ⟨#[]⟩, .int .u8 0, .int .u8 0] 31)).heap.size = w.heap.size + 1 by simp] at hR1)
    | (go_at_call 32; refine (HWt.out _ _ hR1).mono ?_; rintro e w2 ⟨rfl, hR2, hm2⟩)
    | (go_at_call 33; refine (HRm.out _).mono ?_; rintro e w3 ⟨rfl, hb3⟩))
  have hT2 := (hm2.block w.heap.size (lt_of_block hT1) (by simp)).trans hT1
  have hx2 : Ext w w2 := (((Ext.refl w).alloc (.cells #[.string ⟨#[]⟩, .string ⟨#[]⟩, .string ⟨#[]⟩, .string ⟨#[]⟩, .string ⟨#[]⟩, .int .u8 0, .int .u8 0] 31)).trans hb1).mod hm2 (by omega)
  have hR3 := (hR2.ext ((Ext.refl w2).alloc (.cells #[.string ⟨#[]⟩, .string ⟨#[]⟩, .string ⟨#[]⟩, .string ⟨#[]⟩, .string ⟨#[]⟩] 34))).ext hb3
  have hA3 := (hb3.block w2.heap.size (by simp)).trans (heap_alloc_new w2 (.cells #[.string ⟨#[]⟩, .string ⟨#[]⟩, .string ⟨#[]⟩, .string ⟨#[]⟩, .string ⟨#[]⟩] 34))
  have hT3 := (hb3.block w.heap.size (by have := lt_of_block hT2; simp; omega)).trans ((heap_alloc_old w2 (.cells #[.string ⟨#[]⟩, .string ⟨#[]⟩, .string ⟨#[]⟩, .string ⟨#[]⟩, .string ⟨#[]⟩] 34) (lt_of_block hT2)).trans hT2)
  have hx3 : Ext w w3 := (hx2.alloc (.cells #[.string ⟨#[]⟩, .string ⟨#[]⟩, .string ⟨#[]⟩, .string ⟨#[]⟩, .string ⟨#[]⟩] 34)).trans hb3
  obtain ⟨bA, hbA⟩ : ∃ bA, bA = w2.heap.size := ⟨_, rfl⟩
  obtain ⟨bT, hbT⟩ : ∃ bT, bT = w.heap.size := ⟨_, rfl⟩
  obtain ⟨bR, hbR⟩ : ∃ bR, bR = w.heap.size + 1 := ⟨_, rfl⟩
  have hlt2 := hR2.lt
  have hneA : bA ≠ bR := by omega
  have hneT : bT ≠ bR := by omega
  have hneAT : bA ≠ bT := by omega
  have hneTA : bT ≠ bA := by omega
  have hlT : w.heap.size ≤ bT := by omega
  have hlR : w.heap.size ≤ bR := by omega
  have hlA : w.heap.size ≤ bA := by omega
  rw [← hbA] at hA3 ⊢
  rw [← hbR] at hR3 ⊢
  rw [← hbT] at hT3 ⊢
  clear hbA hbT hbR hlt2 hR2 hT2 hT1 hR1 hm2 hb1 hb3 hx2 HA0 HRd HWt HRm
  go_loopw [20] (fun i wr => ∃ (z : Int) (q : Nat), 0 ≤ z ∧ z ≤ 5 ∧ i = .int .i64 z ∧ (q : Int) = atZ z 0 ∧ Ext w wr ∧ Rdr wr bR b q 0 0 0 ∧ wr.heap[bT]? = some (.cells #[.string ⟨#[]⟩, .string ⟨#[]⟩, .string ⟨#[]⟩, .string ⟨#[]⟩, .string ⟨#[]⟩, .int .u8 0, .int .u8 0] 31 (0, 0)) ∧ wr.heap[bA]? = some (.cells (rwA b z) 34 (0, 0))) (fun i _ => 5 - (intOf i).toNat)
  case atStart => exact ⟨0, 3, by omega, by omega, rfl, rfl, hx3, hR3, hT3, hA3⟩
  case round =>
    obtain ⟨z, q, hz0, hz5, rfl, hq, hx, hR, hT, hA⟩ := hrel
    clear hx3 hR3 hT3 hA3
    by_cases hzl : z < 5
    · have hix := fun w => HIx.out z hz0 hzl w
      have hwd := widthZ_bd z 0
      have hoff := off_bd z 0 hz0 hzl
      have hnx := atZ_next z 0 hz0 hzl
      have ha : atZ z 0 = offZ z := if_pos hzl
      have hSz := HSet.out z hz0 hzl
      have HTk : Hid (∀ w, Rdr w bR b q 0 0 0 → Calls Try.prog 34 #[.pointer (some ⟨bR, 0, none⟩), .int .i64 (widthZ z 0)] w fun e w' => e = .returned (.string (rawZ b z)) ∧ Rdr w' bR b (q + (widthZ z 0).toNat) 0 0 0 ∧ Mod bR w w') := fun w H => by
        have h := take_ok (widthZ z 0) w bR b q 0 0 H (by omega) (by omega)
        rwa [show b.extract q (q + (widthZ z 0).toNat) = rawZ b z by unfold rawZ; rw [show (offZ z).toNat = q by omega, show (offZ z + widthZ z 0).toNat = q + (widthZ z 0).toNat by omega]] at h
      have HCell : Hid (∀ (w2 : World), w2.heap[bA]? = some (.cells (rwA b z) 34 (0, 0)) → w2.cell? ⟨bA, z.toNat, none⟩ = some (rwZ b z z) ∧ w2.frozen? ⟨bA, z.toNat, none⟩ = false) := fun w2 hB => by
        refine ⟨?_, free_of hB _⟩
        rw [cell_of5 hB]
        obtain rfl | rfl | rfl | rfl | rfl : z = 0 ∨ z = 1 ∨ z = 2 ∨ z = 3 ∨ z = 4 := by omega
        all_goals rfl
      have HQ : Hid (((q + (widthZ z 0).toNat : Nat) : Int) = atZ (z + 1) 0) := by show _ = _; rw [hnx]; omega
      have HSz := Lib.hid hSz
      have hnz : ¬ z < 0 := by omega
      have HA := Lib.hid hA
      have HT := Lib.hid hT
      have hlA2 := lt_of_block hA
      have hlT2 := lt_of_block hT
      clear hoff hnx ha hSz hq hwd HSet HIx hA hT
      generalize rawZ b z = x at HTk HSz
      generalize (q + (widthZ z 0).toNat) = q2 at HTk HQ
      generalize widthZ z 0 = wd at HTk hix
      go_wp2_with (go_at_call 34; refine (HTk.out _ hR).mono ?_; rintro e w5 ⟨rfl, hR5, hm5⟩; have hA5 := (hm5.block bA hlA2 (by simpa using hneA)).trans HA.out; have hT5 := (hm5.block bT hlT2 (by simpa using hneT)).trans HT.out; have hx5 := hx.mod hm5 hlR; obtain ⟨hc5, hf5⟩ := HCell.out _ hA5; have HA5 := Lib.hid hA5; have HT5 := Lib.hid hT5; clear hA5 hT5)
      go_roundw
      case rel =>
        refine ⟨z + 1, q2, by omega, by omega, by first | rfl | go_num, HQ.out, hx5.setCell hlA _, hR5.set_other (Ne.symm hneA) _ _, ?_, ?_⟩
        · rw [heap_setCell_other _ _ _ _ (Ne.symm hneAT)]
          exact HT5.out
        · have := Go.heap_setCell_same w5 bA z.toNat _ _ (.string x) HA5.out
          rw [← HSz.out]
          exact this
      case measure => simp [intOf]; omega
    · have hze : z = 5 := by omega
      subst hze
      have hq127 : q = 127 := by
        have : atZ 5 0 = 127 := rfl
        omega
      subst hq127
      rw [rwA_all] at hA
      have HBg : Hid (∀ w, Rdr w bR b 127 0 0 0 → Calls Try.prog 37 #[.pointer (some ⟨bR, 0, none⟩), .int .i64 1] w fun e w' => e = .returned (.int .u64 ((b.data.toList.getD 127 0).toNat : Int)) ∧ Mod bR w w') := fun w H => by
        refine (big_ok 1 w bR b 127 0 0 H (by show (1 : Int) ≤ _; omega)).mono ?_
        rintro e w' ⟨rfl, _, hm⟩
        refine ⟨?_, hm⟩
        rw [show (cw 1).toNat = 1 from rfl, HBe.out]
      clear HSet HIx HBe hq
      generalize rawZ b 0 = r0 at HNm hA
      generalize rawZ b 1 = r1 at HNm hA
      generalize rawZ b 2 = r2 at HNm hA
      generalize rawZ b 3 = r3 at HNm hA
      generalize rawZ b 4 = r4 at HNm HTr hA
      have hwu : IntKind.u8.wrap ((b.data.toList.getD 127 0).toNat : Int) = ((b.data.toList.getD 127 0).toNat : Int) := IntWalk.u8_in _ (by omega)
      obtain ⟨u, hue⟩ : ∃ u : Int, u = ((b.data.toList.getD 127 0).toNat : Int) := ⟨_, rfl⟩
      rw [← hue] at HBg hwu
      have HU := Lib.hid hue
      have hlA2 := lt_of_block hA
      have hlT2 := lt_of_block hT
      obtain ⟨k0, k1, k2, k3, k4⟩ := facts5 hA
      have HA := Lib.hid hA
      have HT := Lib.hid hT
      clear hue hu hA hT
      have hxd := hx.drew
      have hRd := hR.drew
      go_wp2_with fail
      refine wp_region_held_drew (S := (fun W' => W'.cell? ⟨bA, 0, none⟩ = some (.string r0) ∧ W'.cell? ⟨bA, 1, none⟩ = some (.string r1) ∧ W'.cell? ⟨bA, 2, none⟩ = some (.string r2) ∧ W'.cell? ⟨bA, 3, none⟩ = some (.string r3) ∧ W'.cell? ⟨bA, 4, none⟩ = some (.string r4))) (by kernel_rfl) ?_ (fun hHeld => ?_)
      · (try dsimp only); try go_keep
      refine' wpAnyH_take (i := 0) (oi := { dst := some 30, op := _, type := _, pos := _, after := _, guard := _ }) (v := _) ?hixa0 (by kernel_rfl) ?hfxa0 ?hrxa0 ?hqxa0 ?hyxa0 ?hsxa0 ?restxa0
      case hixa0 => exact rfl
      case hfxa0 => kernel_rfl
      case hrxa0 => kernel_rfl
      case hqxa0 => exact fun _ _ _ h => h
      case hsxa0 => assumption
      case hyxa0 =>
        refine Or.inl ⟨by kernel_rfl, ?_⟩
        intro w hSw
        try dsimp only at hSw
        go_simp
        try with_reducible rfl
      try simp only [Act.put, List.setIfInBounds_toArray, List.set_cons_zero, List.set_cons_succ]
      refine' wpAnyH_take (i := 2) (oi := { dst := some 32, op := _, type := _, pos := _, after := _, guard := _ }) (v := _) ?hixa2 (by kernel_rfl) ?hfxa2 ?hrxa2 ?hqxa2 ?hyxa2 ?hsxa2 ?restxa2
      case hixa2 => exact rfl
      case hfxa2 => kernel_rfl
      case hrxa2 => kernel_rfl
      case hqxa2 => exact fun _ _ _ h => h
      case hsxa2 => assumption
      case hyxa2 =>
        refine Or.inl ⟨by kernel_rfl, ?_⟩
        intro w hSw
        try dsimp only at hSw
        go_simp
        try with_reducible rfl
      try simp only [Act.put, List.setIfInBounds_toArray, List.set_cons_zero, List.set_cons_succ]
      refine' wpAnyH_take (i := 3) (oi := { dst := some 33, op := _, type := _, pos := _, after := _, guard := _ }) (v := _) ?hixa3 (by kernel_rfl) ?hfxa3 ?hrxa3 ?hqxa3 ?hyxa3 ?hsxa3 ?restxa3
      case hixa3 => exact rfl
      case hfxa3 => kernel_rfl
      case hrxa3 => kernel_rfl
      case hqxa3 => exact fun _ _ _ h => h
      case hsxa3 => assumption
      case hyxa3 =>
        refine Or.inl ⟨by kernel_rfl, ?_⟩
        intro w hSw
        try dsimp only at hSw
        go_simp
        try with_reducible rfl
      try simp only [Act.put, List.setIfInBounds_toArray, List.set_cons_zero, List.set_cons_succ]
      refine' wpAnyH_take (i := 5) (oi := { dst := some 35, op := _, type := _, pos := _, after := _, guard := _ }) (v := _) ?hixa5 (by kernel_rfl) ?hfxa5 ?hrxa5 ?hqxa5 ?hyxa5 ?hsxa5 ?restxa5
      case hixa5 => exact rfl
      case hfxa5 => kernel_rfl
      case hrxa5 => kernel_rfl
      case hqxa5 => exact fun _ _ _ h => h
      case hsxa5 => assumption
      case hyxa5 =>
        refine Or.inl ⟨by kernel_rfl, ?_⟩
        intro w hSw
        try dsimp only at hSw
        go_simp
        try with_reducible rfl
      try simp only [Act.put, List.setIfInBounds_toArray, List.set_cons_zero, List.set_cons_succ]
      refine wpAnyH_ready (rs := [1]) (by kernel_rfl) (by simp) ?_
      refine' AllReadyH.cons (o := _) ?hixa1 (fun K hK => ?hk0xa1) AllReadyH.nil
      case hixa1 => exact rfl
      go_simp
      go_at_call 35
      refine (HNm.out _).mono ?_
      rintro e w6 ⟨rfl, hb6⟩
      have hx6 := hxd.trans hb6
      have hR6 := hRd.ext hb6
      have HA6 := Lib.hid ((hb6.block bA hlA2).trans HA.out)
      have HT6 := Lib.hid ((hb6.block bT hlT2).trans HT.out)
      clear k0 k1 k2 k3 k4 hb6 hxd hRd
      obtain ⟨k0, k1, k2, k3, k4⟩ := facts5 HA6.out
      try go_wp2_with fail
      refine hK.out _ _ ?hS0xa1 (fun hHeld => ?restxa1)
      case hS0xa1 => (try dsimp only); try go_keep
      clear hK K
      try simp only [Act.put, List.setIfInBounds_toArray, List.set_cons_zero, List.set_cons_succ]
      refine wpAnyH_ready (rs := [4]) (by kernel_rfl) (by simp) ?_
      refine' AllReadyH.cons (o := _) ?hixa4 (fun K hK => ?hk0xa4) AllReadyH.nil
      case hixa4 => exact rfl
      go_simp
      go_at_call 36
      refine (HTr.out _).mono ?_
      rintro e w7 ⟨rfl, hb7⟩
      have hx7 := hx6.trans hb7
      have hR7 := hR6.ext hb7
      have HA7 := Lib.hid ((hb7.block bA (lt_of_block HA6.out)).trans HA6.out)
      have HT7 := Lib.hid ((hb7.block bT (lt_of_block HT6.out)).trans HT6.out)
      clear k0 k1 k2 k3 k4 hb7 hx6 hR6
      obtain ⟨k0, k1, k2, k3, k4⟩ := facts5 HA7.out
      try go_wp2_with fail
      refine hK.out _ _ ?hS0xa4 (fun hHeld => ?restxa4)
      case hS0xa4 => (try dsimp only); try go_keep
      clear hK K
      try simp only [Act.put, List.setIfInBounds_toArray, List.set_cons_zero, List.set_cons_succ]
      refine wpAnyH_ready (rs := [6]) (by kernel_rfl) (by simp) ?_
      refine' AllReadyH.cons (o := _) ?hixa6 (fun K hK => ?hk0xa6) AllReadyH.nil
      case hixa6 => exact rfl
      go_simp
      go_at_call 37
      refine (HBg.out _ hR7).mono ?_
      rintro e w8 ⟨rfl, hm8⟩
      have hx8 := hx7.mod hm8 hlR
      have HA8 := Lib.hid ((hm8.block bA (lt_of_block HA7.out) (by simpa using hneA)).trans HA7.out)
      have HT8 := Lib.hid ((hm8.block bT (lt_of_block HT7.out) (by simpa using hneT)).trans HT7.out)
      clear k0 k1 k2 k3 k4 hm8 hx7 hR7
      obtain ⟨k0, k1, k2, k3, k4⟩ := facts5 HA8.out
      obtain ⟨m0, m1, m2, m3, m4, m5, m6⟩ := facts7 HT8.out
      have f0 := free7 HT8.out 0
      have f1 := free7 HT8.out 1
      have f2 := free7 HT8.out 2
      have f3 := free7 HT8.out 3
      have f4 := free7 HT8.out 4
      have f5 := free7 HT8.out 5
      have f6 := free7 HT8.out 6
      try go_wp2_with fail
      refine hK.out _ _ ?hS0xa6 (fun hHeld => ?restxa6)
      case hS0xa6 => (try dsimp only); try go_keep
      clear hK K
      try simp only [Act.put, List.setIfInBounds_toArray, List.set_cons_zero, List.set_cons_succ]
      refine' wpAnyH_take (i := 7) (oi := { dst := some 37, op := _, type := _, pos := _, after := _, guard := _ }) (v := _) ?hixa7 (by kernel_rfl) ?hfxa7 ?hrxa7 ?hqxa7 ?hyxa7 ?hsxa7 ?restxa7
      case hixa7 => exact rfl
      case hfxa7 => kernel_rfl
      case hrxa7 => kernel_rfl
      case hqxa7 => exact fun _ _ _ h => h
      case hsxa7 => assumption
      case hyxa7 =>
        refine Or.inl ⟨by kernel_rfl, ?_⟩
        intro w hSw
        try dsimp only at hSw
        go_simp
        try with_reducible rfl
      try simp only [Act.put, List.setIfInBounds_toArray, List.set_cons_zero, List.set_cons_succ]
      refine' wpAnyH_take (i := 8) (oi := { dst := some 38, op := _, type := _, pos := _, after := _, guard := _ }) (v := _) ?hixa8 (by kernel_rfl) ?hfxa8 ?hrxa8 ?hqxa8 ?hyxa8 ?hsxa8 ?restxa8
      case hixa8 => exact rfl
      case hfxa8 => kernel_rfl
      case hrxa8 => kernel_rfl
      case hqxa8 => exact fun _ _ _ h => h
      case hsxa8 => assumption
      case hyxa8 =>
        refine Or.inl ⟨by kernel_rfl, ?_⟩
        intro w hSw
        try dsimp only at hSw
        go_simp
        try with_reducible rfl
      try simp only [Act.put, List.setIfInBounds_toArray, List.set_cons_zero, List.set_cons_succ]
      refine wpAnyH_ready (rs := [9]) (by kernel_rfl) (by simp) ?_
      refine' AllReadyH.cons (o := _) ?hixa9 (fun K hK => ?hk0xa9) AllReadyH.nil
      case hixa9 => exact rfl
      go_simp
      refine hK.out _ _ ?hS0xa9 (fun hHeld => ?restxa9)
      case hS0xa9 => (try dsimp only); try go_keep
      clear hK K
      try simp only [Act.put, List.setIfInBounds_toArray, List.set_cons_zero, List.set_cons_succ]
      refine' wpAnyH_take (i := 10) (oi := { dst := some 3, op := _, type := _, pos := _, after := _, guard := _ }) (v := _) ?hixa10 (by kernel_rfl) ?hfxa10 ?hrxa10 ?hqxa10 ?hyxa10 ?hsxa10 ?restxa10
      case hixa10 => exact rfl
      case hfxa10 => kernel_rfl
      case hrxa10 => kernel_rfl
      case hqxa10 => exact fun _ _ _ h => h
      case hsxa10 => assumption
      case hyxa10 =>
        refine Or.inl ⟨by kernel_rfl, ?_⟩
        intro w hSw
        try dsimp only at hSw
        go_simp
        try with_reducible rfl
      try simp only [Act.put, List.setIfInBounds_toArray, List.set_cons_zero, List.set_cons_succ]
      refine wpAnyH_done (by kernel_rfl) ?_ _
      obtain ⟨wf, hwf, hxf, hB⟩ := put7 HT8.out hx8 hlT (.string (fieldZ b 0)) (.string (fieldZ b 1)) (.string (fieldZ b 2)) (.string (fieldZ b 3)) (.string (fieldZ b 4)) (.int .u8 (trackZ b)) (.int .u8 u)
      rw [← hwf]
      obtain ⟨n0, n1, n2, n3, n4, n5, n6⟩ := facts7 hB
      clear k0 k1 k2 k3 k4 m0 m1 m2 m3 m4 m5 m6 f0 f1 f2 f3 f4 f5 f6 hwf
      go_wp2
      refine bodyPost_ret (v := .tuple #[.agg #[.string (fieldZ b 0), .string (fieldZ b 1), .string (fieldZ b 2), .string (fieldZ b 3), .string (fieldZ b 4), .int .u8 (trackZ b), .int .u8 u], .bool true]) (by simp [results, Try.results18, go_sem, n0, n1, n2, n3, n4, n5, n6]) rfl ?_
      exact ⟨by rw [HU.out], hxf⟩
end Go.Proofs.Ytbdjncnofpbkkaa
