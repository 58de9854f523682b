/-
  Contracts of package wide (4): bytes as a text; marks; a unit as bytes.
-/
import Derived.Test.YtdbjjadgmfgjfaaDoorWd3
import Derived.Test.YtdbjjadgmfgjfaaDoorOct5
namespace Go.Proofs.YtdbjjadgmfgjfaaDoor
open Go Go.ChangeShapes Go.WideShapes Go.ChangeAt Go.RowKit
set_option linter.unusedSimpArgs false
set_option linter.unusedVariables false

/-- What bytes are as signs. -/
def wdS (big : Bool) (s : ByteArray) : List Int × Int := wd big 0 s.data.toList
set_option maxHeartbeats 400000 in
theorem decode_any (s : ByteArray) (big : Bool) (w : World) (hs : s.size ≤ 1099511627776) :
    Calls Tryd.prog 8 #[.string s, .bool big] w fun e w' => e = .returned (.tuple #[.string (wtxt (wdS big s).1 (wdS big s).2), .agg #[.int .i64 (fNum (wdS big s).2), .int .i64 (fPlace (wdS big s).2)]]) ∧ Ext w w' := by
  have HD : Hid (∀ (w : World) (b : Nat), Rdr w b s 0 0 0 0 → Calls Tryd.prog 19 #[.pointer (some ⟨b, 0, none⟩), .bool big] w fun e w' => e = .returned (.tuple #[.string (wtxt (wdS big s).1 (wdS big s).2), .agg #[.int .i64 (fNum (wdS big s).2), .int .i64 (fPlace (wdS big s).2)]]) ∧ Mod b w w') := fun w b H => decode_rd big w b s 0 0 H _ _ rfl rfl
  generalize wtxt (wdS big s).1 (wdS big s).2 = u at HD
  generalize fNum (wdS big s).2 = x at HD
  generalize fPlace (wdS big s).2 = y at HD
  go_enter Tryd.func8, Tryd.ntmps8
  have hF0 : (w.alloc (.cells #[.int .i64 0, .int .i64 0] 25)).heap[w.heap.size]? = some (.cells #[.int .i64 0, .int .i64 0] 25 (0, 0)) := heap_alloc_new w _
  have hx0 := (Ext.refl w).alloc (.cells #[.int .i64 0, .int .i64 0] 25)
  have hs0 : w.heap.size < (w.alloc (.cells #[.int .i64 0, .int .i64 0] 25)).heap.size := by simp
  have HSZ : Hid ((w.alloc (.cells #[.int .i64 0, .int .i64 0] 25)).heap.size = w.heap.size + 1) := by show _ = _; simp
  have HF0 := Lib.hid hF0
  have HS0 := Lib.hid hs0
  clear hF0 hs0
  go_wp2_with (first
    | (go_at_call 20; refine (read_any _ _ hs).mono ?_; rintro e w1 ⟨rfl, H1, hb1⟩; rw [HSZ.out] at H1; have hx1 := hx0.trans hb1; have HF1 := Lib.hid ((hb1.block _ (lt_of_block HF0.out)).trans HF0.out); have HS1 := Lib.hid hb1.size; clear hx0 HF0 hb1)
    | (go_at_call 19; refine (HD.out _ _ H1).mono ?_; rintro e w2 ⟨rfl, hm2⟩; have hx2 := hx1.mod hm2 (by omega); have hF2 := (hm2.block _ (lt_of_block HF1.out) (by simp)).trans HF1.out; have hc0 : w2.cell? ⟨w.heap.size, 0, none⟩ = some (.int .i64 0) := (by simp [World.cell?, hF2]); have hc1 : w2.cell? ⟨w.heap.size, 1, none⟩ = some (.int .i64 0) := (by simp [World.cell?, hF2]); have hf0 : w2.frozen? ⟨w.heap.size, 0, none⟩ = false := (by simp [World.frozen?, hF2]); have hf1 : w2.frozen? ⟨w.heap.size, 1, none⟩ = false := (by simp [World.frozen?, hF2]); clear H1 hm2))
  have hfin := set_two hF2 (.int .i64 x) (.int .i64 y)
  have hxf : Ext w ((w2.setCell ⟨w.heap.size, 0, none⟩ (.int .i64 x)).setCell ⟨w.heap.size, 1, none⟩ (.int .i64 y)) := Ext.setCell (Ext.setCell hx2 (Nat.le_refl _) _) (Nat.le_refl _) _
  generalize (w2.setCell ⟨w.heap.size, 0, none⟩ (.int .i64 x)).setCell ⟨w.heap.size, 1, none⟩ (.int .i64 y) = wf at hfin hxf ⊢
  have k0 : wf.cell? ⟨w.heap.size, 0, none⟩ = some (.int .i64 x) := by simp [World.cell?, hfin]
  have k1 : wf.cell? ⟨w.heap.size, 1, none⟩ = some (.int .i64 y) := by simp [World.cell?, hfin]
  refine bodyPost_ret (v := .tuple #[.string u, .agg #[.int .i64 x, .int .i64 y]]) (by simp [results, Tryd.results8, go_sem, k0, k1]) rfl ?_
  exact ⟨rfl, hxf⟩
/-- A unit as bytes, as a text. -/
def uTxt (big : Bool) (u : Nat) : ByteArray := ⟨(ub big u).toArray⟩
theorem uTxt_big {u : Nat} (h : u < 65536) : bytesBy 2 (bigAt u 2) = uTxt true u := by
  unfold bytesBy uTxt ub bigAt strOfNums
  have e1 : u / 256 % 256 = u / 256 := by omega
  have e2 : ((u : Int) / 256 % 256).toNat = u / 256 := by omega
  have e3 : ((u : Int) % 256).toNat = u % 256 := by omega
  simp [List.range_succ, e1, e2, e3]
theorem uTxt_small {u : Nat} (h : u < 65536) : bytesBy 2 (smallAt u) = uTxt false u := by
  unfold bytesBy uTxt ub smallAt strOfNums
  have e1 : u / 256 % 256 = u / 256 := by omega
  have e2 : ((u : Int) / 256 % 256).toNat = u / 256 := by omega
  have e3 : ((u : Int) % 256).toNat = u % 256 := by omega
  simp [List.range_succ, e1, e2, e3]
theorem asbytes_nat (u : Nat) (big : Bool) (w : World) (h : u < 65536) : Calls Tryd.prog 24 #[.int .i32 u, .bool big] w fun e w' => e = .returned (.string (uTxt big u)) ∧ Ext w w' := by
  cases big
  · have HB : Hid (∀ w, Calls Tryd.prog 40 #[.int .u64 u, .int .i64 2] w fun e w' => e = .returned (.string (uTxt false u)) ∧ Ext w w') := by
      rw [← uTxt_small h]
      exact fun w => wsmall u 2 w (by omega)
    go_enter Tryd.func24, Tryd.ntmps24
    go_wp2_with (go_at_call 40; refine (HB.out _).mono ?_; rintro e w1 ⟨rfl, hb1⟩)
    go_ret
    exact ⟨rfl, hb1⟩
  · have HB : Hid (∀ w, Calls Tryd.prog 39 #[.int .u64 u, .int .i64 2] w fun e w' => e = .returned (.string (uTxt true u)) ∧ Ext w w') := by
      rw [← uTxt_big h]
      exact fun w => wbig u 2 w (by omega)
    go_enter Tryd.func24, Tryd.ntmps24
    go_wp2_with (go_at_call 39; refine (HB.out _).mono ?_; rintro e w1 ⟨rfl, hb1⟩)
    go_ret
    exact ⟨rfl, hb1⟩
theorem asbytes_int (u : Int) (big : Bool) (w : World) (h0 : 0 ≤ u) (h : u < 65536) : Calls Tryd.prog 24 #[.int .i32 u, .bool big] w fun e w' => e = .returned (.string (uTxt big u.toNat)) ∧ Ext w w' := by
  obtain ⟨n, rfl⟩ := Int.eq_ofNat_of_zero_le h0
  rw [Int.toNat_natCast]
  exact asbytes_nat n big w (by omega)
end Go.Proofs.YtdbjjadgmfgjfaaDoor
