/-
  Contracts of package wide (1): a unit, whether it is one of two, a sign.
-/
import Derived.Test.YtdbjjadgmfgjfaaDoorWdNum
import Derived.Test.YtdbjjadgmfgjfaaDoorOct3
namespace Go.Proofs.YtdbjjadgmfgjfaaDoor
open Go Go.ChangeShapes Go.WideShapes Go.ChangeAt Go.RowKit
set_option linter.unusedSimpArgs false
set_option linter.unusedVariables false

theorem extract_list (t : ByteArray) (r k : Nat) : (t.extract r (r + k)).data.toList = (t.data.toList.drop r).take k := by
  rw [ByteArray.data_extract, Array.toList_extract, List.extract]
  congr 1
  omega
/-- The unit at a place; 0, where there is none. -/
def unAt (big : Bool) (t : ByteArray) (r : Nat) : Nat := match t.data.toList.drop r with | x :: y :: _ => un big x y | _ => 0
theorem unAt_of {big : Bool} {t : ByteArray} {r : Nat} {x y : UInt8} {l : List UInt8} (h : t.data.toList.drop r = x :: y :: l) : unAt big t r = un big x y := by unfold unAt; rw [h]
theorem unAt_lt (big : Bool) (t : ByteArray) (r : Nat) : unAt big t r < 65536 := by
  unfold unAt
  split
  · exact un_lt _ _ _
  · decide
theorem drop_two {t : ByteArray} {r : Nat} (h : r + 2 ≤ t.size) : ∃ x y, t.data.toList.drop r = x :: y :: t.data.toList.drop (r + 2) := by
  have hl : t.data.toList.length = t.size := rfl
  refine ⟨t.data.toList[r]'(by omega), t.data.toList[r + 1]'(by omega), ?_⟩
  rw [List.drop_eq_getElem_cons (by omega : r < t.data.toList.length), List.drop_eq_getElem_cons (by omega : r + 1 < t.data.toList.length)]
theorem be_unAt {t : ByteArray} {r : Nat} (h : r + 2 ≤ t.size) : bePart t r 2 = unAt true t r := by
  obtain ⟨x, y, e⟩ := drop_two h
  rw [unAt_of e]
  unfold bePart
  rw [extract_list, e]
  simp [beN, un]
theorem le_unAt {t : ByteArray} {r : Nat} (h : r + 2 ≤ t.size) : lePart t r 2 = unAt false t r := by
  obtain ⟨x, y, e⟩ := drop_two h
  rw [unAt_of e]
  unfold lePart
  rw [extract_list, e]
  simp [leN, un]
  omega
theorem unit_none (big : Bool) (w : World) (b : Nat) (t : ByteArray) (r : Nat) (ba pl : Int) (H : Rdr w b t r ba 0 pl) (hn : (t.size : Int) - r < 2) : Calls Tryd.prog 46 #[.pointer (some ⟨b, 0, none⟩), .bool big] w fun e w' => e = .returned (.int .i32 (-1)) ∧ Ext w w' := by
  go_enter Tryd.func46, Tryd.ntmps46
  go_wp2_with (first | (go_at_call 31; refine (left_ok _ _ _ _ _ _ H).mono ?_; rintro e w1 ⟨rfl, hb1⟩))
  go_ret
  exact ⟨rfl, hb1⟩
theorem big2 (w : World) (b : Nat) (t : ByteArray) (r : Nat) (ba pl : Int) (H : Rdr w b t r ba 0 pl) (hn : r + 2 ≤ t.size) : Calls Tryd.prog 58 #[.pointer (some ⟨b, 0, none⟩), .int .i64 2] w fun e w' => e = .returned (.int .u64 (unAt true t r)) ∧ Rdr w' b t (r + 2) ba 0 pl ∧ Mod b w w' := by
  rw [← be_unAt hn]
  have hc : cw 2 = 2 := by decide
  have := big_ok 2 w b t r ba pl H (by rw [hc]; omega)
  rw [hc] at this
  exact this
theorem small2 (w : World) (b : Nat) (t : ByteArray) (r : Nat) (ba pl : Int) (H : Rdr w b t r ba 0 pl) (hn : r + 2 ≤ t.size) : Calls Tryd.prog 59 #[.pointer (some ⟨b, 0, none⟩), .int .i64 2] w fun e w' => e = .returned (.int .u64 (unAt false t r)) ∧ Rdr w' b t (r + 2) ba 0 pl ∧ Mod b w w' := by
  rw [← le_unAt hn]
  have hc : cw 2 = 2 := by decide
  have := small_ok 2 w b t r ba pl H (by rw [hc]; omega)
  rw [hc] at this
  exact this
theorem unit_big (w : World) (b : Nat) (t : ByteArray) (r : Nat) (ba pl : Int) (H : Rdr w b t r ba 0 pl) (hn : r + 2 ≤ t.size) : Calls Tryd.prog 46 #[.pointer (some ⟨b, 0, none⟩), .bool true] w fun e w' => e = .returned (.int .i32 (unAt true t r)) ∧ Rdr w' b t (r + 2) ba 0 pl ∧ Mod b w w' := by
  have hu := unAt_lt true t r
  have hg : ¬ (t.size : Int) - r < 2 := by omega
  have HB := Lib.hid (fun w H => big2 w b t r ba pl H hn)
  generalize unAt true t r = n at hu HB
  go_enter Tryd.func46, Tryd.ntmps46
  go_wp2_with (first | (go_at_call 31; refine (left_ok _ _ _ _ _ _ H).mono ?_; rintro e w1 ⟨rfl, hb1⟩; have H1 := H.ext hb1) | (go_at_call 58; refine (HB.out _ H1).mono ?_; rintro e w2 ⟨rfl, H2, hm⟩))
  go_ret
  exact ⟨by simp, H2, (Mod.of hb1).trans hm⟩
theorem unit_small (w : World) (b : Nat) (t : ByteArray) (r : Nat) (ba pl : Int) (H : Rdr w b t r ba 0 pl) (hn : r + 2 ≤ t.size) : Calls Tryd.prog 46 #[.pointer (some ⟨b, 0, none⟩), .bool false] w fun e w' => e = .returned (.int .i32 (unAt false t r)) ∧ Rdr w' b t (r + 2) ba 0 pl ∧ Mod b w w' := by
  have hu := unAt_lt false t r
  have hg : ¬ (t.size : Int) - r < 2 := by omega
  have HB := Lib.hid (fun w H => small2 w b t r ba pl H hn)
  generalize unAt false t r = n at hu HB
  go_enter Tryd.func46, Tryd.ntmps46
  go_wp2_with (first | (go_at_call 31; refine (left_ok _ _ _ _ _ _ H).mono ?_; rintro e w1 ⟨rfl, hb1⟩; have H1 := H.ext hb1) | (go_at_call 59; refine (HB.out _ H1).mono ?_; rintro e w2 ⟨rfl, H2, hm⟩))
  go_ret
  exact ⟨by simp, H2, (Mod.of hb1).trans hm⟩
theorem unit_ok (big : Bool) (w : World) (b : Nat) (t : ByteArray) (r : Nat) (ba pl : Int) (H : Rdr w b t r ba 0 pl) (hn : r + 2 ≤ t.size) : Calls Tryd.prog 46 #[.pointer (some ⟨b, 0, none⟩), .bool big] w fun e w' => e = .returned (.int .i32 (unAt big t r)) ∧ Rdr w' b t (r + 2) ba 0 pl ∧ Mod b w w' := by
  cases big
  · exact unit_small w b t r ba pl H hn
  · exact unit_big w b t r ba pl H hn
/-- Is it one of the units that begin at a number? -/
def half (u f : Int) : Bool := decide (f ≤ u ∧ u < f + 1024)
theorem half_any (u f : Int) (w : World) (hu : -1 ≤ u ∧ u < 65536) (hf : 0 ≤ f ∧ f < 65536) : Calls Tryd.prog 48 #[.int .i32 u, .int .i32 f] w fun e w' => e = .returned (.bool (half u f)) ∧ w = w' := by
  obtain ⟨hu0, hu1⟩ := hu
  obtain ⟨hf0, hf1⟩ := hf
  by_cases h1 : f ≤ u
  · by_cases h2 : u < f + 1024
    · have e : half u f = true := decide_eq_true ⟨h1, h2⟩
      rw [e]
      go_enter Tryd.func48, Tryd.ntmps48
      go_wp2
      go_ret
      exact ⟨by simp_all, rfl⟩
    · have e : half u f = false := decide_eq_false (fun h => h2 h.2)
      rw [e]
      go_enter Tryd.func48, Tryd.ntmps48
      go_wp2
      go_ret
      exact ⟨by simp_all, rfl⟩
  · have e : half u f = false := decide_eq_false (fun h => h1 h.1)
    rw [e]
    go_enter Tryd.func48, Tryd.ntmps48
    go_wp2
    go_ret
    exact ⟨by simp_all, rfl⟩
theorem half_hi (n : Nat) : half n 55296 = isHi n := by unfold half isHi; congr 1; exact propext ⟨fun h => by omega, fun h => by omega⟩
theorem half_lo (n : Nat) : half n 56320 = isLo n := by unfold half isLo; congr 1; exact propext ⟨fun h => by omega, fun h => by omega⟩
end Go.Proofs.YtdbjjadgmfgjfaaDoor
