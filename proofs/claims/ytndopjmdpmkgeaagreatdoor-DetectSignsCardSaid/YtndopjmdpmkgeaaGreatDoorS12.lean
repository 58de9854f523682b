/-
  What the proof of this claim leans on (S12).
-/
import Derived.Test.YtndopjmdpmkgeaaGreatDoorS3
import Derived.Test.YtndopjmdpmkgeaaGreatDoorS4
import Derived.Test.YtndopjmdpmkgeaaGreatDoorS9
import Derived.Test.YtndopjmdpmkgeaaGreatDoorS10
import Derived.Test.YtndopjmdpmkgeaaGreatDoorS11
import Derived.Deep.OwnRows
import Derived.Laws.BytesArg
namespace Go.Proofs.YtndopjmdpmkgeaaGreatDoor
open Go.ChangeShapes Go.WideShapes Go.ChangeAt Go.RowKit
set_option linter.unusedSimpArgs false
set_option linter.unusedVariables false

/-- A size, cut to 0 to 8. -/
def cw (s : Int) : Int := if s < 0 then 0 else if 8 < s then 8 else s
theorem cw_lo (s : Int) : 0 ≤ cw s := by unfold cw; split <;> (try split) <;> omega
theorem cw_hi (s : Int) : cw s ≤ 8 := by unfold cw; split <;> (try split) <;> omega
theorem width_any (s : Int) (w : World) : Calls Tryz.prog 175 #[.int .i64 s] w fun e w' => e = .returned (.int .i64 (cw s)) ∧ w = w' := by
  unfold cw
  split
  · exact width_low _ _ (by assumption)
  · split
    · exact width_high _ _ (by assumption)
    · exact width_in _ _ (by omega) (by omega)
theorem take_some (n : Int) (w : World) (b : Nat) (t : ByteArray) (r : Nat) (ba pl : Int) (H : Rdr w b t r ba 0 pl) (hn0 : 0 ≤ n) (hn : n ≤ t.size - r) : Calls Tryz.prog 212 #[.pointer (some ⟨b, 0, none⟩), .int .i64 n] w fun e w' => ∃ s : ByteArray, Hid (s = t.extract r (r + n.toNat)) ∧ Hid (s.size = n.toNat) ∧ e = .returned (.string s) ∧ Rdr w' b t (r + n.toNat) ba 0 pl ∧ Mod b w w' := by
  refine (take_ok n w b t r ba pl H hn0 hn).mono ?_
  rintro e w' ⟨rfl, h1, h2⟩
  refine ⟨_, rfl, ?_, rfl, h1, h2⟩
  show (t.extract r (r + n.toNat)).size = n.toNat
  have := H.le
  simp; omega
/-- The number of so many bytes of a text, from a place on, the highest first. -/
def bePart (t : ByteArray) (r k : Nat) : Nat := beN (t.extract r (r + k)).data.toList
set_option maxHeartbeats 400000 in
theorem big_ok (n : Int) (w : World) (b : Nat) (t : ByteArray) (r : Nat) (ba pl : Int) (H : Rdr w b t r ba 0 pl) (hn : cw n ≤ t.size - r) : Calls Tryz.prog 188 #[.pointer (some ⟨b, 0, none⟩), .int .i64 n] w fun e w' => e = .returned (.int .u64 (bePart t r (cw n).toNat)) ∧ Rdr w' b t (r + (cw n).toNat) ba 0 pl ∧ Mod b w w' := by
  have hl := cw_lo n
  have hh := cw_hi n
  go_enter Tryz.func188, Tryz.ntmps188
  go_wp2_with (first | (go_at_call 175; refine (width_any _ _).mono ?_; rintro e w1 ⟨rfl, rfl⟩) | (go_at_call 212; refine (take_some _ _ _ _ _ _ _ H hl hn).mono ?_; rintro e w2 ⟨s, HS, HZ, rfl, H2, hm⟩))
  have hsz : s.size ≤ 8 := by have := HZ.out; omega
  clear hl hh hn H HZ
  go_loop [6, 14] (fun q i => ∃ k : Nat, k ≤ s.size ∧ i = .int .i64 k ∧ q = .int .u64 (beN (s.data.toList.take k))) (fun _ i => s.size - (intOf i).toNat)
  case atStart => exact ⟨0, Nat.zero_le _, rfl, rfl⟩
  case round =>
    obtain ⟨k, hk, rfl, rfl⟩ := hrel
    by_cases hlt : k < s.size
    · go_wp2
      go_round
      case rel => 
        refine ⟨k + 1, by omega, by go_num, ?_⟩
        rw [be_step s k hlt hsz]
      case measure => simp [intOf]; omega
    · go_wp2
      go_ret
      have hk' : k = s.size := by omega
      subst hk'
      refine ⟨?_, H2, hm⟩
      unfold bePart
      rw [← HS.out]
      show Ending.returned (.int .u64 ↑(beN (s.data.toList.take s.size))) = _
      rw [List.take_of_length_le (by simp)]
/-- The number of so many bytes of a text, from a place on, the lowest first. -/
def lePart (t : ByteArray) (r k : Nat) : Nat := leN (t.extract r (r + k)).data.toList
set_option maxHeartbeats 400000 in
theorem small_ok (n : Int) (w : World) (b : Nat) (t : ByteArray) (r : Nat) (ba pl : Int) (H : Rdr w b t r ba 0 pl) (hn : cw n ≤ t.size - r) : Calls Tryz.prog 189 #[.pointer (some ⟨b, 0, none⟩), .int .i64 n] w fun e w' => e = .returned (.int .u64 (lePart t r (cw n).toNat)) ∧ Rdr w' b t (r + (cw n).toNat) ba 0 pl ∧ Mod b w w' := by
  have hl := cw_lo n
  have hh := cw_hi n
  go_enter Tryz.func189, Tryz.ntmps189
  go_wp2_with (first | (go_at_call 175; refine (width_any _ _).mono ?_; rintro e w1 ⟨rfl, rfl⟩) | (go_at_call 212; refine (take_some _ _ _ _ _ _ _ H hl hn).mono ?_; rintro e w2 ⟨s, HS, HZ, rfl, H2, hm⟩))
  have hsz : s.size ≤ 8 := by have := HZ.out; omega
  clear hl hh hn H HZ
  go_loop [6, 14] (fun q i => ∃ k : Nat, k ≤ s.size ∧ i = .int .i64 k ∧ q = .int .u64 (leN (s.data.toList.take k))) (fun _ i => s.size - (intOf i).toNat)
  case atStart => exact ⟨0, Nat.zero_le _, rfl, rfl⟩
  case round =>
    obtain ⟨k, hk, rfl, rfl⟩ := hrel
    by_cases hlt : k < s.size
    · go_wp2
      go_round
      case rel =>
        refine ⟨k + 1, by omega, by go_num, ?_⟩
        rw [le_step s k hlt hsz]
      case measure => simp [intOf]; omega
    · go_wp2
      go_ret
      have hk' : k = s.size := by omega
      subst hk'
      refine ⟨?_, H2, hm⟩
      unfold lePart
      rw [← HS.out]
      show Ending.returned (.int .u64 ↑(leN (s.data.toList.take s.size))) = _
      rw [List.take_of_length_le (by simp)]
end Go.Proofs.YtndopjmdpmkgeaaGreatDoor

namespace Go.Proofs.YtndopjmdpmkgeaaGreatDoor
open Go Go.ChangeShapes Go.WideShapes Go.ChangeAt Go.RowKit
set_option linter.unusedSimpArgs false
set_option linter.unusedVariables false

theorem extract_list (t : ByteArray) (r k : Nat) : (t.extract r (r + k)).data.toList = (t.data.toList.drop r).take k := by
  rw [ByteArray.data_extract, Array.toList_extract, List.extract]
  congr 1
  omega
/-- The unit at a place; 0, where there is none. -/
def unAt (big : Bool) (t : ByteArray) (r : Nat) : Nat := match t.data.toList.drop r with | x :: y :: _ => un big x y | _ => 0
theorem unAt_of {big : Bool} {t : ByteArray} {r : Nat} {x y : UInt8} {l : List UInt8} (h : t.data.toList.drop r = x :: y :: l) : unAt big t r = un big x y := by unfold unAt; rw [h]
theorem unAt_lt (big : Bool) (t : ByteArray) (r : Nat) : unAt big t r < 65536 := by
  unfold unAt
  split
  · exact un_lt _ _ _
  · decide
theorem drop_two {t : ByteArray} {r : Nat} (h : r + 2 ≤ t.size) : ∃ x y, t.data.toList.drop r = x :: y :: t.data.toList.drop (r + 2) := by
  have hl : t.data.toList.length = t.size := rfl
  refine ⟨t.data.toList[r]'(by omega), t.data.toList[r + 1]'(by omega), ?_⟩
  rw [List.drop_eq_getElem_cons (by omega : r < t.data.toList.length), List.drop_eq_getElem_cons (by omega : r + 1 < t.data.toList.length)]
theorem be_unAt {t : ByteArray} {r : Nat} (h : r + 2 ≤ t.size) : bePart t r 2 = unAt true t r := by
  obtain ⟨x, y, e⟩ := drop_two h
  rw [unAt_of e]
  unfold bePart
  rw [extract_list, e]
  simp [beN, un]
theorem le_unAt {t : ByteArray} {r : Nat} (h : r + 2 ≤ t.size) : lePart t r 2 = unAt false t r := by
  obtain ⟨x, y, e⟩ := drop_two h
  rw [unAt_of e]
  unfold lePart
  rw [extract_list, e]
  simp [leN, un]
  omega
theorem unit_none (big : Bool) (w : World) (b : Nat) (t : ByteArray) (r : Nat) (ba pl : Int) (H : Rdr w b t r ba 0 pl) (hn : (t.size : Int) - r < 2) : Calls Tryz.prog 154 #[.pointer (some ⟨b, 0, none⟩), .bool big] w fun e w' => e = .returned (.int .i32 (-1)) ∧ Ext w w' := by
  go_enter Tryz.func154, Tryz.ntmps154
  go_wp2_with (first | (go_at_call 115; refine (left_ok _ _ _ _ _ _ H).mono ?_; rintro e w1 ⟨rfl, hb1⟩))
  go_ret
  exact ⟨rfl, hb1⟩
theorem big2 (w : World) (b : Nat) (t : ByteArray) (r : Nat) (ba pl : Int) (H : Rdr w b t r ba 0 pl) (hn : r + 2 ≤ t.size) : Calls Tryz.prog 188 #[.pointer (some ⟨b, 0, none⟩), .int .i64 2] w fun e w' => e = .returned (.int .u64 (unAt true t r)) ∧ Rdr w' b t (r + 2) ba 0 pl ∧ Mod b w w' := by
  rw [← be_unAt hn]
  have hc : cw 2 = 2 := by decide
  have := big_ok 2 w b t r ba pl H (by rw [hc]; omega)
  rw [hc] at this
  exact this
theorem small2 (w : World) (b : Nat) (t : ByteArray) (r : Nat) (ba pl : Int) (H : Rdr w b t r ba 0 pl) (hn : r + 2 ≤ t.size) : Calls Tryz.prog 189 #[.pointer (some ⟨b, 0, none⟩), .int .i64 2] w fun e w' => e = .returned (.int .u64 (unAt false t r)) ∧ Rdr w' b t (r + 2) ba 0 pl ∧ Mod b w w' := by
  rw [← le_unAt hn]
  have hc : cw 2 = 2 := by decide
  have := small_ok 2 w b t r ba pl H (by rw [hc]; omega)
  rw [hc] at this
  exact this
theorem unit_big (w : World) (b : Nat) (t : ByteArray) (r : Nat) (ba pl : Int) (H : Rdr w b t r ba 0 pl) (hn : r + 2 ≤ t.size) : Calls Tryz.prog 154 #[.pointer (some ⟨b, 0, none⟩), .bool true] w fun e w' => e = .returned (.int .i32 (unAt true t r)) ∧ Rdr w' b t (r + 2) ba 0 pl ∧ Mod b w w' := by
  have hu := unAt_lt true t r
  have hg : ¬ (t.size : Int) - r < 2 := by omega
  have HB := Lib.hid (fun w H => big2 w b t r ba pl H hn)
  generalize unAt true t r = n at hu HB
  go_enter Tryz.func154, Tryz.ntmps154
  go_wp2_with (first | (go_at_call 115; refine (left_ok _ _ _ _ _ _ H).mono ?_; rintro e w1 ⟨rfl, hb1⟩; have H1 := H.ext hb1) | (go_at_call 188; refine (HB.out _ H1).mono ?_; rintro e w2 ⟨rfl, H2, hm⟩))
  go_ret
  exact ⟨by simp, H2, (Mod.of hb1).trans hm⟩
theorem unit_small (w : World) (b : Nat) (t : ByteArray) (r : Nat) (ba pl : Int) (H : Rdr w b t r ba 0 pl) (hn : r + 2 ≤ t.size) : Calls Tryz.prog 154 #[.pointer (some ⟨b, 0, none⟩), .bool false] w fun e w' => e = .returned (.int .i32 (unAt false t r)) ∧ Rdr w' b t (r + 2) ba 0 pl ∧ Mod b w w' := by
  have hu := unAt_lt false t r
  have hg : ¬ (t.size : Int) - r < 2 := by omega
  have HB := Lib.hid (fun w H => small2 w b t r ba pl H hn)
  generalize unAt false t r = n at hu HB
  go_enter Tryz.func154, Tryz.ntmps154
  go_wp2_with (first | (go_at_call 115; refine (left_ok _ _ _ _ _ _ H).mono ?_; rintro e w1 ⟨rfl, hb1⟩; have H1 := H.ext hb1) | (go_at_call 189; refine (HB.out _ H1).mono ?_; rintro e w2 ⟨rfl, H2, hm⟩))
  go_ret
  exact ⟨by simp, H2, (Mod.of hb1).trans hm⟩
theorem unit_ok (big : Bool) (w : World) (b : Nat) (t : ByteArray) (r : Nat) (ba pl : Int) (H : Rdr w b t r ba 0 pl) (hn : r + 2 ≤ t.size) : Calls Tryz.prog 154 #[.pointer (some ⟨b, 0, none⟩), .bool big] w fun e w' => e = .returned (.int .i32 (unAt big t r)) ∧ Rdr w' b t (r + 2) ba 0 pl ∧ Mod b w w' := by
  cases big
  · exact unit_small w b t r ba pl H hn
  · exact unit_big w b t r ba pl H hn
/-- Is it one of the units that begin at a number? -/
def half (u f : Int) : Bool := decide (f ≤ u ∧ u < f + 1024)
theorem half_any (u f : Int) (w : World) (hu : -1 ≤ u ∧ u < 65536) (hf : 0 ≤ f ∧ f < 65536) : Calls Tryz.prog 155 #[.int .i32 u, .int .i32 f] w fun e w' => e = .returned (.bool (half u f)) ∧ w = w' := by
  obtain ⟨hu0, hu1⟩ := hu
  obtain ⟨hf0, hf1⟩ := hf
  by_cases h1 : f ≤ u
  · by_cases h2 : u < f + 1024
    · have e : half u f = true := decide_eq_true ⟨h1, h2⟩
      rw [e]
      go_enter Tryz.func155, Tryz.ntmps155
      go_wp2
      go_ret
      exact ⟨by simp_all, rfl⟩
    · have e : half u f = false := decide_eq_false (fun h => h2 h.2)
      rw [e]
      go_enter Tryz.func155, Tryz.ntmps155
      go_wp2
      go_ret
      exact ⟨by simp_all, rfl⟩
  · have e : half u f = false := decide_eq_false (fun h => h1 h.1)
    rw [e]
    go_enter Tryz.func155, Tryz.ntmps155
    go_wp2
    go_ret
    exact ⟨by simp_all, rfl⟩
theorem half_hi (n : Nat) : half n 55296 = isHi n := by unfold half isHi; congr 1; exact propext ⟨fun h => by omega, fun h => by omega⟩
theorem half_lo (n : Nat) : half n 56320 = isLo n := by unfold half isLo; congr 1; exact propext ⟨fun h => by omega, fun h => by omega⟩
end Go.Proofs.YtndopjmdpmkgeaaGreatDoor

namespace Go.Proofs.YtndopjmdpmkgeaaGreatDoor
open Go Go.ChangeShapes Go.WideShapes Go.ChangeAt Go.RowKit
set_option linter.unusedSimpArgs false
set_option linter.unusedVariables false

theorem scalar_yes (p : Int) (h : isSign p = true) (w : World) : Calls Tryz.prog 124 #[.int .i32 p] w fun e w' => e = .returned (.bool true) ∧ w = w' := by
  have := scalar_any p w
  rwa [h] at this
theorem scalar_no (p : Int) (h : isSign p = false) (w : World) : Calls Tryz.prog 124 #[.int .i32 p] w fun e w' => e = .returned (.bool false) ∧ w = w' := by
  have := scalar_any p w
  rwa [h] at this
theorem half_at {u f : Int} {c : Bool} (h : half u f = c) (hu : -1 ≤ u ∧ u < 65536) (hf : 0 ≤ f ∧ f < 65536) (w : World) : Calls Tryz.prog 155 #[.int .i32 u, .int .i32 f] w fun e w' => e = .returned (.bool c) ∧ w = w' := by
  have := half_any u f w hu hf
  rwa [h] at this
theorem sign_one (big : Bool) (w : World) (b : Nat) (t : ByteArray) (r : Nat) (ba pl : Int) (H : Rdr w b t r ba 0 pl) (hn : r + 2 ≤ t.size) (hs : isSign (unAt big t r) = true) : Calls Tryz.prog 116 #[.pointer (some ⟨b, 0, none⟩), .bool big] w fun e w' => e = .returned (.int .i32 (unAt big t r)) ∧ Rdr w' b t (r + 2) ba 0 pl ∧ Mod b w w' := by
  have HU := Lib.hid (fun w H => unit_ok big w b t r ba pl H hn)
  have HS := Lib.hid (fun w => scalar_yes _ hs w)
  clear hs
  generalize unAt big t r = n at HU HS
  go_enter Tryz.func116, Tryz.ntmps116
  go_wp2_with (first | (go_at_call 153; refine (at_any _ _ _ _ _ _ _ H).mono ?_; rintro e w1 ⟨rfl, hb1⟩; have H1 := H.ext hb1) | (go_at_call 154; refine (HU.out _ H1).mono ?_; rintro e w2 ⟨rfl, H2, hm⟩) | (go_at_call 124; refine (HS.out _).mono ?_; rintro e w3 ⟨rfl, rfl⟩))
  go_ret
  exact ⟨rfl, H2, (Mod.of hb1).trans hm⟩
set_option maxHeartbeats 400000 in
theorem sign_two (big : Bool) (w : World) (b : Nat) (t : ByteArray) (r : Nat) (ba pl : Int) (H : Rdr w b t r ba 0 pl) (hn : r + 4 ≤ t.size) (h1 : isHi (unAt big t r) = true) (h2 : isLo (unAt big t (r + 2)) = true) : Calls Tryz.prog 116 #[.pointer (some ⟨b, 0, none⟩), .bool big] w fun e w' => e = .returned (.int .i32 (pairOf (unAt big t r) (unAt big t (r + 2)))) ∧ Rdr w' b t (r + 4) ba 0 pl ∧ Mod b w w' := by
  have HU := Lib.hid (fun w H => unit_ok big w b t r ba pl H (by omega))
  have HV := Lib.hid (fun w H => unit_ok big w b t (r + 2) ba pl H (by omega))
  have hs := hi_not h1
  have HS := Lib.hid (fun w => scalar_no _ hs w)
  have g1 := (isHi_iff _).1 h1
  have g2 := (isLo_iff _).1 h2
  have HA := Lib.hid (fun w => half_at ((half_hi _).trans h1) (by omega) (by decide) w)
  have HB := Lib.hid (fun w => half_at ((half_lo _).trans h2) (by omega) (by decide) w)
  clear hs h1 h2
  generalize unAt big t r = m at HU HS HA g1
  generalize unAt big t (r + 2) = n at HV HB g2
  go_enter Tryz.func116, Tryz.ntmps116
  go_wp2_with (first | (go_at_call 153; refine (at_any _ _ _ _ _ _ _ H).mono ?_; rintro e w1 ⟨rfl, hb1⟩; have H1 := H.ext hb1; clear H) | (go_at_call 154; refine (HU.out _ H1).mono ?_; rintro e w2 ⟨rfl, H2, hm⟩; clear H1) | (go_at_call 154; refine (HV.out _ H2).mono ?_; rintro e w3 ⟨rfl, H3, hm3⟩; clear H2) | (go_at_call 124; refine (HS.out _).mono ?_; rintro e wx ⟨rfl, rfl⟩) | (go_at_call 155; refine (HA.out _).mono ?_; rintro e wx ⟨rfl, rfl⟩; clear HA) | (go_at_call 155; refine (HB.out _).mono ?_; rintro e wx ⟨rfl, rfl⟩))
  go_ret
  refine ⟨?_, H3, (Mod.of hb1).trans (hm.trans hm3)⟩
  unfold pairOf
  congr 2
/-- A sign that isn't there: one unit, or none, or two that aren't one's. -/
theorem sign_none (big : Bool) (w : World) (b : Nat) (t : ByteArray) (r : Nat) (ba pl : Int) (H : Rdr w b t r ba 0 pl) (hn : (t.size : Int) - r < 2) : Calls Tryz.prog 116 #[.pointer (some ⟨b, 0, none⟩), .bool big] w fun e w' => e = .returned (.int .i32 0) ∧ Rdr w' b t r ba 2 (ba + r) ∧ Mod b w w' := by
  have HU := Lib.hid (fun w H => unit_none big w b t r ba pl H hn)
  have HS := Lib.hid (fun w => scalar_no (-1) (by decide) w)
  have HA := Lib.hid (fun w => half_at (u := -1) (f := 55296) (c := false) (by decide) (by decide) (by decide) w)
  go_enter Tryz.func116, Tryz.ntmps116
  go_wp2_with (first | (go_at_call 153; refine (at_any _ _ _ _ _ _ _ H).mono ?_; rintro e w1 ⟨rfl, hb1⟩; have H1 := H.ext hb1; clear H) | (go_at_call 154; refine (HU.out _ H1).mono ?_; rintro e w2 ⟨rfl, hb2⟩; have H2 := H1.ext hb2; clear H1) | (go_at_call 154; refine (HU.out _ H2).mono ?_; rintro e w3 ⟨rfl, hb3⟩; have H3 := H2.ext hb3; clear H2) | (go_at_call 124; refine (HS.out _).mono ?_; rintro e wx ⟨rfl, rfl⟩) | (go_at_call 155; refine (HA.out _).mono ?_; rintro e wx ⟨rfl, rfl⟩) | (go_at_call 156; refine (fail_ok _ _ _ _ _ _ _ _ H3 (by decide)).mono ?_; rintro e w4 ⟨rfl, H4, hm4⟩))
  go_ret
  exact ⟨rfl, H4, (Mod.of ((hb1.trans hb2).trans hb3)).trans hm4⟩
theorem sign_half (big : Bool) (w : World) (b : Nat) (t : ByteArray) (r : Nat) (ba pl : Int) (H : Rdr w b t r ba 0 pl) (hn : r + 2 ≤ t.size) (hn2 : (t.size : Int) - (r + 2 : Nat) < 2) (hs : isSign (unAt big t r) = false) : Calls Tryz.prog 116 #[.pointer (some ⟨b, 0, none⟩), .bool big] w fun e w' => e = .returned (.int .i32 0) ∧ Rdr w' b t (r + 2) ba 2 (ba + r) ∧ Mod b w w' := by
  have HU := Lib.hid (fun w H => unit_ok big w b t r ba pl H hn)
  have HV := Lib.hid (fun w H => unit_none big w b t (r + 2) ba pl H hn2)
  have HS := Lib.hid (fun w => scalar_no _ hs w)
  have hlt := unAt_lt big t r
  obtain ⟨c, hc⟩ : ∃ c, half (unAt big t r) 55296 = c := ⟨_, rfl⟩
  have HA := Lib.hid (fun w => half_at hc (by omega) (by decide) w)
  have HB := Lib.hid (fun w => half_at (u := -1) (f := 56320) (c := false) (by decide) (by decide) (by decide) w)
  clear hs hc hn2 hn
  generalize unAt big t r = m at HU HS HA hlt
  cases c
  · go_enter Tryz.func116, Tryz.ntmps116
    go_wp2_with (first | (go_at_call 153; refine (at_any _ _ _ _ _ _ _ H).mono ?_; rintro e w1 ⟨rfl, hb1⟩; have H1 := H.ext hb1; clear H) | (go_at_call 154; refine (HU.out _ H1).mono ?_; rintro e w2 ⟨rfl, H2, hm2⟩; clear H1) | (go_at_call 154; refine (HV.out _ H2).mono ?_; rintro e w3 ⟨rfl, hb3⟩; have H3 := H2.ext hb3; clear H2) | (go_at_call 124; refine (HS.out _).mono ?_; rintro e wx ⟨rfl, rfl⟩) | (go_at_call 155; refine (HA.out _).mono ?_; rintro e wx ⟨rfl, rfl⟩; clear HA) | (go_at_call 155; refine (HB.out _).mono ?_; rintro e wx ⟨rfl, rfl⟩) | (go_at_call 156; refine (fail_ok _ _ _ _ _ _ _ _ H3 (by decide)).mono ?_; rintro e w4 ⟨rfl, H4, hm4⟩))
    go_ret
    exact ⟨rfl, H4, ((Mod.of hb1).trans hm2).trans ((Mod.of hb3).trans hm4)⟩
  · go_enter Tryz.func116, Tryz.ntmps116
    go_wp2_with (first | (go_at_call 153; refine (at_any _ _ _ _ _ _ _ H).mono ?_; rintro e w1 ⟨rfl, hb1⟩; have H1 := H.ext hb1; clear H) | (go_at_call 154; refine (HU.out _ H1).mono ?_; rintro e w2 ⟨rfl, H2, hm2⟩; clear H1) | (go_at_call 154; refine (HV.out _ H2).mono ?_; rintro e w3 ⟨rfl, hb3⟩; have H3 := H2.ext hb3; clear H2) | (go_at_call 124; refine (HS.out _).mono ?_; rintro e wx ⟨rfl, rfl⟩) | (go_at_call 155; refine (HA.out _).mono ?_; rintro e wx ⟨rfl, rfl⟩; clear HA) | (go_at_call 155; refine (HB.out _).mono ?_; rintro e wx ⟨rfl, rfl⟩) | (go_at_call 156; refine (fail_ok _ _ _ _ _ _ _ _ H3 (by decide)).mono ?_; rintro e w4 ⟨rfl, H4, hm4⟩))
    go_ret
    exact ⟨rfl, H4, ((Mod.of hb1).trans hm2).trans ((Mod.of hb3).trans hm4)⟩
theorem sign_no (big : Bool) (w : World) (b : Nat) (t : ByteArray) (r : Nat) (ba pl : Int) (H : Rdr w b t r ba 0 pl) (hn : r + 4 ≤ t.size) (hs : isSign (unAt big t r) = false) (hh : (isHi (unAt big t r) && isLo (unAt big t (r + 2))) = false) : Calls Tryz.prog 116 #[.pointer (some ⟨b, 0, none⟩), .bool big] w fun e w' => e = .returned (.int .i32 0) ∧ Rdr w' b t (r + 4) ba 2 (ba + r) ∧ Mod b w w' := by
  have HU := Lib.hid (fun w H => unit_ok big w b t r ba pl H (by omega))
  have HV := Lib.hid (fun w H => unit_ok big w b t (r + 2) ba pl H (by omega))
  have HS := Lib.hid (fun w => scalar_no _ hs w)
  have hlt := unAt_lt big t r
  have hlt2 := unAt_lt big t (r + 2)
  obtain ⟨c, hc⟩ : ∃ c, isHi (unAt big t r) = c := ⟨_, rfl⟩
  obtain ⟨d, hd⟩ : ∃ d, isLo (unAt big t (r + 2)) = d := ⟨_, rfl⟩
  rw [hc, hd] at hh
  have HA := Lib.hid (fun w => half_at ((half_hi _).trans hc) (by omega) (by decide) w)
  have HB := Lib.hid (fun w => half_at ((half_lo _).trans hd) (by omega) (by decide) w)
  clear hs hc hd hn
  generalize unAt big t r = m at HU HS HA hlt
  generalize unAt big t (r + 2) = n at HV HB hlt2
  cases c
  · clear hh
    go_enter Tryz.func116, Tryz.ntmps116
    go_wp2_with (first | (go_at_call 153; refine (at_any _ _ _ _ _ _ _ H).mono ?_; rintro e w1 ⟨rfl, hb1⟩; have H1 := H.ext hb1; clear H) | (go_at_call 154; refine (HU.out _ H1).mono ?_; rintro e w2 ⟨rfl, H2, hm2⟩; clear H1) | (go_at_call 154; refine (HV.out _ H2).mono ?_; rintro e w3 ⟨rfl, H3, hm3⟩; clear H2) | (go_at_call 124; refine (HS.out _).mono ?_; rintro e wx ⟨rfl, rfl⟩) | (go_at_call 155; refine (HA.out _).mono ?_; rintro e wx ⟨rfl, rfl⟩; clear HA) | (go_at_call 155; refine (HB.out _).mono ?_; rintro e wx ⟨rfl, rfl⟩) | (go_at_call 156; refine (fail_ok _ _ _ _ _ _ _ _ H3 (by decide)).mono ?_; rintro e w4 ⟨rfl, H4, hm4⟩))
    go_ret
    exact ⟨rfl, H4, ((Mod.of hb1).trans hm2).trans (hm3.trans hm4)⟩
  · cases d
    · clear hh
      go_enter Tryz.func116, Tryz.ntmps116
      go_wp2_with (first | (go_at_call 153; refine (at_any _ _ _ _ _ _ _ H).mono ?_; rintro e w1 ⟨rfl, hb1⟩; have H1 := H.ext hb1; clear H) | (go_at_call 154; refine (HU.out _ H1).mono ?_; rintro e w2 ⟨rfl, H2, hm2⟩; clear H1) | (go_at_call 154; refine (HV.out _ H2).mono ?_; rintro e w3 ⟨rfl, H3, hm3⟩; clear H2) | (go_at_call 124; refine (HS.out _).mono ?_; rintro e wx ⟨rfl, rfl⟩) | (go_at_call 155; refine (HA.out _).mono ?_; rintro e wx ⟨rfl, rfl⟩; clear HA) | (go_at_call 155; refine (HB.out _).mono ?_; rintro e wx ⟨rfl, rfl⟩) | (go_at_call 156; refine (fail_ok _ _ _ _ _ _ _ _ H3 (by decide)).mono ?_; rintro e w4 ⟨rfl, H4, hm4⟩))
      go_ret
      exact ⟨rfl, H4, ((Mod.of hb1).trans hm2).trans (hm3.trans hm4)⟩
    · cases hh
/-- What a reader has left, as signs. -/
def wdAt (big : Bool) (t : ByteArray) (r : Nat) : List Int × Int := wd big r (t.data.toList.drop r)
/-- What became of a reader, of which a sign was to be read: it stands behind it; or it has a fault, where it stood. -/
def SignTo (big : Bool) (t : ByteArray) (r : Nat) (p : Int) (r' : Nat) (er pl : Int) : Prop :=
  (er = 0 ∧ r < r' ∧ wdAt big t r = (p :: (wdAt big t r').1, (wdAt big t r').2)) ∨ (er = 2 ∧ pl = r ∧ wdAt big t r = ([], (r : Int)))
theorem sign_any (big : Bool) (w : World) (b : Nat) (t : ByteArray) (r : Nat) (pl : Int) (H : Rdr w b t r 0 0 pl) (hr : r < t.size) : Calls Tryz.prog 116 #[.pointer (some ⟨b, 0, none⟩), .bool big] w fun e w' => ∃ (p : Int) (r' : Nat) (er pl' : Int), e = .returned (.int .i32 p) ∧ Rdr w' b t r' 0 er pl' ∧ Mod b w w' ∧ Hid (SignTo big t r p r' er pl') := by
  have hl : t.data.toList.length = t.size := rfl
  have hlen : (t.data.toList.drop r).length = t.size - r := by rw [List.length_drop]; rfl
  refine wd_cases big r (t.data.toList.drop r) (fun e => ?_) (fun x e => ?_) (fun x y l e h => ?_) (fun x y x2 y2 l e h h1 h2 => ?_) (fun x y x2 y2 l e h h1 => ?_) (fun x y l e h h1 => ?_)
  · rw [e] at hlen; simp at hlen; omega
  · rw [e] at hlen
    simp at hlen
    refine (sign_none big w b t r 0 pl H (by omega)).mono ?_
    rintro e' w' ⟨rfl, h1, h2⟩
    exact ⟨0, r, 2, _, rfl, h1, h2, .inr ⟨rfl, by omega, by unfold wdAt; rw [e, wd_one]⟩⟩
  · rw [e] at hlen
    simp at hlen
    have hu : unAt big t r = un big x y := unAt_of e
    have hd : t.data.toList.drop (r + 2) = l := by
      obtain ⟨x', y', e2⟩ := drop_two (t := t) (r := r) (by omega)
      rw [e2] at e
      simp at e
      exact e.2.2
    refine (sign_one big w b t r 0 pl H (by omega) (by rw [hu]; exact h)).mono ?_
    rintro e' w' ⟨rfl, h1, h2⟩
    exact ⟨_, r + 2, 0, _, rfl, h1, h2, .inl ⟨rfl, by omega, by unfold wdAt; rw [e, wd_sign big r x y l h, hd, hu]⟩⟩
  · rw [e] at hlen
    simp at hlen
    have hu : unAt big t r = un big x y := unAt_of e
    have hd : t.data.toList.drop (r + 2) = x2 :: y2 :: l := by
      obtain ⟨x', y', e2⟩ := drop_two (t := t) (r := r) (by omega)
      rw [e2] at e
      simp at e
      exact e.2.2
    have hu2 : unAt big t (r + 2) = un big x2 y2 := unAt_of hd
    have hd2 : t.data.toList.drop (r + 4) = l := by
      obtain ⟨x', y', e2⟩ := drop_two (t := t) (r := r + 2) (by omega)
      rw [e2] at hd
      simp at hd
      exact hd.2.2
    refine (sign_two big w b t r 0 pl H (by omega) (by rw [hu]; exact h1) (by rw [hu2]; exact h2)).mono ?_
    rintro e' w' ⟨rfl, g1, g2⟩
    exact ⟨_, r + 4, 0, _, rfl, g1, g2, .inl ⟨rfl, by omega, by unfold wdAt; rw [e, wd_two big r x y x2 y2 l h h1 h2, hd2, hu, hu2]⟩⟩
  · rw [e] at hlen
    simp at hlen
    have hu : unAt big t r = un big x y := unAt_of e
    have hd : t.data.toList.drop (r + 2) = x2 :: y2 :: l := by
      obtain ⟨x', y', e2⟩ := drop_two (t := t) (r := r) (by omega)
      rw [e2] at e
      simp at e
      exact e.2.2
    have hu2 : unAt big t (r + 2) = un big x2 y2 := unAt_of hd
    refine (sign_no big w b t r 0 pl H (by omega) (by rw [hu]; exact h) (by rw [hu, hu2]; exact h1)).mono ?_
    rintro e' w' ⟨rfl, g1, g2⟩
    exact ⟨0, r + 4, 2, _, rfl, g1, g2, .inr ⟨rfl, by omega, by unfold wdAt; rw [e, wd_no big r x y x2 y2 l h h1]⟩⟩
  · rw [e] at hlen
    simp at hlen
    have hu : unAt big t r = un big x y := unAt_of e
    refine (sign_half big w b t r 0 pl H (by omega) (by omega) (by rw [hu]; exact h)).mono ?_
    rintro e' w' ⟨rfl, g1, g2⟩
    exact ⟨0, r + 2, 2, _, rfl, g1, g2, .inr ⟨rfl, by omega, by unfold wdAt; rw [e, wd_end big r x y l h h1]⟩⟩
end Go.Proofs.YtndopjmdpmkgeaaGreatDoor

namespace Go.Proofs.YtndopjmdpmkgeaaGreatDoor
open Go Go.ChangeShapes Go.WideShapes Go.ChangeAt Go.RowKit
set_option linter.unusedSimpArgs false
set_option linter.unusedVariables false

theorem own_mod {w w' : World} {B : Nat} {e : TypeId} {size : Nat} {v : Value} {n : Nat} {xs : List Value} {b : Nat} (h : w.ownsRow B e size v n xs) (k : Mod b w w') (hb : b < B) : w'.ownsRow B e size v n xs :=
  h.kept (row := some b) k (by
    cases hv : v.ownBlock with
    | none => exact .inl rfl
    | some g =>
      refine .inr ?_
      have := (h.lt g hv).1
      intro e
      obtain rfl : g = b := by simpa using e
      omega)
theorem Mod.own {b : Nat} {W w w' : World} {o : Obj} {B : Nat} {e : TypeId} {size : Nat} {v : Value} {n : Nat} {xs : List Value} (h : Mod b W w) (hown : w.ownsRow B e size v n xs) (hB : W.heap.size ≤ B) (hg : (w.alloc o).grownBy w' v.ownBlock) : Mod b W w' := by
  have h1 := h.alloc o
  refine ⟨hg.os.trans h1.os, hg.tape.trans h1.tape, hg.output.trans h1.output, Nat.le_trans h1.size hg.size, fun i hi hn => ?_⟩
  rw [hg.block i (Nat.lt_of_lt_of_le hi h1.size) (fun e => by
    have := (hown.lt i e.symm).1
    omega)]
  exact h1.block i hi hn
theorem block_own {w w' : World} {o : Obj} {B : Nat} {e : TypeId} {size : Nat} {v : Value} {n : Nat} {xs : List Value} {k : Nat} {x : Obj} (hown : w.ownsRow B e size v n xs) (hg : (w.alloc o).grownBy w' v.ownBlock) (hk : w.heap[k]? = some x) (hB : k < B) : w'.heap[k]? = some x := by
  have hlt := lt_of_block hk
  rw [hg.block k (by simp; omega) (fun e => by
    have := (hown.lt k e.symm).1
    omega), Below.heap_alloc _ _ _ hlt]
  exact hk
theorem Rdr.block {w w' : World} {b : Nat} {t : ByteArray} {r : Nat} {ba er pl : Int} (h : Rdr w b t r ba er pl) (k : w'.heap[b]? = w.heap[b]?) : Rdr w' b t r ba er pl :=
  ⟨k.trans h.here, h.le, h.small, h.lo, h.hi⟩
theorem Mod.set {b : Nat} {W w : World} (h : Mod b W w) {a : Addr} (ha : W.heap.size ≤ a.block) (u : Value) : Mod b W (w.setCell a u) :=
  ⟨h.os, h.tape, h.output, by simpa [World.setCell] using h.size, fun i hi hn => (Below.heap_setCell w a u i (by omega)).trans (h.block i hi hn)⟩
/-- What a reader without a fault has left, and one; 0, where it has one. -/
def rdLeft (w : World) (b : Nat) (t : ByteArray) : Nat := if intOf ((w.cell? ⟨b, 3, none⟩).getD (.bool false)) = 0 then t.size + 1 - (intOf ((w.cell? ⟨b, 1, none⟩).getD (.bool false))).toNat else 0
theorem Rdr.left_is {w : World} {b : Nat} {t : ByteArray} {r : Nat} {ba er pl : Int} (h : Rdr w b t r ba er pl) : rdLeft w b t = if er = 0 then t.size + 1 - r else 0 := by
  obtain ⟨c0, c1, c2, c3, c4⟩ := h.cells
  unfold rdLeft
  rw [c1, c3]
  show (if er = 0 then t.size + 1 - (r : Int).toNat else 0) = _
  rw [Int.toNat_natCast]
/-- How far a text is read as signs: those that are read, and what is left; or where there is none. -/
def DecTo (big : Bool) (t : ByteArray) (zs : List Int) (a0 : Int) (r : Nat) (er pl : Int) (dn : List Int) : Prop :=
  (er = 0 ∧ dn.length ≤ r ∧ dn ++ (wdAt big t r).1 = zs ∧ (wdAt big t r).2 = a0) ∨ (er = 2 ∧ pl = a0 ∧ 0 ≤ a0)
theorem DecTo.step {big : Bool} {t : ByteArray} {zs : List Int} {a0 : Int} {r : Nat} {dn : List Int} {p : Int} {r' : Nat} {er pl' : Int} (h1 : dn.length ≤ r) (h2 : dn ++ (wdAt big t r).1 = zs) (h3 : (wdAt big t r).2 = a0) (k : SignTo big t r p r' er pl') : DecTo big t zs a0 r' er pl' (dn ++ [p]) := by
  rcases k with ⟨rfl, k1, k2⟩ | ⟨rfl, rfl, k2⟩
  · rw [k2] at h2 h3
    exact .inl ⟨rfl, by simp; omega, by simpa using h2, h3⟩
  · rw [k2] at h3
    exact .inr ⟨rfl, h3, by rw [← h3]; exact Int.natCast_nonneg r⟩
theorem SignTo.less {big : Bool} {t : ByteArray} {r : Nat} {p : Int} {r' : Nat} {er pl' : Int} (k : SignTo big t r p r' er pl') (hr' : r' ≤ t.size) (hr : r < t.size) : (if er = 0 then t.size + 1 - r' else 0) < t.size + 1 - r := by
  rcases k with ⟨rfl, k1, k2⟩ | ⟨rfl, k1, k2⟩
  · rw [if_pos rfl]; omega
  · rw [if_neg (by decide)]; omega
/-- The text of what a reader has left; none, where there is a place without a sign. -/
def wtxt (zs : List Int) (a : Int) : ByteArray := if a < 0 then txt zs else ⟨#[]⟩
theorem text_at {w0 w : World} {a : Option Addr} {cap : Nat} {zs : List Int} (h : IsRow w0 a zs.length cap zs) (hx : Ext w0 w) (hl : zs.length ≤ 1099511627776) (hs : allSigns zs = true) :
    Calls Tryz.prog 76 #[.slice a zs.length cap] w fun e w' => e = .returned (.tuple #[.string (txt zs), .bool true]) ∧ Ext w w' := by
  have := text_row h hx hl
  rwa [textOut_yes hs, hs] at this
set_option maxRecDepth 100000 in
set_option maxHeartbeats 2000000 in
theorem decode_rd (big : Bool) (w : World) (b : Nat) (t : ByteArray) (r : Nat) (pl : Int) (H : Rdr w b t r 0 0 pl) (zs : List Int) (a0 : Int) (hz : (wdAt big t r).1 = zs) (ha : (wdAt big t r).2 = a0) :
    Calls Tryz.prog 68 #[.pointer (some ⟨b, 0, none⟩), .bool big] w fun e w' => e = .returned (.tuple #[.string (wtxt zs a0), .agg #[.int .i64 (fNum a0), .int .i64 (fPlace a0)]]) ∧ Mod b w w' := by
  have hsm := H.small
  have hle := H.le
  have hbl := H.lt
  have hd0 : DecTo big t zs a0 r 0 pl [] := .inl ⟨rfl, by simp, by simpa using hz, ha⟩
  have hsg : allSigns zs = true := by rw [← hz]; exact wd_signs big _ _ _ (Nat.le_refl _)
  have hzl : zs.length ≤ t.size := by
    have h1 := wd_len big _ r (t.data.toList.drop r) (Nat.le_refl _)
    have h2 : (wd big r (t.data.toList.drop r)).1 = zs := hz
    rw [h2, List.length_drop] at h1
    have h3 : t.data.toList.length = t.size := rfl
    omega
  have HD := Lib.hid hd0
  have HSG := Lib.hid hsg
  clear hd0 hsg hz ha
  obtain ⟨i0, hi, hz0, hz1, hz2⟩ := info_parts_i32
  have hq : ((t.size : Int) - r) / 2 = (((t.size - r) / 2 : Nat) : Int) := by omega
  obtain ⟨k, hk⟩ : ∃ k, (t.size - r) / 2 = k := ⟨_, rfl⟩
  rw [hk] at hq
  have hkl : k ≤ 1099511627776 := by omega
  clear hk
  have HK : Hid (∀ w : World, ∃ w', (Instr.makeSlice 58 (.int .i64 0) (.int .i64 (((t.size : Int) - r) / 2))).run Tryz.prog w = .ok (.slice (some ⟨w.heap.size, 0, none⟩) 0 k) w' ∧
    (∀ B, B ≤ w.heap.size → w'.ownsRow B 21 1 (.slice (some ⟨w.heap.size, 0, none⟩) 0 k) 0 []) ∧ w.grownBy w' none) := by rw [hq]; exact fun w => make_runes k hkl w
  clear hq
  go_enter Tryz.func68, Tryz.ntmps68
  go_wp2_with (first | (go_at_call 115; refine (left_ok _ _ _ _ _ _ (H.ext ((Ext.refl w).alloc _))).mono ?_; rintro e w1 ⟨rfl, hb1⟩; have H1 := (H.ext ((Ext.refl w).alloc _)).ext hb1; have hF := (hb1.block w.heap.size (by simp)).trans (heap_alloc_new w (.cells #[.int .i64 0, .int .i64 0] 54)); have hx1 := Mod.of (b := b) (((Ext.refl w).alloc _).trans hb1); have hs1 := hb1.size; clear H hb1; obtain ⟨wm, hmk, hown, hgm⟩ := HK.out w1))
  have hs1 : w.heap.size + 1 ≤ w1.heap.size := by simpa using hs1
  have hown := hown (w.heap.size + 1) hs1
  have hxm : Ext w1 wm := Below.grown (Ext.refl w1) hgm (Nat.le_refl _) (by rintro k ⟨⟩)
  have hF2 := (hxm.block _ (lt_of_block hF)).trans hF
  have H2 := H1.ext hxm
  have hx2 := hx1.trans (Mod.of hxm)
  clear hgm hmk hF H1 hx1 hxm hs1
  go_loopw [6] (fun v wr => ∃ (r : Nat) (er pl : Int) (dn : List Int), Rdr wr b t r 0 er pl ∧ Mod b w wr ∧ wr.heap[w.heap.size]? = some (.cells #[.int .i64 0, .int .i64 0] 54 (0, 0)) ∧ wr.ownsRow (w.heap.size + 1) 21 1 v dn.length (runeCellsOf dn) ∧ Hid (DecTo big t zs a0 r er pl dn)) (fun _ wr => rdLeft wr b t)
  case atStart => exact ⟨r, 0, pl, [], H2, hx2, hF2, hown, HD⟩
  case round =>
    obtain ⟨q, er, pl2, dn, HR, hx, hF, ho, HE⟩ := hrel
    clear hx2 hF2 H2 HD hown
    have hq := HR.le
    have hsx := hx.size
    rcases HE.out with ⟨rfl, e1, e2, e3⟩ | ⟨rfl, e1, e2⟩
    · clear HE
      have E2 := Lib.hid e2
      have E3 := Lib.hid e3
      clear e2 e3
      by_cases hlt : q < t.size
      · have hg : 0 < (t.size : Int) - q := by omega
        have hms := HR.left_is
        rw [if_pos rfl] at hms
        have HMS := Lib.hid hms
        clear hms
        go_wp2_with (first
          | (go_at_call 115; refine (left_ok _ _ _ _ _ _ HR).mono ?_; rintro e w1 ⟨rfl, hb1⟩; have HR1 := HR.ext hb1; have hx1 := hx.trans (Mod.of hb1); have hF1 := (hb1.block _ (lt_of_block hF)).trans hF; have ho1 := own_ext ho hb1; clear HR hx hF ho hb1)
          | (go_at_call 116; refine (sign_any big _ b t q pl2 HR1 hlt).mono ?_; rintro e w2 ⟨p, r', er', pl', rfl, H2, hm2, HS⟩; have ho2 := own_mod ho1 hm2 (by omega); have hF2 := (hm2.block _ (lt_of_block hF1) (by simp; omega)).trans hF1; have hx2 := hx1.trans hm2; have hs2 := hx2.size; clear HR1 hx1 hF1 ho1 hm2)
          | (at_builtin; refine wpList_append_own _ rfl _ _ 58 rfl (w.heap.size + 1) 21 i0 (.int .i32 0) 1 4 Tryz.underlying58 hi hz0 hz1 hz2 rfl (by decide) _ _ _ rfl (ho2.alloc _) ⟨w2.heap.size, 0, none⟩ 1 1 [.int .i32 p] rfl rfl (cell_one_new _ _ _) (fun x hx => by simp at hx; subst hx; rfl) (by unfold maxLen; omega) (by omega) (by simp; omega) ?_; intro v' w3 hown' hgrow3 hnil3; clear hnil3))
        have H3 : Rdr w3 b t r' 0 er' pl' := ⟨block_own ho2 hgrow3 H2.here (by omega), H2.le, H2.small, H2.lo, H2.hi⟩
        have hx3 := hx2.own ho2 (by omega) hgrow3
        have hF3 := block_own ho2 hgrow3 hF2 (by omega)
        have hle3 := H2.le
        clear hx2 hF2 hgrow3 ho2 H2
        go_roundw
        case rel =>
          refine ⟨r', er', pl', dn ++ [p], H3, hx3, hF3, ?_, DecTo.step e1 E2.out E3.out HS.out⟩
          have e : runeCellsOf (dn ++ [p]) = runeCellsOf dn ++ [.int .i32 p] := by simp [runeCellsOf]
          rw [e, List.length_append]
          exact hown'
        case measure =>
          rw [H3.left_is, HMS.out]
          exact HS.out.less hle3 hlt
      · have hqs : q = t.size := by omega
        have hg : ¬ 0 < (t.size : Int) - q := by omega
        have hwe : wdAt big t q = ([], -1) := by
          unfold wdAt
          rw [List.drop_eq_nil_of_le (by have e2 : t.data.toList.length = t.size := rfl; omega), wd_nil]
        have hzd : dn = zs := by have := E2.out; rw [hwe, List.append_nil] at this; exact this
        have ha1 : a0 = -1 := by have := E3.out; rw [hwe] at this; exact this.symm
        clear hwe hqs E2 E3
        subst hzd
        subst ha1
        obtain ⟨a, cap, rfl, hrow⟩ := own_row ho
        clear ho
        obtain ⟨f, hf⟩ : ∃ f, f = w.heap.size := ⟨_, rfl⟩
        have hlf : w.heap.size ≤ f := by omega
        have hbf : b ≠ f := by omega
        rw [← hf] at hF ⊢
        clear hf
        go_wp2_with (first
          | (go_at_call 115; refine (left_ok _ _ _ _ _ _ HR).mono ?_; rintro e w1 ⟨rfl, hb1⟩; have HR1 := HR.ext hb1; have hx1 := hx.trans (Mod.of hb1); have hF1 := (hb1.block _ (lt_of_block hF)).trans hF; have hr1 := hrow.ext hb1; clear HR hx hF hrow hb1)
          | (go_at_call 117; refine (fault_at _ _ _ _ _ _ _ HR1).mono ?_; rintro e w2 ⟨rfl, hb2⟩; have hx2 := (hx1.trans (Mod.of hb2)).alloc (.cells #[.int .i64 0, .int .i64 pl2] 54); have hb2 := hb2.alloc (.cells #[.int .i64 0, .int .i64 pl2] 54); have hF2 := (hb2.block _ (lt_of_block hF1)).trans hF1; have hr2 := hr1.ext hb2; clear HR1 hx1 hF1 hr1 hb2)
          | (go_at_call 24; refine (bad_no _ _ _ (by decide)).mono ?_; rintro e w3 ⟨rfl, hb3⟩; have hx3 := hx2.trans (Mod.of hb3); have hF3 := (hb3.block _ (lt_of_block hF2)).trans hF2; have hr3 := hr2.ext hb3; clear hx2 hF2 hr2 hb3)
          | (go_at_call 76; refine (text_at hr3 (Ext.refl _) (by omega) HSG.out).mono ?_; rintro e w4 ⟨rfl, hb4⟩; have hx4 := hx3.trans (Mod.of hb4); have hF4 := (hb4.block _ (lt_of_block hF3)).trans hF3; have hc0 : w4.cell? ⟨f, 0, none⟩ = some (.int .i64 0) := (by simp [World.cell?, hF4]); have hc1 : w4.cell? ⟨f, 1, none⟩ = some (.int .i64 0) := (by simp [World.cell?, hF4]); have hf0 : w4.frozen? ⟨f, 0, none⟩ = false := (by simp [World.frozen?, hF4]); have hf1 : w4.frozen? ⟨f, 1, none⟩ = false := (by simp [World.frozen?, hF4]); clear hx3 hF3 hr3 hb4))
        have hfin := set_two hF4 (.int .i64 0) (.int .i64 0)
        have hxf : Mod b w ((w4.setCell ⟨f, 0, none⟩ (.int .i64 0)).setCell ⟨f, 1, none⟩ (.int .i64 0)) := Mod.set (Mod.set hx4 hlf _) hlf _
        generalize (w4.setCell ⟨f, 0, none⟩ (.int .i64 0)).setCell ⟨f, 1, none⟩ (.int .i64 0) = wf at hfin hxf ⊢
        have k0 : wf.cell? ⟨f, 0, none⟩ = some (.int .i64 0) := by simp [World.cell?, hfin]
        have k1 : wf.cell? ⟨f, 1, none⟩ = some (.int .i64 0) := by simp [World.cell?, hfin]
        refine bodyPost_ret (v := .tuple #[.string (txt dn), .agg #[.int .i64 0, .int .i64 0]]) (by simp [results, Tryz.results68, go_sem, k0, k1]) rfl ?_
        exact ⟨rfl, hxf⟩
    · obtain ⟨f, hf⟩ : ∃ f, f = w.heap.size := ⟨_, rfl⟩
      have hlf : w.heap.size ≤ f := by omega
      have hbf : b ≠ f := by omega
      have hna : ¬ a0 < 0 := by omega
      have HW : Hid (wtxt zs a0 = ⟨#[]⟩) := if_neg hna
      have HFN := Lib.hid (fNum_yes hna)
      have HFP := Lib.hid (fPlace_yes hna)
      clear ho HE
      rw [← hf] at hF ⊢
      clear hf
      subst e1
      go_wp2_with (first
        | (go_at_call 115; refine (left_bad _ _ _ _ _ _ _ HR (by decide)).mono ?_; rintro e w1 ⟨rfl, hb1⟩; have HR1 := HR.ext hb1; have hx1 := hx.trans (Mod.of hb1); have hF1 := (hb1.block _ (lt_of_block hF)).trans hF; clear HR hx hF hb1)
        | (go_at_call 117; refine (fault_at _ _ _ _ _ _ _ HR1).mono ?_; rintro e w2 ⟨rfl, hb2⟩; have hx2 := (hx1.trans (Mod.of hb2)).alloc (.cells #[.int .i64 2, .int .i64 pl2] 54); have hG2 : (w2.alloc (.cells #[.int .i64 2, .int .i64 pl2] 54)).heap[w2.heap.size]? = some (.cells #[.int .i64 2, .int .i64 pl2] 54 (0, 0)) := heap_alloc_new w2 _; have hgf : w2.heap.size ≠ f := (by have h4 := lt_of_block hF1; have h5 := hb2.size; omega); have hb2 := hb2.alloc (.cells #[.int .i64 2, .int .i64 pl2] 54); have hF2 := (hb2.block _ (lt_of_block hF1)).trans hF1; clear HR1 hx1 hF1 hb2)
        | (go_at_call 24; refine (bad_yes _ _ _ (by decide)).mono ?_; rintro e w3 ⟨rfl, hb3⟩; have hx3 := hx2.trans (Mod.of hb3); have hF3 := (hb3.block _ (lt_of_block hF2)).trans hF2; have hG3 := (hb3.block _ (lt_of_block hG2)).trans hG2; clear hx2 hF2 hG2 hb3))
      obtain ⟨c, hc⟩ : ∃ c, c = w2.heap.size := ⟨_, rfl⟩
      rw [← hc] at hG3 hgf ⊢
      clear hc
      have f0 : w3.cell? ⟨c, 0, none⟩ = some (.int .i64 2) := by simp [World.cell?, hG3]
      have f1 : w3.cell? ⟨c, 1, none⟩ = some (.int .i64 pl2) := by simp [World.cell?, hG3]
      have r0 : w3.cell? ⟨f, 0, none⟩ = some (.int .i64 0) := by simp [World.cell?, hF3]
      have r1 : w3.cell? ⟨f, 1, none⟩ = some (.int .i64 0) := by simp [World.cell?, hF3]
      have z0 : w3.frozen? ⟨f, 0, none⟩ = false := by simp [World.frozen?, hF3]
      have z1 : w3.frozen? ⟨f, 1, none⟩ = false := by simp [World.frozen?, hF3]
      have hfc : f ≠ c := fun e => hgf e.symm
      clear hG3
      go_region
      all_goals go_wp2
      have hfin := set_two hF3 (.int .i64 2) (.int .i64 pl2)
      have hxf : Mod b w ((w3.setCell ⟨f, 0, none⟩ (.int .i64 2)).setCell ⟨f, 1, none⟩ (.int .i64 pl2)) := Mod.set (Mod.set hx3 hlf _) hlf _
      generalize (w3.setCell ⟨f, 0, none⟩ (.int .i64 2)).setCell ⟨f, 1, none⟩ (.int .i64 pl2) = wf at hfin hxf ⊢
      have k0 : wf.drew.cell? ⟨f, 0, none⟩ = some (.int .i64 2) := by show wf.cell? _ = _; simp [World.cell?, hfin]
      have k1 : wf.drew.cell? ⟨f, 1, none⟩ = some (.int .i64 pl2) := by show wf.cell? _ = _; simp [World.cell?, hfin]
      refine bodyPost_ret (v := .tuple #[.string ⟨#[]⟩, .agg #[.int .i64 2, .int .i64 pl2]]) (by simp [results, Tryz.results68, go_sem, k0, k1]) rfl ?_
      exact ⟨by rw [HW.out, HFN.out, HFP.out], hxf.drew⟩
end Go.Proofs.YtndopjmdpmkgeaaGreatDoor

namespace Go.Proofs.YtndopjmdpmkgeaaGreatDoor
open Go Go.ChangeShapes Go.WideShapes Go.ChangeAt Go.RowKit
set_option linter.unusedSimpArgs false
set_option linter.unusedVariables false

/-- What bytes are as signs. -/
def wdS (big : Bool) (s : ByteArray) : List Int × Int := wd big 0 s.data.toList
set_option maxHeartbeats 400000 in
theorem decode_any (s : ByteArray) (big : Bool) (w : World) (hs : s.size ≤ 1099511627776) :
    Calls Tryz.prog 40 #[.string s, .bool big] w fun e w' => e = .returned (.tuple #[.string (wtxt (wdS big s).1 (wdS big s).2), .agg #[.int .i64 (fNum (wdS big s).2), .int .i64 (fPlace (wdS big s).2)]]) ∧ Ext w w' := by
  have HD : Hid (∀ (w : World) (b : Nat), Rdr w b s 0 0 0 0 → Calls Tryz.prog 68 #[.pointer (some ⟨b, 0, none⟩), .bool big] w fun e w' => e = .returned (.tuple #[.string (wtxt (wdS big s).1 (wdS big s).2), .agg #[.int .i64 (fNum (wdS big s).2), .int .i64 (fPlace (wdS big s).2)]]) ∧ Mod b w w') := fun w b H => decode_rd big w b s 0 0 H _ _ rfl rfl
  generalize wtxt (wdS big s).1 (wdS big s).2 = u at HD
  generalize fNum (wdS big s).2 = x at HD
  generalize fPlace (wdS big s).2 = y at HD
  go_enter Tryz.func40, Tryz.ntmps40
  have hF0 : (w.alloc (.cells #[.int .i64 0, .int .i64 0] 54)).heap[w.heap.size]? = some (.cells #[.int .i64 0, .int .i64 0] 54 (0, 0)) := heap_alloc_new w _
  have hx0 := (Ext.refl w).alloc (.cells #[.int .i64 0, .int .i64 0] 54)
  have hs0 : w.heap.size < (w.alloc (.cells #[.int .i64 0, .int .i64 0] 54)).heap.size := by simp
  have HSZ : Hid ((w.alloc (.cells #[.int .i64 0, .int .i64 0] 54)).heap.size = w.heap.size + 1) := by show _ = _; simp
  have HF0 := Lib.hid hF0
  have HS0 := Lib.hid hs0
  clear hF0 hs0
  go_wp2_with (first
    | (go_at_call 69; refine (read_any _ _ hs).mono ?_; rintro e w1 ⟨rfl, H1, hb1⟩; rw [HSZ.out] at H1; have hx1 := hx0.trans hb1; have HF1 := Lib.hid ((hb1.block _ (lt_of_block HF0.out)).trans HF0.out); have HS1 := Lib.hid hb1.size; clear hx0 HF0 hb1)
    | (go_at_call 68; refine (HD.out _ _ H1).mono ?_; rintro e w2 ⟨rfl, hm2⟩; have hx2 := hx1.mod hm2 (by omega); have hF2 := (hm2.block _ (lt_of_block HF1.out) (by simp)).trans HF1.out; have hc0 : w2.cell? ⟨w.heap.size, 0, none⟩ = some (.int .i64 0) := (by simp [World.cell?, hF2]); have hc1 : w2.cell? ⟨w.heap.size, 1, none⟩ = some (.int .i64 0) := (by simp [World.cell?, hF2]); have hf0 : w2.frozen? ⟨w.heap.size, 0, none⟩ = false := (by simp [World.frozen?, hF2]); have hf1 : w2.frozen? ⟨w.heap.size, 1, none⟩ = false := (by simp [World.frozen?, hF2]); clear H1 hm2))
  have hfin := set_two hF2 (.int .i64 x) (.int .i64 y)
  have hxf : Ext w ((w2.setCell ⟨w.heap.size, 0, none⟩ (.int .i64 x)).setCell ⟨w.heap.size, 1, none⟩ (.int .i64 y)) := Ext.setCell (Ext.setCell hx2 (Nat.le_refl _) _) (Nat.le_refl _) _
  generalize (w2.setCell ⟨w.heap.size, 0, none⟩ (.int .i64 x)).setCell ⟨w.heap.size, 1, none⟩ (.int .i64 y) = wf at hfin hxf ⊢
  have k0 : wf.cell? ⟨w.heap.size, 0, none⟩ = some (.int .i64 x) := by simp [World.cell?, hfin]
  have k1 : wf.cell? ⟨w.heap.size, 1, none⟩ = some (.int .i64 y) := by simp [World.cell?, hfin]
  refine bodyPost_ret (v := .tuple #[.string u, .agg #[.int .i64 x, .int .i64 y]]) (by simp [results, Tryz.results40, go_sem, k0, k1]) rfl ?_
  exact ⟨rfl, hxf⟩
end Go.Proofs.YtndopjmdpmkgeaaGreatDoor

namespace Go.Proofs.YtndopjmdpmkgeaaGreatDoor
open Go Go.ChangeShapes Go.WideShapes Go.ChangeAt Go.RowKit
set_option linter.unusedSimpArgs false
set_option linter.unusedVariables false

/-- The first two bytes of a text, or as many as there are. -/
def ahead (s : ByteArray) : ByteArray := ⟨(s.data.toList.take 2).toArray⟩
theorem toList_eq (a : ByteArray) : a.toList = a.data.toList := ByteArray.toList_eq a
end Go.Proofs.YtndopjmdpmkgeaaGreatDoor

