/-
  Contracts of the readers' functions of package octet (3): numbers that are read.
-/
import Derived.Test.YtdegnjbpjffgmaaOct2
import Derived.Test.YtdegnjbpjffgmaaNum
namespace Go.Proofs.Ytdegnjbpjffgmaa
open Go.ChangeShapes Go.WideShapes Go.ChangeAt Go.RowKit
set_option linter.unusedSimpArgs false
set_option linter.unusedVariables false

/-- A size, cut to 0 to 8. -/
def cw (s : Int) : Int := if s < 0 then 0 else if 8 < s then 8 else s
theorem cw_lo (s : Int) : 0 ≤ cw s := by unfold cw; split <;> (try split) <;> omega
theorem cw_hi (s : Int) : cw s ≤ 8 := by unfold cw; split <;> (try split) <;> omega
theorem width_any (s : Int) (w : World) : Calls Try.prog 36 #[.int .i64 s] w fun e w' => e = .returned (.int .i64 (cw s)) ∧ w = w' := by
  unfold cw
  split
  · exact width_low _ _ (by assumption)
  · split
    · exact width_high _ _ (by assumption)
    · exact width_in _ _ (by omega) (by omega)
theorem big_nil (n : Int) (w : World) : Calls Try.prog 17 #[.pointer none, .int .i64 n] w fun e w' => e = .returned (.int .u64 0) ∧ Ext w w' := by
  go_enter Try.func17, Try.ntmps17
  go_wp2_with (first | (go_at_call 36; refine (width_any _ _).mono ?_; rintro e w1 ⟨rfl, rfl⟩) | (go_at_call 32; refine (take_nil _ _).mono ?_; rintro e w2 ⟨rfl, hb2⟩))
  refine wp_loop_rounds 1 ?_
  rw [rounds_succ]
  go_wp2
  go_ret
  exact ⟨rfl, hb2⟩
theorem big_bad (n : Int) (w : World) (b : Nat) (t : ByteArray) (r : Nat) (ba er pl : Int) (H : Rdr w b t r ba er pl) (he : (er != 0) = true) : Calls Try.prog 17 #[.pointer (some ⟨b, 0, none⟩), .int .i64 n] w fun e w' => e = .returned (.int .u64 0) ∧ Ext w w' := by
  go_enter Try.func17, Try.ntmps17
  go_wp2_with (first | (go_at_call 36; refine (width_any _ _).mono ?_; rintro e w1 ⟨rfl, rfl⟩) | (go_at_call 32; refine (take_bad _ _ _ _ _ _ _ _ H he).mono ?_; rintro e w2 ⟨rfl, hb2⟩))
  refine wp_loop_rounds 1 ?_
  rw [rounds_succ]
  go_wp2
  go_ret
  exact ⟨rfl, hb2⟩
theorem big_short (n : Int) (w : World) (b : Nat) (t : ByteArray) (r : Nat) (ba pl : Int) (H : Rdr w b t r ba 0 pl) (hn : (t.size : Int) - r < cw n) : Calls Try.prog 17 #[.pointer (some ⟨b, 0, none⟩), .int .i64 n] w fun e w' => e = .returned (.int .u64 0) ∧ Rdr w' b t r ba 1 (ba + t.size) ∧ Mod b w w' := by
  have hl := cw_lo n
  go_enter Try.func17, Try.ntmps17
  go_wp2_with (first | (go_at_call 36; refine (width_any _ _).mono ?_; rintro e w1 ⟨rfl, rfl⟩) | (go_at_call 32; refine (take_short _ _ _ _ _ _ _ H hl hn).mono ?_; rintro e w2 ⟨rfl, H2, hm⟩))
  refine wp_loop_rounds 1 ?_
  rw [rounds_succ]
  go_wp2
  go_ret
  exact ⟨rfl, H2, hm⟩
theorem small_nil (n : Int) (w : World) : Calls Try.prog 18 #[.pointer none, .int .i64 n] w fun e w' => e = .returned (.int .u64 0) ∧ Ext w w' := by
  go_enter Try.func18, Try.ntmps18
  go_wp2_with (first | (go_at_call 36; refine (width_any _ _).mono ?_; rintro e w1 ⟨rfl, rfl⟩) | (go_at_call 32; refine (take_nil _ _).mono ?_; rintro e w2 ⟨rfl, hb2⟩))
  refine wp_loop_rounds 1 ?_
  rw [rounds_succ]
  go_wp2
  go_ret
  exact ⟨rfl, hb2⟩
theorem small_bad (n : Int) (w : World) (b : Nat) (t : ByteArray) (r : Nat) (ba er pl : Int) (H : Rdr w b t r ba er pl) (he : (er != 0) = true) : Calls Try.prog 18 #[.pointer (some ⟨b, 0, none⟩), .int .i64 n] w fun e w' => e = .returned (.int .u64 0) ∧ Ext w w' := by
  go_enter Try.func18, Try.ntmps18
  go_wp2_with (first | (go_at_call 36; refine (width_any _ _).mono ?_; rintro e w1 ⟨rfl, rfl⟩) | (go_at_call 32; refine (take_bad _ _ _ _ _ _ _ _ H he).mono ?_; rintro e w2 ⟨rfl, hb2⟩))
  refine wp_loop_rounds 1 ?_
  rw [rounds_succ]
  go_wp2
  go_ret
  exact ⟨rfl, hb2⟩
theorem small_short (n : Int) (w : World) (b : Nat) (t : ByteArray) (r : Nat) (ba pl : Int) (H : Rdr w b t r ba 0 pl) (hn : (t.size : Int) - r < cw n) : Calls Try.prog 18 #[.pointer (some ⟨b, 0, none⟩), .int .i64 n] w fun e w' => e = .returned (.int .u64 0) ∧ Rdr w' b t r ba 1 (ba + t.size) ∧ Mod b w w' := by
  have hl := cw_lo n
  go_enter Try.func18, Try.ntmps18
  go_wp2_with (first | (go_at_call 36; refine (width_any _ _).mono ?_; rintro e w1 ⟨rfl, rfl⟩) | (go_at_call 32; refine (take_short _ _ _ _ _ _ _ H hl hn).mono ?_; rintro e w2 ⟨rfl, H2, hm⟩))
  refine wp_loop_rounds 1 ?_
  rw [rounds_succ]
  go_wp2
  go_ret
  exact ⟨rfl, H2, hm⟩
theorem take_some (n : Int) (w : World) (b : Nat) (t : ByteArray) (r : Nat) (ba pl : Int) (H : Rdr w b t r ba 0 pl) (hn0 : 0 ≤ n) (hn : n ≤ t.size - r) : Calls Try.prog 32 #[.pointer (some ⟨b, 0, none⟩), .int .i64 n] w fun e w' => ∃ s : ByteArray, Hid (s = t.extract r (r + n.toNat)) ∧ Hid (s.size = n.toNat) ∧ e = .returned (.string s) ∧ Rdr w' b t (r + n.toNat) ba 0 pl ∧ Mod b w w' := by
  refine (take_ok n w b t r ba pl H hn0 hn).mono ?_
  rintro e w' ⟨rfl, h1, h2⟩
  refine ⟨_, rfl, ?_, rfl, h1, h2⟩
  show (t.extract r (r + n.toNat)).size = n.toNat
  have := H.le
  simp; omega
/-- The number of so many bytes of a text, from a place on, the highest first. -/
def bePart (t : ByteArray) (r k : Nat) : Nat := beN (t.extract r (r + k)).data.toList
set_option maxHeartbeats 400000 in
theorem big_ok (n : Int) (w : World) (b : Nat) (t : ByteArray) (r : Nat) (ba pl : Int) (H : Rdr w b t r ba 0 pl) (hn : cw n ≤ t.size - r) : Calls Try.prog 17 #[.pointer (some ⟨b, 0, none⟩), .int .i64 n] w fun e w' => e = .returned (.int .u64 (bePart t r (cw n).toNat)) ∧ Rdr w' b t (r + (cw n).toNat) ba 0 pl ∧ Mod b w w' := by
  have hl := cw_lo n
  have hh := cw_hi n
  go_enter Try.func17, Try.ntmps17
  go_wp2_with (first | (go_at_call 36; refine (width_any _ _).mono ?_; rintro e w1 ⟨rfl, rfl⟩) | (go_at_call 32; refine (take_some _ _ _ _ _ _ _ H hl hn).mono ?_; rintro e w2 ⟨s, HS, HZ, rfl, H2, hm⟩))
  have hsz : s.size ≤ 8 := by have := HZ.out; omega
  clear hl hh hn H HZ
  go_loop [6, 14] (fun q i => ∃ k : Nat, k ≤ s.size ∧ i = .int .i64 k ∧ q = .int .u64 (beN (s.data.toList.take k))) (fun _ i => s.size - (intOf i).toNat)
  case atStart => exact ⟨0, Nat.zero_le _, rfl, rfl⟩
  case round =>
    obtain ⟨k, hk, rfl, rfl⟩ := hrel
    by_cases hlt : k < s.size
    · go_wp2
      go_round
      case rel => 
        refine ⟨k + 1, by omega, by go_num, ?_⟩
        rw [be_step s k hlt hsz]
      case measure => simp [intOf]; omega
    · go_wp2
      go_ret
      have hk' : k = s.size := by omega
      subst hk'
      refine ⟨?_, H2, hm⟩
      unfold bePart
      rw [← HS.out]
      show Ending.returned (.int .u64 ↑(beN (s.data.toList.take s.size))) = _
      rw [List.take_of_length_le (by simp)]
/-- The number of so many bytes of a text, from a place on, the lowest first. -/
def lePart (t : ByteArray) (r k : Nat) : Nat := leN (t.extract r (r + k)).data.toList
set_option maxHeartbeats 400000 in
theorem small_ok (n : Int) (w : World) (b : Nat) (t : ByteArray) (r : Nat) (ba pl : Int) (H : Rdr w b t r ba 0 pl) (hn : cw n ≤ t.size - r) : Calls Try.prog 18 #[.pointer (some ⟨b, 0, none⟩), .int .i64 n] w fun e w' => e = .returned (.int .u64 (lePart t r (cw n).toNat)) ∧ Rdr w' b t (r + (cw n).toNat) ba 0 pl ∧ Mod b w w' := by
  have hl := cw_lo n
  have hh := cw_hi n
  go_enter Try.func18, Try.ntmps18
  go_wp2_with (first | (go_at_call 36; refine (width_any _ _).mono ?_; rintro e w1 ⟨rfl, rfl⟩) | (go_at_call 32; refine (take_some _ _ _ _ _ _ _ H hl hn).mono ?_; rintro e w2 ⟨s, HS, HZ, rfl, H2, hm⟩))
  have hsz : s.size ≤ 8 := by have := HZ.out; omega
  clear hl hh hn H HZ
  go_loop [6, 14] (fun q i => ∃ k : Nat, k ≤ s.size ∧ i = .int .i64 k ∧ q = .int .u64 (leN (s.data.toList.take k))) (fun _ i => s.size - (intOf i).toNat)
  case atStart => exact ⟨0, Nat.zero_le _, rfl, rfl⟩
  case round =>
    obtain ⟨k, hk, rfl, rfl⟩ := hrel
    by_cases hlt : k < s.size
    · go_wp2
      go_round
      case rel =>
        refine ⟨k + 1, by omega, by go_num, ?_⟩
        rw [le_step s k hlt hsz]
      case measure => simp [intOf]; omega
    · go_wp2
      go_ret
      have hk' : k = s.size := by omega
      subst hk'
      refine ⟨?_, H2, hm⟩
      unfold lePart
      rw [← HS.out]
      show Ending.returned (.int .u64 ↑(leN (s.data.toList.take s.size))) = _
      rw [List.take_of_length_le (by simp)]
theorem rsafe_nil (w : World) : Calls Try.prog 24 #[.pointer none] w fun e w' => e = .returned (.int .i64 0) ∧ Ext w w' := by
  go_enter Try.func24, Try.ntmps24
  go_wp2_with (first | (go_at_call 28; refine (at_nil _).mono ?_; rintro e w1 ⟨rfl, hb1⟩) | (go_at_call 32; refine (take_nil _ _).mono ?_; rintro e w2 ⟨rfl, hb2⟩))
  refine wp_loop_rounds 1 ?_
  rw [rounds_succ]
  go_wp2
  go_ret
  exact ⟨rfl, hb1.trans hb2⟩
theorem rsafe_bad (w : World) (b : Nat) (t : ByteArray) (r : Nat) (ba er pl : Int) (H : Rdr w b t r ba er pl) (he : (er != 0) = true) : Calls Try.prog 24 #[.pointer (some ⟨b, 0, none⟩)] w fun e w' => e = .returned (.int .i64 0) ∧ Ext w w' := by
  go_enter Try.func24, Try.ntmps24
  go_wp2_with (first | (go_at_call 28; refine (at_any _ _ _ _ _ _ _ H).mono ?_; rintro e w1 ⟨rfl, hb1⟩; have H1 := H.ext hb1) | (go_at_call 32; refine (take_bad _ _ _ _ _ _ _ _ H1 he).mono ?_; rintro e w2 ⟨rfl, hb2⟩))
  refine wp_loop_rounds 1 ?_
  rw [rounds_succ]
  go_wp2
  go_ret
  exact ⟨rfl, hb1.trans hb2⟩
theorem rsafe_short (w : World) (b : Nat) (t : ByteArray) (r : Nat) (ba pl : Int) (H : Rdr w b t r ba 0 pl) (hn : (t.size : Int) - r < 4) : Calls Try.prog 24 #[.pointer (some ⟨b, 0, none⟩)] w fun e w' => e = .returned (.int .i64 0) ∧ Rdr w' b t r ba 1 (ba + t.size) ∧ Mod b w w' := by
  go_enter Try.func24, Try.ntmps24
  go_wp2_with (first | (go_at_call 28; refine (at_any _ _ _ _ _ _ _ H).mono ?_; rintro e w1 ⟨rfl, hb1⟩; have H1 := H.ext hb1) | (go_at_call 32; refine (take_short _ _ _ _ _ _ _ H1 (by decide) hn).mono ?_; rintro e w2 ⟨rfl, H2, hm⟩))
  refine wp_loop_rounds 1 ?_
  rw [rounds_succ]
  go_wp2
  go_ret
  exact ⟨rfl, H2, (Mod.of hb1).trans hm⟩
def sfPart (t : ByteArray) (r : Nat) : Nat := sfN (t.extract r (r + 4)).data.toList
/-- The place of the first byte that isn't below 128; the size, if there is none. -/
def hiAt (l : List UInt8) : Nat := l.findIdx (fun c => 128 ≤ c.toNat)
def hiPart (t : ByteArray) (r : Nat) : Nat := hiAt (t.extract r (r + 4)).data.toList
theorem hiAt_le (l : List UInt8) : hiAt l ≤ l.length := List.findIdx_le_length
theorem hiAt_at (s : ByteArray) (k : Nat) (hk : k < s.size) (h : k ≤ hiAt s.data.toList) (h2 : 128 ≤ s[k].toNat) : hiAt s.data.toList = k := by
  refine Nat.le_antisymm ?_ h
  rcases Nat.lt_or_ge k (hiAt s.data.toList) with h3 | h3
  · have := List.not_of_lt_findIdx h3
    simp at this
    have e : s.data.toList[k]'(by simpa using hk) = s[k] := rfl
    have h4 : ¬ 128 ≤ s[k].toNat := by
      intro h5
      simp_all
      omega
    exact absurd h2 h4
  · exact h3
theorem hiAt_step (s : ByteArray) (k : Nat) (hk : k < s.size) (h : k ≤ hiAt s.data.toList) (h2 : ¬ 128 ≤ s[k].toNat) : k + 1 ≤ hiAt s.data.toList := by
  rcases Nat.lt_or_ge k (hiAt s.data.toList) with h3 | h3
  · exact h3
  · have e : hiAt s.data.toList = k := Nat.le_antisymm h3 h
    have hl : hiAt s.data.toList < s.data.toList.length := by rw [e]; simpa using hk
    have := List.findIdx_getElem (w := hl)
    simp only [decide_eq_true_eq] at this
    exact absurd (by
      have e2 : s.data.toList[hiAt s.data.toList] = s[k] := by simp only [e]; rfl
      rw [← e2]; exact this) h2
/-- What Safe comes to, of a reader without a fault of which four bytes at least are left. -/
def SafeEnd (w : World) (b : Nat) (t : ByteArray) (r : Nat) (ba pl : Int) (e : Ending) (w' : World) : Prop :=
  Mod b w w' ∧ ((hiPart t r = 4 ∧ e = .returned (.int .i64 (sfPart t r)) ∧ Rdr w' b t (r + 4) ba 0 pl) ∨ (hiPart t r < 4 ∧ e = .returned (.int .i64 0) ∧ Rdr w' b t (r + 4) ba 1 (ba + r + hiPart t r)))
set_option maxRecDepth 100000 in
set_option maxHeartbeats 400000 in
theorem rsafe_ok (w : World) (b : Nat) (t : ByteArray) (r : Nat) (ba pl : Int) (H : Rdr w b t r ba 0 pl) (hn : 4 ≤ (t.size : Int) - r) : Calls Try.prog 24 #[.pointer (some ⟨b, 0, none⟩)] w (SafeEnd w b t r ba pl) := by
  have hb0 := H.lo
  have hb1 := H.hi
  have hb2 := H.le
  have hb3 := H.small
  go_enter Try.func24, Try.ntmps24
  go_wp2_with (first | (go_at_call 28; refine (at_any _ _ _ _ _ _ _ H).mono ?_; rintro e w1 ⟨rfl, hb1⟩; have H1 := H.ext hb1) | (go_at_call 32; refine (take_some _ _ _ _ _ _ _ H1 (by decide) hn).mono ?_; rintro e w2 ⟨s, HS, HZ, rfl, H2, hm⟩))
  have hsz : s.size ≤ 4 := by have := HZ.out; simp at this; omega
  go_loop [5, 13] (fun q i => ∃ k : Nat, k ≤ s.size ∧ k ≤ hiAt s.data.toList ∧ i = .int .i64 k ∧ q = .int .i64 (sfN (s.data.toList.take k))) (fun _ i => s.size - (intOf i).toNat)
  case atStart => exact ⟨0, Nat.zero_le _, Nat.zero_le _, rfl, rfl⟩
  case round =>
    obtain ⟨k, hk, hki, rfl, rfl⟩ := hrel
    by_cases hlt : k < s.size
    · go_wp2_with (go_at_call 31; refine (fail_ok _ _ _ _ _ _ _ _ H2 (by decide)).mono ?_; rintro e w3 ⟨rfl, H3, hm3⟩)
      · go_ret
        have hb : (128 : Int) ≤ s[k].toNat := by assumption
        have hz : s.size = 4 := HZ.out
        have e := hiAt_at s k hlt hki (by omega)
        have hp : hiPart t r = k := by unfold hiPart; rw [show t.extract r (r + 4) = s from HS.out.symm]; exact e
        exact ⟨(Mod.of hb1).trans (hm.trans hm3), .inr ⟨by omega, rfl, by rw [hp]; exact H3⟩⟩
      · go_round
        case rel =>
          have hb : (s[k].toNat : Int) < 128 := by assumption
          refine ⟨k + 1, by omega, hiAt_step s k hlt hki (by omega), by go_num, ?_⟩
          rw [sf_step s k hlt hsz hb]
        case measure => simp [intOf]; omega
    · go_wp2
      go_ret
      have hz : s.size = 4 := HZ.out
      have hk' : k = s.size := by omega
      subst hk'
      have hp : hiPart t r = 4 := by
        unfold hiPart
        rw [show t.extract r (r + 4) = s from HS.out.symm]
        have := hiAt_le s.data.toList
        simp at this
        omega
      refine ⟨(Mod.of hb1).trans hm, .inl ⟨hp, ?_, H2⟩⟩
      unfold sfPart
      rw [show t.extract r (r + 4) = s from HS.out.symm]
      show Ending.returned (.int .i64 ↑(sfN (s.data.toList.take s.size))) = _
      rw [List.take_of_length_le (by simp)]
end Go.Proofs.Ytdegnjbpjffgmaa
