/-
  Contracts of the readers' functions of package octet (4): Want, Until.
-/
import Derived.Test.YtdegnjbpjffgmaaOct3
namespace Go.Proofs.Ytdegnjbpjffgmaa
open Go.ChangeShapes Go.WideShapes Go.ChangeAt Go.RowKit
set_option linter.unusedSimpArgs false
set_option linter.unusedVariables false

theorem want_nil (s : ByteArray) (w : World) : Calls Try.prog 30 #[.pointer none, .string s] w fun e w' => e = .returned (.bool false) ∧ Ext w w' := by
  go_enter Try.func30, Try.ntmps30
  go_wp2_with (first | (go_at_call 34; refine (peek_nil _ _).mono ?_; rintro e w1 ⟨rfl, hb1⟩) | (go_at_call 32; refine (take_nil _ _).mono ?_; rintro e w2 ⟨rfl, hb2⟩) | (go_at_call 20; refine (fault_nil _).mono ?_; rintro e w3 ⟨rfl, hb3⟩) | (go_at_call 21; refine (bad_yes _ _ _ (by decide)).mono ?_; rintro e w4 ⟨rfl, hb4⟩))
  refine wp_loop_rounds 1 ?_
  rw [rounds_succ]
  go_wp2_with (first | (go_at_call 34; refine (peek_nil _ _).mono ?_; rintro e w1 ⟨rfl, hb1⟩) | (go_at_call 32; refine (take_nil _ _).mono ?_; rintro e w2 ⟨rfl, hb2⟩) | (go_at_call 20; refine (fault_nil _).mono ?_; rintro e w3 ⟨rfl, hb3⟩) | (go_at_call 21; refine (bad_yes _ _ _ (by decide)).mono ?_; rintro e w4 ⟨rfl, hb4⟩))
  go_ret
  exact ⟨rfl, hb1.trans (hb2.trans (hb3.trans hb4))⟩
theorem want_bad (s : ByteArray) (w : World) (b : Nat) (t : ByteArray) (r : Nat) (ba er pl : Int) (H : Rdr w b t r ba er pl) (he : (er != 0) = true) : Calls Try.prog 30 #[.pointer (some ⟨b, 0, none⟩), .string s] w fun e w' => e = .returned (.bool false) ∧ Ext w w' := by
  go_enter Try.func30, Try.ntmps30
  go_wp2_with (first | (go_at_call 34; refine (peek_bad _ _ _ _ _ _ _ _ H he).mono ?_; rintro e w1 ⟨rfl, hb1⟩; have H1 := H.ext hb1) | (go_at_call 32; refine (take_bad _ _ _ _ _ _ _ _ H1 he).mono ?_; rintro e w2 ⟨rfl, hb2⟩; have H2 := H1.ext hb2) | (go_at_call 20; refine (fault_at _ _ _ _ _ _ _ H2).mono ?_; rintro e w3 ⟨rfl, hb3⟩) | (go_at_call 21; refine (bad_yes _ _ _ he).mono ?_; rintro e w4 ⟨rfl, hb4⟩))
  refine wp_loop_rounds 1 ?_
  rw [rounds_succ]
  go_wp2_with (first | (go_at_call 34; refine (peek_bad _ _ _ _ _ _ _ _ H he).mono ?_; rintro e w1 ⟨rfl, hb1⟩; have H1 := H.ext hb1) | (go_at_call 32; refine (take_bad _ _ _ _ _ _ _ _ H1 he).mono ?_; rintro e w2 ⟨rfl, hb2⟩; have H2 := H1.ext hb2) | (go_at_call 20; refine (fault_at _ _ _ _ _ _ _ H2).mono ?_; rintro e w3 ⟨rfl, hb3⟩) | (go_at_call 21; refine (bad_yes _ _ _ he).mono ?_; rintro e w4 ⟨rfl, hb4⟩))
  go_ret
  exact ⟨rfl, hb1.trans (hb2.trans (hb3.trans hb4))⟩
/-- What Want comes to, of a reader without a fault. -/
def WantEnd (w : World) (b : Nat) (t : ByteArray) (r : Nat) (ba pl : Int) (s : ByteArray) (e : Ending) (w' : World) : Prop :=
  Mod b w w' ∧ ((cpAt t r s = s.size ∧ e = .returned (.bool true) ∧ Rdr w' b t (r + s.size) ba 0 pl) ∨ (cpAt t r s < s.size ∧ e = .returned (.bool false) ∧ Rdr w' b t r ba 1 (ba + r + cpAt t r s)))
theorem peek_some (n : Int) (w : World) (b : Nat) (t : ByteArray) (r : Nat) (ba pl : Int) (H : Rdr w b t r ba 0 pl) : Calls Try.prog 34 #[.pointer (some ⟨b, 0, none⟩), .int .i64 n] w fun e w' => ∃ s : ByteArray, Hid (s = t.extract r (r + (shown n (t.size - r)).toNat)) ∧ Hid (s.size = (shown n (t.size - r)).toNat) ∧ e = .returned (.string s) ∧ Ext w w' := by
  refine (peek_ok n w b t r ba pl H).mono ?_
  rintro e w' ⟨rfl, h1⟩
  refine ⟨_, rfl, ?_, rfl, h1⟩
  show (t.extract r (r + (shown n (t.size - r)).toNat)).size = _
  have := H.le
  have h3 := @shown_le n (t.size - r)
  simp; omega
set_option maxRecDepth 100000 in
set_option maxHeartbeats 400000 in
theorem want_ok (s : ByteArray) (w : World) (b : Nat) (t : ByteArray) (r : Nat) (ba pl : Int) (H : Rdr w b t r ba 0 pl) (hs : s.size ≤ 1099511627776) : Calls Try.prog 30 #[.pointer (some ⟨b, 0, none⟩), .string s] w (WantEnd w b t r ba pl s) := by
  have hb0 := H.lo
  have hb1 := H.hi
  have hb2 := H.le
  have hb3 := H.small
  go_enter Try.func30, Try.ntmps30
  go_wp2_with (first | (go_at_call 34; refine (peek_some _ _ _ _ _ _ _ H).mono ?_; rintro e w1 ⟨q, HS, HZ, rfl, hb1⟩))
  have hqs : q.size ≤ s.size ∧ (q.size : Int) ≤ t.size - r := by have := HZ.out; unfold shown at this; omega
  obtain ⟨hq1, hq2⟩ := hqs
  go_loopw [13] (fun i wr => ∃ k : Nat, k ≤ q.size ∧ k ≤ cpAt t r s ∧ i = .int .i64 k ∧ Ext w wr) (fun i _ => q.size - (intOf i).toNat)
  case atStart => exact ⟨0, Nat.zero_le _, Nat.zero_le _, rfl, hb1⟩
  case round =>
    obtain ⟨k, hk, hkc, rfl, hx⟩ := hrel
    have HR := H.ext hx
    by_cases hlt : k < q.size
    · have hi0 : (0 : Int) ≤ k := by omega
      have hi1 : (k : Int) < q.size := by omega
      have hi2 : (k : Int) < s.size := by omega
      go_wp2
      go_quiet (fail)
      have HD := HR.drewN nq
      go_wp2_with (first | (go_at_call 28; refine (at_any _ _ _ _ _ _ _ HD).mono ?_; rintro e w5 ⟨rfl, hb5⟩; have H5 := HD.ext hb5) | (go_at_call 31; refine (fail_ok _ _ _ _ _ _ _ _ H5 (by decide)).mono ?_; rintro e w6 ⟨rfl, H6, hm6⟩))
      · go_ret
        have hne : ((q[k].toNat : Int) != (s[k].toNat : Int)) = true := by assumption
        have hqk := extract_get t r _ k (by have := HZ.out; omega) (by have := HZ.out; omega) q HS.out hlt
        have hc : ¬ k + 1 ≤ cpAt t r s := by
          rw [cpAt_get t r s k (by omega) (by omega) hkc, ← hqk]
          intro h
          rw [h] at hne
          simp at hne
        have e : cpAt t r s = k := by omega
        exact ⟨(Mod.of (hx.drewN nq)).trans ((Mod.of hb5).trans hm6), .inr ⟨by omega, rfl, by rw [e]; exact H6⟩⟩
      · go_roundw
        case rel =>
          have hne : ((q[k].toNat : Int) != (s[k].toNat : Int)) = false := by assumption
          have hqk := extract_get t r _ k (by have := HZ.out; omega) (by have := HZ.out; omega) q HS.out hlt
          have hc : k + 1 ≤ cpAt t r s := by
            rw [cpAt_get t r s k (by omega) (by omega) hkc, ← hqk]
            simp at hne
            exact UInt8.toNat_inj.1 (by omega)
          exact ⟨k + 1, by omega, hc, by go_num, hx.drewN nq⟩
        case measure => simp [intOf]; omega
    · have hcl := cpAt_le t r s H.le
      have hkq : k = q.size := by omega
      by_cases hle : (s.size : Int) ≤ t.size - r
      · go_wp2_with (first | (go_at_call 32; refine (take_ok _ _ _ _ _ _ _ HR (by omega) hle).mono ?_; rintro e w5 ⟨rfl, H5, hm5⟩) | (go_at_call 20; refine (fault_at _ _ _ _ _ _ _ H5).mono ?_; rintro e w6 ⟨rfl, hb6⟩; have H6 := H5.ext hb6) | (go_at_call 21; refine (bad_no _ _ _ (by decide)).mono ?_; rintro e w7 ⟨rfl, hb7⟩; have H7 := H6.ext hb7))
        go_ret
        have hz := HZ.out
        unfold shown at hz
        exact ⟨(Mod.of hx).trans (hm5.trans (Mod.of (hb6.trans hb7))), .inl ⟨by omega, rfl, H7⟩⟩
      · go_wp2_with (first | (go_at_call 32; refine (take_short _ _ _ _ _ _ _ HR (by omega) (by omega)).mono ?_; rintro e w5 ⟨rfl, H5, hm5⟩) | (go_at_call 20; refine (fault_at _ _ _ _ _ _ _ H5).mono ?_; rintro e w6 ⟨rfl, hb6⟩; have H6 := H5.ext hb6) | (go_at_call 21; refine (bad_yes _ _ _ (by decide)).mono ?_; rintro e w7 ⟨rfl, hb7⟩; have H7 := H6.ext hb7))
        go_ret
        have hz := HZ.out
        unfold shown at hz
        have e : ba + r + cpAt t r s = ba + t.size := by omega
        exact ⟨(Mod.of hx).trans (hm5.trans (Mod.of (hb6.trans hb7))), .inr ⟨by omega, rfl, by rw [e]; exact H7⟩⟩
end Go.Proofs.Ytdegnjbpjffgmaa
