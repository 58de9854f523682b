/-
  The law OctetSafe holds at every number: a number in seven bits each is the document's, or too great; each byte is below 128, and it is read as it was.
  Conditions: none beyond the row's own.
-/
import Derived.Test.YtdegnjbpjffgmaaOct7
namespace Go.Proofs.Ytdegnjbpjffgmaa.octetSafe
open Go Go.Proofs.Ytdegnjbpjffgmaa Go.ChangeShapes Go.WideShapes Go.ChangeAt Go.RowKit
open Go.ChangeMaps (open_string shut_string)
set_option linter.unusedSimpArgs false
set_option linter.unusedVariables false

theorem own : ownKnob Try.prog.godebug = none := by kernel_rfl
set_option maxRecDepth 100000 in
set_option maxHeartbeats 1000000 in
theorem walk_no (n : Nat) (hn : 268435455 < (n : Int)) (w : World) :
    Calls Try.prog 4 #[.int .u64 n] w fun e w' => e = .returned (.bool true) ∧ Ext w w' := by
  go_enter Try.func4, Try.ntmps4
  go_wp2_with (first | (go_at_call 22; refine (wsafe_no _ _ hn).mono ?_; rintro e w1 ⟨rfl, hb1⟩) | (go_at_call 16; refine (awake_yes _).mono ?_; rintro e w2 ⟨rfl, hb2⟩))
  go_ret
  exact ⟨rfl, hb1.trans hb2⟩
theorem safe_some (n : Nat) (w : World) (hn : (n : Int) ≤ 268435455) : Calls Try.prog 22 #[.int .u64 n] w fun e w' => ∃ s : ByteArray, Hid (s = bytesBy 4 (safeAt n)) ∧ e = .returned (.tuple #[.string s, .bool true]) ∧ Ext w w' :=
  (wsafe_ok n w hn).mono fun e w' ⟨h1, h2⟩ => ⟨_, rfl, h1, h2⟩
/-- What the law calls of a number as four bytes. -/
structure Safes (n : Nat) (s : ByteArray) : Prop where
  size : s.size = 4
  low : ∀ k, (h : k < s.size) → s[k].toNat < 128
  ref : ∀ w, Calls Try.prog 23 #[.int .u64 n] w fun e w' => e = .returned (.string s) ∧ Ext w w'
  read : ∀ w, Calls Try.prog 15 #[.string s] w fun e w' => ∃ b : Nat, w.heap.size ≤ b ∧ e = .returned (.pointer (some ⟨b, 0, none⟩)) ∧ Rdr w' b s 0 0 0 0 ∧ Ext w w'
  safe : ∀ w b, Rdr w b s 0 0 0 0 → Calls Try.prog 24 #[.pointer (some ⟨b, 0, none⟩)] w fun e w' => e = .returned (.int .i64 n) ∧ Rdr w' b s 4 0 0 0 ∧ Mod b w w'
theorem safes (n : Nat) (hn : (n : Int) ≤ 268435455) : Safes n (bytesBy 4 (safeAt n)) := by
  have z := bytesBy_size 4 (safeAt n)
  refine ⟨z, fun k h => ?_, fun w => rsafe_ref n w hn, fun w => ?_, fun w b H => ?_⟩
  · have e : (bytesBy 4 (safeAt n))[k] = (bytesBy 4 (safeAt n)).data.toList[k]'(by simpa using h) := rfl
    rw [e]
    simp only [bytesBy_list, List.getElem_map, List.getElem_range]
    have : safeAt n k < 128 := Nat.mod_lt _ (by omega)
    simp
    omega
  · exact (read_any _ w (by omega)).mono fun e w' ⟨h1, h2, h3⟩ => ⟨_, Nat.le_refl _, h1, h2, h3⟩
  · refine (rsafe_ok w b _ 0 0 0 H (by omega)).mono ?_
    rintro e w' ⟨hm, ⟨h1, h2, h3⟩ | ⟨h1, _⟩⟩
    · refine ⟨?_, h3, hm⟩
      have e2 : sfPart (bytesBy 4 (safeAt n)) 0 = n := by
        unfold sfPart
        rw [extract_all _ _ z.symm, sfN_safe _ (by omega)]
      rw [e2] at h2
      exact h2
    · exfalso
      unfold hiPart at h1
      rw [extract_all _ _ z.symm, hiAt_safe] at h1
      omega
set_option maxRecDepth 100000 in
set_option maxHeartbeats 1000000 in
theorem walk_ok (n : Nat) (hn : (n : Int) ≤ 268435455) (w : World) :
    Calls Try.prog 4 #[.int .u64 n] w fun e w' => e = .returned (.bool true) ∧ Ext w w' := by
  have S0 := safes n hn
  go_enter Try.func4, Try.ntmps4
  go_wp2_with (first | (go_at_call 22; refine (safe_some _ _ hn).mono ?_; rintro e w1 ⟨s, HS, rfl, hb1⟩; have S : Safes n s := (by rw [HS.out]; exact S0); have hz : s.size ≤ 4 := (by rw [S.size]; omega); have hz2 : 4 ≤ s.size := (by rw [S.size]; omega); have hz4 : ((s.size : Int) != 4) = false := (by rw [S.size]; rfl)) | (go_at_call 23; refine (S.ref _).mono ?_; rintro e w2 ⟨rfl, hb2⟩))
  have x2 := hb1.trans hb2
  clear hb1 hb2
  go_loop [36] (fun i => ∃ k : Nat, k ≤ 4 ∧ i = .int .i64 k) (fun i => 4 - (intOf i).toNat)
  case atStart => exact ⟨0, by omega, rfl⟩
  case round =>
    obtain ⟨k, hk, rfl⟩ := hrel
    by_cases hlt : k < 4
    · have e1 : (0 : Int) ≤ k := by omega
      have e2 : (k : Int) < s.size := by omega
      go_wp2
      · exfalso
        have h1 := S.low k (by omega)
        have h2 : (128 : Int) ≤ s[k].toNat := by assumption
        omega
      · go_round
        case rel => exact ⟨k + 1, by omega, by go_num⟩
        case measure => simp [intOf]; omega
    · go_wp2_with (first | (go_at_call 15; refine (S.read _).mono ?_; rintro e w8 ⟨b, hb, rfl, X8, hb8⟩; have l8 := Nat.le_trans x2.size hb; have x8 := x2.trans hb8; clear x2 hb8) | (go_at_call 16; refine (awake_yes _).mono ?_; rintro e w10 ⟨rfl, hb10⟩; have x10 := x8.trans hb10; have X10 := X8.ext hb10; clear x8 hb10 X8) | (go_at_call 24; refine (S.safe _ _ X10).mono ?_; rintro e w11 ⟨rfl, X11, m11⟩; have x11 := x10.mod m11 l8; clear x10 m11 X10) | (go_at_call 20; refine (fault_at _ _ _ _ _ _ _ X11).mono ?_; rintro e w14 ⟨rfl, hb14⟩; have x14 := x11.trans hb14; clear x11 hb14) | (go_at_call 21; refine (bad_no _ _ _ (by decide)).mono ?_; rintro e w15 ⟨rfl, hb15⟩; have x15 := x14.trans hb15; clear x14 hb15))
      go_ret
      exact ⟨rfl, x15⟩
theorem walk (a0 : Int) (w0 : (Lit.int .u64 a0).wf = true) (W : World) :
    Calls Try.prog 4 #[.int .u64 a0] W fun e w' => e = .returned (.bool true) ∧ Ext W w' := by
  have hb := bounds_u64 w0
  obtain ⟨n, rfl⟩ := Int.eq_ofNat_of_zero_le hb.1
  by_cases h : 268435455 < (n : Int)
  · exact walk_no n h W
  · exact walk_ok n (by omega) W

set_option maxRecDepth 100000 in
theorem lifted (os : Os) (started : os.Started) (H : Type) (enc : TypeId × Value → H) :
    ReturnsInHanded {} Try.checked os 4 .any (Rows.octetSafeSpec.pre6 enc Try.prog Try.f4 Rows.octetSafeRow.domain false) (Rows.octetSafeSpec.post enc Try.prog Try.f4 false true false false) := by
  refine returnsInHanded_of_change (C := Try.checked) own started (by kernel_rfl) Try.func4
    (ChangeSpec.witness6 (enc := enc) (C := Try.checked) false ⟨#[], #[.int .u64 0], []⟩ 8 (by kernel_rfl) (by kernel_rfl) (by kernel_rfl) (by kernel_rfl)) ?_
  intro W base args ds gs before hval0 hW hcnd _
  have hval : ∀ (j : Nat) t v, Try.f4.params[j]? = some t → args[j]? = some v → Value.okWide Try.prog W .any base t v := hval0
  have hW' := hW
  obtain ⟨p, q, hA0, hV, rfl, hfz, hnd⟩ := hW
  have hA : DataW.TrodAll enc Try.prog W 0 (fun _ => true) true Try.f4.params.toList args.toList ds p := hA0
  rw [Try.params4] at hA hval
  obtain ⟨v0, vs0, d0, ds0, p0, q0, hargs, rfl, rfl, h0, r0⟩ := trodAll_cons hA
  obtain ⟨rfl, rfl, rfl⟩ := trodAll_nil r0
  obtain rfl : args = #[v0] := by cases args; simp_all
  obtain ⟨rfl, rfl⟩ := trodVars_none hV
  obtain ⟨a0, rfl, rfl, rfl, w0⟩ := open_int Try.underlying22 (hval 0 22 v0 rfl rfl) h0
  clear hA0 hval0
  simp only [List.append_nil] at hW'
  refine (walk a0 w0 W).mono fun e W' ⟨he, bel⟩ => ?_
  subst he
  exact ⟨_, rfl, _, _, _, [], [], [], hW', trodAll_mk1 (shut_bool Try.underlying4 _), (trodAll_cons_mk (shut_int Try.underlying22 w0) trodAll_mk0), rfl, bel.frame _, fun h => by cases h⟩

theorem over : Rows.octetSafeRow.holds Try.pinned (OpenSpec.ofChange Rows.octetSafeSpec) :=
  OpenClaim.holds_of_wide 4 Try.f4 rfl rfl rfl rfl rfl rfl rfl ⟨rfl, rfl, rfl, rfl, rfl⟩ rfl rfl rfl rfl rfl (by kernel_rfl) Try.func4 (by kernel_rfl)
    (of_decide_eq_true (by kernel_rfl)) (by unfold Func.isWrapper; first | (rw [if_pos (by decide +kernel)]; kernel_rfl) | (rw [if_neg (by decide +kernel)]; exact ⟨rfl, rfl⟩))
    (fun os started H enc _ => lifted os started H enc)

/-- THE STATEMENT. -/
theorem proved : Rows.OctetSafeSaid := over
#print axioms proved

end Go.Proofs.Ytdegnjbpjffgmaa.octetSafe
