/-
  The law OctetNumbers holds at every number and every size: numbers as bytes are the document's, and are read as they were.
  Conditions: none beyond the row's own.
-/
import Derived.Test.YtdegnjbpjffgmaaOct7
namespace Go.Proofs.Ytdegnjbpjffgmaa.octetNumbers
open Go Go.Proofs.Ytdegnjbpjffgmaa Go.ChangeShapes Go.WideShapes Go.ChangeAt Go.RowKit
open Go.ChangeMaps (open_string shut_string)
set_option linter.unusedSimpArgs false
set_option linter.unusedVariables false

theorem own : ownKnob Try.prog.godebug = none := by kernel_rfl
/-- All that the law calls of numbers, at one size. -/
structure Nums (n k : Nat) (s : Int) : Prop where
  big : ∀ w, Calls Try.prog 8 #[.int .u64 n, .int .i64 s] w fun e w' => e = .returned (.string (bytesBy k (bigAt n k))) ∧ Ext w w'
  small : ∀ w, Calls Try.prog 9 #[.int .u64 n, .int .i64 s] w fun e w' => e = .returned (.string (bytesBy k (smallAt n))) ∧ Ext w w'
  rbig : ∀ w, Calls Try.prog 10 #[.int .u64 n, .int .i64 s] w fun e w' => e = .returned (.string (bytesBy k (bigAt n k))) ∧ Ext w w'
  rsmall : ∀ w, Calls Try.prog 11 #[.int .u64 n, .int .i64 s] w fun e w' => e = .returned (.string (bytesBy k (smallAt n))) ∧ Ext w w'
  rback : ∀ w, Calls Try.prog 12 #[.string (bytesBy k (smallAt n))] w fun e w' => e = .returned (.string (bytesBy k (bigAt n k))) ∧ Ext w w'
  rsize : ∀ w, Calls Try.prog 13 #[.int .i64 s] w fun e w' => e = .returned (.int .i64 k) ∧ w = w'
  readb : ∀ w, Calls Try.prog 15 #[.string (bytesBy k (bigAt n k))] w fun e w' => ∃ b : Nat, w.heap.size ≤ b ∧ e = .returned (.pointer (some ⟨b, 0, none⟩)) ∧ Rdr w' b (bytesBy k (bigAt n k)) 0 0 0 0 ∧ Ext w w'
  reads : ∀ w, Calls Try.prog 15 #[.string (bytesBy k (smallAt n))] w fun e w' => ∃ b : Nat, w.heap.size ≤ b ∧ e = .returned (.pointer (some ⟨b, 0, none⟩)) ∧ Rdr w' b (bytesBy k (smallAt n)) 0 0 0 0 ∧ Ext w w'
  gbig : ∀ w b, Rdr w b (bytesBy k (bigAt n k)) 0 0 0 0 → Calls Try.prog 17 #[.pointer (some ⟨b, 0, none⟩), .int .i64 s] w fun e w' => e = .returned (.int .u64 ((n % pw k : Nat) : Int)) ∧ Rdr w' b (bytesBy k (bigAt n k)) k 0 0 0 ∧ Mod b w w'
  gsmall : ∀ w b, Rdr w b (bytesBy k (smallAt n)) 0 0 0 0 → Calls Try.prog 18 #[.pointer (some ⟨b, 0, none⟩), .int .i64 s] w fun e w' => e = .returned (.int .u64 ((n % pw k : Nat) : Int)) ∧ Rdr w' b (bytesBy k (smallAt n)) k 0 0 0 ∧ Mod b w w'
  gleft : ∀ w b, Rdr w b (bytesBy k (bigAt n k)) k 0 0 0 → Calls Try.prog 19 #[.pointer (some ⟨b, 0, none⟩)] w fun e w' => e = .returned (.int .i64 0) ∧ Ext w w'
theorem nums (n : Nat) (s : Int) (hn : n < 18446744073709551616) (k : Nat) (hk : cw s = k) : Nums n k s := by
  have hk8 : k ≤ 8 := by have := cw_hi s; omega
  have e : (cw s).toNat = k := by omega
  have z1 := bytesBy_size k (bigAt n k)
  have z2 := bytesBy_size k (smallAt n)
  refine ⟨fun w => ?_, fun w => ?_, fun w => ?_, fun w => ?_, fun w => ?_, fun w => ?_, fun w => ?_, fun w => ?_, fun w b H => ?_, fun w b H => ?_, fun w b H => ?_⟩
  · have := wbig n s w hn; rwa [e] at this
  · have := wsmall n s w hn; rwa [e] at this
  · have := rbig_ref n s w hn; rwa [e] at this
  · have := rsmall_ref n s w hn; rwa [e] at this
  · have := rback_ref (bytesBy k (smallAt n)) w (by omega); rwa [rev_small] at this
  · have := rsize_any s w; rwa [hk] at this
  · exact (read_any _ w (by omega)).mono fun e w' ⟨h1, h2, h3⟩ => ⟨_, Nat.le_refl _, h1, h2, h3⟩
  · exact (read_any _ w (by omega)).mono fun e w' ⟨h1, h2, h3⟩ => ⟨_, Nat.le_refl _, h1, h2, h3⟩
  · have := big_ok s w b _ 0 0 0 H (by omega)
    rw [e, Nat.zero_add] at this
    have e2 : bePart (bytesBy k (bigAt n k)) 0 k = n % pw k := by
      unfold bePart
      rw [extract_all _ _ z1.symm, beN_big]
      rfl
    rwa [e2] at this
  · have := small_ok s w b _ 0 0 0 H (by omega)
    rw [e, Nat.zero_add] at this
    have e2 : lePart (bytesBy k (smallAt n)) 0 k = n % pw k := by
      unfold lePart
      rw [extract_all _ _ z2.symm, leN_small]
      rfl
    rwa [e2] at this
  · have := left_ok w b _ k 0 0 H
    rw [z1] at this
    simpa using this
set_option maxRecDepth 100000 in
set_option maxHeartbeats 1000000 in
theorem walk_low (n : Nat) (s : Int) (k : Nat) (N : Nums n k s) (hn : (n : Int) ≤ 18446744073709551615) (hk : (k : Int) < 8) (w : World) :
    Calls Try.prog 3 #[.int .u64 n, .int .i64 s] w fun e w' => e = .returned (.bool true) ∧ Ext w w' := by
  have hp : (0 : Int) < pw k := by have := pw_pos k; omega
  have hp2 : (pw k : Int) ≤ 72057594037927936 := by have := pow_le7 (k := k) (by omega); unfold pw; omega
  go_enter Try.func3, Try.ntmps3
  go_wp2_with (first | (go_at_call 8; refine (N.big _).mono ?_; rintro e w1 ⟨rfl, hb1⟩) | (go_at_call 9; refine (N.small _).mono ?_; rintro e w2 ⟨rfl, hb2⟩; have x2 := hb1.trans hb2; clear hb1 hb2) | (go_at_call 10; refine (N.rbig _).mono ?_; rintro e w3 ⟨rfl, hb3⟩; have x3 := x2.trans hb3; clear x2 hb3) | (go_at_call 11; refine (N.rsmall _).mono ?_; rintro e w4 ⟨rfl, hb4⟩; have x4 := x3.trans hb4; clear x3 hb4) | (go_at_call 12; refine (N.rback _).mono ?_; rintro e w5 ⟨rfl, hb5⟩; have x5 := x4.trans hb5; clear x4 hb5) | (go_at_call 13; refine (N.rsize _).mono ?_; rintro e w6 ⟨rfl, rfl⟩) | (go_at_call 14; refine (rpower_ref _ _ (by omega)).mono ?_; rintro e w7 ⟨rfl, rfl⟩))
  go_wp2_with (first | (go_at_call 15; (with_reducible refine (N.readb _).mono ?_); rintro e w8 ⟨bx, hbx, rfl, X8, hb8⟩; have l8 := Nat.le_trans x5.size hbx; have x8 := x5.trans hb8; clear x5 hb8) | (go_at_call 15; (with_reducible refine (N.reads _).mono ?_); rintro e w9 ⟨bY, hby, rfl, Y9, hb9⟩; have l9 := Nat.le_trans x8.size hby; have hne : bx ≠ bY := (by have := X8.lt; omega); have x9 := x8.trans hb9; have X9 := X8.ext hb9; clear x8 hb9 X8) | (go_at_call 16; refine (awake_yes _).mono ?_; rintro e w10 ⟨rfl, hb10⟩; have x10 := x9.trans hb10; have X10 := X9.ext hb10; have Y10 := Y9.ext hb10; clear x9 hb10 X9 Y9) | (go_at_call 17; refine (N.gbig _ _ X10).mono ?_; rintro e w11 ⟨rfl, X11, m11⟩; have x11 := x10.mod m11 l8; have Y11 := Y10.mod m11 (Ne.symm hne); clear x10 m11 Y10 X10) | (go_at_call 18; refine (N.gsmall _ _ Y11).mono ?_; rintro e w12 ⟨rfl, Y12, m12⟩; have x12 := x11.mod m12 l9; have X12 := X11.mod m12 hne; clear x11 m12 Y11 X11) | (go_at_call 19; refine (N.gleft _ _ X12).mono ?_; rintro e w13 ⟨rfl, hb13⟩; have x13 := x12.trans hb13; have X13 := X12.ext hb13; clear x12 hb13 X12) | (go_at_call 20; refine (fault_at _ _ _ _ _ _ _ X13).mono ?_; rintro e w14 ⟨rfl, hb14⟩; have x14 := x13.trans hb14; clear x13 hb14) | (go_at_call 21; refine (bad_no _ _ _ (by decide)).mono ?_; rintro e w15 ⟨rfl, hb15⟩; have x15 := x14.trans hb15; clear x14 hb15))
  go_ret
  exact ⟨rfl, x15⟩
set_option maxRecDepth 100000 in
set_option maxHeartbeats 1000000 in
theorem walk_hi (n : Nat) (s : Int) (k : Nat) (N : Nums n k s) (hn : (n : Int) ≤ 18446744073709551615) (hk : ¬ (k : Int) < 8) (he : n % pw k = n) (w : World) :
    Calls Try.prog 3 #[.int .u64 n, .int .i64 s] w fun e w' => e = .returned (.bool true) ∧ Ext w w' := by
  have Nb := N.gbig
  have Ns := N.gsmall
  rw [he] at Nb Ns
  have NB := Lib.hid Nb
  have NS := Lib.hid Ns
  clear Nb Ns he
  go_enter Try.func3, Try.ntmps3
  go_wp2_with (first | (go_at_call 8; refine (N.big _).mono ?_; rintro e w1 ⟨rfl, hb1⟩) | (go_at_call 9; refine (N.small _).mono ?_; rintro e w2 ⟨rfl, hb2⟩; have x2 := hb1.trans hb2; clear hb1 hb2) | (go_at_call 10; refine (N.rbig _).mono ?_; rintro e w3 ⟨rfl, hb3⟩; have x3 := x2.trans hb3; clear x2 hb3) | (go_at_call 11; refine (N.rsmall _).mono ?_; rintro e w4 ⟨rfl, hb4⟩; have x4 := x3.trans hb4; clear x3 hb4) | (go_at_call 12; refine (N.rback _).mono ?_; rintro e w5 ⟨rfl, hb5⟩; have x5 := x4.trans hb5; clear x4 hb5) | (go_at_call 13; refine (N.rsize _).mono ?_; rintro e w6 ⟨rfl, rfl⟩) | (go_at_call 14; refine (rpower_ref _ _ (by omega)).mono ?_; rintro e w7 ⟨rfl, rfl⟩))
  go_wp2_with (first | (go_at_call 15; (with_reducible refine (N.readb _).mono ?_); rintro e w8 ⟨bx, hbx, rfl, X8, hb8⟩; have l8 := Nat.le_trans x5.size hbx; have x8 := x5.trans hb8; clear x5 hb8) | (go_at_call 15; (with_reducible refine (N.reads _).mono ?_); rintro e w9 ⟨bY, hby, rfl, Y9, hb9⟩; have l9 := Nat.le_trans x8.size hby; have hne : bx ≠ bY := (by have := X8.lt; omega); have x9 := x8.trans hb9; have X9 := X8.ext hb9; clear x8 hb9 X8) | (go_at_call 16; refine (awake_yes _).mono ?_; rintro e w10 ⟨rfl, hb10⟩; have x10 := x9.trans hb10; have X10 := X9.ext hb10; have Y10 := Y9.ext hb10; clear x9 hb10 X9 Y9) | (go_at_call 17; refine (NB.out _ _ X10).mono ?_; rintro e w11 ⟨rfl, X11, m11⟩; have x11 := x10.mod m11 l8; have Y11 := Y10.mod m11 (Ne.symm hne); clear x10 m11 Y10 X10) | (go_at_call 18; refine (NS.out _ _ Y11).mono ?_; rintro e w12 ⟨rfl, Y12, m12⟩; have x12 := x11.mod m12 l9; have X12 := X11.mod m12 hne; clear x11 m12 Y11 X11) | (go_at_call 19; refine (N.gleft _ _ X12).mono ?_; rintro e w13 ⟨rfl, hb13⟩; have x13 := x12.trans hb13; have X13 := X12.ext hb13; clear x12 hb13 X12) | (go_at_call 20; refine (fault_at _ _ _ _ _ _ _ X13).mono ?_; rintro e w14 ⟨rfl, hb14⟩; have x14 := x13.trans hb14; clear x13 hb14) | (go_at_call 21; refine (bad_no _ _ _ (by decide)).mono ?_; rintro e w15 ⟨rfl, hb15⟩; have x15 := x14.trans hb15; clear x14 hb15))
  go_ret
  exact ⟨rfl, x15⟩
theorem walk (a0 a1 : Int) (w0 : (Lit.int .u64 a0).wf = true) (W : World) :
    Calls Try.prog 3 #[.int .u64 a0, .int .i64 a1] W fun e w' => e = .returned (.bool true) ∧ Ext W w' := by
  have hb := bounds_u64 w0
  obtain ⟨n, rfl⟩ := Int.eq_ofNat_of_zero_le hb.1
  obtain ⟨k, hk⟩ := Int.eq_ofNat_of_zero_le (cw_lo a1)
  have N := nums n a1 (by omega) k hk
  have h8 := cw_hi a1
  by_cases h : (k : Int) < 8
  · exact walk_low n a1 k N (by omega) h W
  · have e : k = 8 := by omega
    subst e
    exact walk_hi n a1 8 N (by omega) h (Nat.mod_eq_of_lt (by have : pw 8 = 18446744073709551616 := (by decide); omega)) W

set_option maxRecDepth 100000 in
theorem lifted (os : Os) (started : os.Started) (H : Type) (enc : TypeId × Value → H) :
    ReturnsInHanded {} Try.checked os 3 .any (Rows.octetNumbersSpec.pre6 enc Try.prog Try.f3 Rows.octetNumbersRow.domain false) (Rows.octetNumbersSpec.post enc Try.prog Try.f3 false true false false) := by
  refine returnsInHanded_of_change (C := Try.checked) own started (by kernel_rfl) Try.func3
    (ChangeSpec.witness6 (enc := enc) (C := Try.checked) false ⟨#[], #[.int .u64 0, .int .i64 0], []⟩ 8 (by kernel_rfl) (by kernel_rfl) (by kernel_rfl) (by kernel_rfl)) ?_
  intro W base args ds gs before hval0 hW hcnd _
  have hval : ∀ (j : Nat) t v, Try.f3.params[j]? = some t → args[j]? = some v → Value.okWide Try.prog W .any base t v := hval0
  have hW' := hW
  obtain ⟨p, q, hA0, hV, rfl, hfz, hnd⟩ := hW
  have hA : DataW.TrodAll enc Try.prog W 0 (fun _ => true) true Try.f3.params.toList args.toList ds p := hA0
  rw [Try.params3] at hA hval
  obtain ⟨v0, vs0, d0, ds0, p0, q0, hargs, rfl, rfl, h0, r0⟩ := trodAll_cons hA
  obtain ⟨v1, vs1, d1, ds1, p1, q1, rfl, rfl, rfl, h1, r1⟩ := trodAll_cons r0
  obtain ⟨rfl, rfl, rfl⟩ := trodAll_nil r1
  obtain rfl : args = #[v0, v1] := by cases args; simp_all
  obtain ⟨rfl, rfl⟩ := trodVars_none hV
  obtain ⟨a0, rfl, rfl, rfl, w0⟩ := open_int Try.underlying22 (hval 0 22 v0 rfl rfl) h0
  obtain ⟨a1, rfl, rfl, rfl, w1⟩ := open_int Try.underlying3 (hval 1 3 v1 rfl rfl) h1
  clear hA0 hval0
  simp only [List.append_nil] at hW'
  refine (walk a0 a1 w0 W).mono fun e W' ⟨he, bel⟩ => ?_
  subst he
  exact ⟨_, rfl, _, _, _, [], [], [], hW', trodAll_mk1 (shut_bool Try.underlying4 _), (trodAll_cons_mk (shut_int Try.underlying22 w0) (trodAll_cons_mk (shut_int Try.underlying3 w1) trodAll_mk0)), rfl, bel.frame _, fun h => by cases h⟩

theorem over : Rows.octetNumbersRow.holds Try.pinned (OpenSpec.ofChange Rows.octetNumbersSpec) :=
  OpenClaim.holds_of_wide 3 Try.f3 rfl rfl rfl rfl rfl rfl rfl ⟨rfl, rfl, rfl, rfl, rfl⟩ rfl rfl rfl rfl rfl (by kernel_rfl) Try.func3 (by kernel_rfl)
    (of_decide_eq_true (by kernel_rfl)) (by unfold Func.isWrapper; first | (rw [if_pos (by decide +kernel)]; kernel_rfl) | (rw [if_neg (by decide +kernel)]; exact ⟨rfl, rfl⟩))
    (fun os started H enc _ => lifted os started H enc)

/-- THE STATEMENT. -/
theorem proved : Rows.OctetNumbersSaid := over
#print axioms proved

end Go.Proofs.Ytdegnjbpjffgmaa.octetNumbers
