/-
  The law OctetNil holds at every number and every text: a reader that is nil answers nothing.
  Conditions: none beyond the row's own.
-/
import Derived.Test.YtdegnjbpjffgmaaOct6
namespace Go.Proofs.Ytdegnjbpjffgmaa.octetNil
open Go Go.Proofs.Ytdegnjbpjffgmaa Go.ChangeShapes Go.WideShapes Go.ChangeAt Go.RowKit
open Go.ChangeMaps (open_string shut_string)
set_option linter.unusedSimpArgs false
set_option linter.unusedVariables false

theorem own : ownKnob Try.prog.godebug = none := by kernel_rfl
set_option maxRecDepth 100000 in
set_option maxHeartbeats 1000000 in
theorem walk (a0 : Int) (a1 : ByteArray) (w : World) :
    Calls Try.prog 7 #[.int .i64 a0, .string a1] w fun e w' => e = .returned (.bool true) ∧ Ext w w' := by
  go_enter Try.func7, Try.ntmps7
  go_wp2_with (first | (go_at_call 31; refine (fail_nil _ _ _).mono ?_; rintro e w1 ⟨rfl, hb1⟩) | (go_at_call 16; refine (awake_yes _).mono ?_; rintro e w2 ⟨rfl, hb2⟩; have x2 := hb1.trans hb2; clear hb1 hb2) | (go_at_call 19; refine (left_nil _).mono ?_; rintro e w3 ⟨rfl, hb3⟩; have x3 := x2.trans hb3; clear x2 hb3) | (go_at_call 28; refine (at_nil _).mono ?_; rintro e w4 ⟨rfl, hb4⟩; have x4 := x3.trans hb4; clear x3 hb4) | (go_at_call 20; refine (fault_nil _).mono ?_; rintro e w5 ⟨rfl, hb5⟩; have x5 := x4.trans hb5; clear x4 hb5) | (go_at_call 32; refine (take_nil _ _).mono ?_; rintro e w6 ⟨rfl, hb6⟩; have x6 := x5.trans hb6; clear x5 hb6) | (go_at_call 33; refine (rest_nil _).mono ?_; rintro e w7 ⟨rfl, hb7⟩; have x7 := x6.trans hb7; clear x6 hb7) | (go_at_call 34; refine (peek_nil _ _).mono ?_; rintro e w8 ⟨rfl, hb8⟩; have x8 := x7.trans hb8; clear x7 hb8) | (go_at_call 17; refine (big_nil _ _).mono ?_; rintro e w9 ⟨rfl, hb9⟩; have x9 := x8.trans hb9; clear x8 hb9) | (go_at_call 18; refine (small_nil _ _).mono ?_; rintro e w10 ⟨rfl, hb10⟩; have x10 := x9.trans hb10; clear x9 hb10) | (go_at_call 24; refine (rsafe_nil _).mono ?_; rintro e w11 ⟨rfl, hb11⟩; have x11 := x10.trans hb11; clear x10 hb11) | (go_at_call 30; refine (want_nil _ _).mono ?_; rintro e w12 ⟨rfl, hb12⟩; have x12 := x11.trans hb12; clear x11 hb12) | (go_at_call 35; refine (until_nil _ _).mono ?_; rintro e w13 ⟨rfl, hb13⟩; have x13 := x12.trans hb13; clear x12 hb13))
  go_ret
  exact ⟨rfl, x13⟩

set_option maxRecDepth 100000 in
theorem lifted (os : Os) (started : os.Started) (H : Type) (enc : TypeId × Value → H) :
    ReturnsInHanded {} Try.checked os 7 .any (Rows.octetNilSpec.pre6 enc Try.prog Try.f7 Rows.octetNilRow.domain false) (Rows.octetNilSpec.post enc Try.prog Try.f7 false true false false) := by
  refine returnsInHanded_of_change (C := Try.checked) own started (by kernel_rfl) Try.func7
    (ChangeSpec.witness6 (enc := enc) (C := Try.checked) false ⟨#[], #[.int .i64 0, .string ByteArray.empty], []⟩ 8 (by kernel_rfl) (by kernel_rfl) (by kernel_rfl) (by kernel_rfl)) ?_
  intro W base args ds gs before hval0 hW hcnd _
  have hval : ∀ (j : Nat) t v, Try.f7.params[j]? = some t → args[j]? = some v → Value.okWide Try.prog W .any base t v := hval0
  have hW' := hW
  obtain ⟨p, q, hA0, hV, rfl, hfz, hnd⟩ := hW
  have hA : DataW.TrodAll enc Try.prog W 0 (fun _ => true) true Try.f7.params.toList args.toList ds p := hA0
  rw [Try.params7] at hA hval
  obtain ⟨v0, vs0, d0, ds0, p0, q0, hargs, rfl, rfl, h0, r0⟩ := trodAll_cons hA
  obtain ⟨v1, vs1, d1, ds1, p1, q1, rfl, rfl, rfl, h1, r1⟩ := trodAll_cons r0
  obtain ⟨rfl, rfl, rfl⟩ := trodAll_nil r1
  obtain rfl : args = #[v0, v1] := by cases args; simp_all
  obtain ⟨rfl, rfl⟩ := trodVars_none hV
  obtain ⟨a0, rfl, rfl, rfl, w0⟩ := open_int Try.underlying3 (hval 0 3 v0 rfl rfl) h0
  obtain ⟨a1, rfl, rfl, rfl, w1⟩ := open_string Try.underlying9 (hval 1 9 v1 rfl rfl) h1
  clear hA0 hval0
  simp only [List.append_nil] at hW'
  refine (walk a0 a1 W).mono fun e W' ⟨he, bel⟩ => ?_
  subst he
  exact ⟨_, rfl, _, _, _, [], [], [], hW', trodAll_mk1 (shut_bool Try.underlying4 _), (trodAll_cons_mk (shut_int Try.underlying3 w0) (trodAll_cons_mk (shut_string Try.underlying9 w1) trodAll_mk0)), rfl, bel.frame _, fun h => by cases h⟩

theorem over : Rows.octetNilRow.holds Try.pinned (OpenSpec.ofChange Rows.octetNilSpec) :=
  OpenClaim.holds_of_wide 7 Try.f7 rfl rfl rfl rfl rfl rfl rfl ⟨rfl, rfl, rfl, rfl, rfl⟩ rfl rfl rfl rfl rfl (by kernel_rfl) Try.func7 (by kernel_rfl)
    (of_decide_eq_true (by kernel_rfl)) (by unfold Func.isWrapper; first | (rw [if_pos (by decide +kernel)]; kernel_rfl) | (rw [if_neg (by decide +kernel)]; exact ⟨rfl, rfl⟩))
    (fun os started H enc _ => lifted os started H enc)

/-- THE STATEMENT. -/
theorem proved : Rows.OctetNilSaid := over
#print axioms proved

end Go.Proofs.Ytdegnjbpjffgmaa.octetNil
