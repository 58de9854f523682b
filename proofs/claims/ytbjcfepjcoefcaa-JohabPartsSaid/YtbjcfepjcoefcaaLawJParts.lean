/-
  The law JohabParts holds at every three parts: their syllable, or that there is none, are the document's; it has two bytes.
  Conditions: none beyond the row's own.
-/
import Derived.Test.YtbjcfepjcoefcaaJc5
import Derived.ChangeMaps
namespace Go.Proofs.Ytbjcfepjcoefcaa.johabParts
open Go Go.Proofs.Ytbjcfepjcoefcaa Go.ChangeShapes Go.WideShapes Go.ChangeAt Go.RowKit
open Go.ChangeMaps (open_string shut_string)
set_option linter.unusedSimpArgs false
set_option linter.unusedVariables false

theorem own : ownKnob Try.prog.godebug = none := by kernel_rfl
theorem walk_no (i m f : Int) (h : i < 0 ∨ 18 < i ∨ m < 0 ∨ 20 < m ∨ f < 0 ∨ 27 < f) (W : World) : Calls Try.prog 5 #[.int .i64 i, .int .i64 m, .int .i64 f] W fun e w' => e = .returned (.bool true) ∧ Ext W w' := by
  have HB := Lib.hid (fun w => syl_no i m f w h)
  have hb : i < 0 ∨ (0 ≤ i ∧ ¬ i < 19) ∨ (0 ≤ i ∧ i < 19 ∧ m < 0) ∨ (0 ≤ i ∧ i < 19 ∧ 0 ≤ m ∧ ¬ m < 21) ∨ (0 ≤ i ∧ i < 19 ∧ 0 ≤ m ∧ m < 21 ∧ f < 0) ∨ (0 ≤ i ∧ i < 19 ∧ 0 ≤ m ∧ m < 21 ∧ 0 ≤ f ∧ ¬ f < 28) := by omega
  clear h
  rcases hb with h1 | ⟨h1, h2⟩ | ⟨h1, h2, h3⟩ | ⟨h1, h2, h3, h4⟩ | ⟨h1, h2, h3, h4, h5⟩ | ⟨h1, h2, h3, h4, h5, h6⟩
  rotate_right
  · have hd : decide (f < 28) = false := decide_eq_false h6
    go_enter Try.func5, Try.ntmps5
    go_wp2_with (first
      | (go_at_call 12; refine (HB.out _).mono ?_; rintro e w1 ⟨rfl, rfl⟩)
      | (go_at_call 9; refine (awake6 _).mono ?_; rintro e w4 ⟨rfl, hb4⟩))
    go_ret
    exact ⟨rfl, hb4⟩
  all_goals
    go_enter Try.func5, Try.ntmps5
    go_wp2_with (first
      | (go_at_call 12; refine (HB.out _).mono ?_; rintro e w1 ⟨rfl, rfl⟩)
      | (go_at_call 9; refine (awake6 _).mono ?_; rintro e w4 ⟨rfl, hb4⟩))
    go_ret
    exact ⟨rfl, hb4⟩
set_option maxRecDepth 100000 in
theorem walk_yes (i m f : Int) (h1 : 0 ≤ i) (h2 : i < 19) (h3 : 0 ≤ m) (h4 : m < 21) (h5 : 0 ≤ f) (h6 : f < 28) (W : World) : Calls Try.prog 5 #[.int .i64 i, .int .i64 m, .int .i64 f] W fun e w' => e = .returned (.bool true) ∧ Ext W w' := by
  have HY := Lib.hid (fun w => syl_yes i m f w h1 (by omega) h3 (by omega) h5 (by omega))
  obtain ⟨p, hp⟩ : ∃ p, p = 44032 + (i * 21 + m) * 28 + f := ⟨_, rfl⟩
  have h : inB p = true := (inB_iff p).2 (by omega)
  obtain ⟨g1, g2, g3⟩ := back_ok p h
  obtain ⟨u, v, huv, hu, hv⟩ := two_of (backP p).toNat (by omega)
  have HB := Lib.hid (fun w => bytes_yes p w h)
  rw [huv, twoB_uv] at HB
  have b1 : (132 : Int) ≤ (u.toNat : Int) := by omega
  have b2 : (u.toNat : Int) ≤ 211 := by omega
  rw [hp] at HB
  have hx0 : (⟨#[u, v]⟩ : ByteArray)[0]'(show 0 < 2 by omega) = u := rfl
  clear g1 g2 g3 huv hu hv h hp
  go_enter Try.func5, Try.ntmps5
  go_wp2_with (first
    | (go_at_call 12; refine (HY.out _).mono ?_; rintro e w1 ⟨rfl, rfl⟩)
    | (go_at_call 10; refine (HB.out _).mono ?_; rintro e w2 ⟨rfl, hb2⟩)
    | (go_at_call 9; refine (awake6 _).mono ?_; rintro e w4 ⟨rfl, hb4⟩))
  go_ret
  exact ⟨rfl, hb2.trans hb4⟩
theorem walk (i m f : Int) (W : World) : Calls Try.prog 5 #[.int .i64 i, .int .i64 m, .int .i64 f] W fun e w' => e = .returned (.bool true) ∧ Ext W w' := by
  by_cases h : i < 0 ∨ 18 < i ∨ m < 0 ∨ 20 < m ∨ f < 0 ∨ 27 < f
  · exact walk_no i m f h W
  · exact walk_yes i m f (by omega) (by omega) (by omega) (by omega) (by omega) (by omega) W
set_option maxRecDepth 100000 in
theorem lifted (os : Os) (started : os.Started) (H : Type) (enc : TypeId × Value → H) :
    ReturnsInHanded {} Try.checked os 5 .any (Rows.johabPartsSpec.pre6 enc Try.prog Try.f5 Rows.johabPartsRow.domain false) (Rows.johabPartsSpec.post enc Try.prog Try.f5 false true false false) := by
  refine returnsInHanded_of_change (C := Try.checked) own started (by kernel_rfl) Try.func5
    (ChangeSpec.witness6 (enc := enc) (C := Try.checked) false ⟨#[], #[.int .i64 0, .int .i64 0, .int .i64 0], []⟩ 8 (by kernel_rfl) (by kernel_rfl) (by kernel_rfl) (by kernel_rfl)) ?_
  intro W base args ds gs before hval0 hW hcnd _
  have hval : ∀ (j : Nat) t v, Try.f5.params[j]? = some t → args[j]? = some v → Value.okWide Try.prog W .any base t v := hval0
  have hW' := hW
  obtain ⟨p, q, hA0, hV, rfl, hfz, hnd⟩ := hW
  have hA : DataW.TrodAll enc Try.prog W 0 (fun _ => true) true Try.f5.params.toList args.toList ds p := hA0
  rw [Try.params5] at hA hval
  obtain ⟨v0, vs0, d0, ds0, p0, q0, hargs, rfl, rfl, h0, r0⟩ := trodAll_cons hA
  obtain ⟨v1, vs1, d1, ds1, p1, q1, rfl, rfl, rfl, h1, r1⟩ := trodAll_cons r0
  obtain ⟨v2, vs2, d2, ds2, p2, q2, rfl, rfl, rfl, h2, r2⟩ := trodAll_cons r1
  obtain ⟨rfl, rfl, rfl⟩ := trodAll_nil r2
  obtain rfl : args = #[v0, v1, v2] := by cases args; simp_all
  obtain ⟨rfl, rfl⟩ := trodVars_none hV
  obtain ⟨a0, rfl, rfl, rfl, w0⟩ := open_int Try.underlying3 (hval 0 3 v0 rfl rfl) h0
  obtain ⟨a1, rfl, rfl, rfl, w1⟩ := open_int Try.underlying3 (hval 1 3 v1 rfl rfl) h1
  obtain ⟨a2, rfl, rfl, rfl, w2⟩ := open_int Try.underlying3 (hval 2 3 v2 rfl rfl) h2
  clear hA0 hval0
  try simp only [List.append_nil] at hW'
  refine (walk a0 a1 a2 W).mono fun e W' ⟨he, bel⟩ => ?_
  subst he
  exact ⟨_, rfl, _, _, _, [], [], [], hW', trodAll_mk1 (shut_bool Try.underlying4 _), (trodAll_cons_mk (shut_int Try.underlying3 w0) (trodAll_cons_mk (shut_int Try.underlying3 w1) (trodAll_cons_mk (shut_int Try.underlying3 w2) trodAll_mk0))), rfl, bel.frame _, fun h => by cases h⟩

theorem over : Rows.johabPartsRow.holds Try.pinned (OpenSpec.ofChange Rows.johabPartsSpec) :=
  OpenClaim.holds_of_wide 5 Try.f5 rfl rfl rfl rfl rfl rfl rfl ⟨rfl, rfl, rfl, rfl, rfl⟩ rfl rfl rfl rfl rfl (by kernel_rfl) Try.func5 (by kernel_rfl)
    (of_decide_eq_true (by kernel_rfl)) (by unfold Func.isWrapper; first | (rw [if_pos (by decide +kernel)]; kernel_rfl) | (rw [if_neg (by decide +kernel)]; exact ⟨rfl, rfl⟩))
    (fun os started H enc _ => lifted os started H enc)

/-- THE STATEMENT. -/
theorem proved : Rows.JohabPartsSaid := over
#print axioms proved

end Go.Proofs.Ytbjcfepjcoefcaa.johabParts
