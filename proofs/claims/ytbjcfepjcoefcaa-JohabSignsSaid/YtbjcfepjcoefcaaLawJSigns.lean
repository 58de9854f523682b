/-
  The law JohabSigns holds at every two bytes: their sign, or that there is none, are the document's; it leads back to them.
  Conditions: none beyond the row's own.
-/
import Derived.Test.YtbjcfepjcoefcaaJc5
import Derived.ChangeMaps
namespace Go.Proofs.Ytbjcfepjcoefcaa.johabSigns
open Go Go.Proofs.Ytbjcfepjcoefcaa Go.ChangeShapes Go.WideShapes Go.ChangeAt Go.RowKit
open Go.ChangeMaps (open_string shut_string)
set_option linter.unusedSimpArgs false
set_option linter.unusedVariables false

theorem own : ownKnob Try.prog.godebug = none := by kernel_rfl
set_option maxRecDepth 100000 in
theorem walk_uv (u v : UInt8) (W : World) : Calls Try.prog 3 #[.int .u8 u.toNat, .int .u8 v.toNat] W fun e w' => e = .returned (.bool true) ∧ Ext W w' := by
  have h1 := u.toNat_lt
  have h2 := v.toNat_lt
  have HR := Lib.hid (fun w => rsignj (u.toNat * 256 + v.toNat) w (by omega))
  have e1 : ((u.toNat * 256 + v.toNat : Nat) : Int) = (u.toNat : Int) * 256 + (v.toNat : Int) := by omega
  rw [e1] at HR
  have HS := Lib.hid (fun w => sign_u u v w)
  have b1 : (u.toNat : Int) < 256 := by omega
  have b2 : (v.toNat : Int) < 256 := by omega
  by_cases hs : signJ (u.toNat * 256 + v.toNat) = 0
  · rw [hs] at HR HS
    unfold SignOut at HS
    rw [nz_no] at HS
    clear hs e1 h1 h2
    go_enter Try.func3, Try.ntmps3
    go_wp2_with (first
      | (go_at_call 7; refine (HS.out _).mono ?_; rintro e w1 ⟨rfl, hb1⟩)
      | (go_at_call 8; refine (HR.out _).mono ?_; rintro e w2 ⟨rfl, hb2⟩)
      | (go_at_call 9; refine (awake6 _).mono ?_; rintro e w3 ⟨rfl, hb3⟩))
    go_ret
    exact ⟨rfl, (hb1.trans hb2).trans hb3⟩
  · have HB := Lib.hid (fun w => bytes_of u v w hs)
    unfold SignOut at HS
    rw [nz_yes hs] at HS
    have hs1 : (signJ (u.toNat * 256 + v.toNat) == 0) = false := beq_false_of_ne hs
    generalize signJ (u.toNat * 256 + v.toNat) = s at HS HR HB hs1
    have hs2 : (s != 0) = true := by simp [bne, hs1]
    clear hs e1 h1 h2
    go_enter Try.func3, Try.ntmps3
    go_wp2_with (first
      | (go_at_call 7; refine (HS.out _).mono ?_; rintro e w1 ⟨rfl, hb1⟩)
      | (go_at_call 8; refine (HR.out _).mono ?_; rintro e w2 ⟨rfl, hb2⟩)
      | (go_at_call 10; refine (HB.out _).mono ?_; rintro e w3 ⟨rfl, hb3⟩)
      | (go_at_call 9; refine (awake6 _).mono ?_; rintro e w4 ⟨rfl, hb4⟩))
    go_ret
    exact ⟨by simp; rfl, ((hb1.trans hb2).trans hb3).trans hb4⟩
theorem walk (a b : Int) (ha : (Lit.int .u8 a).wf = true) (hb : (Lit.int .u8 b).wf = true) (W : World) : Calls Try.prog 3 #[.int .u8 a, .int .u8 b] W fun e w' => e = .returned (.bool true) ∧ Ext W w' := by
  obtain ⟨u, rfl⟩ := u8_of ha
  obtain ⟨v, rfl⟩ := u8_of hb
  exact walk_uv u v W
set_option maxRecDepth 100000 in
theorem lifted (os : Os) (started : os.Started) (H : Type) (enc : TypeId × Value → H) :
    ReturnsInHanded {} Try.checked os 3 .any (Rows.johabSignsSpec.pre6 enc Try.prog Try.f3 Rows.johabSignsRow.domain false) (Rows.johabSignsSpec.post enc Try.prog Try.f3 false true false false) := by
  refine returnsInHanded_of_change (C := Try.checked) own started (by kernel_rfl) Try.func3
    (ChangeSpec.witness6 (enc := enc) (C := Try.checked) false ⟨#[], #[.int .u8 0, .int .u8 0], []⟩ 8 (by kernel_rfl) (by kernel_rfl) (by kernel_rfl) (by kernel_rfl)) ?_
  intro W base args ds gs before hval0 hW hcnd _
  have hval : ∀ (j : Nat) t v, Try.f3.params[j]? = some t → args[j]? = some v → Value.okWide Try.prog W .any base t v := hval0
  have hW' := hW
  obtain ⟨p, q, hA0, hV, rfl, hfz, hnd⟩ := hW
  have hA : DataW.TrodAll enc Try.prog W 0 (fun _ => true) true Try.f3.params.toList args.toList ds p := hA0
  rw [Try.params3] at hA hval
  obtain ⟨v0, vs0, d0, ds0, p0, q0, hargs, rfl, rfl, h0, r0⟩ := trodAll_cons hA
  obtain ⟨v1, vs1, d1, ds1, p1, q1, rfl, rfl, rfl, h1, r1⟩ := trodAll_cons r0
  obtain ⟨rfl, rfl, rfl⟩ := trodAll_nil r1
  obtain rfl : args = #[v0, v1] := by cases args; simp_all
  obtain ⟨rfl, rfl⟩ := trodVars_none hV
  obtain ⟨a0, rfl, rfl, rfl, w0⟩ := open_int Try.underlying5 (hval 0 5 v0 rfl rfl) h0
  obtain ⟨a1, rfl, rfl, rfl, w1⟩ := open_int Try.underlying5 (hval 1 5 v1 rfl rfl) h1
  clear hA0 hval0
  try simp only [List.append_nil] at hW'
  refine (walk a0 a1 w0 w1 W).mono fun e W' ⟨he, bel⟩ => ?_
  subst he
  exact ⟨_, rfl, _, _, _, [], [], [], hW', trodAll_mk1 (shut_bool Try.underlying4 _), (trodAll_cons_mk (shut_int Try.underlying5 w0) (trodAll_cons_mk (shut_int Try.underlying5 w1) trodAll_mk0)), rfl, bel.frame _, fun h => by cases h⟩

theorem over : Rows.johabSignsRow.holds Try.pinned (OpenSpec.ofChange Rows.johabSignsSpec) :=
  OpenClaim.holds_of_wide 3 Try.f3 rfl rfl rfl rfl rfl rfl rfl ⟨rfl, rfl, rfl, rfl, rfl⟩ rfl rfl rfl rfl rfl (by kernel_rfl) Try.func3 (by kernel_rfl)
    (of_decide_eq_true (by kernel_rfl)) (by unfold Func.isWrapper; first | (rw [if_pos (by decide +kernel)]; kernel_rfl) | (rw [if_neg (by decide +kernel)]; exact ⟨rfl, rfl⟩))
    (fun os started H enc _ => lifted os started H enc)

/-- THE STATEMENT. -/
theorem proved : Rows.JohabSignsSaid := over
#print axioms proved

end Go.Proofs.Ytbjcfepjcoefcaa.johabSigns
