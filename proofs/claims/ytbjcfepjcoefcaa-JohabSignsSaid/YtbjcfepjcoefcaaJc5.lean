/-
  Layer 6: signs and bytes for the laws; the document's example.
-/
import Derived.Test.YtbjcfepjcoefcaaJc4
namespace Go.Proofs.Ytbjcfepjcoefcaa
open Go Go.ChangeShapes Go.WideShapes Go.ChangeAt Go.RowKit
set_option linter.unusedSimpArgs false
set_option linter.unusedVariables false

theorem twoB_uv (u v : UInt8) : twoB (u.toNat * 256 + v.toNat) = ⟨#[u, v]⟩ := by
  have h1 := u.toNat_lt
  have h2 := v.toNat_lt
  unfold twoB
  have e1 : (u.toNat * 256 + v.toNat) / 256 = u.toNat := by omega
  have e2 : (u.toNat * 256 + v.toNat) % 256 = v.toNat := by omega
  rw [e1, e2]
  simp
theorem sign_u (u v : UInt8) (w : World) : Calls Try.prog 7 #[.int .u8 u.toNat, .int .u8 v.toNat] w (SignOut w (signJ (u.toNat * 256 + v.toNat))) := sign_two u.toNat v.toNat w u.toNat_lt v.toNat_lt
/-- A number below 65536 as two bytes. -/
theorem two_of (n : Nat) (h : n < 65536) : ∃ u v : UInt8, n = u.toNat * 256 + v.toNat ∧ u.toNat = n / 256 ∧ v.toNat = n % 256 := by
  have e1 : ((n / 256).toUInt8).toNat = n / 256 := by simp; omega
  have e2 : ((n % 256).toUInt8).toNat = n % 256 := by simp
  exact ⟨(n / 256).toUInt8, (n % 256).toUInt8, by rw [e1, e2]; omega, e1, e2⟩
/-- What has a sign is that sign's code. -/
theorem back_sign (c : Nat) (h : c < 65536) (hs : signJ c ≠ 0) : inB (signJ c) = true ∧ (backP (signJ c)).toNat = c := by
  obtain ⟨h1, h2, h3, h4, h5⟩ := okJ_at c h hs
  have hi : inB (signJ c) = true := (inB_iff _).2 (by omega)
  have := back_code _ hi
  rw [code_sign c h hs] at this
  exact ⟨hi, by omega⟩
theorem bytes_of (u v : UInt8) (w : World) (hs : signJ (u.toNat * 256 + v.toNat) ≠ 0) : Calls Try.prog 10 #[.int .i32 (signJ (u.toNat * 256 + v.toNat))] w fun e w' => e = .returned (.tuple #[.string ⟨#[u, v]⟩, .bool true]) ∧ Ext w w' := by
  have h1 := u.toNat_lt
  have h2 := v.toNat_lt
  obtain ⟨hi, hb⟩ := back_sign _ (by omega) hs
  have := bytes_yes _ w hi
  rwa [hb, twoB_uv] at this
theorem ex_sign (w : World) : Calls Try.prog 7 #[.int .u8 136, .int .u8 97] w fun e w' => e = .returned (.tuple #[.int .i32 44032, .bool true]) ∧ Ext w w' := by
  have h := sign_two 136 97 w (by decide) (by decide)
  have e : signJ (136 * 256 + 97) = 44032 := by decide +kernel
  rw [e] at h
  exact h
theorem ex_bytes (w : World) : Calls Try.prog 10 #[.int .i32 12595] w fun e w' => e = .returned (.tuple #[.string ⟨#[132, 68]⟩, .bool true]) ∧ Ext w w' := by
  have h := bytes_yes 12595 w (by decide)
  have e : twoB (backP 12595).toNat = ⟨#[132, 68]⟩ := by decide +kernel
  rw [e] at h
  exact h
theorem awake6_any (w : World) : Calls Try.prog 18 #[] w fun e w' => e = .returned (.bool true) ∧ Ext w w' := by
  go_enter Try.func18, Try.ntmps18
  go_wp2_with (first
    | (go_at_call 7; refine (ex_sign _).mono ?_; rintro e w1 ⟨rfl, hb1⟩)
    | (go_at_call 10; refine (ex_bytes _).mono ?_; rintro e w2 ⟨rfl, hb2⟩))
  go_ret
  exact ⟨rfl, hb1.trans hb2⟩
theorem awake6 (w : World) : Calls Try.prog 9 #[] w fun e w' => e = .returned (.bool true) ∧ Ext w w' := by
  go_enter Try.func9, Try.ntmps9
  go_wp2_with (go_at_call 18; refine (awake6_any _).mono ?_; rintro e w1 ⟨rfl, hb1⟩)
  go_ret
  exact ⟨rfl, hb1⟩
theorem u8_of {a : Int} (h : (Lit.int .u8 a).wf = true) : ∃ u : UInt8, a = u.toNat := by
  simp only [Lit.wf, Bool.and_eq_true, decide_eq_true_eq] at h
  have e1 : IntKind.min .u8 = 0 := by decide
  have e2 : IntKind.max .u8 = 255 := by decide
  refine ⟨a.toNat.toUInt8, ?_⟩
  simp
  omega
theorem i32_of {a : Int} (h : (Lit.int .i32 a).wf = true) : -2147483648 ≤ a ∧ a ≤ 2147483647 := by
  simp only [Lit.wf, Bool.and_eq_true, decide_eq_true_eq] at h
  have e1 : IntKind.min .i32 = -2147483648 := by decide
  have e2 : IntKind.max .i32 = 2147483647 := by decide
  omega
end Go.Proofs.Ytbjcfepjcoefcaa
