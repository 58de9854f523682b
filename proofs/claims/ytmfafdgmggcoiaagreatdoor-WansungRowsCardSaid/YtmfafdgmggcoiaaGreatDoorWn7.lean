/-
  Layer 7: the document's example; two bytes as a text.
-/
import Derived.Test.YtmfafdgmggcoiaaGreatDoorWc5
namespace Go.Proofs.YtmfafdgmggcoiaaGreatDoor
open Go Go.ChangeShapes Go.WideShapes Go.ChangeAt Go.RowKit
set_option linter.unusedSimpArgs false
set_option linter.unusedVariables false

theorem twoB_w (u v : UInt8) : twoB (u.toNat * 256 + v.toNat) = ⟨#[u, v]⟩ := by
  have h1 := u.toNat_lt
  have h2 := v.toNat_lt
  unfold twoB
  have e1 : (u.toNat * 256 + v.toNat) / 256 = u.toNat := by omega
  have e2 : (u.toNat * 256 + v.toNat) % 256 = v.toNat := by omega
  rw [e1, e2]
  simp
theorem not_row (a b : Nat) (h : ¬ (161 ≤ a ∧ a ≤ 254 ∧ 161 ≤ b ∧ b ≤ 254 ∧ ¬ (176 ≤ a ∧ a ≤ 200))) : ¬ rowAB a b := h
set_option maxRecDepth 100000 in
theorem ex_sign7 (w : World) (hT : Tab7 w) : Calls Tryz.prog 24 #[.int .u8 176, .int .u8 162] w fun e w' => e = .returned (.tuple #[.int .i32 44033, .bool true]) ∧ Ext w w' := by
  have h := sign_syl 176 162 w hT (not_row _ _ (by decide))
  have e1 : signW (176 : UInt8).toNat (162 : UInt8).toNat = 44033 := by decide +kernel
  rw [e1] at h
  exact h
set_option maxRecDepth 100000 in
theorem ex_bytes7 (w : World) (hT : Tab7 w) : Calls Tryz.prog 25 #[.int .i32 55203] w fun e w' => e = .returned (.tuple #[.string ⟨#[198, 82]⟩, .bool true]) ∧ Ext w w' := by
  have h := bytes_syl 11171 55203 w hT (by decide) (by decide)
  have e1 : codeN 11171 = 50770 := by decide +kernel
  rw [e1] at h
  exact h
theorem awake7_any (w : World) (hT : Tab7 w) : Calls Tryz.prog 15 #[] w fun e w' => e = .returned (.bool true) ∧ Ext w w' := by
  have HT := Lib.hid hT
  go_enter Tryz.func15, Tryz.ntmps15
  go_wp2_with (first
    | (go_at_call 24; refine (ex_sign7 _ HT.out).mono ?_; rintro e w1 ⟨rfl, hb1⟩)
    | (go_at_call 25; refine (ex_bytes7 _ (HT.out.ext hb1)).mono ?_; rintro e w2 ⟨rfl, hb2⟩))
  go_ret
  exact ⟨rfl, hb1.trans hb2⟩
theorem awake7 (w : World) (hT : Tab7 w) : Calls Tryz.prog 6 #[] w fun e w' => e = .returned (.bool true) ∧ Ext w w' := by
  have HT := Lib.hid hT
  go_enter Tryz.func6, Tryz.ntmps6
  go_wp2_with (go_at_call 15; refine (awake7_any _ HT.out).mono ?_; rintro e w1 ⟨rfl, hb1⟩)
  go_ret
  exact ⟨rfl, hb1⟩
end Go.Proofs.YtmfafdgmggcoiaaGreatDoor
