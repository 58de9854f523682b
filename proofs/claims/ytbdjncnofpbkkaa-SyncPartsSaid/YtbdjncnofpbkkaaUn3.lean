/-
  Layer 11: the document's example.
-/
import Derived.Test.YtbdjncnofpbkkaaUn2
namespace Go.Proofs.Ytbdjncnofpbkkaa
open Go Go.ChangeShapes Go.WideShapes Go.ChangeAt Go.RowKit
set_option linter.unusedSimpArgs false
set_option linter.unusedVariables false

set_option maxRecDepth 100000 in
theorem awake11_any (w : World) : Calls Try.prog 27 #[] w fun e w' => e = .returned (.bool true) ∧ Ext w w' := by
  have HP : Hid (∀ w, Calls Try.prog 12 #[.string ⟨#[255, 224]⟩] w fun e w' => e = .returned (.string ⟨#[255, 0, 224]⟩) ∧ Ext w w') := fun w => by
    have h := cput ⟨#[255, 224]⟩ w (by decide)
    rwa [show bsU (putU (⟨#[255, 224]⟩ : ByteArray).data.toList) = ⟨#[255, 0, 224]⟩ by decide +kernel] at h
  have HD : Hid (∀ w, Calls Try.prog 14 #[.string ⟨#[255, 0, 0]⟩] w fun e w' => e = .returned (.string ⟨#[255, 0]⟩) ∧ Ext w w') := fun w => by
    have h := cdrop ⟨#[255, 0, 0]⟩ w (by decide)
    rwa [show bsU (dropU (⟨#[255, 0, 0]⟩ : ByteArray).data.toList) = ⟨#[255, 0]⟩ by decide +kernel] at h
  have HC : Hid (∀ w, Calls Try.prog 11 #[.string ⟨#[255]⟩] w fun e w' => e = .returned (.bool false) ∧ Ext w w') := fun w => by
    have h := cclean ⟨#[255]⟩ w (by decide)
    rwa [show decide (extraU (⟨#[255]⟩ : ByteArray).data.toList = 0) = false by decide +kernel] at h
  go_enter Try.func27, Try.ntmps27
  go_wp2_with (first
    | (go_at_call 12; refine (HP.out _).mono ?_; rintro e w1 ⟨rfl, hb1⟩)
    | (go_at_call 14; refine (HD.out _).mono ?_; rintro e w2 ⟨rfl, hb2⟩)
    | (go_at_call 11; refine (HC.out _).mono ?_; rintro e w3 ⟨rfl, hb3⟩))
  go_ret
  exact ⟨rfl, (hb1.trans hb2).trans hb3⟩
theorem awake11 (w : World) : Calls Try.prog 9 #[] w fun e w' => e = .returned (.bool true) ∧ Ext w w' := by
  have HA := Lib.hid (fun w => awake11_any w)
  go_enter Try.func9, Try.ntmps9
  go_wp2_with (go_at_call 27; refine (HA.out _).mono ?_; rintro e w1 ⟨rfl, hb1⟩)
  go_ret
  exact ⟨rfl, hb1⟩
theorem toList_inj11 {a b : ByteArray} (h : a.toList = b.toList) : a = b := by
  rw [ByteArray.toList_eq, ByteArray.toList_eq] at h
  apply ByteArray.ext
  exact Array.toList_inj.1 h
end Go.Proofs.Ytbdjncnofpbkkaa
