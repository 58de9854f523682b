/-
  Contracts of package point (5): whether a text's bytes are all below 128, whether it is made of signs, how many.
-/
import Derived.Test.YtealeedbkjiabaaDoorPt5
namespace Go.Proofs.YtealeedbkjiabaaDoor
open Go Go.ChangeShapes Go.WideShapes Go.ChangeAt Go.RowKit
set_option linter.unusedSimpArgs false
set_option linter.unusedVariables false

theorem byte_at (s : ByteArray) (k : Nat) (h : k < s.size) : s.data.toList[k]? = some s[k] := by
  have h2 : k < s.data.size := h
  rw [Array.getElem?_toList, Array.getElem?_eq_getElem h2]
  rfl
/-- Is a text made of signs? -/
def validS (s : ByteArray) : Bool := Lib.validD s.data.toList
theorem valid_any (s : ByteArray) (w : World) (hT : Tabs w) (hs : s.size ≤ 1099511627776) : Calls Tryd.prog 79 #[.string s] w fun e w' => e = .returned (.bool (validS s)) ∧ Ext w w' := by
  have hv : Calls Tryd.prog 88 #[.string s] w fun e w' => e = .returned (.bool (validS s)) ∧ Ext w w' := Tryd.utf8_ValidString s w (by omega) hT
  have HV := Lib.hid hv
  clear hv
  go_enter Tryd.func79, Tryd.ntmps79
  go_wp2_with (go_at_call 88; refine HV.out.mono ?_; rintro e w1 ⟨rfl, hb1⟩)
  go_ret
  exact ⟨rfl, hb1⟩
theorem count_no (s : ByteArray) (w : World) (hT : Tabs w) (hs : s.size ≤ 1099511627776) (h : validS s = false) : Calls Tryd.prog 57 #[.string s] w fun e w' => e = .returned (.int .i64 0) ∧ Ext w w' := by
  have hv := valid_any s w hT hs
  rw [h] at hv
  have HV := Lib.hid hv
  clear hv
  go_enter Tryd.func57, Tryd.ntmps57
  go_wp2_with (go_at_call 79; refine HV.out.mono ?_; rintro e w1 ⟨rfl, hb1⟩)
  go_ret
  exact ⟨rfl, hb1⟩
theorem count_yes (s : ByteArray) (w : World) (hT : Tabs w) (hs : s.size ≤ 1099511627776) (h : validS s = true) : Calls Tryd.prog 57 #[.string s] w fun e w' => e = .returned (.int .i64 (Lib.runeCount s)) ∧ Ext w w' := by
  have hv := valid_any s w hT hs
  rw [h] at hv
  have HV := Lib.hid hv
  have HC : Hid (∀ w : World, Calls Tryd.prog 80 #[.string s] w fun e w' => e = .returned (.int .i64 (Lib.runeCount s)) ∧ Ext w w') := fun w =>
    (Tryd.utf8_RuneCountInString s w (by omega)).mono fun e w' ⟨h1, pos, h2⟩ => ⟨h1, by rw [h2]; exact (Ext.refl w).alloc _⟩
  clear hv
  generalize Lib.runeCount s = n at HC
  go_enter Tryd.func57, Tryd.ntmps57
  go_wp2_with (first | (go_at_call 79; refine HV.out.mono ?_; rintro e w1 ⟨rfl, hb1⟩) | (go_at_call 80; refine (HC.out _).mono ?_; rintro e w2 ⟨rfl, hb2⟩))
  go_ret
  exact ⟨rfl, hb1.trans hb2⟩
end Go.Proofs.YtealeedbkjiabaaDoor
