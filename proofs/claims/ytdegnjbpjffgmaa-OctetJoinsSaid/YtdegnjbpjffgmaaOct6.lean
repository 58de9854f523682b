/-
  The document's example (Awake), and the law of nil readers.
-/
import Derived.Test.YtdegnjbpjffgmaaOct4
import Derived.Test.YtdegnjbpjffgmaaOct5
import Derived.Laws.StructEq
namespace Go.Proofs.Ytdegnjbpjffgmaa
open Go.ChangeShapes Go.WideShapes Go.ChangeAt Go.RowKit
set_option linter.unusedSimpArgs false
set_option linter.unusedVariables false

theorem ex_safe (w : World) : Calls Try.prog 22 #[.int .u64 129] w fun e w' => e = .returned (.tuple #[.string ⟨#[0, 0, 1, 1]⟩, .bool true]) ∧ Ext w w' := by
  have e : bytesBy 4 (safeAt 129) = ⟨#[0, 0, 1, 1]⟩ := by decide +kernel
  rw [← e]
  exact wsafe_ok 129 w (by decide)
theorem ex_big (w : World) : Calls Try.prog 8 #[.int .u64 258, .int .i64 2] w fun e w' => e = .returned (.string ⟨#[1, 2]⟩) ∧ Ext w w' := by
  have e : bytesBy (cw 2).toNat (bigAt 258 (cw 2).toNat) = ⟨#[1, 2]⟩ := by decide +kernel
  rw [← e]
  exact wbig 258 2 w (by decide)
theorem ex_inner (w : World) : Calls Try.prog 25 #[.string ⟨#[97, 98]⟩, .int .i64 10] w fun e w' => ∃ b : Nat, w.heap.size ≤ b ∧ e = .returned (.pointer (some ⟨b, 0, none⟩)) ∧ Rdr w' b ⟨#[97, 98]⟩ 0 10 0 0 ∧ Ext w w' :=
  (inner_any _ _ w (by decide) (by decide) (by decide)).mono fun e w' ⟨h1, h2, h3⟩ => ⟨_, Nat.le_refl _, h1, h2, h3⟩
set_option maxRecDepth 100000 in
set_option maxHeartbeats 400000 in
theorem awake_any (w : World) : Calls Try.prog 37 #[] w fun e w' => e = .returned (.bool true) ∧ Ext w w' := by
  go_enter Try.func37, Try.ntmps37
  go_wp2_with (first | (go_at_call 22; refine (ex_safe _).mono ?_; rintro e w1 ⟨rfl, hb1⟩) | (go_at_call 25; refine (ex_inner _).mono ?_; rintro e w2 ⟨b, hb, rfl, H2, hb2⟩) | (go_at_call 32; refine (take_short _ _ _ _ _ _ _ H2 (by decide) (by decide)).mono ?_; rintro e w3 ⟨rfl, H3, hm3⟩) | (go_at_call 8; refine (ex_big _).mono ?_; rintro e w4 ⟨rfl, hb4⟩; have H4 := H3.ext hb4) | (go_at_call 20; refine (fault_at _ _ _ _ _ _ _ H4).mono ?_; rintro e w5 ⟨rfl, hb5⟩))
  go_ret
  exact ⟨rfl, ((hb1.trans hb2).mod hm3 (Nat.le_trans hb1.size hb)).trans (hb4.trans hb5)⟩
theorem awake_yes (w : World) : Calls Try.prog 16 #[] w fun e w' => e = .returned (.bool true) ∧ Ext w w' := by
  go_enter Try.func16, Try.ntmps16
  go_wp2_with (first | (go_at_call 37; refine (awake_any _).mono ?_; rintro e w1 ⟨rfl, hb1⟩))
  go_ret
  exact ⟨rfl, hb1⟩
end Go.Proofs.Ytdegnjbpjffgmaa
