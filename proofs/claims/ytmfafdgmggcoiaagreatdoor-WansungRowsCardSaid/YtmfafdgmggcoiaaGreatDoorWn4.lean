/-
  The document's answers of layer 7 (3): the rows that are told sign by sign, spans; the sign of two bytes; the code of a sign.
-/
import Derived.Test.YtmfafdgmggcoiaaGreatDoorWn3
import Derived.Test.YtmfafdgmggcoiaaGreatDoorSgA
namespace Go.Proofs.YtmfafdgmggcoiaaGreatDoor
open Go Go.ChangeShapes Go.WideShapes Go.ChangeAt Go.RowKit
set_option linter.unusedSimpArgs false
set_option linter.unusedVariables false

theorem rspan (b f l p : Int) (w : World) (hb0 : 0 ≤ b) (hb1 : b ≤ 1000) (hf0 : 0 ≤ f) (hf1 : f ≤ 1000) (hp0 : 0 ≤ p) (hp1 : p ≤ 100000) :
    Calls Tryz.prog 14 #[.int .i64 b, .int .i64 f, .int .i64 l, .int .i32 p] w fun e w' => e = .returned (.int .i32 (spanZ b f l p)) ∧ w = w' := by
  unfold spanZ
  by_cases h1 : b < f
  · rw [if_pos (.inl h1)]
    go_enter Tryz.func14, Tryz.ntmps14
    go_wp2
    go_ret
    exact ⟨rfl, rfl⟩
  by_cases h2 : l < b
  · rw [if_pos (.inr h2)]
    go_enter Tryz.func14, Tryz.ntmps14
    go_wp2
    go_ret
    exact ⟨rfl, rfl⟩
  · rw [if_neg (by omega)]
    go_enter Tryz.func14, Tryz.ntmps14
    go_wp2
    go_ret
    exact ⟨rfl, rfl⟩
theorem spanZ_bd (b f l p : Int) (h0 : 0 ≤ p) (h1 : p ≤ 100000) (hb : b ≤ 1000) (hf : 0 ≤ f) : 0 ≤ spanZ b f l p ∧ spanZ b f l p ≤ 101000 := by
  unfold spanZ
  split <;> omega
set_option maxRecDepth 100000 in
set_option maxHeartbeats 1000000 in
theorem rrow_1 (b : Nat) (w : World) (h0 : 161 ≤ b) (h1 : b ≤ 254) : Calls Tryz.prog 5 #[.int .i64 161, .int .i64 b] w fun e w' => e = .returned (.int .i32 (rowL1.getD (b - 161) 0)) ∧ Ext w w' := by
  obtain ⟨m, rfl⟩ : ∃ m, b = m + 161 := ⟨b - 161, by omega⟩
  have e1 : (((m + 161 : Nat)) : Int) = (m : Int) + 161 := by omega
  have h : m < 94 := by omega
  have h8 : (m : Int) < 94 := by omega
  rw [e1, Nat.add_sub_cancel]
  clear h0 h1 e1
  go_enter Tryz.func5, Tryz.ntmps5
  go_wp2_with (go_at_call 13; refine (rnth _ rowL1 (by decide +kernel) (by decide +kernel) m _ (by decide +kernel) h (by decide)).mono ?_; rintro e w1 ⟨rfl, hb1⟩)
  go_ret
  exact ⟨rfl, hb1⟩
set_option maxRecDepth 100000 in
set_option maxHeartbeats 1000000 in
theorem rrow_2 (b : Nat) (w : World) (h0 : 161 ≤ b) (h1 : b ≤ 254) : Calls Tryz.prog 5 #[.int .i64 162, .int .i64 b] w fun e w' => e = .returned (.int .i32 (if b - 161 < 71 then rowL2.getD (b - 161) 0 else 0)) ∧ Ext w w' := by
  obtain ⟨m, rfl⟩ : ∃ m, b = m + 161 := ⟨b - 161, by omega⟩
  have e1 : (((m + 161 : Nat)) : Int) = (m : Int) + 161 := by omega
  have h : m < 94 := by omega
  have h8 : (m : Int) < 94 := by omega
  rw [e1, Nat.add_sub_cancel]
  clear h0 h1 e1
  by_cases h2 : m < 71
  · rw [if_pos h2]
    have h3 : (m : Int) < 71 := by omega
    go_enter Tryz.func5, Tryz.ntmps5
    go_wp2_with (go_at_call 13; refine (rnth _ rowL2 (by decide +kernel) (by decide +kernel) m _ (by decide +kernel) h2 (by decide)).mono ?_; rintro e w1 ⟨rfl, hb1⟩)
    go_ret
    exact ⟨rfl, hb1⟩
  · rw [if_neg h2]
    have h3 : ¬ (m : Int) < 71 := by omega
    go_enter Tryz.func5, Tryz.ntmps5
    go_wp2
    go_ret
    exact ⟨rfl, Ext.refl _⟩
set_option maxRecDepth 100000 in
set_option maxHeartbeats 1000000 in
theorem rrow_6 (b : Nat) (w : World) (h0 : 161 ≤ b) (h1 : b ≤ 254) : Calls Tryz.prog 5 #[.int .i64 166, .int .i64 b] w fun e w' => e = .returned (.int .i32 (if b - 161 < 68 then rowL6.getD (b - 161) 0 else 0)) ∧ Ext w w' := by
  obtain ⟨m, rfl⟩ : ∃ m, b = m + 161 := ⟨b - 161, by omega⟩
  have e1 : (((m + 161 : Nat)) : Int) = (m : Int) + 161 := by omega
  have h : m < 94 := by omega
  have h8 : (m : Int) < 94 := by omega
  rw [e1, Nat.add_sub_cancel]
  clear h0 h1 e1
  by_cases h2 : m < 68
  · rw [if_pos h2]
    have h3 : (m : Int) < 68 := by omega
    go_enter Tryz.func5, Tryz.ntmps5
    go_wp2_with (go_at_call 13; refine (rnth _ rowL6 (by decide +kernel) (by decide +kernel) m _ (by decide +kernel) h2 (by decide)).mono ?_; rintro e w1 ⟨rfl, hb1⟩)
    go_ret
    exact ⟨rfl, hb1⟩
  · rw [if_neg h2]
    have h3 : ¬ (m : Int) < 68 := by omega
    go_enter Tryz.func5, Tryz.ntmps5
    go_wp2
    go_ret
    exact ⟨rfl, Ext.refl _⟩
theorem rrow_3 (b : Int) (w : World) (h0 : 161 ≤ b) (h1 : b ≤ 254) : Calls Tryz.prog 5 #[.int .i64 163, .int .i64 b] w fun e w' => e = .returned (.int .i32 (if b = 220 then 65510 else if b = 254 then 65507 else 65281 + b - 161)) ∧ w = w' := by
  by_cases h2 : b = 220
  · subst h2
    go_enter Tryz.func5, Tryz.ntmps5
    go_wp2
    go_ret
    exact ⟨rfl, rfl⟩
  by_cases h3 : b = 254
  · subst h3
    go_enter Tryz.func5, Tryz.ntmps5
    go_wp2
    go_ret
    exact ⟨rfl, rfl⟩
  rw [if_neg h2, if_neg h3]
  have h4 : (b == 220) = false := beq_false_of_ne h2
  have h5 : (b == 254) = false := beq_false_of_ne h3
  clear h2 h3
  go_enter Tryz.func5, Tryz.ntmps5
  go_wp2
  go_ret
  exact ⟨rfl, rfl⟩
theorem rrow_4 (b : Int) (w : World) (h0 : 161 ≤ b) (h1 : b ≤ 254) : Calls Tryz.prog 5 #[.int .i64 164, .int .i64 b] w fun e w' => e = .returned (.int .i32 (12593 + b - 161)) ∧ w = w' := by
  go_enter Tryz.func5, Tryz.ntmps5
  go_wp2
  go_ret
  exact ⟨rfl, rfl⟩
set_option maxRecDepth 100000 in
set_option maxHeartbeats 1000000 in
theorem rrow_5 (b : Int) (w : World) (h0 : 161 ≤ b) (h1 : b ≤ 254) : Calls Tryz.prog 5 #[.int .i64 165, .int .i64 b] w fun e w' => e = .returned (.int .i32 (spanZ b 161 170 8560 + spanZ b 176 185 8544 + spanZ b 193 209 913 + spanZ b 210 216 931 + spanZ b 225 241 945 + spanZ b 242 248 963)) ∧ w = w' := by
  have HS := Lib.hid (fun (f l p : Int) (hf0 : 0 ≤ f) (hf1 : f ≤ 1000) (hp0 : 0 ≤ p) (hp1 : p ≤ 100000) (w : World) => rspan b f l p w (by omega) (by omega) hf0 hf1 hp0 hp1)
  obtain ⟨b1, c1⟩ := spanZ_bd b 161 170 8560 (by omega) (by omega) (by omega) (by omega)
  obtain ⟨b2, c2⟩ := spanZ_bd b 176 185 8544 (by omega) (by omega) (by omega) (by omega)
  obtain ⟨b3, c3⟩ := spanZ_bd b 193 209 913 (by omega) (by omega) (by omega) (by omega)
  obtain ⟨b4, c4⟩ := spanZ_bd b 210 216 931 (by omega) (by omega) (by omega) (by omega)
  obtain ⟨b5, c5⟩ := spanZ_bd b 225 241 945 (by omega) (by omega) (by omega) (by omega)
  obtain ⟨b6, c6⟩ := spanZ_bd b 242 248 963 (by omega) (by omega) (by omega) (by omega)
  go_enter Tryz.func5, Tryz.ntmps5
  go_wp2_with (go_at_call 14; refine (HS.out _ _ _ (by omega) (by omega) (by omega) (by omega) _).mono ?_; rintro e w1 ⟨rfl, rfl⟩)
  go_ret
  exact ⟨rfl, rfl⟩
theorem rrow_10 (b : Int) (w : World) (h0 : 161 ≤ b) (h1 : b ≤ 254) : Calls Tryz.prog 5 #[.int .i64 170, .int .i64 b] w fun e w' => e = .returned (.int .i32 (spanZ b 161 243 12353)) ∧ w = w' := by
  have HS := Lib.hid (fun (f l p : Int) (hf0 : 0 ≤ f) (hf1 : f ≤ 1000) (hp0 : 0 ≤ p) (hp1 : p ≤ 100000) (w : World) => rspan b f l p w (by omega) (by omega) hf0 hf1 hp0 hp1)
  go_enter Tryz.func5, Tryz.ntmps5
  go_wp2_with (go_at_call 14; refine (HS.out _ _ _ (by omega) (by omega) (by omega) (by omega) _).mono ?_; rintro e w1 ⟨rfl, rfl⟩)
  go_ret
  exact ⟨rfl, rfl⟩
theorem rrow_11 (b : Int) (w : World) (h0 : 161 ≤ b) (h1 : b ≤ 254) : Calls Tryz.prog 5 #[.int .i64 171, .int .i64 b] w fun e w' => e = .returned (.int .i32 (spanZ b 161 246 12449)) ∧ w = w' := by
  have HS := Lib.hid (fun (f l p : Int) (hf0 : 0 ≤ f) (hf1 : f ≤ 1000) (hp0 : 0 ≤ p) (hp1 : p ≤ 100000) (w : World) => rspan b f l p w (by omega) (by omega) hf0 hf1 hp0 hp1)
  go_enter Tryz.func5, Tryz.ntmps5
  go_wp2_with (go_at_call 14; refine (HS.out _ _ _ (by omega) (by omega) (by omega) (by omega) _).mono ?_; rintro e w1 ⟨rfl, rfl⟩)
  go_ret
  exact ⟨rfl, rfl⟩
set_option maxRecDepth 100000 in
set_option maxHeartbeats 1000000 in
theorem rrow_12 (b : Int) (w : World) (h0 : 161 ≤ b) (h1 : b ≤ 254) : Calls Tryz.prog 5 #[.int .i64 172, .int .i64 b] w fun e w' => e = .returned (.int .i32 (spanZ b 161 166 1040 + spanZ b 167 167 1025 + spanZ b 168 193 1046 + spanZ b 209 214 1072 + spanZ b 215 215 1105 + spanZ b 216 241 1078)) ∧ w = w' := by
  have HS := Lib.hid (fun (f l p : Int) (hf0 : 0 ≤ f) (hf1 : f ≤ 1000) (hp0 : 0 ≤ p) (hp1 : p ≤ 100000) (w : World) => rspan b f l p w (by omega) (by omega) hf0 hf1 hp0 hp1)
  obtain ⟨b1, c1⟩ := spanZ_bd b 161 166 1040 (by omega) (by omega) (by omega) (by omega)
  obtain ⟨b2, c2⟩ := spanZ_bd b 167 167 1025 (by omega) (by omega) (by omega) (by omega)
  obtain ⟨b3, c3⟩ := spanZ_bd b 168 193 1046 (by omega) (by omega) (by omega) (by omega)
  obtain ⟨b4, c4⟩ := spanZ_bd b 209 214 1072 (by omega) (by omega) (by omega) (by omega)
  obtain ⟨b5, c5⟩ := spanZ_bd b 215 215 1105 (by omega) (by omega) (by omega) (by omega)
  obtain ⟨b6, c6⟩ := spanZ_bd b 216 241 1078 (by omega) (by omega) (by omega) (by omega)
  go_enter Tryz.func5, Tryz.ntmps5
  go_wp2_with (go_at_call 14; refine (HS.out _ _ _ (by omega) (by omega) (by omega) (by omega) _).mono ?_; rintro e w1 ⟨rfl, rfl⟩)
  go_ret
  exact ⟨rfl, rfl⟩
theorem rrow_no (a b : Int) (w : World) (h1 : a ≠ 161) (h2 : a ≠ 162) (h3 : a ≠ 163) (h4 : a ≠ 164) (h5 : a ≠ 165) (h6 : a ≠ 166) (h7 : a ≠ 170) (h8 : a ≠ 171) (h9 : a ≠ 172) : Calls Tryz.prog 5 #[.int .i64 a, .int .i64 b] w fun e w' => e = .returned (.int .i32 0) ∧ w = w' := by
  have e1 := beq_false_of_ne h1
  have e2 := beq_false_of_ne h2
  have e3 := beq_false_of_ne h3
  have e4 := beq_false_of_ne h4
  have e5 := beq_false_of_ne h5
  have e6 := beq_false_of_ne h6
  have e7 := beq_false_of_ne h7
  have e8 := beq_false_of_ne h8
  have e9 := beq_false_of_ne h9
  clear h1 h2 h3 h4 h5 h6 h7 h8 h9
  go_enter Tryz.func5, Tryz.ntmps5
  go_wp2
  go_ret
  exact ⟨rfl, rfl⟩
theorem rrow (a b : Nat) (w : World) (h0 : 161 ≤ b) (h1 : b ≤ 254) : Calls Tryz.prog 5 #[.int .i64 a, .int .i64 b] w fun e w' => e = .returned (.int .i32 (rowZ a b)) ∧ Ext w w' := by
  have q : ∀ {x : Int} {y : Int}, (Calls Tryz.prog 5 #[.int .i64 x, .int .i64 b] w fun e w' => e = .returned (.int .i32 y) ∧ w = w') → Calls Tryz.prog 5 #[.int .i64 x, .int .i64 b] w fun e w' => e = .returned (.int .i32 y) ∧ Ext w w' := fun h => h.mono fun e w' ⟨he, hw⟩ => ⟨he, by rw [← hw]; exact Ext.refl _⟩
  unfold rowZ
  by_cases c1 : a = 161
  · subst c1; rw [if_pos rfl]; exact rrow_1 b w h0 h1
  rw [if_neg c1]
  by_cases c2 : a = 162
  · subst c2; rw [if_pos rfl]; exact rrow_2 b w h0 h1
  rw [if_neg c2]
  by_cases c3 : a = 163
  · subst c3; rw [if_pos rfl]
    have := rrow_3 b w (by omega) (by omega)
    rw [show (if (b : Int) = 220 then (65510 : Int) else if (b : Int) = 254 then 65507 else 65281 + b - 161) = (if b = 220 then 65510 else if b = 254 then 65507 else 65281 + (b : Int) - 161) from by
      by_cases d1 : b = 220
      · rw [if_pos d1, if_pos (by omega)]
      · rw [if_neg d1, if_neg (by omega)]
        by_cases d2 : b = 254
        · rw [if_pos d2, if_pos (by omega)]
        · rw [if_neg d2, if_neg (by omega)]] at this
    exact q this
  rw [if_neg c3]
  by_cases c4 : a = 164
  · subst c4; rw [if_pos rfl]; exact q (rrow_4 b w (by omega) (by omega))
  rw [if_neg c4]
  by_cases c5 : a = 165
  · subst c5; rw [if_pos rfl]; exact q (rrow_5 b w (by omega) (by omega))
  rw [if_neg c5]
  by_cases c6 : a = 166
  · subst c6; rw [if_pos rfl]; exact rrow_6 b w h0 h1
  rw [if_neg c6]
  by_cases c7 : a = 170
  · subst c7; rw [if_pos rfl]; exact q (rrow_10 b w (by omega) (by omega))
  rw [if_neg c7]
  by_cases c8 : a = 171
  · subst c8; rw [if_pos rfl]; exact q (rrow_11 b w (by omega) (by omega))
  rw [if_neg c8]
  by_cases c9 : a = 172
  · subst c9; rw [if_pos rfl]; exact q (rrow_12 b w (by omega) (by omega))
  rw [if_neg c9]
  exact q (rrow_no a b w (by omega) (by omega) (by omega) (by omega) (by omega) (by omega) (by omega) (by omega) (by omega))
end Go.Proofs.YtmfafdgmggcoiaaGreatDoor
