/-
  What the proof of this claim leans on (S8).
-/
import Derived.Test.YtndopjmdpmkgeaaGreatDoorS1
import Derived.Test.YtndopjmdpmkgeaaGreatDoorS5
import Derived.Test.YtndopjmdpmkgeaaGreatDoorS6
import Derived.Test.YtndopjmdpmkgeaaGreatDoorS7
namespace Go.Proofs.YtndopjmdpmkgeaaGreatDoor
open Go Go.ChangeShapes Go.WideShapes Go.ChangeAt Go.RowKit
set_option linter.unusedSimpArgs false
set_option linter.unusedVariables false

theorem rspan (b f l p : Int) (w : World) (hb0 : 0 ≤ b) (hb1 : b ≤ 1000) (hf0 : 0 ≤ f) (hf1 : f ≤ 1000) (hp0 : 0 ≤ p) (hp1 : p ≤ 100000) :
    Calls Tryz.prog 133 #[.int .i64 b, .int .i64 f, .int .i64 l, .int .i32 p] w fun e w' => e = .returned (.int .i32 (spanZ b f l p)) ∧ w = w' := by
  unfold spanZ
  by_cases h1 : b < f
  · rw [if_pos (.inl h1)]
    go_enter Tryz.func133, Tryz.ntmps133
    go_wp2
    go_ret
    exact ⟨rfl, rfl⟩
  by_cases h2 : l < b
  · rw [if_pos (.inr h2)]
    go_enter Tryz.func133, Tryz.ntmps133
    go_wp2
    go_ret
    exact ⟨rfl, rfl⟩
  · rw [if_neg (by omega)]
    go_enter Tryz.func133, Tryz.ntmps133
    go_wp2
    go_ret
    exact ⟨rfl, rfl⟩
theorem spanZ_bd (b f l p : Int) (h0 : 0 ≤ p) (h1 : p ≤ 100000) (hb : b ≤ 1000) (hf : 0 ≤ f) : 0 ≤ spanZ b f l p ∧ spanZ b f l p ≤ 101000 := by
  unfold spanZ
  split <;> omega
set_option maxRecDepth 100000 in
set_option maxHeartbeats 1000000 in
theorem rrow_1 (b : Nat) (w : World) (h0 : 161 ≤ b) (h1 : b ≤ 254) : Calls Tryz.prog 100 #[.int .i64 161, .int .i64 b] w fun e w' => e = .returned (.int .i32 (rowL1.getD (b - 161) 0)) ∧ Ext w w' := by
  obtain ⟨m, rfl⟩ : ∃ m, b = m + 161 := ⟨b - 161, by omega⟩
  have e1 : (((m + 161 : Nat)) : Int) = (m : Int) + 161 := by omega
  have h : m < 94 := by omega
  have h8 : (m : Int) < 94 := by omega
  rw [e1, Nat.add_sub_cancel]
  clear h0 h1 e1
  go_enter Tryz.func100, Tryz.ntmps100
  go_wp2_with (go_at_call 94; refine (rnth _ rowL1 (by decide +kernel) (by decide +kernel) m _ (by decide +kernel) h (by decide)).mono ?_; rintro e w1 ⟨rfl, hb1⟩)
  go_ret
  exact ⟨rfl, hb1⟩
set_option maxRecDepth 100000 in
set_option maxHeartbeats 1000000 in
theorem rrow_2 (b : Nat) (w : World) (h0 : 161 ≤ b) (h1 : b ≤ 254) : Calls Tryz.prog 100 #[.int .i64 162, .int .i64 b] w fun e w' => e = .returned (.int .i32 (if b - 161 < 71 then rowL2.getD (b - 161) 0 else 0)) ∧ Ext w w' := by
  obtain ⟨m, rfl⟩ : ∃ m, b = m + 161 := ⟨b - 161, by omega⟩
  have e1 : (((m + 161 : Nat)) : Int) = (m : Int) + 161 := by omega
  have h : m < 94 := by omega
  have h8 : (m : Int) < 94 := by omega
  rw [e1, Nat.add_sub_cancel]
  clear h0 h1 e1
  by_cases h2 : m < 71
  · rw [if_pos h2]
    have h3 : (m : Int) < 71 := by omega
    go_enter Tryz.func100, Tryz.ntmps100
    go_wp2_with (go_at_call 94; refine (rnth _ rowL2 (by decide +kernel) (by decide +kernel) m _ (by decide +kernel) h2 (by decide)).mono ?_; rintro e w1 ⟨rfl, hb1⟩)
    go_ret
    exact ⟨rfl, hb1⟩
  · rw [if_neg h2]
    have h3 : ¬ (m : Int) < 71 := by omega
    go_enter Tryz.func100, Tryz.ntmps100
    go_wp2
    go_ret
    exact ⟨rfl, Ext.refl _⟩
set_option maxRecDepth 100000 in
set_option maxHeartbeats 1000000 in
theorem rrow_6 (b : Nat) (w : World) (h0 : 161 ≤ b) (h1 : b ≤ 254) : Calls Tryz.prog 100 #[.int .i64 166, .int .i64 b] w fun e w' => e = .returned (.int .i32 (if b - 161 < 68 then rowL6.getD (b - 161) 0 else 0)) ∧ Ext w w' := by
  obtain ⟨m, rfl⟩ : ∃ m, b = m + 161 := ⟨b - 161, by omega⟩
  have e1 : (((m + 161 : Nat)) : Int) = (m : Int) + 161 := by omega
  have h : m < 94 := by omega
  have h8 : (m : Int) < 94 := by omega
  rw [e1, Nat.add_sub_cancel]
  clear h0 h1 e1
  by_cases h2 : m < 68
  · rw [if_pos h2]
    have h3 : (m : Int) < 68 := by omega
    go_enter Tryz.func100, Tryz.ntmps100
    go_wp2_with (go_at_call 94; refine (rnth _ rowL6 (by decide +kernel) (by decide +kernel) m _ (by decide +kernel) h2 (by decide)).mono ?_; rintro e w1 ⟨rfl, hb1⟩)
    go_ret
    exact ⟨rfl, hb1⟩
  · rw [if_neg h2]
    have h3 : ¬ (m : Int) < 68 := by omega
    go_enter Tryz.func100, Tryz.ntmps100
    go_wp2
    go_ret
    exact ⟨rfl, Ext.refl _⟩
theorem rrow_3 (b : Int) (w : World) (h0 : 161 ≤ b) (h1 : b ≤ 254) : Calls Tryz.prog 100 #[.int .i64 163, .int .i64 b] w fun e w' => e = .returned (.int .i32 (if b = 220 then 65510 else if b = 254 then 65507 else 65281 + b - 161)) ∧ w = w' := by
  by_cases h2 : b = 220
  · subst h2
    go_enter Tryz.func100, Tryz.ntmps100
    go_wp2
    go_ret
    exact ⟨rfl, rfl⟩
  by_cases h3 : b = 254
  · subst h3
    go_enter Tryz.func100, Tryz.ntmps100
    go_wp2
    go_ret
    exact ⟨rfl, rfl⟩
  rw [if_neg h2, if_neg h3]
  have h4 : (b == 220) = false := beq_false_of_ne h2
  have h5 : (b == 254) = false := beq_false_of_ne h3
  clear h2 h3
  go_enter Tryz.func100, Tryz.ntmps100
  go_wp2
  go_ret
  exact ⟨rfl, rfl⟩
theorem rrow_4 (b : Int) (w : World) (h0 : 161 ≤ b) (h1 : b ≤ 254) : Calls Tryz.prog 100 #[.int .i64 164, .int .i64 b] w fun e w' => e = .returned (.int .i32 (12593 + b - 161)) ∧ w = w' := by
  go_enter Tryz.func100, Tryz.ntmps100
  go_wp2
  go_ret
  exact ⟨rfl, rfl⟩
set_option maxRecDepth 100000 in
set_option maxHeartbeats 1000000 in
theorem rrow_5 (b : Int) (w : World) (h0 : 161 ≤ b) (h1 : b ≤ 254) : Calls Tryz.prog 100 #[.int .i64 165, .int .i64 b] w fun e w' => e = .returned (.int .i32 (spanZ b 161 170 8560 + spanZ b 176 185 8544 + spanZ b 193 209 913 + spanZ b 210 216 931 + spanZ b 225 241 945 + spanZ b 242 248 963)) ∧ w = w' := by
  have HS := Lib.hid (fun (f l p : Int) (hf0 : 0 ≤ f) (hf1 : f ≤ 1000) (hp0 : 0 ≤ p) (hp1 : p ≤ 100000) (w : World) => rspan b f l p w (by omega) (by omega) hf0 hf1 hp0 hp1)
  obtain ⟨b1, c1⟩ := spanZ_bd b 161 170 8560 (by omega) (by omega) (by omega) (by omega)
  obtain ⟨b2, c2⟩ := spanZ_bd b 176 185 8544 (by omega) (by omega) (by omega) (by omega)
  obtain ⟨b3, c3⟩ := spanZ_bd b 193 209 913 (by omega) (by omega) (by omega) (by omega)
  obtain ⟨b4, c4⟩ := spanZ_bd b 210 216 931 (by omega) (by omega) (by omega) (by omega)
  obtain ⟨b5, c5⟩ := spanZ_bd b 225 241 945 (by omega) (by omega) (by omega) (by omega)
  obtain ⟨b6, c6⟩ := spanZ_bd b 242 248 963 (by omega) (by omega) (by omega) (by omega)
  go_enter Tryz.func100, Tryz.ntmps100
  go_wp2_with (go_at_call 133; refine (HS.out _ _ _ (by omega) (by omega) (by omega) (by omega) _).mono ?_; rintro e w1 ⟨rfl, rfl⟩)
  go_ret
  exact ⟨rfl, rfl⟩
theorem rrow_10 (b : Int) (w : World) (h0 : 161 ≤ b) (h1 : b ≤ 254) : Calls Tryz.prog 100 #[.int .i64 170, .int .i64 b] w fun e w' => e = .returned (.int .i32 (spanZ b 161 243 12353)) ∧ w = w' := by
  have HS := Lib.hid (fun (f l p : Int) (hf0 : 0 ≤ f) (hf1 : f ≤ 1000) (hp0 : 0 ≤ p) (hp1 : p ≤ 100000) (w : World) => rspan b f l p w (by omega) (by omega) hf0 hf1 hp0 hp1)
  go_enter Tryz.func100, Tryz.ntmps100
  go_wp2_with (go_at_call 133; refine (HS.out _ _ _ (by omega) (by omega) (by omega) (by omega) _).mono ?_; rintro e w1 ⟨rfl, rfl⟩)
  go_ret
  exact ⟨rfl, rfl⟩
theorem rrow_11 (b : Int) (w : World) (h0 : 161 ≤ b) (h1 : b ≤ 254) : Calls Tryz.prog 100 #[.int .i64 171, .int .i64 b] w fun e w' => e = .returned (.int .i32 (spanZ b 161 246 12449)) ∧ w = w' := by
  have HS := Lib.hid (fun (f l p : Int) (hf0 : 0 ≤ f) (hf1 : f ≤ 1000) (hp0 : 0 ≤ p) (hp1 : p ≤ 100000) (w : World) => rspan b f l p w (by omega) (by omega) hf0 hf1 hp0 hp1)
  go_enter Tryz.func100, Tryz.ntmps100
  go_wp2_with (go_at_call 133; refine (HS.out _ _ _ (by omega) (by omega) (by omega) (by omega) _).mono ?_; rintro e w1 ⟨rfl, rfl⟩)
  go_ret
  exact ⟨rfl, rfl⟩
set_option maxRecDepth 100000 in
set_option maxHeartbeats 1000000 in
theorem rrow_12 (b : Int) (w : World) (h0 : 161 ≤ b) (h1 : b ≤ 254) : Calls Tryz.prog 100 #[.int .i64 172, .int .i64 b] w fun e w' => e = .returned (.int .i32 (spanZ b 161 166 1040 + spanZ b 167 167 1025 + spanZ b 168 193 1046 + spanZ b 209 214 1072 + spanZ b 215 215 1105 + spanZ b 216 241 1078)) ∧ w = w' := by
  have HS := Lib.hid (fun (f l p : Int) (hf0 : 0 ≤ f) (hf1 : f ≤ 1000) (hp0 : 0 ≤ p) (hp1 : p ≤ 100000) (w : World) => rspan b f l p w (by omega) (by omega) hf0 hf1 hp0 hp1)
  obtain ⟨b1, c1⟩ := spanZ_bd b 161 166 1040 (by omega) (by omega) (by omega) (by omega)
  obtain ⟨b2, c2⟩ := spanZ_bd b 167 167 1025 (by omega) (by omega) (by omega) (by omega)
  obtain ⟨b3, c3⟩ := spanZ_bd b 168 193 1046 (by omega) (by omega) (by omega) (by omega)
  obtain ⟨b4, c4⟩ := spanZ_bd b 209 214 1072 (by omega) (by omega) (by omega) (by omega)
  obtain ⟨b5, c5⟩ := spanZ_bd b 215 215 1105 (by omega) (by omega) (by omega) (by omega)
  obtain ⟨b6, c6⟩ := spanZ_bd b 216 241 1078 (by omega) (by omega) (by omega) (by omega)
  go_enter Tryz.func100, Tryz.ntmps100
  go_wp2_with (go_at_call 133; refine (HS.out _ _ _ (by omega) (by omega) (by omega) (by omega) _).mono ?_; rintro e w1 ⟨rfl, rfl⟩)
  go_ret
  exact ⟨rfl, rfl⟩
theorem rrow_no (a b : Int) (w : World) (h1 : a ≠ 161) (h2 : a ≠ 162) (h3 : a ≠ 163) (h4 : a ≠ 164) (h5 : a ≠ 165) (h6 : a ≠ 166) (h7 : a ≠ 170) (h8 : a ≠ 171) (h9 : a ≠ 172) : Calls Tryz.prog 100 #[.int .i64 a, .int .i64 b] w fun e w' => e = .returned (.int .i32 0) ∧ w = w' := by
  have e1 := beq_false_of_ne h1
  have e2 := beq_false_of_ne h2
  have e3 := beq_false_of_ne h3
  have e4 := beq_false_of_ne h4
  have e5 := beq_false_of_ne h5
  have e6 := beq_false_of_ne h6
  have e7 := beq_false_of_ne h7
  have e8 := beq_false_of_ne h8
  have e9 := beq_false_of_ne h9
  clear h1 h2 h3 h4 h5 h6 h7 h8 h9
  go_enter Tryz.func100, Tryz.ntmps100
  go_wp2
  go_ret
  exact ⟨rfl, rfl⟩
theorem rrow (a b : Nat) (w : World) (h0 : 161 ≤ b) (h1 : b ≤ 254) : Calls Tryz.prog 100 #[.int .i64 a, .int .i64 b] w fun e w' => e = .returned (.int .i32 (rowZ a b)) ∧ Ext w w' := by
  have q : ∀ {x : Int} {y : Int}, (Calls Tryz.prog 100 #[.int .i64 x, .int .i64 b] w fun e w' => e = .returned (.int .i32 y) ∧ w = w') → Calls Tryz.prog 100 #[.int .i64 x, .int .i64 b] w fun e w' => e = .returned (.int .i32 y) ∧ Ext w w' := fun h => h.mono fun e w' ⟨he, hw⟩ => ⟨he, by rw [← hw]; exact Ext.refl _⟩
  unfold rowZ
  by_cases c1 : a = 161
  · subst c1; rw [if_pos rfl]; exact rrow_1 b w h0 h1
  rw [if_neg c1]
  by_cases c2 : a = 162
  · subst c2; rw [if_pos rfl]; exact rrow_2 b w h0 h1
  rw [if_neg c2]
  by_cases c3 : a = 163
  · subst c3; rw [if_pos rfl]
    have := rrow_3 b w (by omega) (by omega)
    rw [show (if (b : Int) = 220 then (65510 : Int) else if (b : Int) = 254 then 65507 else 65281 + b - 161) = (if b = 220 then 65510 else if b = 254 then 65507 else 65281 + (b : Int) - 161) from by
      by_cases d1 : b = 220
      · rw [if_pos d1, if_pos (by omega)]
      · rw [if_neg d1, if_neg (by omega)]
        by_cases d2 : b = 254
        · rw [if_pos d2, if_pos (by omega)]
        · rw [if_neg d2, if_neg (by omega)]] at this
    exact q this
  rw [if_neg c3]
  by_cases c4 : a = 164
  · subst c4; rw [if_pos rfl]; exact q (rrow_4 b w (by omega) (by omega))
  rw [if_neg c4]
  by_cases c5 : a = 165
  · subst c5; rw [if_pos rfl]; exact q (rrow_5 b w (by omega) (by omega))
  rw [if_neg c5]
  by_cases c6 : a = 166
  · subst c6; rw [if_pos rfl]; exact rrow_6 b w h0 h1
  rw [if_neg c6]
  by_cases c7 : a = 170
  · subst c7; rw [if_pos rfl]; exact q (rrow_10 b w (by omega) (by omega))
  rw [if_neg c7]
  by_cases c8 : a = 171
  · subst c8; rw [if_pos rfl]; exact q (rrow_11 b w (by omega) (by omega))
  rw [if_neg c8]
  by_cases c9 : a = 172
  · subst c9; rw [if_pos rfl]; exact q (rrow_12 b w (by omega) (by omega))
  rw [if_neg c9]
  exact q (rrow_no a b w (by omega) (by omega) (by omega) (by omega) (by omega) (by omega) (by omega) (by omega) (by omega))
end Go.Proofs.YtndopjmdpmkgeaaGreatDoor

namespace Go.Proofs.YtndopjmdpmkgeaaGreatDoor
open Go Go.ChangeShapes Go.WideShapes Go.ChangeAt Go.RowKit
set_option linter.unusedSimpArgs false
set_option linter.unusedVariables false

theorem rkth_int (k : Int) (b : Bool) (w : World) (h0 : 0 ≤ k) (hk : k ≤ 1000000) : Calls Tryz.prog 99 #[.int .i64 k, .bool b] w fun e w' => e = .returned (.int .i32 (kthZ b k)) ∧ w = w' := by
  obtain ⟨n, rfl⟩ := Int.eq_ofNat_of_zero_le h0
  exact rkth_nat n b w (by omega)
theorem secZ_bd (b : Int) : secZ b = -1 ∨ (0 ≤ secZ b ∧ secZ b ≤ 177) := by
  unfold secZ
  split
  · omega
  · split
    · omega
    · split <;> omega
set_option maxRecDepth 100000 in
theorem rsignw (a b : Nat) (w : World) (ha : a < 256) (hb : b < 256) : Calls Tryz.prog 58 #[.int .i64 a, .int .i64 b] w fun e w' => e = .returned (.int .i32 (signW a b)) ∧ Ext w w' := by
  have HS := Lib.hid (fun w => rsecond (b : Int) w (by omega) (by omega))
  have HR : Hid (161 ≤ b → b ≤ 254 → ∀ w, Calls Tryz.prog 100 #[.int .i64 a, .int .i64 b] w fun e w' => e = .returned (.int .i32 (rowZ a b)) ∧ Ext w w') := fun h1 h2 w => rrow a b w h1 h2
  have HK := Lib.hid (fun (k : Int) (c : Bool) (h0 : 0 ≤ k) (hk : k ≤ 1000000) (w : World) => rkth_int k c w h0 hk)
  have hs := secZ_bd b
  have hsb : 161 ≤ b → 0 ≤ secZ b → b ≤ 254 := fun h1 h2 => by
    unfold secZ at h2
    split at h2
    · omega
    · split at h2
      · omega
      · split at h2
        · omega
        · omega
  unfold signW
  generalize rowZ a b = r at HR ⊢
  obtain ⟨x, hx⟩ : ∃ x : Int, x = a := ⟨_, rfl⟩
  obtain ⟨y, hy⟩ : ∃ y : Int, y = b := ⟨_, rfl⟩
  rw [← hx, ← hy] at HR ⊢
  rw [← hy] at HS hs hsb
  have x0 : 0 ≤ x := by omega
  have x1 : x < 256 := by omega
  have y0 : 0 ≤ y := by omega
  have y1 : y < 256 := by omega
  generalize secZ y = t at HS hs hsb ⊢
  have q : ∀ z : Int, (Calls Tryz.prog 58 #[.int .i64 x, .int .i64 y] w fun e w' => e = .returned (.int .i32 z) ∧ Ext w w') → ∀ z2, z = z2 → Calls Tryz.prog 58 #[.int .i64 x, .int .i64 y] w fun e w' => e = .returned (.int .i32 z2) ∧ Ext w w' := fun z h z2 e => by rw [← e]; exact h
  by_cases c1 : t < 0 ∨ a < 129 ∨ 254 < a
  · rw [if_pos c1]
    have hc : t < 0 ∨ (¬ t < 0 ∧ x < 129) ∨ (¬ t < 0 ∧ ¬ x < 129 ∧ 254 < x) := by omega
    clear c1 hx hy HR HK hs hsb q
    rcases hc with h1 | ⟨h1, h2⟩ | ⟨h1, h2, h3⟩
    all_goals
      go_enter Tryz.func58, Tryz.ntmps58
      go_wp2_with (go_at_call 98; refine (HS.out _).mono ?_; rintro e w1 ⟨rfl, rfl⟩)
      go_ret
      exact ⟨rfl, Ext.refl _⟩
  rw [if_neg c1]
  have t0 : ¬ t < 0 := by omega
  have t1 : t ≤ 177 := by omega
  have x2 : ¬ x < 129 := by omega
  have x3 : ¬ 254 < x := by omega
  by_cases c2 : a < 161
  · rw [if_pos c2]
    have x4 : x < 161 := by omega
    clear c1 c2 hx hy HR hs hsb q
    go_enter Tryz.func58, Tryz.ntmps58
    go_wp2_with (first
      | (go_at_call 98; refine (HS.out _).mono ?_; rintro e w1 ⟨rfl, rfl⟩)
      | (go_at_call 99; refine (HK.out _ _ (by omega) (by omega) _).mono ?_; rintro e w1 ⟨rfl, rfl⟩))
    go_ret
    exact ⟨rfl, Ext.refl _⟩
  rw [if_neg c2]
  have x4 : ¬ x < 161 := by omega
  by_cases c3 : b < 161
  · rw [if_pos c3]
    have y4 : y < 161 := by omega
    clear c1 c2 c3 hx hy HR hs hsb q
    go_enter Tryz.func58, Tryz.ntmps58
    go_wp2_with (first
      | (go_at_call 98; refine (HS.out _).mono ?_; rintro e w1 ⟨rfl, rfl⟩)
      | (go_at_call 99; refine (HK.out _ _ (by omega) (by omega) _).mono ?_; rintro e w1 ⟨rfl, rfl⟩))
    go_ret
    exact ⟨rfl, Ext.refl _⟩
  rw [if_neg c3]
  have y4 : ¬ y < 161 := by omega
  by_cases c4 : 176 ≤ a ∧ a ≤ 200
  · rw [if_pos c4]
    have x5 : 176 ≤ x := by omega
    have x6 : x ≤ 200 := by omega
    clear c1 c2 c3 c4 hx hy HR hs hsb q
    go_enter Tryz.func58, Tryz.ntmps58
    go_wp2_with (first
      | (go_at_call 98; refine (HS.out _).mono ?_; rintro e w1 ⟨rfl, rfl⟩)
      | (go_at_call 99; refine (HK.out _ _ (by omega) (by omega) _).mono ?_; rintro e w1 ⟨rfl, rfl⟩))
    go_ret
    exact ⟨rfl, Ext.refl _⟩
  rw [if_neg c4]
  have HRR := Lib.hid (HR.out (by omega) (hsb (by omega) (by omega)))
  have hx5 : x < 176 ∨ (176 ≤ x ∧ ¬ x ≤ 200) := by omega
  clear c1 c2 c3 c4 hx hy HR hs hsb q HK
  rcases hx5 with x5 | ⟨x5, x6⟩
  · have x7 : ¬ 176 ≤ x := by omega
    go_enter Tryz.func58, Tryz.ntmps58
    go_wp2_with (first
      | (go_at_call 98; refine (HS.out _).mono ?_; rintro e w1 ⟨rfl, rfl⟩)
      | (go_at_call 100; refine (HRR.out _).mono ?_; rintro e w1 ⟨rfl, hb1⟩))
    go_ret
    exact ⟨rfl, hb1⟩
  · go_enter Tryz.func58, Tryz.ntmps58
    go_wp2_with (first
      | (go_at_call 98; refine (HS.out _).mono ?_; rintro e w1 ⟨rfl, rfl⟩)
      | (go_at_call 100; refine (HRR.out _).mono ?_; rintro e w1 ⟨rfl, hb1⟩))
    go_ret
    exact ⟨rfl, hb1⟩
end Go.Proofs.YtndopjmdpmkgeaaGreatDoor

namespace Go.Proofs.YtndopjmdpmkgeaaGreatDoor
open Go Go.ChangeShapes Go.WideShapes Go.ChangeAt Go.RowKit
set_option linter.unusedSimpArgs false
set_option linter.unusedVariables false

set_option maxRecDepth 100000 in
set_option maxHeartbeats 1000000 in
theorem rsigns9 (c a b : Nat) (w : World) (hc : c = 4 ∨ c = 5 ∨ c = 6) (ha : a < 256) (hb : b < 256) : Calls Tryz.prog 36 #[.int .i64 c, .int .i64 a, .int .i64 b] w fun e w' => e = .returned (.string (sg9 c a b)) ∧ Ext w w' := by
  have hcc : ((a : Int) * 256 + (b : Int)) = ((a * 256 + b : Nat) : Int) := by omega
  rcases hc with rfl | rfl | rfl
  · have H := Lib.hid (fun w => rsignw a b w ha hb)
    have HB := Lib.hid (fun (h : isSign (signW a b) = true) (w : World) => rbytes_any (signW a b) w h)
    have HZ := Lib.hid (fun h => signW_sign a b ha hb h)
    have e : sg9 4 a b = txt9 (signW a b) := rfl
    rw [e]
    clear e
    unfold txt9
    generalize signW a b = p at H HB HZ
    by_cases hp : p = 0
    · rw [if_pos hp]
      subst hp
      go_enter Tryz.func36, Tryz.ntmps36
      go_wp2_with (go_at_call 58; refine (H.out _).mono ?_; rintro e w1 ⟨rfl, hx⟩)
      go_ret
      exact ⟨rfl, hx⟩
    · rw [if_neg hp]
      have HY := Lib.hid (HB.out (HZ.out hp))
      have g : (p == 0) = false := beq_false_of_ne hp
      clear HB HZ
      go_enter Tryz.func36, Tryz.ntmps36
      go_wp2_with (first
        | (go_at_call 58; refine (H.out _).mono ?_; rintro e w1 ⟨rfl, hx⟩)
        | (go_at_call 54; refine (HY.out _).mono ?_; rintro e w2 ⟨rfl, hy⟩))
      go_ret
      exact ⟨rfl, hx.trans hy⟩
  · have h6 : a * 256 + b < 65536 := by omega
    have H := Lib.hid (fun w => rsignj (a * 256 + b) w h6)
    rw [← hcc] at H
    have HB := Lib.hid (fun (h : isSign (signJ (a * 256 + b)) = true) (w : World) => rbytes_any (signJ (a * 256 + b)) w h)
    have HZ := Lib.hid (fun h => signJ_sign (a * 256 + b) h6 h)
    have e : sg9 5 a b = txt9 (signJ (a * 256 + b)) := rfl
    rw [e]
    clear e hcc
    unfold txt9
    generalize signJ (a * 256 + b) = p at H HB HZ
    by_cases hp : p = 0
    · rw [if_pos hp]
      subst hp
      go_enter Tryz.func36, Tryz.ntmps36
      go_wp2_with (go_at_call 59; refine (H.out _).mono ?_; rintro e w1 ⟨rfl, hx⟩)
      go_ret
      exact ⟨rfl, hx⟩
    · rw [if_neg hp]
      have HY := Lib.hid (HB.out (HZ.out hp))
      have g : (p == 0) = false := beq_false_of_ne hp
      clear HB HZ
      go_enter Tryz.func36, Tryz.ntmps36
      go_wp2_with (first
        | (go_at_call 59; refine (H.out _).mono ?_; rintro e w1 ⟨rfl, hx⟩)
        | (go_at_call 54; refine (HY.out _).mono ?_; rintro e w2 ⟨rfl, hy⟩))
      go_ret
      exact ⟨rfl, hx.trans hy⟩
  · have H := Lib.hid (fun w => rsigns8 a b w ha hb)
    have e : sg9 6 a b = sigT a b := rfl
    rw [e]
    clear e hcc
    generalize sigT a b = t at H
    go_enter Tryz.func36, Tryz.ntmps36
    go_wp2_with (go_at_call 57; refine (H.out _).mono ?_; rintro e w1 ⟨rfl, hx⟩)
    go_ret
    exact ⟨rfl, hx⟩
theorem ne_facts9 {t : ByteArray} (h : t.data.toList ≠ []) : t.toList.isEmpty = false ∧ (t.toList == []) = false ∧ ¬ t.toList = [] := by
  have e := ByteArray.toList_eq t
  rw [e]
  exact ⟨by simpa using h, beq_false_of_ne h, h⟩
/-- The error's number of a decoding. -/
def code9 (x : Int) : Int := if x < 0 then 0 else 2
/-- The place of a decoding's fault; 0: none. -/
def at9 (x : Int) : Int := if x < 0 then 0 else x
set_option maxRecDepth 100000 in
set_option maxHeartbeats 4000000 in
theorem rdec9 (c : Nat) (s : ByteArray) (w : World) (hc : c = 4 ∨ c = 5 ∨ c = 6) (hs : s.size ≤ 1000000) (T : ByteArray) (A : Int) (hd : dec9 (sg9 c) s 0 ⟨#[]⟩ = (T, A)) :
    Calls Tryz.prog 20 #[.int .i64 c, .string s] w fun e w' => e = .returned (.tuple #[.string T, .int .i64 (code9 A), .int .i64 (at9 A)]) ∧ Ext w w' := by
  have HD : Hid (dec9 (sg9 c) s 0 ⟨#[]⟩ = (T, A)) := hd
  clear hd
  have HS := Lib.hid (fun a b (ha : a < 256) (hb : b < 256) w => rsigns9 c a b w hc ha hb)
  have HZ := Lib.hid (fun a b => sg9_size c a b)
  obtain ⟨f, hf⟩ : ∃ f, f = sg9 c := ⟨_, rfl⟩
  rw [← hf] at HD HS HZ
  have hc0 : (4 : Int) ≤ c := by omega
  have hc1 : (c : Int) ≤ 6 := by omega
  clear hc hf
  generalize (c : Int) = z at HS hc0 hc1
  go_enter Tryz.func20, Tryz.ntmps20
  go_wp2
  have g7 : (z == 7) = false := beq_false_of_ne (by omega)
  simp only [g7]
  go_loopw [11, 12] (fun t i wr => ∃ (k : Nat) (u : ByteArray), k ≤ s.size ∧ i = .int .i64 k ∧ t = .string u ∧ Ext w wr ∧ u.size ≤ 8 * k ∧ Hid (dec9 f s k u = (T, A))) (fun _ i _ => s.size - (intOf i).toNat)
  case atStart => exact ⟨0, ⟨#[]⟩, by omega, rfl, rfl, Ext.refl _, by decide, HD⟩
  case round =>
    obtain ⟨k, u, hk, rfl, rfl, hx, hus, HU⟩ := hrel
    clear HD
    by_cases hlt : k < s.size
    · have hx1 := s[k].toNat_lt
      by_cases hlow : s[k].toNat < 128
      · have HN : Hid (dec9 f s (k + 1) (u ++ s.extract k (k + 1)) = (T, A)) := (dec9_low hlt hlow).symm.trans HU.out
        have hz : (s.extract k (k + 1)).size ≤ 1 := by rw [ByteArray.size_extract]; omega
        have hlow2 : (s[k].toNat : Int) < 128 := by omega
        clear HU hlow hx1
        go_wp2
        go_roundw
        case rel => exact ⟨k + 1, u ++ s.extract k (k + 1), by omega, by go_num, rfl, hx, by rw [ByteArray.size_append]; omega, HN⟩
        case measure => simp [intOf]; omega
      · have hlow2 : ¬ (s[k].toNat : Int) < 128 := by omega
        have hx1i : (s[k].toNat : Int) < 256 := by omega
        by_cases h2 : k + 1 < s.size
        · have h2i : (k : Int) + 1 < s.size := by omega
          have hy1 := s[k + 1].toNat_lt
          have hy1i : (s[k + 1].toNat : Int) < 256 := by omega
          have HG := Lib.hid (HS.out s[k].toNat s[k + 1].toNat hx1 hy1)
          have w1 : ((s[k].toNat : Nat) : Int) = IntKind.i64.wrap ((s[k].toNat : Nat) : Int) := (IntWalk.i64_in _ (by omega)).symm
          have w2 : ((s[k + 1].toNat : Nat) : Int) = IntKind.i64.wrap ((s[k + 1].toNat : Nat) : Int) := (IntWalk.i64_in _ (by omega)).symm
          rw [w1, w2] at HG
          clear w1 w2
          have hwk : IntKind.i64.wrap ((k : Int) + 1) = (k : Int) + 1 := IntWalk.i64_in _ (by omega)
          have hk1 : ((k : Int) + 1).toNat = k + 1 := by omega
          have hk2 : ¬ (k : Int) + 1 < 0 := by omega
          have hz := HZ.out s[k].toNat s[k + 1].toNat
          by_cases h3 : (f s[k].toNat s[k + 1].toNat).size = 0
          · have e := (dec9_none (t := u) hlt hlow h2 h3).symm.trans HU.out
            have e1 : (⟨#[]⟩ : ByteArray) = T := congrArg Prod.fst e
            have e2 : (k : Int) = A := congrArg Prod.snd e
            have e3 : f s[k].toNat s[k + 1].toNat = ⟨#[]⟩ := by
              apply ByteArray.ext
              exact Array.eq_empty_of_size_eq_zero h3
            rw [e3] at HG
            subst e1
            subst e2
            have E1 : Hid (code9 (k : Int) = 2) := if_neg (by omega)
            have E2 : Hid (at9 (k : Int) = k) := if_neg (by omega)
            clear e HU h3 e3 hz hx1 hy1 hlow
            go_wp2
            go_region_with (go_at_call 36; refine (HG.out _).mono ?_; rintro e w2 ⟨rfl, hb2⟩)
            all_goals
              go_wp2
              refine bodyPost_ret (v := .tuple #[.string ⟨#[]⟩, .int .i64 2, .int .i64 k]) (by simp [results, Tryz.results20, go_sem]) rfl ?_
              exact ⟨by rw [E1.out, E2.out], hx.drew.trans hb2⟩
          · have HN : Hid (dec9 f s (k + 2) (u ++ f s[k].toNat s[k + 1].toNat) = (T, A)) := (dec9_two hlt hlow h2 h3).symm.trans HU.out
            clear HU hlow hx1 hy1
            generalize f s[k].toNat s[k + 1].toNat = g at HG HN hz h3
            have hgd : g.data.toList ≠ [] := fun e => h3 (by show g.data.toList.length = 0; rw [e]; rfl)
            obtain ⟨hg0, hg1, hg2⟩ := ne_facts9 hgd
            clear hgd
            go_wp2
            go_region_with (go_at_call 36; refine (HG.out _).mono ?_; rintro e w2 ⟨rfl, hb2⟩)
            all_goals
              go_wp2
              go_roundw
              case rel => exact ⟨k + 2, u ++ g, by omega, by go_num, rfl, hx.drew.trans hb2, by rw [ByteArray.size_append]; omega, HN⟩
              case measure => simp [intOf]; omega
        · have e := (dec9_left (f := f) (t := u) hlt hlow h2).symm.trans HU.out
          have e1 : (⟨#[]⟩ : ByteArray) = T := congrArg Prod.fst e
          have e2 : (k : Int) = A := congrArg Prod.snd e
          subst e1
          subst e2
          have E1 : Hid (code9 (k : Int) = 2) := if_neg (by omega)
          have E2 : Hid (at9 (k : Int) = k) := if_neg (by omega)
          have h2i : ¬ (k : Int) + 1 < s.size := by omega
          clear e HU hlow hx1
          go_wp2
          refine bodyPost_ret (v := .tuple #[.string ⟨#[]⟩, .int .i64 2, .int .i64 k]) (by simp [results, Tryz.results20, go_sem]) rfl ?_
          exact ⟨by rw [E1.out, E2.out], hx⟩
    · have e := (dec9_end (f := f) (t := u) hlt).symm.trans HU.out
      have e1 : u = T := congrArg Prod.fst e
      have e2 : (-1 : Int) = A := congrArg Prod.snd e
      subst e1
      subst e2
      clear e HU
      go_wp2
      refine bodyPost_ret (v := .tuple #[.string u, .int .i64 0, .int .i64 0]) (by simp [results, Tryz.results20, go_sem]) rfl ?_
      exact ⟨rfl, hx⟩
end Go.Proofs.YtndopjmdpmkgeaaGreatDoor

