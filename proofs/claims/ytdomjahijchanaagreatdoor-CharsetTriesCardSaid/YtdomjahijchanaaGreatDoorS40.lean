/-
  What the proof of this claim leans on (S40).
-/
import Derived.Test.YtdomjahijchanaaGreatDoorS30
import Derived.Test.YtdomjahijchanaaGreatDoorS37
import Derived.Test.YtdomjahijchanaaGreatDoorS38
import Derived.Test.YtdomjahijchanaaGreatDoorS39
import Derived.BigQuiet
import Derived.ChangeMaps
namespace Go.Proofs.YtdomjahijchanaaGreatDoor
open Go Go.ChangeShapes Go.WideShapes Go.ChangeAt Go.RowKit
set_option linter.unusedSimpArgs false
set_option linter.unusedVariables false

/-- What the program's variables hold, of all layers up to this one. -/
structure TabE (w : World) : Prop where
  d : TabD w
  t9 : Tab9 w
theorem TabE.ext {w w' : World} (h : TabE w) (k : Ext w w') : TabE w' := ⟨h.d.ext k, h.t9.ext k⟩
theorem ex_dec9a : decN 4 ⟨#[97, 176, 161]⟩ = (⟨#[97, 234, 176, 128]⟩, -1) := by
  unfold decN
  rw [if_neg (by decide), if_pos (by decide), dec9_low (by decide) (by decide), dec9_two (by decide) (by decide) (by decide) (by decide +kernel), dec9_end (by decide)]
  refine Prod.ext ?_ rfl
  decide +kernel
theorem ex_dec9b : decN 4 ⟨#[97, 176]⟩ = (⟨#[]⟩, 1) := by
  unfold decN
  rw [if_neg (by decide), if_pos (by decide), dec9_low (by decide) (by decide), dec9_left (by decide) (by decide) (by decide)]
  rfl
theorem ex9a (w : World) (hT : TabD w) : Calls Tryz.prog 10 #[.int .i64 4, .string ⟨#[97, 176, 161]⟩] w fun e w' => e = .returned (.tuple #[.string ⟨#[97, 234, 176, 128]⟩, .agg #[.int .i64 0, .int .i64 0]]) ∧ Ext w w' := by
  have h := decode_cs 4 ⟨#[97, 176, 161]⟩ w (by decide) hT (by decide)
  unfold DecOut at h
  rw [ex_dec9a] at h
  exact h
theorem ex9b (w : World) (hT : TabD w) : Calls Tryz.prog 10 #[.int .i64 4, .string ⟨#[97, 176]⟩] w fun e w' => e = .returned (.tuple #[.string ⟨#[]⟩, .agg #[.int .i64 2, .int .i64 1]]) ∧ Ext w w' := by
  have h := decode_cs 4 ⟨#[97, 176]⟩ w (by decide) hT (by decide)
  unfold DecOut at h
  rw [ex_dec9b] at h
  exact h
theorem ex9c (w : World) (hT : TabE w) : Calls Tryz.prog 20 #[.string ⟨#[85, 84, 70, 56]⟩] w fun e w' => e = .returned (.tuple #[.int .i64 7, .bool true]) ∧ Ext w w' := by
  have h := named_any ⟨#[85, 84, 70, 56]⟩ w hT.d.t hT.t9 (by decide)
  have e : named9 ⟨#[85, 84, 70, 56]⟩ 10 0 = 7 := by decide +kernel
  unfold num9 at h
  rw [e] at h
  exact h
set_option maxRecDepth 100000 in
set_option maxHeartbeats 4000000 in
theorem awake9_any (w : World) (hT : TabE w) : Calls Tryz.prog 23 #[] w fun e w' => e = .returned (.bool true) ∧ Ext w w' := by
  have hC := KeepT.start hT.d.t
  have HT := Lib.hid hT
  have K1 := Lib.hid trivial
  have K2 := Lib.hid trivial
  clear hT
  go_enter Tryz.func23, Tryz.ntmps23
  go_wp2_with (first
    | (go_at_call 10; clear K1; refine (ex9a _ (HT.out.ext hC.ex).d).mono ?_; rintro e w1 ⟨rfl, hb⟩; have hC' := (hC.ext hb).two (.int .i64 0) (.int .i64 0) 25; clear hC hb; have hC := hC'; clear hC'; obtain ⟨a0, a1, _⟩ := hC.c)
    | (go_at_call 10; clear K2; refine (ex9b _ (HT.out.ext hC.ex).d).mono ?_; rintro e w2 ⟨rfl, hb⟩; have hC' := (hC.ext hb).two (.int .i64 2) (.int .i64 1) 25; clear hC hb a0 a1; have hC := hC'; clear hC'; obtain ⟨b0, b1, a0, a1, _⟩ := hC.c)
    | (go_at_call 20; refine (ex9c _ (HT.out.ext hC.ex)).mono ?_; rintro e w3 ⟨rfl, hb⟩; have hC' := hC.ext hb; clear hC hb b0 b1 a0 a1; have hC := hC'; clear hC'; obtain ⟨b0, b1, a0, a1, _⟩ := hC.c)
    | (go_at_call 43; refine (awake02 _ hC.tb).mono ?_; rintro e w4 ⟨rfl, hb⟩; have hC' := hC.ext hb; clear hC hb b0 b1 a0 a1; have hC := hC'; clear hC'; obtain ⟨b0, b1, a0, a1, _⟩ := hC.c)
    | (go_at_call 44; refine (awake5_any _ hC.tb).mono ?_; rintro e w5 ⟨rfl, hb⟩; have hC' := hC.ext hb; clear hC hb b0 b1 a0 a1; have hC := hC'; clear hC'; obtain ⟨b0, b1, a0, a1, _⟩ := hC.c)
    | (go_at_call 45; refine (awake6_any _).mono ?_; rintro e w6 ⟨rfl, hb⟩; have hC' := hC.ext hb; clear hC hb b0 b1 a0 a1; have hC := hC'; clear hC'; obtain ⟨b0, b1, a0, a1, _⟩ := hC.c)
    | (go_at_call 46; refine (awake7_any _ (HT.out.ext hC.ex).d.t7).mono ?_; rintro e w7 ⟨rfl, hb⟩; have hC' := hC.ext hb; clear hC hb b0 b1 a0 a1; have hC := hC'; clear hC'; obtain ⟨b0, b1, a0, a1, _⟩ := hC.c)
    | (go_at_call 47; refine (awake8_any _ (HT.out.ext hC.ex).d.t8).mono ?_; rintro e w8 ⟨rfl, hb⟩; have hC' := hC.ext hb; clear hC hb b0 b1 a0 a1; have hC := hC'; clear hC'; obtain ⟨b0, b1, a0, a1, _⟩ := hC.c)
    | (go_at_call 14; refine (bad_no _ _ _ (by decide)).mono ?_; rintro e w9 ⟨rfl, hb⟩; have hC' := hC.ext hb; clear hC hb b0 b1 a0 a1; have hC := hC'; clear hC'; obtain ⟨b0, b1, a0, a1, _⟩ := hC.c))
  go_ret
  exact ⟨rfl, hC.ex⟩
theorem awake9 (w : World) (hT : TabE w) : Calls Tryz.prog 9 #[] w fun e w' => e = .returned (.bool true) ∧ Ext w w' := by
  have HT := Lib.hid hT
  clear hT
  go_enter Tryz.func9, Tryz.ntmps9
  go_wp2_with (go_at_call 23; refine (awake9_any _ HT.out).mono ?_; rintro e w1 ⟨rfl, hb1⟩)
  go_ret
  exact ⟨rfl, hb1⟩
end Go.Proofs.YtdomjahijchanaaGreatDoor

namespace Go.Proofs.YtdomjahijchanaaGreatDoor
open Go Go.RowKit
set_option linter.unusedSimpArgs false
set_option linter.unusedVariables false

theorem dec9_size {f : Nat → Nat → ByteArray} (hf : ∀ a b, (f a b).size ≤ 8) (s : ByteArray) : ∀ (n i : Nat) (t : ByteArray), s.size - i ≤ n → i ≤ s.size → t.size ≤ 8 * i → (dec9 f s i t).1.size ≤ 8 * s.size ∧ (dec9 f s i t).2 ≤ s.size
  | n, i, t, hn, hi, ht => by
    by_cases h : i < s.size
    · by_cases hb : s[i].toNat < 128
      · rw [dec9_low h hb]
        match n, hn with
        | 0, hn => omega
        | n + 1, hn => exact dec9_size hf s n (i + 1) _ (by omega) (by omega) (by rw [ByteArray.size_append, ByteArray.size_extract]; omega)
      · by_cases h2 : i + 1 < s.size
        · by_cases h3 : (f s[i].toNat s[i + 1].toNat).size = 0
          · rw [dec9_none h hb h2 h3]
            exact ⟨Nat.zero_le _, by show (i : Int) ≤ s.size; omega⟩
          · rw [dec9_two h hb h2 h3]
            match n, hn with
            | 0, hn => omega
            | n + 1, hn => exact dec9_size hf s n (i + 2) _ (by omega) (by omega) (by have := hf s[i].toNat s[i + 1].toNat; rw [ByteArray.size_append]; omega)
        · rw [dec9_left h hb h2]
          exact ⟨Nat.zero_le _, by show (i : Int) ≤ s.size; omega⟩
    · rw [dec9_end h]
      exact ⟨by show t.size ≤ _; omega, by show (-1 : Int) ≤ s.size; omega⟩
theorem decN_bounds (c : Nat) (hc : c ≤ 7) (s : ByteArray) : (decN c s).1.size ≤ 8 * s.size ∧ (decN c s).2 ≤ s.size := by
  unfold decN
  by_cases h3 : c ≤ 3
  · rw [if_pos h3]
    refine ⟨?_, by show (-1 : Int) ≤ s.size; omega⟩
    show (txt _).size ≤ _
    rw [txt_len]
    have h1 := encs_le (decZ c s.data.toList)
    have h2 : (decZ c s.data.toList).length = s.size := by unfold decZ; rw [List.length_map]; rfl
    omega
  rw [if_neg h3]
  by_cases h6 : c ≤ 6
  · rw [if_pos h6]
    exact dec9_size (sg9_size c) s s.size 0 ⟨#[]⟩ (by omega) (by omega) (by decide)
  · rw [if_neg h6, if_pos (by omega)]
    refine ⟨?_, ?_⟩
    · show (if badS s < 0 then s else ⟨#[]⟩).size ≤ _
      split
      · omega
      · exact Nat.zero_le _
    · show badS s ≤ s.size
      have := badL_le s.size 0 s.data.toList (Nat.le_refl _)
      have h2 : badS s = badL 0 s.data.toList := rfl
      have h3 : s.data.toList.length = s.size := rfl
      omega
/-- The program's Decode where there is no fault, and where there is one. -/
theorem decode_yes (c : Nat) (s : ByteArray) (hc : c ≤ 9) (hs : s.size ≤ 100000) (u : ByteArray) (hu : (decN c s).1 = u) (h : (decN c s).2 < 0) (w : World) (hT : TabD w) :
    Calls Tryz.prog 10 #[.int .i64 c, .string s] w fun e w' => e = .returned (.tuple #[.string u, .agg #[.int .i64 0, .int .i64 0]]) ∧ Ext w w' := by
  have h1 := decode_cs c s w hc hT hs
  unfold DecOut at h1
  rw [hu, show code9 (decN c s).2 = 0 from if_pos h, show at9 (decN c s).2 = 0 from if_pos h] at h1
  exact h1
theorem decode_no (c : Nat) (s : ByteArray) (hc : c ≤ 9) (hs : s.size ≤ 100000) (u : ByteArray) (hu : (decN c s).1 = u) (p : Int) (hp : (decN c s).2 = p) (h : ¬ p < 0) (w : World) (hT : TabD w) :
    Calls Tryz.prog 10 #[.int .i64 c, .string s] w fun e w' => e = .returned (.tuple #[.string u, .agg #[.int .i64 2, .int .i64 p]]) ∧ Ext w w' := by
  have h1 := decode_cs c s w hc hT hs
  unfold DecOut at h1
  rw [hu, hp, show code9 p = 2 from if_neg h, show at9 p = p from if_neg h] at h1
  exact h1
end Go.Proofs.YtdomjahijchanaaGreatDoor

namespace Go.Proofs.YtdomjahijchanaaGreatDoor.charsetCuts
open Go Go.Proofs.YtdomjahijchanaaGreatDoor Go.ChangeShapes Go.WideShapes Go.ChangeAt Go.RowKit
open Go.ChangeMaps (open_string shut_string)
set_option linter.unusedSimpArgs false
set_option linter.unusedVariables false

abbrev Tabs (w : World) : Prop := TabE w
set_option maxRecDepth 100000 in
set_option maxHeartbeats 4000000 in
theorem walk_long (c : Int) (a b : ByteArray) (W : World) (hT : Tabs W) (h : 100 < a.size ∨ (a.size ≤ 100 ∧ 100 < b.size) ∨ (a.size ≤ 100 ∧ b.size ≤ 100 ∧ c < 0) ∨ (a.size ≤ 100 ∧ b.size ≤ 100 ∧ 0 ≤ c ∧ 7 < c)) : Calls Tryz.prog 8 #[.int .i64 c, .string a, .string b] W fun e w' => e = .returned (.bool true) ∧ Ext W w' := by
  have HT := Lib.hid hT
  have hs2 : (100 : Int) < a.size ∨ (¬ (100 : Int) < a.size ∧ (100 : Int) < b.size) ∨ (¬ (100 : Int) < a.size ∧ ¬ (100 : Int) < b.size ∧ c < 0) ∨ (¬ (100 : Int) < a.size ∧ ¬ (100 : Int) < b.size ∧ ¬ c < 0 ∧ 7 < c) := by omega
  clear hT h
  rcases hs2 with h1 | ⟨h1, h2⟩ | ⟨h1, h2, h3⟩ | ⟨h1, h2, h3, h4⟩
  all_goals
    go_enter Tryz.func8, Tryz.ntmps8
    go_wp2_with (go_at_call 9; refine (awake9 _ HT.out).mono ?_; rintro e w1 ⟨rfl, hb1⟩)
    go_ret
    exact ⟨rfl, hb1⟩
set_option maxRecDepth 100000 in
set_option maxHeartbeats 4000000 in
theorem walk_bad (c : Nat) (hc : c ≤ 7) (a b : ByteArray) (W : World) (hT : Tabs W) (hs : a.size ≤ 100) (hs2 : b.size ≤ 100) (u : ByteArray) (p : Int)
    (H : ∀ w, TabD w → Calls Tryz.prog 10 #[.int .i64 c, .string a] w fun e w' => e = .returned (.tuple #[.string u, .agg #[.int .i64 2, .int .i64 p]]) ∧ Ext w w') :
    Calls Tryz.prog 8 #[.int .i64 c, .string a, .string b] W fun e w' => e = .returned (.bool true) ∧ Ext W w' := by
  have hC := KeepT.start hT.d.t
  have HT := Lib.hid hT
  have HA := Lib.hid H
  have s1 : ¬ (100 : Int) < a.size := by omega
  have s2 : ¬ (100 : Int) < b.size := by omega
  have s3 : ¬ (c : Int) < 0 := by omega
  have s4 : ¬ (7 : Int) < c := by omega
  clear hT H hs hs2 hc
  generalize (c : Int) = n at HA s3 s4 ⊢
  go_enter Tryz.func8, Tryz.ntmps8
  go_wp2_with (first
    | (go_at_call 10; refine (HA.out _ (HT.out.ext hC.ex).d).mono ?_; rintro e w1 ⟨rfl, hb⟩; have hC' := (hC.ext hb).two (.int .i64 2) (.int .i64 p) 25; clear hC hb; have hC := hC'; clear hC'; obtain ⟨f0, f1, _⟩ := hC.c)
    | (go_at_call 14; refine (bad_yes _ _ _ (by decide)).mono ?_; rintro e w6 ⟨rfl, hb⟩; have hC' := hC.ext hb; clear hC hb f0 f1; have hC := hC'; clear hC'; obtain ⟨f0, f1, _⟩ := hC.c)
    | (go_at_call 9; refine (awake9 _ (HT.out.ext hC.ex)).mono ?_; rintro e w5 ⟨rfl, hb⟩; have hC' := hC.ext hb; clear hC hb f0 f1; have hC := hC'; clear hC'; obtain ⟨f0, f1, _⟩ := hC.c))
  go_ret
  exact ⟨rfl, hC.ex⟩
set_option maxRecDepth 100000 in
set_option maxHeartbeats 4000000 in
theorem walk_good (c : Nat) (hc : c ≤ 7) (a b : ByteArray) (W : World) (hT : Tabs W) (hs : a.size ≤ 100) (hs2 : b.size ≤ 100) (x y : ByteArray) (hx : x.size ≤ 800) (hy : y.size ≤ 800)
    (H1 : ∀ w, TabD w → Calls Tryz.prog 10 #[.int .i64 c, .string a] w fun e w' => e = .returned (.tuple #[.string x, .agg #[.int .i64 0, .int .i64 0]]) ∧ Ext w w')
    (H2 : ∀ w, TabD w → Calls Tryz.prog 10 #[.int .i64 c, .string b] w fun e w' => e = .returned (.tuple #[.string y, .agg #[.int .i64 0, .int .i64 0]]) ∧ Ext w w')
    (H3 : ∀ w, TabD w → Calls Tryz.prog 10 #[.int .i64 c, .string (a ++ b)] w fun e w' => e = .returned (.tuple #[.string (x ++ y), .agg #[.int .i64 0, .int .i64 0]]) ∧ Ext w w') :
    Calls Tryz.prog 8 #[.int .i64 c, .string a, .string b] W fun e w' => e = .returned (.bool true) ∧ Ext W w' := by
  have hC := KeepT.start hT.d.t
  have HT := Lib.hid hT
  have K1 := Lib.hid trivial
  have K2 := Lib.hid trivial
  have K3 := Lib.hid trivial
  have K4 := Lib.hid trivial
  have HD1 := Lib.hid H1
  have HD2 := Lib.hid H2
  have HD3 := Lib.hid H3
  have s1 : ¬ (100 : Int) < a.size := by omega
  have s2 : ¬ (100 : Int) < b.size := by omega
  have s3 : ¬ (c : Int) < 0 := by omega
  have s4 : ¬ (7 : Int) < c := by omega
  clear hT H1 H2 H3 hs hs2 hc
  generalize (c : Int) = n at HD1 HD2 HD3 s3 s4 ⊢
  go_enter Tryz.func8, Tryz.ntmps8
  go_wp2_with (first
    | (go_at_call 10; clear K1; refine (HD1.out _ (HT.out.ext hC.ex).d).mono ?_; rintro e w1 ⟨rfl, hb⟩; have hC' := (hC.ext hb).two (.int .i64 0) (.int .i64 0) 25; clear hC hb; have hC := hC'; clear hC'; obtain ⟨f0, f1, _⟩ := hC.c)
    | (go_at_call 10; clear K2; refine (HD2.out _ (HT.out.ext hC.ex).d).mono ?_; rintro e w2 ⟨rfl, hb⟩; have hC' := (hC.ext hb).two (.int .i64 0) (.int .i64 0) 25; clear hC hb f0 f1; have hC := hC'; clear hC'; obtain ⟨g0, g1, f0, f1, _⟩ := hC.c)
    | (go_at_call 10; clear K3; refine (HD3.out _ (HT.out.ext hC.ex).d).mono ?_; rintro e w3 ⟨rfl, hb⟩; have hC' := (hC.ext hb).two (.int .i64 0) (.int .i64 0) 25; clear hC hb g0 g1 f0 f1; have hC := hC'; clear hC'; obtain ⟨h0, h1, g0, g1, f0, f1, _⟩ := hC.c)
    | (go_at_call 14; clear K4; refine (bad_no _ _ _ (by decide)).mono ?_; rintro e w6 ⟨rfl, hb⟩; have hC' := hC.ext hb; clear hC hb f0 f1; have hC := hC'; clear hC'; obtain ⟨f0, f1, _⟩ := hC.c)
    | (go_at_call 14; refine (bad_no _ _ _ (by decide)).mono ?_; rintro e w7 ⟨rfl, hb⟩; have hC' := hC.ext hb; clear hC hb h0 h1 g0 g1 f0 f1; have hC := hC'; clear hC'; obtain ⟨h0, h1, g0, g1, f0, f1, _⟩ := hC.c)
    | (go_at_call 9; refine (awake9 _ (HT.out.ext hC.ex)).mono ?_; rintro e w5 ⟨rfl, hb⟩; have hC' := hC.ext hb; clear hC hb h0 h1 g0 g1 f0 f1; have hC := hC'; clear hC'; obtain ⟨h0, h1, g0, g1, f0, f1, _⟩ := hC.c))
  go_ret
  exact ⟨by simp, hC.ex⟩
set_option maxRecDepth 100000 in
set_option maxHeartbeats 4000000 in
theorem walk_far (c : Nat) (hc : c ≤ 7) (a b : ByteArray) (W : World) (hT : Tabs W) (hs : a.size ≤ 100) (hs2 : b.size ≤ 100) (x y : ByteArray) (p : Int) (hp0 : 0 ≤ p) (hp1 : p ≤ 100)
    (H1 : ∀ w, TabD w → Calls Tryz.prog 10 #[.int .i64 c, .string a] w fun e w' => e = .returned (.tuple #[.string x, .agg #[.int .i64 0, .int .i64 0]]) ∧ Ext w w')
    (H2 : ∀ w, TabD w → Calls Tryz.prog 10 #[.int .i64 c, .string b] w fun e w' => e = .returned (.tuple #[.string y, .agg #[.int .i64 2, .int .i64 p]]) ∧ Ext w w')
    (H3 : ∀ w, TabD w → Calls Tryz.prog 10 #[.int .i64 c, .string (a ++ b)] w fun e w' => e = .returned (.tuple #[.string ⟨#[]⟩, .agg #[.int .i64 2, .int .i64 ((a.size : Int) + p)]]) ∧ Ext w w') :
    Calls Tryz.prog 8 #[.int .i64 c, .string a, .string b] W fun e w' => e = .returned (.bool true) ∧ Ext W w' := by
  have hC := KeepT.start hT.d.t
  have HT := Lib.hid hT
  have K1 := Lib.hid trivial
  have K2 := Lib.hid trivial
  have K3 := Lib.hid trivial
  have K4 := Lib.hid trivial
  have HD1 := Lib.hid H1
  have HD2 := Lib.hid H2
  have HD3 := Lib.hid H3
  have s1 : ¬ (100 : Int) < a.size := by omega
  have s2 : ¬ (100 : Int) < b.size := by omega
  have s3 : ¬ (c : Int) < 0 := by omega
  have s4 : ¬ (7 : Int) < c := by omega
  clear hT H1 H2 H3 hs hs2 hc
  generalize (c : Int) = n at HD1 HD2 HD3 s3 s4 ⊢
  go_enter Tryz.func8, Tryz.ntmps8
  go_wp2_with (first
    | (go_at_call 10; clear K1; refine (HD1.out _ (HT.out.ext hC.ex).d).mono ?_; rintro e w1 ⟨rfl, hb⟩; have hC' := (hC.ext hb).two (.int .i64 0) (.int .i64 0) 25; clear hC hb; have hC := hC'; clear hC'; obtain ⟨f0, f1, _⟩ := hC.c)
    | (go_at_call 14; clear K4; refine (bad_no _ _ _ (by decide)).mono ?_; rintro e w6 ⟨rfl, hb⟩; have hC' := hC.ext hb; clear hC hb f0 f1; have hC := hC'; clear hC'; obtain ⟨f0, f1, _⟩ := hC.c)
    | (go_at_call 10; clear K2; refine (HD2.out _ (HT.out.ext hC.ex).d).mono ?_; rintro e w2 ⟨rfl, hb⟩; have hC' := (hC.ext hb).two (.int .i64 2) (.int .i64 p) 25; clear hC hb f0 f1; have hC := hC'; clear hC'; obtain ⟨g0, g1, f0, f1, _⟩ := hC.c)
    | (go_at_call 10; clear K3; refine (HD3.out _ (HT.out.ext hC.ex).d).mono ?_; rintro e w3 ⟨rfl, hb⟩; have hC' := (hC.ext hb).two (.int .i64 2) (.int .i64 ((a.size : Int) + p)) 25; clear hC hb g0 g1 f0 f1; have hC := hC'; clear hC'; obtain ⟨h0, h1, g0, g1, f0, f1, _⟩ := hC.c)
    | (go_at_call 14; refine (bad_yes _ _ _ (by decide)).mono ?_; rintro e w7 ⟨rfl, hb⟩; have hC' := hC.ext hb; clear hC hb h0 h1 g0 g1 f0 f1; have hC := hC'; clear hC'; obtain ⟨h0, h1, g0, g1, f0, f1, _⟩ := hC.c)
    | (go_at_call 9; refine (awake9 _ (HT.out.ext hC.ex)).mono ?_; rintro e w5 ⟨rfl, hb⟩; have hC' := hC.ext hb; clear hC hb h0 h1 g0 g1 f0 f1; have hC := hC'; clear hC'; obtain ⟨h0, h1, g0, g1, f0, f1, _⟩ := hC.c))
  go_ret
  exact ⟨by simp, hC.ex⟩
theorem walk (c : Int) (a b : ByteArray) (W : World) (hT : Tabs W) : Calls Tryz.prog 8 #[.int .i64 c, .string a, .string b] W fun e w' => e = .returned (.bool true) ∧ Ext W w' := by
  by_cases h : a.size ≤ 100 ∧ b.size ≤ 100 ∧ 0 ≤ c ∧ c ≤ 7
  · obtain ⟨hs, hs2, h0, h7⟩ := h
    obtain ⟨k, rfl⟩ := Int.eq_ofNat_of_zero_le h0
    have hk : k ≤ 7 := by omega
    have hab : (a ++ b).size = a.size + b.size := ByteArray.size_append
    have B1 := decN_bounds k hk a
    have B2 := decN_bounds k hk b
    by_cases g1 : (decN k a).2 < 0
    · have hcut := decN_cut k hk a b g1
      by_cases g2 : (decN k b).2 < 0
      · rw [if_pos g2] at hcut
        exact walk_good k hk a b W hT hs hs2 _ _ (by omega) (by omega)
          (fun w hT => decode_yes k a (by omega) (by omega) _ rfl g1 w hT)
          (fun w hT => decode_yes k b (by omega) (by omega) _ rfl g2 w hT)
          (fun w hT => decode_yes k (a ++ b) (by omega) (by omega) _ (by rw [hcut]) (by rw [hcut]; show (-1 : Int) < 0; decide) w hT)
      · rw [if_neg g2] at hcut
        exact walk_far k hk a b W hT hs hs2 _ _ (decN k b).2 (by omega) (by omega)
          (fun w hT => decode_yes k a (by omega) (by omega) _ rfl g1 w hT)
          (fun w hT => decode_no k b (by omega) (by omega) _ rfl _ rfl g2 w hT)
          (fun w hT => decode_no k (a ++ b) (by omega) (by omega) _ (by rw [hcut]) _ (by rw [hcut]) (by omega) w hT)
    · exact walk_bad k hk a b W hT hs hs2 _ _ (fun w hT => decode_no k a (by omega) (by omega) _ rfl _ rfl g1 w hT)
  · exact walk_long c a b W hT (by omega)
end Go.Proofs.YtdomjahijchanaaGreatDoor.charsetCuts

namespace Go.Proofs.YtdomjahijchanaaGreatDoor
open Go Go.ChangeShapes Go.WideShapes Go.ChangeAt Go.RowKit
set_option linter.unusedSimpArgs false
set_option linter.unusedVariables false

theorem rlabels_no (c : Int) (w : World) (hc : c < 0 ∨ 9 < c) : Calls Tryz.prog 16 #[.int .i64 c] w fun e w' => e = .returned (.slice none 0 0) ∧ Ext w w' := by
  have g0 : (c == 0) = false := beq_false_of_ne (by omega)
  have g1 : (c == 1) = false := beq_false_of_ne (by omega)
  have g2 : (c == 2) = false := beq_false_of_ne (by omega)
  have g3 : (c == 3) = false := beq_false_of_ne (by omega)
  have g4 : (c == 4) = false := beq_false_of_ne (by omega)
  have g5 : (c == 5) = false := beq_false_of_ne (by omega)
  have g6 : (c == 6) = false := beq_false_of_ne (by omega)
  have g7 : (c == 7) = false := beq_false_of_ne (by omega)
  have g8 : (c == 8) = false := beq_false_of_ne (by omega)
  have g9 : (c == 9) = false := beq_false_of_ne (by omega)
  clear hc
  go_enter Tryz.func16, Tryz.ntmps16
  go_wp2
  go_ret
  exact ⟨rfl, Ext.refl w⟩
/-- A small letter as a capital. -/
def upB9 (d : UInt8) : UInt8 := if 97 ≤ d.toNat ∧ d.toNat ≤ 122 then (d.toNat - 32).toUInt8 else d
def upS9 (z : ByteArray) : ByteArray := ⟨(z.data.toList.map upB9).toArray⟩
theorem upB9_yes {d : UInt8} (h0 : 97 ≤ d.toNat) (h1 : d.toNat ≤ 122) : ((upB9 d).toNat : Int) = (d.toNat : Int) - 97 + 65 := by
  unfold upB9
  rw [if_pos ⟨h0, h1⟩]
  simp
  omega
theorem upB9_no {d : UInt8} (h : d.toNat < 97 ∨ 122 < d.toNat) : upB9 d = d := by
  unfold upB9
  rw [if_neg (by omega)]
set_option maxRecDepth 100000 in
theorem labels_all : (List.range 10).all (fun c => (labels9 c).all fun z => decide (z.size ≤ 20) && (named9 z 10 0 == (c : Int)) && (named9 (upS9 z) 10 0 == (c : Int)) && decide ((upS9 z).size ≤ 20)) = true := by decide +kernel
theorem label_at {c : Nat} (hc : c < 10) {z : ByteArray} (hz : z ∈ labels9 c) : z.size ≤ 20 ∧ named9 z 10 0 = c ∧ named9 (upS9 z) 10 0 = c ∧ (upS9 z).size ≤ 20 := by
  have h := List.all_eq_true.1 (List.all_eq_true.1 labels_all c (List.mem_range.2 hc)) z hz
  simp only [Bool.and_eq_true, decide_eq_true_eq, beq_iff_eq] at h
  exact ⟨h.1.1.1, h.1.1.2, h.1.2, h.2⟩
theorem labels_one {c : Nat} (hc : c < 10) : 1 ≤ (labels9 c).length := by
  have : c = 0 ∨ c = 1 ∨ c = 2 ∨ c = 3 ∨ c = 4 ∨ c = 5 ∨ c = 6 ∨ c = 7 ∨ c = 8 ∨ c = 9 := by omega
  rcases this with rfl | rfl | rfl | rfl | rfl | rfl | rfl | rfl | rfl | rfl <;> decide
theorem name9_head {c : Nat} {z : ByteArray} (h : (labels9 c)[0]? = some z) : name9 (c : Int) = z := by
  unfold name9
  rw [if_pos (by omega), Int.toNat_natCast]
  cases hl : labels9 c with
  | nil => rw [hl] at h; cases h
  | cons x t =>
    rw [hl] at h
    exact Option.some.inj h
theorem name9_no {c : Int} (h : c < 0 ∨ 9 < c) : name9 c = ⟨#[110, 111, 110, 101]⟩ := by
  have e := name_miss c fun i _ => by have := nm_bd i; omega
  rw [e]
  decide +kernel
/-- The charset of a label, and of it in capitals. -/
theorem named_label {c : Nat} (hc : c < 10) {z : ByteArray} (hz : named9 z 10 0 = c) (hs : z.size ≤ 20) (w : World) (hT : TabE w) : Calls Tryz.prog 20 #[.string z] w fun e w' => e = .returned (.tuple #[.int .i64 c, .bool true]) ∧ Ext w w' := by
  have h := named_any z w hT.d.t hT.t9 (by omega)
  unfold num9 at h
  rw [hz, if_neg (by omega), decide_eq_true (by omega)] at h
  exact h
end Go.Proofs.YtdomjahijchanaaGreatDoor

namespace Go.Proofs.YtdomjahijchanaaGreatDoor.charsetNames
open Go Go.Proofs.YtdomjahijchanaaGreatDoor Go.ChangeShapes Go.WideShapes Go.ChangeAt Go.RowKit
open Go.ChangeMaps (open_string shut_string)
set_option linter.unusedSimpArgs false
set_option linter.unusedVariables false

abbrev Tabs (w : World) : Prop := TabE w
set_option maxRecDepth 100000 in
set_option maxHeartbeats 4000000 in
theorem walk_long (c : Int) (l : ByteArray) (W : World) (hT : Tabs W) (h : 100 < l.size) : Calls Tryz.prog 5 #[.int .i64 c, .string l] W fun e w' => e = .returned (.bool true) ∧ Ext W w' := by
  have HT := Lib.hid hT
  have h1 : (100 : Int) < l.size := by omega
  clear hT h
  go_enter Tryz.func5, Tryz.ntmps5
  go_wp2_with (go_at_call 9; refine (awake9 _ HT.out).mono ?_; rintro e w1 ⟨rfl, hb1⟩)
  go_ret
  exact ⟨rfl, hb1⟩
/-- What Named answers at any label, and what the document does. -/
def NmOut (l : ByteArray) (k n : Int) (ok : Bool) : Prop :=
  (∀ w, TabE w → Calls Tryz.prog 20 #[.string l] w fun e w' => e = .returned (.tuple #[.int .i64 n, .bool ok]) ∧ Ext w w') ∧
  (∀ w, Calls Tryz.prog 21 #[.string l] w fun e w' => e = .returned (.int .i64 k) ∧ Ext w w')
theorem nm_out (l : ByteArray) (hl : l.size ≤ 100) : (∃ k : Int, 0 ≤ k ∧ NmOut l k k true) ∨ (∃ k : Int, k < 0 ∧ NmOut l k 0 false) := by
  by_cases h : 0 ≤ named9 l 10 0
  · refine .inl ⟨named9 l 10 0, h, fun w hT => ?_, fun w => rnamed9 l w (by omega)⟩
    have h1 := named_any l w hT.d.t hT.t9 (by omega)
    unfold num9 at h1
    rw [if_neg (by omega), decide_eq_true h] at h1
    exact h1
  · refine .inr ⟨named9 l 10 0, by omega, fun w hT => ?_, fun w => rnamed9 l w (by omega)⟩
    have h1 := named_any l w hT.d.t hT.t9 (by omega)
    unfold num9 at h1
    rw [if_pos (by omega), decide_eq_false h] at h1
    exact h1
set_option maxRecDepth 100000 in
set_option maxHeartbeats 4000000 in
theorem walk_no (c : Int) (hc : c < 0 ∨ 9 < c) (l : ByteArray) (W : World) (hT : Tabs W) (h : l.size ≤ 100) : Calls Tryz.prog 5 #[.int .i64 c, .string l] W fun e w' => e = .returned (.bool true) ∧ Ext W w' := by
  have HT := Lib.hid hT
  have h1 : ¬ (100 : Int) < l.size := by omega
  have HL := Lib.hid (fun w => rlabels_no c w hc)
  have HN := Lib.hid (fun w (h : Tab9 w) => name_any c w h)
  rw [name9_no hc] at HN
  have HR := Lib.hid (fun w => right_any c w)
  have HG := Lib.hid (fun w => legacy_any c w)
  rw [decide_eq_false (by omega)] at HR HG
  have hcc : c < 0 ∨ (0 ≤ c ∧ ¬ c ≤ 6) := by omega
  have HO := nm_out l h
  clear hT h hc
  rcases HO with ⟨k, hk, H⟩ | ⟨k, hk, H⟩
  all_goals
    have HM := Lib.hid H.1
    have HD := Lib.hid H.2
    clear H
    rcases hcc with h2 | ⟨h2, h3⟩
    all_goals
      go_enter Tryz.func5, Tryz.ntmps5
      go_wp2_with (first
        | (go_at_call 16; refine (HL.out _).mono ?_; rintro e w1 ⟨rfl, hb1⟩)
        | (go_at_call 17; refine (HR.out _).mono ?_; rintro e w2 ⟨rfl, rfl⟩)
        | (go_at_call 18; refine (HG.out _).mono ?_; rintro e w3 ⟨rfl, rfl⟩)
        | (go_at_call 19; refine (HN.out _ (HT.out.ext hb1).t9).mono ?_; rintro e w4 ⟨rfl, hb4⟩; have hx4 := hb1.trans hb4))
      go_loopw [58] (fun v wr => v = .int .i64 0 ∧ Ext W wr) (fun _ _ => 0)
      case atStart => exact ⟨rfl, hx4⟩
      case round =>
        obtain ⟨rfl, hx⟩ := hrel
        go_wp2_with (first
          | (go_at_call 20; refine (HM.out _ (HT.out.ext hx)).mono ?_; rintro e w5 ⟨rfl, hb5⟩)
          | (go_at_call 21; refine (HD.out _).mono ?_; rintro e w6 ⟨rfl, hb6⟩; have hx6 := (hx.trans hb5).trans hb6)
          | (go_at_call 9; refine (awake9 _ (HT.out.ext hx6)).mono ?_; rintro e w7 ⟨rfl, hb7⟩))
        go_ret
        exact ⟨by first | (simp; done) | (simp; omega), hx6.trans hb7⟩
theorem text_mem {xs : List ByteArray} {k : Nat} {z : ByteArray} (h : xs[k]? = some z) : z ∈ xs := List.mem_of_getElem? h
theorem take_up (s : ByteArray) (i : Nat) (h : i < s.size) : (s.data.toList.map upB9).take (i + 1) = (s.data.toList.map upB9).take i ++ [upB9 s[i]] := by
  have hl : i < s.data.toList.length := h
  rw [List.take_succ_eq_append_getElem (by rw [List.length_map]; exact hl)]
  simp
  rfl
set_option maxRecDepth 100000 in
set_option maxHeartbeats 8000000 in
theorem walk_yes (c : Nat) (hc : c < 10) (l : ByteArray) (W : World) (hT : Tabs W) (h : l.size ≤ 100) : Calls Tryz.prog 5 #[.int .i64 c, .string l] W fun e w' => e = .returned (.bool true) ∧ Ext W w' := by
  have HT := Lib.hid hT
  have h1 : ¬ (100 : Int) < l.size := by omega
  have HL := Lib.hid (fun w => rlabels c w)
  have HN := Lib.hid (fun w (h : Tab9 w) => name_any (c : Int) w h)
  have HHead := Lib.hid (fun z h => name9_head (c := c) (z := z) h)
  have HAt := Lib.hid (fun z h => label_at hc (z := z) h)
  have HLb := Lib.hid (fun z hz hs => named_label hc (z := z) hz hs)
  have hn1 := labels_one hc
  have hn3 := labels9_len c
  generalize labels9 c = L at HL HHead HAt hn1 hn3
  have HR := Lib.hid (fun w => right_any (c : Int) w)
  have HG := Lib.hid (fun w => legacy_any (c : Int) w)
  rw [decide_eq_true (by omega)] at HR
  have hcc : (((c : Int) ≤ 6) ∧ decide (0 ≤ (c : Int) ∧ (c : Int) ≤ 6) = true) ∨ (¬ ((c : Int) ≤ 6) ∧ decide (0 ≤ (c : Int) ∧ (c : Int) ≤ 6) = false) := by
    by_cases h6 : (c : Int) ≤ 6
    · exact .inl ⟨h6, decide_eq_true (by omega)⟩
    · exact .inr ⟨h6, decide_eq_false (by omega)⟩
  have h0 : 0 ≤ (c : Int) := by omega
  have HO := nm_out l h
  obtain ⟨i1, hj, hj0, hj1, hj2⟩ := info_parts_u8
  have g1 : (0 : Int) < L.length := by omega
  clear hT h hc
  generalize (c : Int) = q at HL HN HHead HAt HLb HR HG hcc h0 ⊢
  generalize name9 q = nm at HN HHead
  have HCC := Lib.hid hcc
  clear hcc
  rcases HO with ⟨k, hk, H⟩ | ⟨k, hk, H⟩
  all_goals
    have HM := Lib.hid H.1
    have HD := Lib.hid H.2
    clear H
    rcases HCC.out with ⟨h6, hd6⟩ | ⟨h6, hd6⟩
    all_goals
      rw [hd6] at HG
      clear HCC hd6
      go_enter Tryz.func5, Tryz.ntmps5
      go_wp2_with (first
        | (go_at_call 16; refine (HL.out _).mono ?_; rintro e w1 ⟨a, cap, rfl, ht, hb1⟩
           obtain ⟨x, off, z0, rfl, hz0, hcell0⟩ := ht.cell (k := 0) (by omega)
           have hc0 := hcell0 _ (Ext.refl _)
           rw [Nat.add_zero] at hc0
           have en := Lib.hid (HHead.out z0 hz0)
           have HTx := Lib.hid ht
           clear hcell0 hz0 ht)
        | (go_at_call 17; refine (HR.out _).mono ?_; rintro e w2 ⟨rfl, rfl⟩)
        | (go_at_call 18; refine (HG.out _).mono ?_; rintro e w3 ⟨rfl, rfl⟩)
        | (go_at_call 19; refine (HN.out _ (HT.out.ext hb1).t9).mono ?_; rintro e w4 ⟨rfl, hb4⟩; rw [en.out]; have hx4 := hb1.trans hb4))
      clear hc0 en
      go_loopw [58] (fun v wr => ∃ j : Nat, j ≤ L.length ∧ v = .int .i64 j ∧ Ext w1 wr) (fun v _ => L.length - (intOf v).toNat)
      case atStart => exact ⟨0, by omega, rfl, hb4⟩
      case round =>
        obtain ⟨j, hjn, rfl, hx⟩ := hrel
        by_cases hjl : j < L.length
        · have hji : (j : Int) < L.length := by omega
          obtain ⟨x', off', z, hxx, hz, hcell⟩ := HTx.out.cell hjl
          cases hxx
          have hcz := hcell _ hx
          obtain ⟨b1, b2, b3, b4⟩ := HAt.out z (text_mem hz)
          have HN1 := Lib.hid (HLb.out z b2 b1)
          have HN2 := Lib.hid (HLb.out (upS9 z) b3 b4)
          have HUp := Lib.hid (fun i h => take_up z i h)
          have hus : (z.data.toList.map upB9).length = z.size := by rw [List.length_map]; rfl
          have HEq : Hid (upS9 z = ⟨(z.data.toList.map upB9).toArray⟩) := rfl
          rw [HEq.out] at HN2
          generalize z.data.toList.map upB9 = U at HN2 HUp hus
          obtain ⟨w0, hw0⟩ : ∃ w0, w0 = wr := ⟨_, rfl⟩
          have hx0 : Ext w1 w0 := by rw [hw0]; exact hx
          have hxs : Ext w0 wr := by rw [hw0]; exact Ext.refl _
          have hrow0 : wr.ownsRow w0.heap.size 5 1 (.slice none 0 0) 0 (Lib.byteCells (U.take 0)) := ⟨rfl, .inl ⟨rfl, rfl⟩⟩
          clear hcell hz b2 b3 b4 HEq hw0 hx
          go_wp2
          go_loopw [10, 64] (fun v i wi => ∃ m : Nat, m ≤ z.size ∧ i = .int .i64 m ∧ wi.ownsRow w0.heap.size 5 1 v m (Lib.byteCells (U.take m)) ∧ Ext w0 wi) (fun _ i _ => z.size - (intOf i).toNat)
          case atStart => exact ⟨0, by omega, rfl, hrow0, hxs⟩
          case round =>
            obtain ⟨m, hm, rfl, ho, hxi⟩ := hrel
            clear hrow0 hxs
            have hle := hxi.size
            by_cases hmz : m < z.size
            · have hmi : (m : Int) < z.size := by omega
              have HU := Lib.hid (HUp.out m hmz)
              have hd0 := (z[m]'hmz).toNat_lt
              have HY := Lib.hid (fun h0 h1 => upB9_yes (d := z[m]'hmz) h0 h1)
              have HNo := Lib.hid (fun h => upB9_no (d := z[m]'hmz) h)
              by_cases c1 : (97 : Int) ≤ (z[m]'hmz).toNat
              · by_cases c2 : ((z[m]'hmz).toNat : Int) ≤ 122
                · have hval := Lib.hid (HY.out (by omega) (by omega))
                  generalize upB9 (z[m]'hmz) = ub at HU hval
                  have hd1 : ((z[m]'hmz).toNat : Int) < 256 := by omega
                  clear HY HNo hd0
                  go_wp2_with ((at_builtin; refine wpList_append_fresh _ rfl _ _ 37 rfl (w0.heap.size) 5 i1 (.int .u8 0) 1 1 Tryz.underlying37 hj hj0 hj1 hj2 rfl (by decide) _ _ _ rfl (ho.alloc _) ⟨wr.heap.size, 0, none⟩ 1 1 [.int .u8 (((z[m]'hmz).toNat : Int) - 97 + 65)] rfl rfl (cell_one_new _ _ _) (fun x hx => by simp at hx; subst hx; rfl) (by unfold maxLen; omega) (by omega) (by simp; omega) ?_; intro v5 w5 hown5 hgrow5 hfresh5; have hx5 := hxi.own ho (Nat.le_refl _) hgrow5; clear hgrow5 hfresh5))
                  go_roundw
                  case rel =>
                    refine ⟨m + 1, by omega, by go_num, ?_, hx5⟩
                    rw [HU.out, byteCells_app]
                    have e2 : Lib.byteCells [ub] = [.int .u8 (((z[m]'hmz).toNat : Int) - 97 + 65)] := by
                      show [Value.int .u8 (ub.toNat : Int)] = _
                      rw [hval.out]
                    rw [e2]
                    exact hown5
                  case measure => simp [intOf]; omega
                · have hval := Lib.hid (HNo.out (by omega))
                  have hd1 : ((z[m]'hmz).toNat : Int) < 256 := by omega
                  rw [hval.out] at HU
                  clear HY HNo hd0 hval
                  go_wp2_with ((at_builtin; refine wpList_append_fresh _ rfl _ _ 37 rfl (w0.heap.size) 5 i1 (.int .u8 0) 1 1 Tryz.underlying37 hj hj0 hj1 hj2 rfl (by decide) _ _ _ rfl (ho.alloc _) ⟨wr.heap.size, 0, none⟩ 1 1 [.int .u8 ((z[m]'hmz).toNat : Int)] rfl rfl (cell_one_new _ _ _) (fun x hx => by simp at hx; subst hx; rfl) (by unfold maxLen; omega) (by omega) (by simp; omega) ?_; intro v5 w5 hown5 hgrow5 hfresh5; have hx5 := hxi.own ho (Nat.le_refl _) hgrow5; clear hgrow5 hfresh5))
                  go_roundw
                  case rel =>
                    refine ⟨m + 1, by omega, by go_num, ?_, hx5⟩
                    rw [HU.out, byteCells_app]
                    exact hown5
                  case measure => simp [intOf]; omega
              · have hval := Lib.hid (HNo.out (by omega))
                have hd1 : ((z[m]'hmz).toNat : Int) < 256 := by omega
                rw [hval.out] at HU
                clear HY HNo hd0 hval
                go_wp2_with ((at_builtin; refine wpList_append_fresh _ rfl _ _ 37 rfl (w0.heap.size) 5 i1 (.int .u8 0) 1 1 Tryz.underlying37 hj hj0 hj1 hj2 rfl (by decide) _ _ _ rfl (ho.alloc _) ⟨wr.heap.size, 0, none⟩ 1 1 [.int .u8 ((z[m]'hmz).toNat : Int)] rfl rfl (cell_one_new _ _ _) (fun x hx => by simp at hx; subst hx; rfl) (by unfold maxLen; omega) (by omega) (by simp; omega) ?_; intro v5 w5 hown5 hgrow5 hfresh5; have hx5 := hxi.own ho (Nat.le_refl _) hgrow5; clear hgrow5 hfresh5))
                go_roundw
                case rel =>
                  refine ⟨m + 1, by omega, by go_num, ?_, hx5⟩
                  rw [HU.out, byteCells_app]
                  exact hown5
                case measure => simp [intOf]; omega
            · have hmz2 : m = z.size := by omega
              subst hmz2
              rw [List.take_of_length_le (by omega)] at ho
              have hxw := hx0.trans hxi
              clear HUp
              go_wp2_with (first
                | (go_at_call 20; refine (HN1.out _ (HT.out.ext (hb1.trans hxw))).mono ?_; rintro e w5 ⟨rfl, hb5⟩; have ho5 := own_ext ho hb5; have hst := own_string ho5; have hx5 := hxw.trans hb5; clear HN1 ho5)
                | (go_at_call 20; refine (HN2.out _ (HT.out.ext (hb1.trans hx5))).mono ?_; rintro e w6 ⟨rfl, hb6⟩; have hx6 := hx5.trans hb6))
              go_roundw
              case rel => exact ⟨j + 1, by omega, by go_num, hx6⟩
              case measure => simp [intOf]; omega
        · have hji : ¬ (j : Int) < L.length := by omega
          have hxw := hb1.trans hx
          go_wp2_with (first
            | (go_at_call 20; refine (HM.out _ (HT.out.ext hxw)).mono ?_; rintro e w5 ⟨rfl, hb5⟩)
            | (go_at_call 21; refine (HD.out _).mono ?_; rintro e w6 ⟨rfl, hb6⟩; have hx6 := (hxw.trans hb5).trans hb6)
            | (go_at_call 9; refine (awake9 _ (HT.out.ext hx6)).mono ?_; rintro e w7 ⟨rfl, hb7⟩))
          go_ret
          exact ⟨by first | (simp; done) | (simp; omega), hx6.trans hb7⟩
theorem walk (c : Int) (l : ByteArray) (W : World) (hT : Tabs W) : Calls Tryz.prog 5 #[.int .i64 c, .string l] W fun e w' => e = .returned (.bool true) ∧ Ext W w' := by
  by_cases h : l.size ≤ 100
  · by_cases hc : c < 0 ∨ 9 < c
    · exact walk_no c hc l W hT h
    · obtain ⟨k, rfl⟩ := Int.eq_ofNat_of_zero_le (show 0 ≤ c by omega)
      exact walk_yes k (by omega) l W hT h
  · exact walk_long c l W hT (by omega)
end Go.Proofs.YtdomjahijchanaaGreatDoor.charsetNames

namespace Go.Proofs.YtdomjahijchanaaGreatDoor
open Go Go.ChangeShapes Go.WideShapes Go.ChangeAt Go.RowKit
set_option linter.unusedSimpArgs false
set_option linter.unusedVariables false

/-- Numbers of charsets in memory: none, or some. -/
def IsCs (w : World) (a : Option Addr) (len cap : Nat) (zs : List Int) : Prop :=
  zs.length = len ∧ (len = 0 ∨ ∃ (x off : Nat), a = some ⟨x, off, none⟩ ∧ len ≤ cap ∧ x < w.heap.size ∧ ∀ (j : Nat) z, zs[j]? = some z → w.cell? ⟨x, off + j, none⟩ = some (.int .i64 z))
def csCells (l : List Int) : List Value := l.map fun z => .int .i64 z
theorem csCells_app (a b : List Int) : csCells (a ++ b) = csCells a ++ csCells b := by simp [csCells]
theorem IsCs.ext {w w' : World} {a : Option Addr} {len cap : Nat} {zs : List Int} (h : IsCs w a len cap zs) (k : Ext w w') : IsCs w' a len cap zs := by
  obtain ⟨h1, h2⟩ := h
  refine ⟨h1, ?_⟩
  rcases h2 with h2 | ⟨x, off, rfl, hc, hx, hcell⟩
  · exact .inl h2
  · exact .inr ⟨x, off, rfl, hc, Nat.lt_of_lt_of_le hx k.size, fun j z hj => (World.cell?_of_block (k.block x hx)).trans (hcell j z hj)⟩
theorem own_cs {w : World} {B : Nat} {v : Value} {n : Nat} {zs : List Int} (h : w.ownsRow B 28 1 v n (csCells zs)) : ∃ a cap, v = .slice a n cap ∧ IsCs w a n cap zs := by
  obtain ⟨hl, ⟨rfl, rfl⟩ | ⟨g, cap, cur, rfl, hg, hh, hn, hm, hs, ht⟩⟩ := h
  · exact ⟨none, 0, rfl, by simpa [csCells] using hl, .inl rfl⟩
  · have hbl : zs.length = n := by simpa [csCells] using hl
    refine ⟨some ⟨g, 0, none⟩, cap, rfl, hbl, .inr ⟨g, 0, rfl, hn, lt_of_block hh, fun j z hj => ?_⟩⟩
    have hjl : j < zs.length := (List.getElem?_eq_some_iff.1 hj).1
    have e1 : (csCells zs)[j]? = some (.int .i64 z) := by simp [csCells, hj]
    rw [← ht, List.getElem?_take, if_pos (by omega)] at e1
    have e2 : w.cell? ⟨g, 0 + j, none⟩ = cur.toList[j]? := by simp [World.cell?, hh]
    rw [e2, e1]
theorem IsCs.cell {w : World} {a : Option Addr} {n cap : Nat} {zs : List Int} (h : IsCs w a n cap zs) {k : Nat} (hk : k < n) : ∃ x off z, a = some ⟨x, off, none⟩ ∧ zs[k]? = some z ∧ ∀ w', Ext w w' → w'.cell? ⟨x, off + k, none⟩ = some (.int .i64 z) := by
  obtain ⟨h1, h2⟩ := h
  rcases h2 with h2 | ⟨x, off, rfl, hc, hx, hcell⟩
  · omega
  · have e : zs[k]? = some zs[k] := List.getElem?_eq_getElem (by omega)
    exact ⟨x, off, _, rfl, e, fun w' hxx => (World.cell?_of_block (hxx.block x hx)).trans (hcell k _ e)⟩
theorem isCs_of {w : World} {x : Addr} {zs : List Int} {len cap : Nat} (hl : len ≤ cap) (hz : zs.length = cap) (hc : ∀ i, i < zs.length → w.cell? (x.add i) = some (.int .i64 (zs.getD i 0))) : IsCs w (some x) len cap (zs.take len) := by
  refine ⟨by simp; omega, ?_⟩
  by_cases h0 : len = 0
  · exact .inl h0
  · obtain ⟨b, off, spot⟩ := x
    have e0 := hc 0 (by omega)
    have hspot : spot = none := by simpa [Addr.add] using World.cell?_spot e0
    subst hspot
    have hlt := World.block_lt_of_cell? w _ e0
    refine .inr ⟨b, off, rfl, hl, by simpa [Addr.add] using hlt, fun j y hj => ?_⟩
    have hjl : j < len := by
      rcases Nat.lt_or_ge j len with h | h
      · exact h
      · rw [List.getElem?_eq_none (by simp; omega)] at hj
        cases hj
    have e1 := hc j (by omega)
    rw [Go.WideShapes.add_plain] at e1
    rw [e1]
    rw [List.getElem?_take, if_pos hjl] at hj
    simp [List.getD, hj]
/-- Two rows that a call owns lie apart. -/
def FarV (u v : Value) : Prop := ∀ g, u.ownBlock = some g → v.ownBlock = some g → False
theorem FarV.symm {u v : Value} (h : FarV u v) : FarV v u := fun g a b => h g b a
theorem FarV.step {w w' : World} {o : Obj} {B : Nat} {e : TypeId} {size : Nat} {v v' u : Value} {n : Nat} {xs : List Value} (hf : FarV v u) (ho : w.ownsRow B e size u n xs) (hg : (w.alloc o).grownBy w' v.ownBlock) (hfr : v'.ownBlock = v.ownBlock ∨ v'.ownBlock = some (w.alloc o).heap.size) :
    w'.ownsRow B e size u n xs ∧ FarV v' u := by
  have hlt := ho.lt
  refine ⟨(ho.alloc o).kept hg ?_, fun g a b => ?_⟩
  · cases hu : u.ownBlock with
    | none => exact .inl rfl
    | some g =>
      refine .inr fun h => hf g h.symm hu
  · rcases hfr with h | h
    · exact hf g (h ▸ a) b
    · have h1 := hlt g b
      rw [h] at a
      have h2 : (w.alloc o).heap.size = g := Option.some.inj a
      have h3 : w.heap.size ≤ (w.alloc o).heap.size := by simp
      omega
theorem info_cs : (Tryz.prog.info? 28).map (fun i => (i.zero, i.size, i.bytes)) = some (some (.int .i64 0), 1, 8) := by kernel_rfl
theorem info_parts_cs : ∃ i, Tryz.prog.info? 28 = some i ∧ i.zero = some (.int .i64 0) ∧ i.size = 1 ∧ i.bytes = 8 := by
  obtain ⟨i, hi, h2⟩ := Option.map_eq_some_iff.1 info_cs
  obtain ⟨h3, h4⟩ := Prod.mk.inj h2
  obtain ⟨h5, h6⟩ := Prod.mk.inj h4
  exact ⟨i, hi, h3, h5, h6⟩
/-- Are some bytes a text in a charset? -/
def okB9 (b : ByteArray) (c : Int) : Bool := decide (0 ≤ c ∧ c ≤ 9 ∧ (decN c.toNat b).2 < 0)
/-- The first k of some charsets, those of them in which bytes are a text. -/
def tryL (b : ByteArray) (zs : List Int) (k : Nat) : List Int := (zs.take k).filter (okB9 b)
theorem tryL_snoc (b : ByteArray) (zs : List Int) (k : Nat) (c : Int) (h : zs[k]? = some c) : tryL b zs (k + 1) = tryL b zs k ++ (if okB9 b c then [c] else []) := by
  unfold tryL
  rw [List.take_add_one, h, List.filter_append]
  cases e : okB9 b c <;> simp [e]
theorem tryL_le (b : ByteArray) (zs : List Int) (k : Nat) : (tryL b zs k).length ≤ k := by
  unfold tryL
  exact Nat.le_trans (List.length_filter_le _ _) (List.length_take_le _ _)
/-- What Decode answers in any charset, or where there is no such one: its fault's number is 0 just where the bytes are a text. -/
theorem decode_any9 (c : Int) (s : ByteArray) (hs : s.size ≤ 100000) : ∃ (u : ByteArray) (x y : Int), (okB9 s c = true → x = 0) ∧ (okB9 s c = false → x = 2 ∨ x = 5) ∧ ∀ w, TabD w → Calls Tryz.prog 10 #[.int .i64 c, .string s] w fun e w' => e = .returned (.tuple #[.string u, .agg #[.int .i64 x, .int .i64 y]]) ∧ Ext w w' := by
  by_cases hc : c < 0 ∨ 9 < c
  · have e : okB9 s c = false := decide_eq_false (by omega)
    exact ⟨⟨#[]⟩, 5, 0, by rw [e]; decide, fun _ => .inr rfl, fun w _ => decode_arg c s w hc⟩
  · obtain ⟨k, rfl⟩ := Int.eq_ofNat_of_zero_le (show 0 ≤ c by omega)
    have hk : k ≤ 9 := by omega
    by_cases h : (decN k s).2 < 0
    · have e : okB9 s (k : Int) = true := decide_eq_true ⟨by omega, by omega, by rw [Int.toNat_natCast]; exact h⟩
      exact ⟨_, 0, 0, fun _ => rfl, by rw [e]; decide, fun w hT => decode_yes k s hk hs _ rfl h w hT⟩
    · have e : okB9 s (k : Int) = false := decide_eq_false (by rw [Int.toNat_natCast]; omega)
      exact ⟨_, 2, _, by rw [e]; decide, fun _ => .inl rfl, fun w hT => decode_no k s hk hs _ rfl _ rfl h w hT⟩
set_option maxRecDepth 100000 in
set_option maxHeartbeats 2000000 in
/-- Those of some charsets in which bytes are a text, in their order. -/
theorem try_any (b : ByteArray) (a : Option Addr) (n cap : Nat) (zs : List Int) (w : World) (hT : TabD w) (hs : b.size ≤ 100000) (hz : IsCs w a n cap zs) (hn : n ≤ 1000) :
    Calls Tryz.prog 22 #[.string b, .slice a n cap] w fun e w' => ∃ a' cap', e = .returned (.slice a' (tryL b zs n).length cap') ∧ IsCs w' a' (tryL b zs n).length cap' (tryL b zs n) ∧ Ext w w' := by
  have HT := Lib.hid hT
  have HZ := Lib.hid hz
  have HDA := Lib.hid (fun c => decode_any9 c b hs)
  have HSn := Lib.hid (fun k c h => tryL_snoc b zs k c h)
  have HLe := Lib.hid (fun k => tryL_le b zs k)
  have h00 : tryL b zs 0 = [] := by unfold tryL; simp
  obtain ⟨i1, hj, hj0, hj1, hj2⟩ := info_parts_cs
  have hrow0 : w.ownsRow w.heap.size 28 1 (.slice none 0 0) (tryL b zs 0).length (csCells (tryL b zs 0)) := by rw [h00]; exact ⟨rfl, .inl ⟨rfl, rfl⟩⟩
  clear hT hz h00
  generalize tryL b zs = L at HSn HLe hrow0 ⊢
  generalize okB9 b = ok at HDA HSn
  go_enter Tryz.func22, Tryz.ntmps22
  go_wp2
  obtain ⟨w0, hw0⟩ : ∃ w0, w0 = w := ⟨_, rfl⟩
  have hxs : Ext w0 w := by rw [hw0]; exact Ext.refl _
  rw [← hw0] at hrow0 HT HZ
  have hrow1 : w.ownsRow w0.heap.size 28 1 (.slice none 0 0) (L 0).length (csCells (L 0)) := by rw [← hw0]; exact hrow0
  have HE : Hid (∀ w', Ext w0 w' → Ext w w') := fun w' h => by rw [← hw0]; exact h
  clear hw0 hrow0
  go_loopw [5, 12] (fun v i wr => ∃ k : Nat, k ≤ n ∧ i = .int .i64 k ∧ wr.ownsRow w0.heap.size 28 1 v (L k).length (csCells (L k)) ∧ Ext w0 wr) (fun _ i _ => n - (intOf i).toNat)
  case atStart => exact ⟨0, by omega, rfl, hrow1, hxs⟩
  case round =>
    obtain ⟨k, hk, rfl, ho, hx⟩ := hrel
    clear hrow1 hxs
    have hle := hx.size
    have hlk := HLe.out k
    by_cases hlt : k < n
    · have hki : (k : Int) < n := by omega
      obtain ⟨x, off, c, rfl, hzc, hcell⟩ := HZ.out.cell hlt
      have hc := hcell _ hx
      have HN := Lib.hid (HSn.out k c hzc)
      obtain ⟨u, er, pl, q1, q2, HD⟩ := HDA.out c
      have HD2 := Lib.hid HD
      have HTr := Lib.hid (HT.out.ext hx)
      clear hcell hzc HD HDA HSn HLe
      generalize ok c = g at HN q1 q2
      cases g with
      | true =>
        have e0 := q1 rfl
        subst e0
        have HN1 : Hid (L (k + 1) = L k ++ [c]) := by show _ = _; rw [HN.out]; rfl
        clear q1 q2 HN
        go_wp2_with (first
          | (go_at_call 10; refine (HD2.out _ HTr.out).mono ?_; rintro e w1 ⟨rfl, hb1⟩
             have ho1 := own_ext ho (hb1.alloc (.cells #[.int .i64 0, .int .i64 pl] 25))
             have hx1 := (hx.trans hb1).alloc (.cells #[.int .i64 0, .int .i64 pl] 25)
             obtain ⟨⟨c0, c1⟩, _⟩ := facts2 (heap_alloc_new w1 (.cells #[.int .i64 0, .int .i64 pl] 25)))
          | (go_at_call 14; refine (bad_no _ _ _ (by decide)).mono ?_; rintro e w2 ⟨rfl, hb2⟩; have ho2 := own_ext ho1 hb2; have hx2 := hx1.trans hb2; have hle2 := hx2.size; clear ho1 hx1)
          | (at_builtin; refine wpList_append_fresh _ rfl _ _ 42 rfl (w0.heap.size) 28 i1 (.int .i64 0) 1 8 Tryz.underlying42 hj hj0 hj1 hj2 rfl (by decide) _ _ _ rfl (ho2.alloc _) ⟨w2.heap.size, 0, none⟩ 1 1 [.int .i64 c] rfl rfl (cell_one_new _ _ _) (fun x hx => by simp at hx; subst hx; rfl) (by unfold maxLen; omega) (by omega) (by simp; omega) ?_; intro v5 w5 hown5 hgrow5 hfresh5; have hx5 := hx2.own ho2 (Nat.le_refl _) hgrow5; clear hgrow5 hfresh5))
        go_roundw
        case rel =>
          refine ⟨k + 1, by omega, by go_num, ?_, hx5⟩
          rw [HN1.out, csCells_app, List.length_append]
          exact hown5
        case measure => simp [intOf]; omega
      | false =>
        have e0 : er ≠ 0 := by rcases q2 rfl with h | h <;> rw [h] <;> decide
        have hbad := bne_iff_ne.2 e0
        have HN1 : Hid (L (k + 1) = L k) := by show _ = _; rw [HN.out]; exact List.append_nil _
        clear q1 q2 e0 HN
        go_wp2_with (first
          | (go_at_call 10; refine (HD2.out _ HTr.out).mono ?_; rintro e w1 ⟨rfl, hb1⟩
             have ho1 := own_ext ho (hb1.alloc (.cells #[.int .i64 er, .int .i64 pl] 25))
             have hx1 := (hx.trans hb1).alloc (.cells #[.int .i64 er, .int .i64 pl] 25)
             obtain ⟨⟨c0, c1⟩, _⟩ := facts2 (heap_alloc_new w1 (.cells #[.int .i64 er, .int .i64 pl] 25)))
          | (go_at_call 14; refine (bad_yes _ _ _ hbad).mono ?_; rintro e w2 ⟨rfl, hb2⟩; have ho2 := own_ext ho1 hb2; have hx2 := hx1.trans hb2))
        go_roundw
        case rel =>
          refine ⟨k + 1, by omega, by go_num, ?_, hx2⟩
          rw [HN1.out]
          exact ho2
        case measure => simp [intOf]; omega
    · have hke : k = n := by omega
      subst hke
      have hki : ¬ (k : Int) < k := by omega
      obtain ⟨a', cap', rfl, hrow⟩ := own_cs ho
      have HRw := Lib.hid hrow
      have HX := Lib.hid (HE.out _ hx)
      clear ho hrow hx HDA HSn HLe
      go_wp2
      go_ret
      exact ⟨_, _, rfl, HRw.out, HX.out⟩
/-- What the document's Decode answers, of any charset: its error is 0 just where the bytes are a text. -/
theorem ref_any9 (c : Int) (s : ByteArray) (hs : s.size ≤ 100000) : ∃ (u : ByteArray) (x y : Int), (okB9 s c = true → x = 0) ∧ (okB9 s c = false → x = 2 ∨ x = 5) ∧ ∀ w, Calls Tryz.prog 11 #[.int .i64 c, .string s] w fun e w' => e = .returned (.tuple #[.string u, .int .i64 x, .int .i64 y]) ∧ Ext w w' := by
  by_cases hc : c < 0 ∨ 9 < c
  · have e : okB9 s c = false := decide_eq_false (by omega)
    exact ⟨⟨#[]⟩, 5, 0, by rw [e]; decide, fun _ => .inr rfl, fun w => rdecN_arg c s w hc⟩
  · obtain ⟨k, rfl⟩ := Int.eq_ofNat_of_zero_le (show 0 ≤ c by omega)
    have hk : k ≤ 9 := by omega
    refine ⟨(decN k s).1, code9 (decN k s).2, at9 (decN k s).2, fun h => ?_, fun h => ?_, fun w => rdecN k s w hk (by omega)⟩
    · have h1 := of_decide_eq_true h
      rw [Int.toNat_natCast] at h1
      exact if_pos h1.2.2
    · have h1 := of_decide_eq_false h
      rw [Int.toNat_natCast] at h1
      exact .inl (if_neg (by omega))
end Go.Proofs.YtdomjahijchanaaGreatDoor

namespace Go.Proofs.YtdomjahijchanaaGreatDoor.charsetTries
open Go Go.Proofs.YtdomjahijchanaaGreatDoor Go.ChangeShapes Go.WideShapes Go.ChangeAt Go.RowKit
open Go.ChangeMaps (open_string shut_string)
set_option linter.unusedSimpArgs false
set_option linter.unusedVariables false

abbrev Tabs (w : World) : Prop := TabE w
set_option maxRecDepth 100000 in
set_option maxHeartbeats 4000000 in
theorem walk_long (b : ByteArray) (a : Option Addr) (n cap : Nat) (W : World) (hT : Tabs W) (h : 100 < b.size ∨ (b.size ≤ 100 ∧ 30 < n)) : Calls Tryz.prog 6 #[.string b, .slice a n cap] W fun e w' => e = .returned (.bool true) ∧ Ext W w' := by
  have HT := Lib.hid hT
  have h1 : (100 : Int) < b.size ∨ (¬ (100 : Int) < b.size ∧ (30 : Int) < n) := by omega
  clear hT h
  rcases h1 with h1 | ⟨h1, h2⟩
  all_goals
    go_enter Tryz.func6, Tryz.ntmps6
    go_wp2_with (go_at_call 9; refine (awake9 _ HT.out).mono ?_; rintro e w1 ⟨rfl, hb1⟩)
    go_ret
    exact ⟨rfl, hb1⟩
theorem take_cs (zs : List Int) (k : Nat) (c : Int) (h : zs[k]? = some c) : zs.take (k + 1) = zs.take k ++ [c] := by
  rw [List.take_add_one, h]
  rfl
set_option maxRecDepth 100000 in
set_option maxHeartbeats 8000000 in
theorem walk_main (b : ByteArray) (a : Option Addr) (n cap : Nat) (zs : List Int) (W : World) (hz : IsCs W a n cap zs) (hT : Tabs W) (hs : b.size ≤ 100) (hn : n ≤ 30) : Calls Tryz.prog 6 #[.string b, .slice a n cap] W fun e w' => e = .returned (.bool true) ∧ Ext W w' := by
  have HT := Lib.hid hT
  have HZ := Lib.hid hz
  have h1 : ¬ (100 : Int) < b.size := by omega
  have h2 : ¬ (30 : Int) < n := by omega
  have HRA := Lib.hid (fun c => ref_any9 c b (by omega))
  have HSn := Lib.hid (fun k c h => tryL_snoc b zs k c h)
  have HLe := Lib.hid (fun k => tryL_le b zs k)
  have HTk := Lib.hid (fun k c h => take_cs zs k c h)
  have HLen := Lib.hid hz.1
  have HTry := Lib.hid (fun a cap w hT hz => try_any b a n cap zs w hT (by omega) hz (by omega))
  have h00 : tryL b zs 0 = [] := by unfold tryL; simp
  have hfull : zs.take n = zs := List.take_of_length_le (by rw [hz.1]; exact Nat.le_refl _)
  have hfl : ∀ k, k ≤ n → (zs.take k).length = k := fun k hk => by rw [List.length_take, hz.1]; omega
  have HFu := Lib.hid hfull
  have HFl := Lib.hid hfl
  obtain ⟨i1, hj, hj0, hj1, hj2⟩ := info_parts_cs
  have hra : W.ownsRow W.heap.size 28 1 (.slice none 0 0) 0 (csCells (zs.take 0)) := ⟨rfl, .inl ⟨rfl, rfl⟩⟩
  have hrb : W.ownsRow W.heap.size 28 1 (.slice none 0 0) (tryL b zs 0).length (csCells (tryL b zs 0)) := by rw [h00]; exact ⟨rfl, .inl ⟨rfl, rfl⟩⟩
  have hfar : FarV (.slice none 0 0) (.slice none 0 0) := fun g e => by cases e
  clear hT hz h00 hfull hfl hs
  generalize tryL b zs = L at HSn HLe HTry hrb
  generalize okB9 b = ok at HRA HSn
  obtain ⟨w0, hw0⟩ : ∃ w0, w0 = W := ⟨_, rfl⟩
  have hxs : Ext w0 W := by rw [hw0]; exact Ext.refl _
  have hra1 : W.ownsRow w0.heap.size 28 1 (.slice none 0 0) 0 (csCells (zs.take 0)) := by rw [hw0]; exact hra
  have hrb1 : W.ownsRow w0.heap.size 28 1 (.slice none 0 0) (L 0).length (csCells (L 0)) := by rw [hw0]; exact hrb
  have HE : Hid (∀ w', Ext w0 w' → Ext W w') := fun w' h => by rw [← hw0]; exact h
  have HT0 : Hid (Tabs w0) := by rw [hw0]; exact HT.out
  have HZ0 : Hid (IsCs w0 a n cap zs) := by rw [hw0]; exact HZ.out
  clear hw0 hra hrb HT HZ
  go_enter Tryz.func6, Tryz.ntmps6
  go_wp2
  go_loopw [5, 6, 25] (fun u v i wr => ∃ k : Nat, k ≤ n ∧ i = .int .i64 k ∧ wr.ownsRow w0.heap.size 28 1 u k (csCells (zs.take k)) ∧ wr.ownsRow w0.heap.size 28 1 v (L k).length (csCells (L k)) ∧ FarV u v ∧ Ext w0 wr) (fun _ _ i _ => n - (intOf i).toNat)
  case atStart => exact ⟨0, by omega, rfl, hra1, hrb1, hfar, hxs⟩
  case round =>
    obtain ⟨k, hk, rfl, ho, hp, hf, hx⟩ := hrel
    clear hra1 hrb1 hxs hfar
    have hle := hx.size
    have hlk := HLe.out k
    by_cases hlt : k < n
    · have hki : (k : Int) < n := by omega
      obtain ⟨x, off, c, rfl, hzc, hcell⟩ := HZ0.out.cell hlt
      have hc := hcell _ hx
      have HN := Lib.hid (HSn.out k c hzc)
      have HK := Lib.hid (HTk.out k c hzc)
      obtain ⟨u, er, pl, q1, q2, HD⟩ := HRA.out c
      have HD2 := Lib.hid HD
      clear hcell hzc HD HRA HSn HLe HTk HTry HFu HFl
      generalize ok c = g at HN q1 q2
      cases g with
      | true =>
        have e0 := q1 rfl
        subst e0
        have HN1 : Hid (L (k + 1) = L k ++ [c]) := by show _ = _; rw [HN.out]; rfl
        clear q1 q2 HN
        go_wp2_with (first
          | (go_at_call 11; refine (HD2.out _).mono ?_; rintro e w1 ⟨rfl, hb1⟩
             have ho1 := own_ext hown5 hb1
             have hp1 := own_ext hp5 hb1
             have hx1 := hx5.trans hb1
             have hle1 := hx1.size
             clear hown5 hp5 hx5)
          | (at_builtin; refine wpList_append_fresh _ rfl _ _ 42 rfl (w0.heap.size) 28 i1 (.int .i64 0) 1 8 Tryz.underlying42 hj hj0 hj1 hj2 rfl (by decide) _ _ _ rfl (ho.alloc _) ⟨wr.heap.size, 0, none⟩ 1 1 [.int .i64 c] rfl rfl (cell_one_new _ _ _) (fun x hx => by simp at hx; subst hx; rfl) (by unfold maxLen; omega) (by omega) (by simp; omega) ?_; intro v5 w5 hown5 hgrow5 hfresh5; have hx5 := hx.own ho (Nat.le_refl _) hgrow5; obtain ⟨hp5, hf5⟩ := hf.step hp hgrow5 hfresh5; clear hgrow5 hfresh5 hf hp ho)
          | (at_builtin; refine wpList_append_fresh _ rfl _ _ 42 rfl (w0.heap.size) 28 i1 (.int .i64 0) 1 8 Tryz.underlying42 hj hj0 hj1 hj2 rfl (by decide) _ _ _ rfl (hp1.alloc _) ⟨w1.heap.size, 0, none⟩ 1 1 [.int .i64 c] rfl rfl (cell_one_new _ _ _) (fun x hx => by simp at hx; subst hx; rfl) (by unfold maxLen; omega) (by omega) (by simp; omega) ?_; intro v6 w6 hown6 hgrow6 hfresh6; have hx6 := hx1.own hp1 (Nat.le_refl _) hgrow6; obtain ⟨ho6, hf6⟩ := hf5.symm.step ho1 hgrow6 hfresh6; clear hgrow6 hfresh6))
        go_roundw
        case rel =>
          refine ⟨k + 1, by omega, by go_num, ?_, ?_, hf6.symm, hx6⟩
          · rw [HK.out, csCells_app]
            exact ho6
          · rw [HN1.out, csCells_app, List.length_append]
            exact hown6
        case measure => simp [intOf]; omega
      | false =>
        have e0 : er ≠ 0 := by rcases q2 rfl with h | h <;> rw [h] <;> decide
        have hbad : (er == 0) = false := beq_false_of_ne e0
        have HN1 : Hid (L (k + 1) = L k) := by show _ = _; rw [HN.out]; exact List.append_nil _
        clear q1 q2 e0 HN
        go_wp2_with (first
          | (go_at_call 11; refine (HD2.out _).mono ?_; rintro e w1 ⟨rfl, hb1⟩
             have ho1 := own_ext hown5 hb1
             have hp1 := own_ext hp5 hb1
             have hx1 := hx5.trans hb1
             have hle1 := hx1.size
             clear hown5 hp5 hx5)
          | (at_builtin; refine wpList_append_fresh _ rfl _ _ 42 rfl (w0.heap.size) 28 i1 (.int .i64 0) 1 8 Tryz.underlying42 hj hj0 hj1 hj2 rfl (by decide) _ _ _ rfl (ho.alloc _) ⟨wr.heap.size, 0, none⟩ 1 1 [.int .i64 c] rfl rfl (cell_one_new _ _ _) (fun x hx => by simp at hx; subst hx; rfl) (by unfold maxLen; omega) (by omega) (by simp; omega) ?_; intro v5 w5 hown5 hgrow5 hfresh5; have hx5 := hx.own ho (Nat.le_refl _) hgrow5; obtain ⟨hp5, hf5⟩ := hf.step hp hgrow5 hfresh5; clear hgrow5 hfresh5 hf hp ho))
        go_roundw
        case rel =>
          refine ⟨k + 1, by omega, by go_num, ?_, ?_, hf5, hx1⟩
          · rw [HK.out, csCells_app]
            exact ho1
          · rw [HN1.out]
            exact hp1
        case measure => simp [intOf]; omega
    · have hke : k = n := by omega
      subst hke
      have hki : ¬ (k : Int) < k := by omega
      rw [HFu.out] at ho
      obtain ⟨a1, cap1, rfl, hr1⟩ := own_cs ho
      obtain ⟨a2, cap2, rfl, hr2⟩ := own_cs hp
      have H1 := Lib.hid hr1
      have H2 := Lib.hid hr2
      obtain ⟨m, hm⟩ : ∃ m, m = (L k).length := ⟨_, rfl⟩
      obtain ⟨M, hM⟩ : ∃ M, M = L k := ⟨_, rfl⟩
      rw [← hm] at HTry H2 hlk ⊢
      rw [← hM] at HTry H2
      have HTr := Lib.hid (HT0.out.ext hx)
      clear ho hp hr1 hr2 hf HRA HSn HLe HTk hm hM HFu HFl
      go_wp2_with (go_at_call 22; refine (HTry.out _ _ _ HTr.out.d H1.out).mono ?_; rintro e w1 ⟨a3, cap3, rfl, h3, hb1⟩; have H3 := Lib.hid h3; have H4 := Lib.hid (H2.out.ext hb1); clear h3)
      have hx1 := hx.trans hb1
      go_loopw [57] (fun i wr => ∃ q : Nat, q ≤ m ∧ i = .int .i64 q ∧ Ext w1 wr) (fun i _ => m - (intOf i).toNat)
      case atStart => exact ⟨0, by omega, rfl, Ext.refl _⟩
      case round =>
        obtain ⟨q, hq, rfl, hxq⟩ := hrel
        by_cases hqm : q < m
        · have hqi : (q : Int) < m := by omega
          obtain ⟨x3, o3, c3, rfl, hz3, hc3⟩ := H3.out.cell hqm
          obtain ⟨x4, o4, c4, rfl, hz4, hc4⟩ := H4.out.cell hqm
          have e34 : c3 = c4 := Option.some.inj (hz3.symm.trans hz4)
          subst e34
          have d3 := hc3 _ hxq
          have d4 := hc4 _ hxq
          clear hc3 hc4 hz3 hz4
          go_wp2
          go_quiet (fail)
          have hx2 := hxq.drewN nq
          generalize wr.drewN nq = wq at hx2 ⊢
          go_wp2
          go_roundw
          case rel => exact ⟨q + 1, by omega, by go_num, hx2⟩
          case measure => simp [intOf]; omega
        · have hqi : ¬ (q : Int) < m := by omega
          have hxf := hx1.trans hxq
          have HTf := Lib.hid (HT0.out.ext hxf)
          have HX := Lib.hid (HE.out _ hxf)
          go_wp2_with (go_at_call 9; refine (awake9 _ HTf.out).mono ?_; rintro e w2 ⟨rfl, hb2⟩)
          go_ret
          exact ⟨rfl, HX.out.trans hb2⟩
theorem walk {W0 : World} (b : ByteArray) (a : Option Addr) (n cap : Nat) (zs : List Int) (hz : IsCs W0 a n cap zs) (W : World) (e0 : W0 = W) (hT : Tabs W) : Calls Tryz.prog 6 #[.string b, .slice a n cap] W fun e w' => e = .returned (.bool true) ∧ Ext W w' := by
  subst e0
  by_cases h : b.size ≤ 100 ∧ n ≤ 30
  · exact walk_main b a n cap zs W0 hz hT h.1 h.2
  · exact walk_long b a n cap W0 hT (by omega)
end Go.Proofs.YtdomjahijchanaaGreatDoor.charsetTries

namespace Go.Proofs.YtdomjahijchanaaGreatDoor
open Go Go.ChangeShapes Go.WideShapes Go.ChangeAt Go.RowKit
set_option linter.unusedSimpArgs false
set_option linter.unusedVariables false

theorem width_one (w : World) : Calls Tryz.prog 167 #[.int .i64 1] w fun e w' => e = .returned (.int .i64 1) ∧ w = w' := by
  go_enter Tryz.func167, Tryz.ntmps167
  go_wp2
  go_ret
  exact ⟨by first | (simp; done) | (simp; decide), rfl⟩
theorem make_one (w : World) : (Instr.makeSlice 37 (.int .i64 1) (.int .i64 1)).run Tryz.prog w = .ok (.slice (some ⟨w.heap.size, 0, none⟩) 1 1) (w.alloc (.cells (madeCells #[.int .u8 0] 1) 5)) :=
  run_make_row' 37 5 (.int .u8 0) 1 Tryz.underlying37 info_u8B rfl .i64 .i64 1 (by omega) (by omega) w
set_option maxRecDepth 100000 in
set_option maxHeartbeats 400000 in
theorem wbig1 (n : Nat) (w : World) (hn : n < 18446744073709551616) : Calls Tryz.prog 120 #[.int .u64 n, .int .i64 1] w fun e w' => e = .returned (.string (bytesByB 1 (bigAtB n 1))) ∧ Ext w w' := by
  have hmk0 := make_one w
  obtain ⟨k, hk⟩ : ∃ k : Nat, k = 1 := ⟨_, rfl⟩
  have hh : k ≤ 8 := by omega
  have hkk : ((1 : Nat) : Int) = (k : Int) := by rw [hk]
  have HW : Hid (∀ w, Calls Tryz.prog 167 #[.int .i64 1] w fun e w' => e = .returned (.int .i64 (k : Int)) ∧ w = w') := fun w => by rw [hk]; exact width_one w
  have hmk : (Instr.makeSlice 37 (.int .i64 (k : Int)) (.int .i64 (k : Int))).run Tryz.prog w = .ok (.slice (some ⟨w.heap.size, 0, none⟩) k k) (w.alloc (.cells (madeCells #[.int .u8 0] k) 5)) := by rw [hk]; exact hmk0
  rw [← hk]
  clear hmk0 hk hkk
  go_enter Tryz.func120, Tryz.ntmps120
  go_wp2_with (first | (go_at_call 167; refine (HW.out _).mono ?_; rintro e w1 ⟨rfl, rfl⟩))
  go_loopw [12] (fun i wr => ∃ q : Nat, q ≤ k ∧ i = .int .i64 q ∧ Ext w wr ∧ wr.rowIs w.heap.size 5 k (fun j => .int .u8 ((if k - q ≤ j then bigAtB n k j else 0 : Nat) : Int))) (fun i _ => k - (intOf i).toNat)
  case atStart => exact ⟨0, Nat.zero_le _, rfl, (Ext.refl _).alloc _, (World.rowIs_made w (.int .u8 0) k 5).congr (fun i hi => by rw [if_neg (by omega)]; rfl)⟩
  case round =>
    obtain ⟨q, hq, rfl, hx, hr⟩ := hrel
    by_cases hlt : q < k
    · have hc := hr.cell (i := k - 1 - q) (by omega)
      have hf := hr.frozen (k - 1 - q)
      have he : ((k : Int) - 1 - q).toNat = k - 1 - q := by omega
      go_wp2
      go_roundw
      case rel =>
        refine ⟨q + 1, by omega, by go_num, Below.setCell hx (by simp) _, (hr.set (k - 1 - q) _).congr (fun j hj => ?_)⟩
        by_cases e : j = k - 1 - q
        · subst e
          rw [if_pos rfl, if_pos (by omega)]
          unfold bigAtB
          rw [show k - 1 - (k - 1 - q) = q from by omega, shr_atB]
        · rw [if_neg e]
          by_cases e2 : k - q ≤ j
          · rw [if_pos e2, if_pos (by omega)]
          · rw [if_neg e2, if_neg (by omega)]
      case measure => simp [intOf]; omega
    · have hqk : q = k := by omega
      subst hqk
      have hs := string_rowB wr w.heap.size q (bigAtB n q) (hr.congr (fun j hj => by rw [if_pos (by omega)]))
      go_wp2
      go_ret
      exact ⟨rfl, hx⟩
/-- One byte of a number. -/
theorem bytesBy_one (n : Nat) (hn : n < 256) : bytesByB 1 (bigAtB n 1) = ⟨#[n.toUInt8]⟩ := by
  have e1 : n % 256 = n := by omega
  show strOfNums [((n / 256 ^ 0 % 256 : Nat) : Int)] = _
  rw [Nat.pow_zero, Nat.div_one, e1]
  unfold strOfNums
  simp
theorem big_one (n : Nat) (w : World) (hn : n < 256) : Calls Tryz.prog 120 #[.int .u64 n, .int .i64 1] w fun e w' => e = .returned (.string ⟨#[n.toUInt8]⟩) ∧ Ext w w' := by
  have h := wbig1 n w (by omega)
  rwa [bytesBy_one n hn] at h
set_option maxRecDepth 100000 in
set_option maxHeartbeats 1000000 in
/-- A sign below 128 is the byte of its number. -/
theorem code_low (c : Int) (p : Nat) (x off n cap : Nat) (w : World) (h : w.cell? ⟨x, off, none⟩ = some (.int .i32 p)) (hp : p < 128) (hn : 0 < n) :
    Calls Tryz.prog 68 #[.int .i64 c, .slice (some ⟨x, off, none⟩) n cap] w fun e w' => e = .returned (.tuple #[.string ⟨#[p.toUInt8]⟩, .int .i64 1]) ∧ Ext w w' := by
  have HB := Lib.hid (fun w => big_one p w (by omega))
  have hni : (0 : Int) < n := by omega
  have hpi : (p : Int) < 128 := by omega
  have hp0 : 0 ≤ (p : Int) := by omega
  have hw : IntKind.u64.wrap (p : Int) = (p : Int) := by
    have := IntWalk.u64_in (p : Int) (by omega)
    exact this
  go_enter Tryz.func68, Tryz.ntmps68
  go_wp2_with (go_at_call 120; refine (HB.out _).mono ?_; rintro e w1 ⟨rfl, hb1⟩)
  go_ret2
  exact ⟨rfl, hb1⟩
theorem runes_plain {s : ByteArray} (h : Plain9 s) : runesL s.data.toList = s.data.toList.map fun x => (x.toNat : Int) := by
  obtain ⟨h1, h2⟩ := encs_ascii s.data.toList h.mem
  have := runesL_encs (s.data.toList.map fun x => (x.toNat : Int)) h2
  rwa [h1] at this
theorem ext_succ (s : ByteArray) (k : Nat) (h : k < s.size) : s.extract 0 (k + 1) = s.extract 0 k ++ ⟨#[s[k]]⟩ := by
  apply ByteArray.ext
  apply Array.ext'
  rw [ByteArray.data_append, Array.toList_append]
  simp only [ByteArray.data_extract, Array.toList_extract, List.extract, List.drop_zero, Nat.sub_zero]
  have hl : k < s.data.toList.length := h
  rw [List.take_succ_eq_append_getElem hl]
  rfl
set_option maxRecDepth 100000 in
set_option maxHeartbeats 4000000 in
theorem encode_mixed_plain (c : Int) (s : ByteArray) (w : World) (hp : Plain9 s) (hT : TabD w) (hs : s.size ≤ 1000) :
    Calls Tryz.prog 33 #[.int .i64 c, .string s] w fun e w' => e = .returned (.tuple #[.string s, .agg #[.int .i64 0, .int .i64 0]]) ∧ Ext w w' := by
  have hbad : badS s < 0 := by rw [badS_plain hp]; decide
  have HP : Hid (∀ w, Tabs w → Calls Tryz.prog 67 #[.string s] w fun e w' => ∃ a cap, e = .returned (.tuple #[.slice a s.size cap, .agg #[.int .i64 0, .int .i64 0]]) ∧ IsRow w' a s.size cap (s.data.toList.map fun x => (x.toNat : Int)) ∧ Ext w w') := fun w hT => by
    have h := points_ok s w hT (by omega) hbad
    rw [runes_plain hp] at h
    have e : (s.data.toList.map fun x => (x.toNat : Int)).length = s.size := by rw [List.length_map]; rfl
    rwa [e] at h
  have HAt : Hid (∀ k (h : k < s.size), (s.data.toList.map fun x => (x.toNat : Int))[k]? = some ((s[k].toNat : Nat) : Int)) := fun k h => by
    rw [List.getElem?_map, show s.data.toList[k]? = some s[k] from List.getElem?_eq_some_iff.2 ⟨h, rfl⟩]
    rfl
  have HPl := Lib.hid hp
  have HCo := Lib.hid (fun p x off n cap w h hp hn => code_low c p x off n cap w h hp hn)
  have HF := Lib.hid (Fk.start w)
  have HT := Lib.hid hT.t
  obtain ⟨i0, hi, hz0, hz1, hz2⟩ := info_parts_u8
  clear hT hbad hp
  generalize (s.data.toList.map fun x => (x.toNat : Int)) = zs at HP HAt
  go_enter Tryz.func33, Tryz.ntmps33
  go_wp2_with (first
    | (go_at_call 67; refine (HP.out _ (HT.out.ext HF.out.ex)).mono ?_; rintro e w1 ⟨a, cap, rfl, hr, hb1⟩
       have HF1 := Lib.hid ((HF.out.ext hb1).ext ((Ext.refl w1).alloc (.cells #[.int .i64 0, .int .i64 0] 25)))
       have HR1 := Lib.hid (hr.ext ((Ext.refl w1).alloc (.cells #[.int .i64 0, .int .i64 0] 25)))
       clear hb1 hr HF)
    | (go_at_call 14; refine (bad_no _ _ _ (by decide)).mono ?_; rintro e w2 ⟨rfl, hb2⟩; have HF2 := Lib.hid (HF1.out.ext hb2); have HR2 := Lib.hid (HR1.out.ext hb2); obtain ⟨wm, hmk, hown, hgm⟩ := make_row8 s.size (by omega) w2; clear hb2 HF1 HR1))
  have hxm := Below.grown (Ext.refl w2) hgm (Nat.le_refl _) (by rintro k ⟨⟩)
  replace hown := hown _ (Nat.le_refl _)
  clear hmk hgm
  go_loopw [8, 9] (fun v i wr => ∃ k : Nat, k ≤ s.size ∧ i = .int .i64 k ∧ wr.ownsRow w2.heap.size 5 1 v k (Lib.strCells (s.extract 0 k)) ∧ Ext w2 wr) (fun _ i _ => s.size - (intOf i).toNat)
  case atStart => exact ⟨0, by omega, rfl, by
    have e : s.extract 0 0 = ⟨#[]⟩ := by apply ByteArray.ext; simp
    rw [e]
    exact hown, hxm⟩
  case round =>
    obtain ⟨k, hk, rfl, ho, hx⟩ := hrel
    clear hown hxm
    have hle := hx.size
    by_cases hlt : k < s.size
    · have hki : (k : Int) < s.size := by omega
      have hki2 : (k : Int) ≤ s.size := by omega
      obtain ⟨hl, h | ⟨x, off, rfl, hcap, hcell⟩⟩ := HR2.out
      · omega
      · have hc := hcell k _ (HAt.out k hlt)
        have hce := (World.cell?_of_block (hx.block x (World.block_lt_of_cell? _ _ hc))).trans hc
        have HE := Lib.hid (ext_succ s k hlt)
        have hp := HPl.out k hlt
        have HCk := Lib.hid (HCo.out s[k].toNat x (off + k) (s.size - k) (cap - k) wr hce hp (by omega))
        have hub : (s[k].toNat).toUInt8 = s[k] := by simp
        rw [hub] at HCk
        have hks : k ≤ cap := by omega
        have hkc : (k : Int) ≤ cap := by omega
        have hscap : (s.size : Int) ≤ cap := by omega
        have hy : (⟨#[s[k]]⟩ : ByteArray).size = 1 := rfl
        generalize (⟨#[s[k]]⟩ : ByteArray) = y at HE HCk hy
        have hc0 : ¬ cap - k = 0 := by omega
        clear hcell hc hce hp hub HCo HPl HP HAt
        go_wp2_with (first
          | (go_at_call 68; refine HCk.out.mono ?_; rintro e w3 ⟨rfl, hb3⟩; have ho3 := own_ext ho hb3; have hx3 := hx.trans hb3; have hle3 := hx3.size)
          | (at_builtin; refine Lib.wpList_append_own_string _ rfl _ _ 37 9 rfl w2.heap.size 5 i0 Tryz.underlying37 Tryz.underlying9 hi hz0 hz1 hz2 _ _ _ rfl ho3 y rfl (by unfold maxLen; omega) (by omega) (by omega) ?_; intro v' w5 hown5 hgrow5 hnil5; have hx5 := hx3.own0 ho3 (Nat.le_refl _) hgrow5; clear hgrow5 hnil5))
        go_roundw
        case rel => exact ⟨k + 1, by omega, by go_num, by rw [HE.out, strCells_app]; rw [hy] at hown5; exact hown5, hx5⟩
        case measure => simp [intOf]; omega
    · have hke : k = s.size := by omega
      subst hke
      have hki : ¬ (s.size : Int) < s.size := by omega
      have efull : s.extract 0 s.size = s := by apply ByteArray.ext; rw [ByteArray.data_extract]; exact Array.extract_size
      rw [efull] at ho
      have hst := own_str ho
      have HBr := Lib.hid (HF2.out.ext hx)
      obtain ⟨⟨c0, c1⟩, z0, z1⟩ := facts2 HBr.out.cf
      clear ho hx efull HCo HPl HP HAt
      go_wp2
      obtain ⟨wf, hwf, hxf, k0, k1⟩ := fault_end HBr.out (.int .i64 0) (.int .i64 0)
      rw [← hwf]
      clear hwf c0 c1 z0 z1
      refine bodyPost_ret (v := .tuple #[.string s, .agg #[.int .i64 0, .int .i64 0]]) (by simp [results, Tryz.results33, go_sem, k0, k1]) rfl ?_
      exact ⟨rfl, hxf⟩
/-- What the program's Encode answers at a text whose bytes are all below 128. -/
def EncP (s : ByteArray) (w : World) (e : Ending) (w' : World) : Prop := e = .returned (.tuple #[.string s, .agg #[.int .i64 0, .int .i64 0]]) ∧ Ext w w'
set_option maxRecDepth 100000 in
set_option maxHeartbeats 1000000 in
theorem encode_plain47 (c : Nat) (s : ByteArray) (w : World) (hc : c = 4 ∨ c = 5 ∨ c = 6 ∨ c = 7) (hp : Plain9 s) (hT : TabD w) (hs : s.size ≤ 1000) :
    Calls Tryz.prog 13 #[.int .i64 c, .string s] w (EncP s w) := by
  unfold EncP
  have HM := Lib.hid (fun w hT => encode_mixed_plain (c : Int) s w hp hT hs)
  have HS := Lib.hid (fun w hT => same_ok s w hT (by omega) (by rw [badS_plain hp]; decide))
  have HF := Lib.hid (Fk.start w)
  have HT := Lib.hid hT
  clear hT hp
  rcases hc with rfl | rfl | rfl | rfl
  all_goals
    go_enter Tryz.func13, Tryz.ntmps13
    go_wp2_with (first
      | (go_at_call 33; refine (HM.out _ (HT.out.ext HF.out.ex)).mono ?_; rintro e w1 ⟨rfl, hb1⟩; have HF1 := Lib.hid (HF.out.ext hb1); obtain ⟨⟨c0, c1⟩, z0, z1⟩ := facts2 HF1.out.cf)
      | (go_at_call 25; refine (HS.out _ (HT.out.ext HF.out.ex).t).mono ?_; rintro e w1 ⟨rfl, hb1⟩; have HF1 := Lib.hid (HF.out.ext hb1); obtain ⟨⟨c0, c1⟩, z0, z1⟩ := facts2 HF1.out.cf))
    obtain ⟨wf, hwf, hxf, k0, k1⟩ := fault_end HF1.out (.int .i64 0) (.int .i64 0)
    rw [← hwf]
    clear hwf c0 c1 z0 z1
    refine bodyPost_ret (v := .tuple #[.string s, .agg #[.int .i64 0, .int .i64 0]]) (by simp [results, Tryz.results13, go_sem, k0, k1]) rfl ?_
    exact ⟨rfl, hxf⟩
set_option maxRecDepth 100000 in
set_option maxHeartbeats 2000000 in
theorem encode_plain03 (c : Nat) (s : ByteArray) (w : World) (hc : c ≤ 3) (hp : Plain9 s) (hT : TabD w) (hs : s.size ≤ 1000) :
    Calls Tryz.prog 13 #[.int .i64 c, .string s] w (EncP s w) := by
  unfold EncP
  have HO : Hid (∀ w : World, Tabs w → Calls Tryz.prog 27 #[.int .i64 c] w (SetOut w c (tabP c))) := fun w hT => of_yes c w hT hc
  have hz : (decZ c s.data.toList).length = s.size := by unfold decZ; rw [List.length_map]; rfl
  have etx : txt (decZ c s.data.toList) = s := by
    have h := congrArg Prod.fst (decN_plain c (by omega) hp)
    unfold decN at h
    rwa [if_pos hc] at h
  have HD : Hid (∀ (v : Value) (w : World), Tabs w → IsSet w v c (tabP c) → Calls Tryz.prog 35 #[v, .string s] w fun e w' => e = .returned (.tuple #[.string s, .agg #[.int .i64 0, .int .i64 0]]) ∧ Ext w w') := fun v w hT h => by
    have h2 := enc_yes v c hc (decZ c s.data.toList) w hT h (decZ_signs c _ (by omega) (by omega)) (by omega) (by rw [badZ_dec c (by omega) (by omega)]; decide)
    rw [enc_dec c (by omega) (by omega), etx] at h2
    exact h2
  obtain ⟨L, hL⟩ : ∃ L, L = tabP c := ⟨_, rfl⟩
  rw [← hL] at HO HD
  have HF := Lib.hid (Fk.start w)
  have HT := Lib.hid hT.t
  have n0 : (0 : Int) ≤ c := by omega
  have n1 : (c : Int) ≤ 3 := by omega
  clear hT etx hz hL hc hp
  generalize (c : Int) = n at HO HD n0 n1
  have g4 : (n == 4) = false := beq_false_of_ne (by omega)
  have g5 : (n == 5) = false := beq_false_of_ne (by omega)
  have g6 : (n == 6) = false := beq_false_of_ne (by omega)
  have g7 : (n == 7) = false := beq_false_of_ne (by omega)
  have g8 : (n == 8) = false := beq_false_of_ne (by omega)
  have g9 : (n == 9) = false := beq_false_of_ne (by omega)
  go_enter Tryz.func13, Tryz.ntmps13
  go_wp2_with (first
    | (go_at_call 27; refine (HO.out _ (HT.out.ext HF.out.ex)).mono ?_; rintro e w1 ⟨va, rfl, ⟨aa, an, ac, ab, am, ad, rfl, ht⟩, hb1⟩
       have HF1 := Lib.hid ((HF.out.ext hb1).ext ((Ext.refl w1).alloc (.cells #[.slice aa an ac, .slice ab am ad, .int .i64 n] 52)))
       have HI := Lib.hid (setOf n (ht.ext ((Ext.refl w1).alloc (.cells #[.slice aa an ac, .slice ab am ad, .int .i64 n] 52))))
       obtain ⟨⟨a0, a1, a2⟩, _⟩ := facts3 (heap_alloc_new w1 (.cells #[.slice aa an ac, .slice ab am ad, .int .i64 n] 52))
       clear hb1 ht HF)
    | (go_at_call 35; refine (HD.out _ _ (HT.out.ext HF1.out.ex) HI.out).mono ?_; rintro e w2 ⟨rfl, hb2⟩; have HF2 := Lib.hid (HF1.out.ext hb2); obtain ⟨⟨c0, c1⟩, z0, z1⟩ := facts2 HF2.out.cf))
  obtain ⟨wf, hwf, hxf, k0, k1⟩ := fault_end HF2.out (.int .i64 0) (.int .i64 0)
  rw [← hwf]
  clear hwf c0 c1 z0 z1
  refine bodyPost_ret (v := .tuple #[.string s, .agg #[.int .i64 0, .int .i64 0]]) (by simp [results, Tryz.results13, go_sem, k0, k1]) rfl ?_
  exact ⟨rfl, hxf⟩
theorem encode_plain (c : Nat) (s : ByteArray) (w : World) (hc : c ≤ 7) (hp : Plain9 s) (hT : TabD w) (hs : s.size ≤ 1000) :
    Calls Tryz.prog 13 #[.int .i64 c, .string s] w (EncP s w) := by
  by_cases h3 : c ≤ 3
  · exact encode_plain03 c s w h3 hp hT hs
  · exact encode_plain47 c s w (by omega) hp hT hs
end Go.Proofs.YtdomjahijchanaaGreatDoor

namespace Go.Proofs.YtdomjahijchanaaGreatDoor.charsetPlain
open Go Go.Proofs.YtdomjahijchanaaGreatDoor Go.ChangeShapes Go.WideShapes Go.ChangeAt Go.RowKit
open Go.ChangeMaps (open_string shut_string)
set_option linter.unusedSimpArgs false
set_option linter.unusedVariables false

abbrev Tabs (w : World) : Prop := TabE w
set_option maxRecDepth 100000 in
set_option maxHeartbeats 4000000 in
theorem walk_long (c : Int) (s : ByteArray) (W : World) (hT : Tabs W) (h : 300 < s.size ∨ (s.size ≤ 300 ∧ c < 0) ∨ (s.size ≤ 300 ∧ 0 ≤ c ∧ 7 < c)) : Calls Tryz.prog 7 #[.int .i64 c, .string s] W fun e w' => e = .returned (.bool true) ∧ Ext W w' := by
  have HT := Lib.hid hT
  have h1 : (300 : Int) < s.size ∨ (¬ (300 : Int) < s.size ∧ c < 0) ∨ (¬ (300 : Int) < s.size ∧ ¬ c < 0 ∧ 7 < c) := by omega
  clear hT h
  rcases h1 with h1 | ⟨h1, h2⟩ | ⟨h1, h2, h3⟩
  all_goals
    go_enter Tryz.func7, Tryz.ntmps7
    go_wp2_with (go_at_call 9; refine (awake9 _ HT.out).mono ?_; rintro e w1 ⟨rfl, hb1⟩)
    go_ret
    exact ⟨rfl, hb1⟩
set_option maxRecDepth 100000 in
set_option maxHeartbeats 8000000 in
theorem walk_main (c : Nat) (hc : c ≤ 7) (s : ByteArray) (W : World) (hT : Tabs W) (hs : s.size ≤ 300) : Calls Tryz.prog 7 #[.int .i64 c, .string s] W fun e w' => e = .returned (.bool true) ∧ Ext W w' := by
  have hC := KeepT.start hT.d.t
  have HT := Lib.hid hT
  have h1 : ¬ (300 : Int) < s.size := by omega
  have h2 : ¬ (c : Int) < 0 := by omega
  have h3 : ¬ (7 : Int) < c := by omega
  have HD : Hid (Plain9 s → ∀ w, TabD w → Calls Tryz.prog 10 #[.int .i64 c, .string s] w fun e w' => e = .returned (.tuple #[.string s, .agg #[.int .i64 0, .int .i64 0]]) ∧ Ext w w') := fun hp w hT => decode_yes c s (by omega) (by omega) s (by rw [decN_plain c hc hp]) (by rw [decN_plain c hc hp]; show (-1 : Int) < 0; decide) w hT
  have HE : Hid (Plain9 s → ∀ w, TabD w → Calls Tryz.prog 13 #[.int .i64 c, .string s] w fun e w' => e = .returned (.tuple #[.string s, .agg #[.int .i64 0, .int .i64 0]]) ∧ Ext w w') := fun hp w hT => encode_plain c s w hc hp hT (by omega)
  clear hT hc
  generalize (c : Int) = q at HD HE h2 h3 ⊢
  go_enter Tryz.func7, Tryz.ntmps7
  go_wp2
  go_loopw [24] (fun i wr => ∃ k : Nat, k ≤ s.size ∧ i = .int .i64 k ∧ wr = W ∧ Hid (∀ j (h : j < s.size), j < k → s[j].toNat < 128)) (fun i _ => s.size - (intOf i).toNat)
  case atStart => exact ⟨0, by omega, rfl, rfl, fun j _ h => absurd h (by omega)⟩
  case round =>
    obtain ⟨k, hk, rfl, rfl, HJ⟩ := hrel
    by_cases hlt : k < s.size
    · have hki : (k : Int) < s.size := by omega
      have hx := (s[k]'hlt).toNat_lt
      by_cases hlow : (s[k]'hlt).toNat < 128
      · have HN : Hid (∀ j (h : j < s.size), j < k + 1 → s[j].toNat < 128) := fun j h hj => by
          by_cases e : j = k
          · subst e; exact hlow
          · exact HJ.out j h (by omega)
        have hl : ¬ (128 : Int) ≤ (s[k]'hlt).toNat := by omega
        clear HJ HD HE
        go_wp2
        go_roundw
        case rel => exact ⟨k + 1, by omega, by go_num, by first | rfl | trivial, HN⟩
        case measure => simp [intOf]; omega
      · have hl : (128 : Int) ≤ (s[k]'hlt).toNat := by omega
        clear HJ HD HE
        go_wp2_with (go_at_call 9; refine (awake9 _ (HT.out.ext hC.ex)).mono ?_; rintro e w1 ⟨rfl, hb1⟩)
        go_ret
        exact ⟨rfl, hC.ex.trans hb1⟩
    · have hke : k = s.size := by omega
      subst hke
      have hki : ¬ (s.size : Int) < s.size := by omega
      have hpl : Plain9 s := fun i h => HJ.out i h h
      have HD1 := Lib.hid (HD.out hpl)
      have HE1 := Lib.hid (HE.out hpl)
      clear HJ HD HE hpl
      go_wp2_with (first
        | (go_at_call 10; refine (HD1.out _ (HT.out.ext hC.ex).d).mono ?_; rintro e w1 ⟨rfl, hb⟩; have hC' := (hC.ext hb).two (.int .i64 0) (.int .i64 0) 25; clear hC hb; have hC := hC'; clear hC'; obtain ⟨f0, f1, _⟩ := hC.c)
        | (go_at_call 13; refine (HE1.out _ (HT.out.ext hC.ex).d).mono ?_; rintro e w2 ⟨rfl, hb⟩; have hC' := (hC.ext hb).two (.int .i64 0) (.int .i64 0) 25; clear hC hb f0 f1; have hC := hC'; clear hC'; obtain ⟨g0, g1, f0, f1, _⟩ := hC.c)
        | (go_at_call 14; refine (bad_no _ _ _ (by decide)).mono ?_; rintro e w6 ⟨rfl, hb⟩; have hC' := hC.ext hb; clear hC hb g0 g1 f0 f1; have hC := hC'; clear hC'; obtain ⟨g0, g1, f0, f1, _⟩ := hC.c)
        | (go_at_call 9; refine (awake9 _ (HT.out.ext hC.ex)).mono ?_; rintro e w5 ⟨rfl, hb⟩; have hC' := hC.ext hb; clear hC hb g0 g1 f0 f1; have hC := hC'; clear hC'; obtain ⟨g0, g1, f0, f1, _⟩ := hC.c))
      go_ret
      exact ⟨by first | (simp; done) | rfl, hC.ex⟩
theorem walk (c : Int) (s : ByteArray) (W : World) (hT : Tabs W) : Calls Tryz.prog 7 #[.int .i64 c, .string s] W fun e w' => e = .returned (.bool true) ∧ Ext W w' := by
  by_cases h : s.size ≤ 300 ∧ 0 ≤ c ∧ c ≤ 7
  · obtain ⟨hs, h0, h7⟩ := h
    obtain ⟨k, rfl⟩ := Int.eq_ofNat_of_zero_le h0
    exact walk_main k (by omega) s W hT hs
  · exact walk_long c s W hT (by omega)
end Go.Proofs.YtdomjahijchanaaGreatDoor.charsetPlain

