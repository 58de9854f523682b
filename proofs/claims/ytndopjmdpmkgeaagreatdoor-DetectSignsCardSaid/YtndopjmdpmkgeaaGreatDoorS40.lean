/-
  What the proof of this claim leans on (S40).
-/
import Derived.Test.YtndopjmdpmkgeaaGreatDoorS39
import Derived.ChangeMaps
namespace Go.Proofs.YtndopjmdpmkgeaaGreatDoor
open Go Go.ChangeShapes Go.WideShapes Go.ChangeAt Go.RowKit
set_option linter.unusedSimpArgs false
set_option linter.unusedVariables false

set_option maxRecDepth 100000 in
theorem cmark (s : ByteArray) (w : World) : Calls Tryz.prog 16 #[.string s] w fun e w' => e = .returned (.tuple #[.int .i64 (mark10 s).1, .int .i64 (mark10 s).2]) ∧ Ext w w' := by
  have H1 := Lib.hid (fun w => Tryz.strings_HasPrefix s ⟨#[239, 187, 191]⟩ w)
  have H2 := Lib.hid (fun w => Tryz.strings_HasPrefix s ⟨#[255, 254]⟩ w)
  have H3 := Lib.hid (fun w => Tryz.strings_HasPrefix s ⟨#[254, 255]⟩ w)
  have K1 := Lib.hid trivial
  have K2 := Lib.hid trivial
  unfold mark10
  generalize Lib.hasPrefix s.data.toList (⟨#[239, 187, 191]⟩ : ByteArray).data.toList = a at H1 ⊢
  generalize Lib.hasPrefix s.data.toList (⟨#[255, 254]⟩ : ByteArray).data.toList = b at H2 ⊢
  generalize Lib.hasPrefix s.data.toList (⟨#[254, 255]⟩ : ByteArray).data.toList = c at H3 ⊢
  cases a <;> cases b <;> cases c
  all_goals
    go_enter Tryz.func16, Tryz.ntmps16
    go_wp2_with (first
      | (go_at_call 30; clear K1; refine (H1.out _).mono ?_; rintro e w1 ⟨rfl, rfl⟩)
      | (go_at_call 30; clear K2; refine (H2.out _).mono ?_; rintro e w2 ⟨rfl, rfl⟩)
      | (go_at_call 30; refine (H3.out _).mono ?_; rintro e w3 ⟨rfl, rfl⟩))
    go_ret2
    exact ⟨rfl, Ext.refl _⟩
set_option maxRecDepth 100000 in
theorem rmark_short (s : ByteArray) (w : World) (h : s.size < 2) : Calls Tryz.prog 17 #[.string s] w fun e w' => e = .returned (.tuple #[.int .i64 0, .int .i64 0]) ∧ Ext w w' := by
  have h1 : ¬ (2 : Int) < s.size := by omega
  have h2 : ¬ (1 : Int) < s.size := by omega
  clear h
  go_enter Tryz.func17, Tryz.ntmps17
  go_wp2
  go_ret2
  exact ⟨rfl, Ext.refl _⟩
set_option maxRecDepth 100000 in
set_option maxHeartbeats 2000000 in
theorem rmark_long (s : ByteArray) (w : World) (h0 : 0 < s.size) (h1 : 1 < s.size) : Calls Tryz.prog 17 #[.string s] w fun e w' => e = .returned (.tuple #[.int .i64 (mark10 s).1, .int .i64 (mark10 s).2]) ∧ Ext w w' := by
  have E := Lib.hid (mark_eq s h0 h1)
  have k1 : (1 : Int) < s.size := by omega
  have u0 := (s[0]'h0).toNat_lt
  have u1 := (s[1]'h1).toNat_lt
  by_cases a : (s[0]'h0).toNat = 239
  · have e2 : (((s[0]'h0).toNat : Int) == 255) = false := beq_false_of_ne (by omega)
    have e3 : (((s[0]'h0).toNat : Int) == 254) = false := beq_false_of_ne (by omega)
    have e1 : (((s[0]'h0).toNat : Int) == 239) = true := by rw [a]; rfl
    by_cases h2 : 2 < s.size
    · have k2 : (2 : Int) < s.size := by omega
      by_cases b : (s[1]'h1).toNat = 187
      · have b1 : (((s[1]'h1).toNat : Int) == 187) = true := by rw [b]; rfl
        by_cases c : (s[2]'h2).toNat = 191
        · have c1 : (((s[2]'h2).toNat : Int) == 191) = true := by rw [c]; rfl
          have e : mark10 s = (7, 3) := by rw [E.out, if_pos ⟨h2, a, b, c⟩]
          rw [e]
          clear E a b c u0 u1
          go_enter Tryz.func17, Tryz.ntmps17
          go_wp2
          go_ret2
          exact ⟨rfl, Ext.refl _⟩
        · have c1 : (((s[2]'h2).toNat : Int) == 191) = false := beq_false_of_ne (by omega)
          have e : mark10 s = (0, 0) := by rw [E.out, if_neg (fun ⟨_, _, _, h⟩ => c h), if_neg (by omega), if_neg (by omega)]
          rw [e]
          clear E a b c u0 u1
          go_enter Tryz.func17, Tryz.ntmps17
          go_wp2
          go_ret2
          exact ⟨rfl, Ext.refl _⟩
      · have b1 : (((s[1]'h1).toNat : Int) == 187) = false := beq_false_of_ne (by omega)
        have e : mark10 s = (0, 0) := by rw [E.out, if_neg (fun ⟨_, _, h, _⟩ => b h), if_neg (by omega), if_neg (by omega)]
        rw [e]
        clear E a b u0 u1
        go_enter Tryz.func17, Tryz.ntmps17
        go_wp2
        go_ret2
        exact ⟨rfl, Ext.refl _⟩
    · have k2 : ¬ (2 : Int) < s.size := by omega
      have e : mark10 s = (0, 0) := by rw [E.out, if_neg (fun ⟨h, _⟩ => h2 h), if_neg (by omega), if_neg (by omega)]
      rw [e]
      clear E a u0 u1 h2
      go_enter Tryz.func17, Tryz.ntmps17
      go_wp2
      go_ret2
      exact ⟨rfl, Ext.refl _⟩
  · have e1 : (((s[0]'h0).toNat : Int) == 239) = false := beq_false_of_ne (by omega)
    by_cases b : (s[0]'h0).toNat = 255
    · have e2 : (((s[0]'h0).toNat : Int) == 255) = true := by rw [b]; rfl
      have e3 : (((s[0]'h0).toNat : Int) == 254) = false := beq_false_of_ne (by omega)
      by_cases c : (s[1]'h1).toNat = 254
      · have b1 : (((s[1]'h1).toNat : Int) == 254) = true := by rw [c]; rfl
        have e : mark10 s = (8, 2) := by rw [E.out, if_neg (fun ⟨_, h, _⟩ => a h), if_pos ⟨b, c⟩]
        rw [e]
        clear E a b c u0 u1
        by_cases h2 : (2 : Int) < s.size
        all_goals
          go_enter Tryz.func17, Tryz.ntmps17
          go_wp2
          go_ret2
          exact ⟨rfl, Ext.refl _⟩
      · have b1 : (((s[1]'h1).toNat : Int) == 254) = false := beq_false_of_ne (by omega)
        have e : mark10 s = (0, 0) := by rw [E.out, if_neg (fun ⟨_, h, _⟩ => a h), if_neg (by omega), if_neg (by omega)]
        rw [e]
        clear E a b c u0 u1
        by_cases h2 : (2 : Int) < s.size
        all_goals
          go_enter Tryz.func17, Tryz.ntmps17
          go_wp2
          go_ret2
          exact ⟨rfl, Ext.refl _⟩
    · have e2 : (((s[0]'h0).toNat : Int) == 255) = false := beq_false_of_ne (by omega)
      by_cases d : (s[0]'h0).toNat = 254
      · have e3 : (((s[0]'h0).toNat : Int) == 254) = true := by rw [d]; rfl
        by_cases c : (s[1]'h1).toNat = 255
        · have b1 : (((s[1]'h1).toNat : Int) == 255) = true := by rw [c]; rfl
          have e : mark10 s = (9, 2) := by rw [E.out, if_neg (fun ⟨_, h, _⟩ => a h), if_neg (by omega), if_pos ⟨d, c⟩]
          rw [e]
          clear E a b c d u0 u1
          by_cases h2 : (2 : Int) < s.size
          all_goals
            go_enter Tryz.func17, Tryz.ntmps17
            go_wp2
            go_ret2
            exact ⟨rfl, Ext.refl _⟩
        · have b1 : (((s[1]'h1).toNat : Int) == 255) = false := beq_false_of_ne (by omega)
          have e : mark10 s = (0, 0) := by rw [E.out, if_neg (fun ⟨_, h, _⟩ => a h), if_neg (by omega), if_neg (by omega)]
          rw [e]
          clear E a b c d u0 u1
          by_cases h2 : (2 : Int) < s.size
          all_goals
            go_enter Tryz.func17, Tryz.ntmps17
            go_wp2
            go_ret2
            exact ⟨rfl, Ext.refl _⟩
      · have e3 : (((s[0]'h0).toNat : Int) == 254) = false := beq_false_of_ne (by omega)
        have e : mark10 s = (0, 0) := by rw [E.out, if_neg (fun ⟨_, h, _⟩ => a h), if_neg (by omega), if_neg (by omega)]
        rw [e]
        clear E a b d u0 u1
        by_cases h2 : (2 : Int) < s.size
        all_goals
          go_enter Tryz.func17, Tryz.ntmps17
          go_wp2
          go_ret2
          exact ⟨rfl, Ext.refl _⟩
theorem rmark (s : ByteArray) (w : World) : Calls Tryz.prog 17 #[.string s] w fun e w' => e = .returned (.tuple #[.int .i64 (mark10 s).1, .int .i64 (mark10 s).2]) ∧ Ext w w' := by
  by_cases h : s.size < 2
  · rw [mark_short s h]
    exact rmark_short s w h
  · exact rmark_long s w (by omega) (by omega)
/-- The document's Resolve. -/
theorem res10_signs {b d : ByteArray} {fb : Int} {g : Bool} (h : badS b < 0) : res10 b d fb g = 7 := if_pos h
set_option maxRecDepth 100000 in
set_option maxHeartbeats 2000000 in
theorem rresolve (b d : ByteArray) (fb : Int) (g : Bool) (w : World) (hb : b.size ≤ 1000) (hd : d.size ≤ 1000) : Calls Tryz.prog 19 #[.string b, .string d, .int .i64 fb, .bool g] w fun e w' => e = .returned (.int .i64 (res10 b d fb g)) ∧ Ext w w' := by
  by_cases h : badS b < 0
  · have HP := Lib.hid (fun w => rpoints_ok b w (by omega) h)
    rw [res10_signs h]
    generalize (runesL b.data.toList).length = m at HP
    clear h
    go_enter Tryz.func19, Tryz.ntmps19
    go_wp2_with (go_at_call 26; refine (HP.out _).mono ?_; rintro e w2 ⟨a, cap, rfl, hz, hb2⟩; clear hz)
    go_ret
    exact ⟨rfl, hb2⟩
  · have HP := Lib.hid (fun w => rpoints_bad b w (by omega) h)
    have HN := Lib.hid (fun w => rnamed9 d w (by omega))
    have e0 : res10 b d fb g = if 0 ≤ named9 d 10 0 then named9 d 10 0 else if g = true ∧ 0 ≤ guess10 (scoreB b) order10 then guess10 (scoreB b) order10 else fb := if_neg h
    rw [e0]
    have hpp : ¬ badS b < 0 := h
    generalize badS b = q at HP hpp
    generalize named9 d 10 0 = c at HN ⊢
    clear h e0
    by_cases hc : 0 ≤ c
    · rw [if_pos hc]
      go_enter Tryz.func19, Tryz.ntmps19
      go_wp2_with (first
        | (go_at_call 26; refine (HP.out _).mono ?_; rintro e w2 ⟨rfl, hb2⟩)
        | (go_at_call 33; refine (HN.out _).mono ?_; rintro e w3 ⟨rfl, hb3⟩))
      go_ret
      exact ⟨rfl, hb2.trans hb3⟩
    · rw [if_neg hc]
      cases g with
      | false =>
        rw [if_neg (by rintro ⟨h, _⟩; cases h)]
        go_enter Tryz.func19, Tryz.ntmps19
        go_wp2_with (first
          | (go_at_call 26; refine (HP.out _).mono ?_; rintro e w2 ⟨rfl, hb2⟩)
          | (go_at_call 33; refine (HN.out _).mono ?_; rintro e w3 ⟨rfl, hb3⟩))
        go_ret
        exact ⟨rfl, hb2.trans hb3⟩
      | true =>
        have HG : Hid (∀ a cap w, IsCs w a 7 cap order10 → Calls Tryz.prog 13 #[.string b, .slice a 7 cap] w fun e w' => e = .returned (.int .i64 (guess10 (scoreB b) order10)) ∧ Ext w w') := fun a cap w hz => rguess b a 7 cap order10 w hz hb (by omega)
        have HO := Lib.hid (fun w => rorder w)
        generalize guess10 (scoreB b) order10 = r at HG ⊢
        by_cases hr : 0 ≤ r
        · rw [if_pos ⟨rfl, hr⟩]
          go_enter Tryz.func19, Tryz.ntmps19
          go_wp2_with (first
            | (go_at_call 26; refine (HP.out _).mono ?_; rintro e w2 ⟨rfl, hb2⟩)
            | (go_at_call 33; refine (HN.out _).mono ?_; rintro e w3 ⟨rfl, hb3⟩)
            | (go_at_call 15; refine (HO.out _).mono ?_; rintro e w4 ⟨ao, co, rfl, hz, hb4⟩; have HZ := Lib.hid hz; clear hz)
            | (go_at_call 13; refine (HG.out _ _ _ HZ.out).mono ?_; rintro e w5 ⟨rfl, hb5⟩))
          go_ret
          exact ⟨rfl, ((hb2.trans hb3).trans hb4).trans hb5⟩
        · rw [if_neg (fun h => hr h.2)]
          go_enter Tryz.func19, Tryz.ntmps19
          go_wp2_with (first
            | (go_at_call 26; refine (HP.out _).mono ?_; rintro e w2 ⟨rfl, hb2⟩)
            | (go_at_call 33; refine (HN.out _).mono ?_; rintro e w3 ⟨rfl, hb3⟩)
            | (go_at_call 15; refine (HO.out _).mono ?_; rintro e w4 ⟨ao, co, rfl, hz, hb4⟩; have HZ := Lib.hid hz; clear hz)
            | (go_at_call 13; refine (HG.out _ _ _ HZ.out).mono ?_; rintro e w5 ⟨rfl, hb5⟩))
          go_ret
          exact ⟨rfl, ((hb2.trans hb3).trans hb4).trans hb5⟩
end Go.Proofs.YtndopjmdpmkgeaaGreatDoor

namespace Go.Proofs.YtndopjmdpmkgeaaGreatDoor
open Go Go.ChangeShapes Go.WideShapes Go.ChangeAt Go.RowKit
set_option linter.unusedSimpArgs false
set_option linter.unusedVariables false

set_option maxRecDepth 100000 in
theorem cplain (c p : Int) (w : World) (h : p < 128) : Calls Tryz.prog 77 #[.int .i32 p] w fun e w' => e = .returned (.int .i64 (weight10 c p)) ∧ w = w' := by
  rcases low10 c p h with ⟨rfl, e⟩ | ⟨rfl, e⟩ | ⟨rfl, e⟩ | ⟨rfl, e⟩ | ⟨h1, h2, h3, h4, h5, e⟩ | ⟨h1, h2, e⟩
  · rw [e]; clear e; go_enter Tryz.func77, Tryz.ntmps77; go_wp2; go_ret; exact ⟨rfl, rfl⟩
  · rw [e]; clear e; go_enter Tryz.func77, Tryz.ntmps77; go_wp2; go_ret; exact ⟨rfl, rfl⟩
  · rw [e]; clear e; go_enter Tryz.func77, Tryz.ntmps77; go_wp2; go_ret; exact ⟨rfl, rfl⟩
  · rw [e]; clear e; go_enter Tryz.func77, Tryz.ntmps77; go_wp2; go_ret; exact ⟨rfl, rfl⟩
  · have g1 : (p == 127) = false := beq_false_of_ne h5
    have g2 := bne10 h2
    have g3 := bne10 h3
    have g4 := bne10 h4
    rw [e]
    clear e h2 h3 h4 h5
    go_enter Tryz.func77, Tryz.ntmps77
    go_wp2
    go_ret
    exact ⟨rfl, rfl⟩
  · have g1 : (p == 127) = false := beq_false_of_ne h2
    rw [e]
    clear e h2
    go_enter Tryz.func77, Tryz.ntmps77
    go_wp2
    go_ret
    exact ⟨rfl, rfl⟩
set_option maxRecDepth 100000 in
theorem clatin (p : Int) (w : World) (h : ¬ p < 128) : Calls Tryz.prog 78 #[.int .i32 p] w fun e w' => e = .returned (.int .i64 (weight10 0 p)) ∧ w = w' := by
  rcases lat10 p h with ⟨h1, e⟩ | ⟨h1, h2, e⟩ | ⟨rfl, e⟩ | ⟨rfl, e⟩ | ⟨h1, h2, h3, h4, e⟩
  · rw [e]; clear e; go_enter Tryz.func78, Tryz.ntmps78; go_wp2; go_ret; exact ⟨rfl, rfl⟩
  · have h3 : p ≤ 191 := by omega
    rw [e]; clear e; go_enter Tryz.func78, Tryz.ntmps78; go_wp2; go_ret; exact ⟨rfl, rfl⟩
  · rw [e]; clear e; go_enter Tryz.func78, Tryz.ntmps78; go_wp2; go_ret; exact ⟨rfl, rfl⟩
  · rw [e]; clear e; go_enter Tryz.func78, Tryz.ntmps78; go_wp2; go_ret; exact ⟨rfl, rfl⟩
  · have g1 : (p == 215) = false := beq_false_of_ne h3
    have g2 : (p == 247) = false := beq_false_of_ne h4
    have g3 : ¬ p ≤ 191 := by omega
    rw [e]
    clear e h3 h4
    go_enter Tryz.func78, Tryz.ntmps78
    go_wp2
    go_ret
    exact ⟨rfl, rfl⟩
set_option maxRecDepth 100000 in
theorem ccyr (c p : Int) (w : World) (h : ¬ p < 128) (h0 : c ≠ 0) (h3 : c ≤ 3) : Calls Tryz.prog 79 #[.int .i32 p] w fun e w' => e = .returned (.int .i64 (weight10 c p)) ∧ w = w' := by
  rw [cyr10 c p h h0 h3]
  have HS := Lib.hid (fun w => csmall10 p w)
  have HC := Lib.hid (fun w => ccap10 p w)
  generalize small10 p = a at HS ⊢
  generalize cap10 p = b at HC ⊢
  clear h0
  cases a <;> cases b
  all_goals
    go_enter Tryz.func79, Tryz.ntmps79
    go_wp2_with (first
      | (go_at_call 44; refine (HS.out _).mono ?_; rintro e w1 ⟨rfl, rfl⟩)
      | (go_at_call 45; refine (HC.out _).mono ?_; rintro e w2 ⟨rfl, rfl⟩))
    go_ret
    exact ⟨rfl, rfl⟩
set_option maxRecDepth 100000 in
theorem cchinese (p : Int) (w : World) (h : ¬ p < 128) : Calls Tryz.prog 80 #[.int .i32 p] w fun e w' => e = .returned (.int .i64 (weight10 6 p)) ∧ w = w' := by
  rcases chi10 6 p h (by decide) (by decide) (by decide) with ⟨h1, h2, e⟩ | ⟨h1, e⟩ | ⟨h1, h2, e⟩
  · rw [e]; clear e; go_enter Tryz.func80, Tryz.ntmps80; go_wp2; go_ret; exact ⟨rfl, rfl⟩
  · have h6 : ¬ 19968 ≤ p := by omega
    rw [e]; clear e; go_enter Tryz.func80, Tryz.ntmps80; go_wp2; go_ret; exact ⟨rfl, rfl⟩
  · have h6 : ¬ p ≤ 40959 := by omega
    have h7 : 19968 ≤ p := by omega
    rw [e]; clear e; go_enter Tryz.func80, Tryz.ntmps80; go_wp2; go_ret; exact ⟨rfl, rfl⟩
set_option maxRecDepth 100000 in
theorem ckorean (c p : Int) (w : World) (hT : Tab7 w) (h : ¬ p < 128) (h0 : c ≠ 0) (h3 : ¬ c ≤ 3) (h5 : c ≤ 5) : Calls Tryz.prog 81 #[.int .i32 p] w fun e w' => e = .returned (.int .i64 (weight10 c p)) ∧ Ext w w' := by
  rcases kor10 c p h h0 h3 h5 with ⟨h1, h2, e⟩ | ⟨h1, h2, e⟩ | ⟨h1, h2, e⟩ | ⟨h1, h2, h4, e⟩ | ⟨h1, e⟩
  · rw [e]
    obtain ⟨n, hn⟩ : ∃ n : Nat, n = (p - 44032).toNat := ⟨_, rfl⟩
    rw [← hn]
    have HR := Lib.hid (fun w hT => rankof_yes p n w hT (by omega) (by omega))
    have HT := Lib.hid hT
    generalize inM n = b at HR ⊢
    generalize rankM b n = f at HR
    clear e h0 hn hT
    cases b
    all_goals
      go_enter Tryz.func81, Tryz.ntmps81
      go_wp2_with (go_at_call 126; refine (HR.out _ HT.out).mono ?_; rintro e w1 ⟨rfl, hb1⟩)
      go_ret
      exact ⟨rfl, hb1⟩
  · have HR := Lib.hid (fun w => rankof_no p w (by omega))
    rw [e]; clear e h0 hT
    go_enter Tryz.func81, Tryz.ntmps81
    go_wp2_with (go_at_call 126; refine (HR.out _).mono ?_; rintro e w1 ⟨rfl, hb1⟩)
    go_ret
    exact ⟨rfl, hb1⟩
  · have HR := Lib.hid (fun w => rankof_no p w (by omega))
    have h6 : ¬ 12593 ≤ p := by omega
    rw [e]; clear e h0 hT
    go_enter Tryz.func81, Tryz.ntmps81
    go_wp2_with (go_at_call 126; refine (HR.out _).mono ?_; rintro e w1 ⟨rfl, hb1⟩)
    go_ret
    exact ⟨rfl, hb1⟩
  · have HR := Lib.hid (fun w => rankof_no p w (by omega))
    have h6 : 12593 ≤ p := by omega
    have h7 : ¬ p ≤ 12686 := by omega
    rw [e]; clear e h0 hT
    go_enter Tryz.func81, Tryz.ntmps81
    go_wp2_with (go_at_call 126; refine (HR.out _).mono ?_; rintro e w1 ⟨rfl, hb1⟩)
    go_ret
    exact ⟨rfl, hb1⟩
  · have HR := Lib.hid (fun w => rankof_no p w (by omega))
    have h8 : 12593 ≤ p := by omega
    have h9 : ¬ p ≤ 12686 := by omega
    rw [e]; clear e h0 hT
    go_enter Tryz.func81, Tryz.ntmps81
    go_wp2_with (go_at_call 126; refine (HR.out _).mono ?_; rintro e w1 ⟨rfl, hb1⟩)
    go_ret
    exact ⟨rfl, hb1⟩
set_option maxRecDepth 100000 in
/-- How likely a sign is, by the program. -/
theorem cweight (c p : Int) (w : World) (hT : Tab7 w) (hc0 : 0 ≤ c) (hc6 : c ≤ 6) : Calls Tryz.prog 43 #[.int .i64 c, .int .i32 p] w fun e w' => e = .returned (.int .i64 (weight10 c p)) ∧ Ext w w' := by
  by_cases h : p < 128
  · have HP := Lib.hid (fun w => cplain c p w h)
    generalize weight10 c p = v at HP ⊢
    clear hT hc0 hc6
    go_enter Tryz.func43, Tryz.ntmps43
    go_wp2_with (go_at_call 77; refine (HP.out _).mono ?_; rintro e w1 ⟨rfl, rfl⟩)
    go_ret
    exact ⟨rfl, Ext.refl _⟩
  obtain hc | hc | hc | hc : c = 0 ∨ (c = 1 ∨ c = 2 ∨ c = 3) ∨ (c = 4 ∨ c = 5) ∨ c = 6 := by omega
  · subst hc
    have HP := Lib.hid (fun w => clatin p w h)
    generalize weight10 0 p = v at HP ⊢
    clear hT hc0 hc6
    go_enter Tryz.func43, Tryz.ntmps43
    go_wp2_with (go_at_call 78; refine (HP.out _).mono ?_; rintro e w1 ⟨rfl, rfl⟩)
    go_ret
    exact ⟨rfl, Ext.refl _⟩
  · have HP := Lib.hid (fun w => ccyr c p w h (by omega) (by omega))
    generalize weight10 c p = v at HP ⊢
    clear hT hc0 hc6
    rcases hc with rfl | rfl | rfl
    all_goals
      go_enter Tryz.func43, Tryz.ntmps43
      go_wp2_with (go_at_call 79; refine (HP.out _).mono ?_; rintro e w1 ⟨rfl, rfl⟩)
      go_ret
      exact ⟨rfl, Ext.refl _⟩
  · have HP := Lib.hid (fun w hT => ckorean c p w hT h (by omega) (by omega) (by omega))
    have HT := Lib.hid hT
    generalize weight10 c p = v at HP ⊢
    clear hT hc0 hc6
    rcases hc with rfl | rfl
    all_goals
      go_enter Tryz.func43, Tryz.ntmps43
      go_wp2_with (go_at_call 81; refine (HP.out _ HT.out).mono ?_; rintro e w1 ⟨rfl, hb1⟩)
      go_ret
      exact ⟨rfl, hb1⟩
  · subst hc
    have HP := Lib.hid (fun w => cchinese p w h)
    generalize weight10 6 p = v at HP ⊢
    clear hT hc0 hc6
    go_enter Tryz.func43, Tryz.ntmps43
    go_wp2_with (go_at_call 80; refine (HP.out _).mono ?_; rintro e w1 ⟨rfl, rfl⟩)
    go_ret
    exact ⟨rfl, Ext.refl _⟩
theorem txt_of {t : ByteArray} (hb : badS t < 0) : txt (sgn t) = t := by
  have h := runesL_back _ 0 t.data.toList (Nat.le_refl _) hb
  unfold txt sgn
  rw [h]
set_option maxRecDepth 100000 in
set_option maxHeartbeats 4000000 in
/-- The score of a text, by the program. -/
theorem cscore_txt (c : Int) (zs : List Int) (w : World) (hT : Tab7 w) (hc0 : 0 ≤ c) (hc6 : c ≤ 6) (hsg : allSigns zs = true) (hzl : zs.length ≤ 800000) :
    Calls Tryz.prog 25 #[.int .i64 c, .string (txt zs)] w fun e w' => e = .returned (.int .i64 (score10 c (-1) zs)) ∧ Ext w w' := by
  have HAT := Lib.hid (fun (k : Nat) (p : Int) (hp : zs[k]? = some p) => txt_at zs hsg k p hp)
  have HSZ : Hid ((txt zs).size = (encs zs).length) := txt_len zs
  obtain ⟨s, hs⟩ : ∃ s, s = txt zs := ⟨_, rfl⟩
  rw [← hs] at HAT HSZ ⊢
  rw [← score10_zero]
  obtain ⟨S, hS⟩ : ∃ S : Nat → Int, S = fun j => score10 c 0 (zs.take j) := ⟨_, rfl⟩
  obtain ⟨L, hL⟩ : ∃ L : Nat → Int, L = fun j => last10 0 (zs.take j) := ⟨_, rfl⟩
  have HSt : Hid (∀ j p, zs[j]? = some p → S (j + 1) = S j + step10 c (L j) p ∧ L (j + 1) = p) := fun j p hj => by rw [hS, hL]; exact score10_take c 0 zs j p hj
  have HBd : Hid (∀ j, j ≤ zs.length → -(11 * (zs.length : Int)) ≤ S j ∧ S j ≤ 6 * (zs.length : Int)) := fun j hj => by rw [hS]; exact score10_len c 0 zs j _ hj
  have HS0 : Hid (S 0 = 0) := by show S 0 = 0; rw [hS]; rfl
  have HL0 : Hid (L 0 = 0) := by show L 0 = 0; rw [hL]; rfl
  have HEnd : Hid (score10 c 0 zs = S zs.length) := by rw [hS]; show _ = score10 c 0 (zs.take zs.length); rw [List.take_length]
  rw [HEnd.out]
  have HW := Lib.hid (fun p w hT => cweight c p w hT hc0 hc6)
  have HSm := Lib.hid (fun p w => csmall10 p w)
  have HCp := Lib.hid (fun p w => ccap10 p w)
  have HT := Lib.hid hT
  clear hS hL hs HEnd hT hsg hc0 hc6
  go_enter Tryz.func25, Tryz.ntmps25
  go_wp2
  have hit0 := World.iter_heap w s 0
  have hx0 := (Ext.refl w).alloc (.stringIter s 0)
  obtain ⟨k, hk⟩ : ∃ k, k = w.heap.size := ⟨_, rfl⟩
  have hkl : w.heap.size ≤ k := by omega
  rw [← hk] at hit0 ⊢
  go_loopw [5, 6] (fun u v wr => ∃ j : Nat, j ≤ zs.length ∧ u = .int .i64 (S j) ∧ v = .int .i32 (L j) ∧ wr.heap[k]? = some (.stringIter s (encs (zs.take j)).length) ∧ Ext w wr) (fun _ _ wr => s.size - wr.iterPos k)
  case atStart => exact ⟨0, by omega, by rw [HS0.out], by rw [HL0.out], hit0, hx0⟩
  case round =>
    obtain ⟨j, hj, rfl, rfl, hit, hx⟩ := hrel
    clear hit0 hx0 hk
    have hpos0 := iterPos_of hit
    have hbd := HBd.out j hj
    by_cases hlt : j < zs.length
    · have hpj : zs[j]? = some zs[j] := List.getElem?_eq_getElem hlt
      obtain ⟨p, hpz⟩ : ∃ p, p = zs[j] := ⟨_, rfl⟩
      rw [← hpz] at hpj
      obtain ⟨a1, a2, a3, a4, a5, a6⟩ := HAT.out j p hpj
      have HN := Lib.hid (HSt.out j p hpj)
      have HA5 := Lib.hid a5
      obtain ⟨pos, hpos⟩ : ∃ pos, pos = (encs (zs.take j)).length := ⟨_, rfl⟩
      rw [← hpos] at a1 a2 hit hpos0
      have HPOS := Lib.hid hpos
      have hnx : ∀ ty, (Instr.next (.pointer (some ⟨k, 0, none⟩)) true ty).run Tryz.prog wr = _ := fun ty => Lib.run_next_any_at wr k s pos ty hit a1
      simp only [a2, a3] at hnx
      have hit2 := Lib.iterAt_heap wr k s pos (pos + (Lib.encodeRune p).length) hit
      have hx2 : Ext w (wr.iterAt k s (pos + (Lib.encodeRune p).length)) := Lib.below_iterAt hx (k := k) hkl s (pos + (Lib.encodeRune p).length)
      obtain ⟨q, hq⟩ : ∃ q, q = (Lib.encodeRune p).length := ⟨_, rfl⟩
      rw [← hq] at hnx hit2 hx2 a6
      have HQ := Lib.hid hq
      obtain ⟨W1, hW1⟩ : ∃ W1, W1 = wr.iterAt k s (pos + q) := ⟨_, rfl⟩
      rw [← hW1] at hnx hit2 hx2
      have hBlt := lt_of_block hit2
      have HW1 := Lib.hid (fun w hT => HW.out p w hT)
      have hw := weight10_bd c p
      obtain ⟨z, hz⟩ : ∃ z, z = L j := ⟨_, rfl⟩
      have HS1 := Lib.hid (fun w => HSm.out z w)
      have HC1 := Lib.hid (fun w => HCp.out p w)
      have HN1 : Hid (S (j + 1) = S j + (weight10 c p - (if small10 z && cap10 p then 3 else 0))) := by
        show _ = _
        rw [HN.out.1, hz]
        rfl
      have HN2 : Hid (L (j + 1) = p) := HN.out.2
      rw [← hz]
      generalize weight10 c p = v at hw HW1 HN1
      generalize small10 z = u1 at HN1 HS1
      generalize cap10 p = u2 at HN1 HC1
      have HTr := Lib.hid (HT.out.ext hx2)
      clear hW1 hit hx hpz hpj a2 a3 a4 a5 hpos hq HN HSt HBd HW HSm HCp HAT hz HS0 HL0
      cases u1 with
      | false =>
        have HN3 : Hid (S (j + 1) = S j + v) := by show _ = _; rw [HN1.out]; simp
        clear HN1
        go_wp2_with (first
          | (go_at_call 43; refine (HW1.out _ HTr.out).mono ?_; rintro e w3 ⟨rfl, hb3⟩; have hit3 := (hb3.block k hBlt).trans hit2; have hx3 := hx2.trans hb3)
          | (go_at_call 44; refine (HS1.out _).mono ?_; rintro e w4 ⟨rfl, rfl⟩))
        go_roundw
        case rel =>
          have e1 : (encs (zs.take (j + 1))).length = pos + q := by rw [HA5.out, ← HPOS.out, ← HQ.out]
          exact ⟨j + 1, by omega, by rw [HN3.out], by rw [HN2.out], by rw [e1]; exact hit3, hx3⟩
        case measure =>
          rw [iterPos_of hit3, hpos0]
          omega
      | true =>
        cases u2 with
        | false =>
          have HN3 : Hid (S (j + 1) = S j + v) := by show _ = _; rw [HN1.out]; simp
          clear HN1
          go_wp2_with (first
            | (go_at_call 43; refine (HW1.out _ HTr.out).mono ?_; rintro e w3 ⟨rfl, hb3⟩; have hit3 := (hb3.block k hBlt).trans hit2; have hx3 := hx2.trans hb3)
            | (go_at_call 44; refine (HS1.out _).mono ?_; rintro e w4 ⟨rfl, rfl⟩)
            | (go_at_call 45; refine (HC1.out _).mono ?_; rintro e w5 ⟨rfl, rfl⟩))
          go_roundw
          case rel =>
            have e1 : (encs (zs.take (j + 1))).length = pos + q := by rw [HA5.out, ← HPOS.out, ← HQ.out]
            exact ⟨j + 1, by omega, by rw [HN3.out], by rw [HN2.out], by rw [e1]; exact hit3, hx3⟩
          case measure =>
            rw [iterPos_of hit3, hpos0]
            omega
        | true =>
          have HN3 : Hid (S (j + 1) = S j + v - 3) := by show _ = _; rw [HN1.out]; simp; omega
          clear HN1
          go_wp2_with (first
            | (go_at_call 43; refine (HW1.out _ HTr.out).mono ?_; rintro e w3 ⟨rfl, hb3⟩; have hit3 := (hb3.block k hBlt).trans hit2; have hx3 := hx2.trans hb3)
            | (go_at_call 44; refine (HS1.out _).mono ?_; rintro e w4 ⟨rfl, rfl⟩)
            | (go_at_call 45; refine (HC1.out _).mono ?_; rintro e w5 ⟨rfl, rfl⟩))
          go_roundw
          case rel =>
            have e1 : (encs (zs.take (j + 1))).length = pos + q := by rw [HA5.out, ← HPOS.out, ← HQ.out]
            exact ⟨j + 1, by omega, by rw [HN3.out], by rw [HN2.out], by rw [e1]; exact hit3, hx3⟩
          case measure =>
            rw [iterPos_of hit3, hpos0]
            omega
    · have hjl : j = zs.length := by omega
      subst hjl
      rw [List.take_length] at hit
      have hnp : ¬ (encs zs).length < s.size := by have := HSZ.out; omega
      have hnx : ∀ ty, (Instr.next (.pointer (some ⟨k, 0, none⟩)) true ty).run Tryz.prog wr = _ := fun ty => Lib.run_next_end_at wr k s _ ty hit hnp
      clear hit hpos0 HSt HBd HW HSm HCp HAT HS0 HL0
      go_wp2
      go_ret
      exact ⟨rfl, hx⟩
set_option maxRecDepth 100000 in
theorem cscore_no (c : Int) (s : ByteArray) (w : World) (hc : c < 0 ∨ 6 < c) : Calls Tryz.prog 10 #[.int .i64 c, .string s] w fun e w' => e = .returned (.tuple #[.int .i64 0, .bool false]) ∧ Ext w w' := by
  have HL := Lib.hid (fun w => legacy_any c w)
  have e0 : decide (0 ≤ c ∧ c ≤ 6) = false := decide_eq_false (by omega)
  rw [e0] at HL
  clear e0 hc
  go_enter Tryz.func10, Tryz.ntmps10
  go_wp2_with (go_at_call 22; refine (HL.out _).mono ?_; rintro e w1 ⟨rfl, rfl⟩)
  go_ret2
  exact ⟨rfl, Ext.refl _⟩
set_option maxRecDepth 100000 in
set_option maxHeartbeats 1000000 in
theorem cscore_bad (c : Nat) (s : ByteArray) (w : World) (hT : TabD w) (hc : c ≤ 6) (hs : s.size ≤ 100000) (h : ¬ (decN c s).2 < 0) : Calls Tryz.prog 10 #[.int .i64 c, .string s] w fun e w' => e = .returned (.tuple #[.int .i64 0, .bool false]) ∧ Ext w w' := by
  have HL := Lib.hid (fun w => legacy_any (c : Int) w)
  have e0 : decide (0 ≤ (c : Int) ∧ (c : Int) ≤ 6) = true := decide_eq_true (by omega)
  rw [e0] at HL
  have HD := Lib.hid (fun w hT => decode_no c s (by omega) hs _ rfl _ rfl h w hT)
  have HT := Lib.hid hT
  generalize (decN c s).1 = u at HD
  generalize (decN c s).2 = p at HD
  generalize (c : Int) = q at HD HL ⊢
  clear e0 hc h hT
  go_enter Tryz.func10, Tryz.ntmps10
  go_wp2_with (first
    | (go_at_call 22; refine (HL.out _).mono ?_; rintro e w1 ⟨rfl, rfl⟩)
    | (go_at_call 23; refine (HD.out _ HT.out).mono ?_; rintro e w2 ⟨rfl, hb2⟩
       have hx2 := hb2.alloc (.cells #[.int .i64 2, .int .i64 p] 54)
       obtain ⟨⟨c0, c1⟩, _⟩ := facts2 (heap_alloc_new w2 (.cells #[.int .i64 2, .int .i64 p] 54)))
    | (go_at_call 24; refine (bad_yes _ _ _ (by decide)).mono ?_; rintro e w3 ⟨rfl, hb3⟩; have hx3 := hx2.trans hb3))
  go_ret2
  exact ⟨rfl, hx3⟩
set_option maxRecDepth 100000 in
set_option maxHeartbeats 1000000 in
theorem cscore_ok (c : Nat) (s : ByteArray) (w : World) (hT : TabD w) (hc : c ≤ 6) (hs : s.size ≤ 100000) (h : (decN c s).2 < 0) : Calls Tryz.prog 10 #[.int .i64 c, .string s] w fun e w' => e = .returned (.tuple #[.int .i64 (score10 c (-1) (sgn (decN c s).1)), .bool true]) ∧ Ext w w' := by
  have HL := Lib.hid (fun w => legacy_any (c : Int) w)
  have e0 : decide (0 ≤ (c : Int) ∧ (c : Int) ≤ 6) = true := decide_eq_true (by omega)
  rw [e0] at HL
  have HD := Lib.hid (fun w hT => decode_yes c s (by omega) hs _ rfl h w hT)
  have HT := Lib.hid hT
  have hb := decN_signs c (by omega) s
  have hsz := (decN_bounds c (by omega) s).1
  have hl := sgn_len (decN c s).1
  have HS : Hid (∀ w, Tab7 w → Calls Tryz.prog 25 #[.int .i64 c, .string (decN c s).1] w fun e w' => e = .returned (.int .i64 (score10 c (-1) (sgn (decN c s).1))) ∧ Ext w w') := fun w hT => by
    have := cscore_txt c (sgn (decN c s).1) w hT (by omega) (by omega) (sgn_signs _) (by omega)
    rwa [txt_of hb] at this
  generalize score10 c (-1) (sgn (decN c s).1) = r at HS ⊢
  generalize (decN c s).1 = u at HD HS
  generalize (c : Int) = q at HD HL HS ⊢
  clear e0 hc h hT hb hsz hl
  go_enter Tryz.func10, Tryz.ntmps10
  go_wp2_with (first
    | (go_at_call 22; refine (HL.out _).mono ?_; rintro e w1 ⟨rfl, rfl⟩)
    | (go_at_call 23; refine (HD.out _ HT.out).mono ?_; rintro e w2 ⟨rfl, hb2⟩
       have hx2 := hb2.alloc (.cells #[.int .i64 0, .int .i64 0] 54)
       obtain ⟨⟨c0, c1⟩, _⟩ := facts2 (heap_alloc_new w2 (.cells #[.int .i64 0, .int .i64 0] 54)))
    | (go_at_call 24; refine (bad_no _ _ _ (by decide)).mono ?_; rintro e w3 ⟨rfl, hb3⟩; have hx3 := hx2.trans hb3)
    | (go_at_call 25; refine (HS.out _ (HT.out.ext hx3).t7).mono ?_; rintro e w4 ⟨rfl, hb4⟩; have hx4 := hx3.trans hb4))
  go_ret2
  exact ⟨rfl, hx4⟩
/-- The score of bytes in any charset, by the program. -/
theorem cscore (c : Int) (s : ByteArray) (w : World) (hT : TabD w) (hs : s.size ≤ 100000) : Calls Tryz.prog 10 #[.int .i64 c, .string s] w fun e w' => e = .returned (.tuple #[.int .i64 (scN s c), .bool (scoreB s c).isSome]) ∧ Ext w w' := by
  by_cases hc : c < 0 ∨ 6 < c
  · have e : scoreB s c = none := if_neg (by omega)
    rw [scN_no e, e]
    exact cscore_no c s w hc
  · obtain ⟨k, rfl⟩ := Int.eq_ofNat_of_zero_le (show 0 ≤ c by omega)
    have hk : k ≤ 6 := by omega
    by_cases h : (decN k s).2 < 0
    · have e : scoreB s (k : Int) = some (score10 k (-1) (sgn (decN k s).1)) := by
        unfold scoreB
        rw [Int.toNat_natCast, if_pos ⟨by omega, by omega, h⟩]
      rw [scN_yes e, e]
      exact cscore_ok k s w hT hk hs h
    · have e : scoreB s (k : Int) = none := by
        unfold scoreB
        rw [Int.toNat_natCast, if_neg (fun h2 => h h2.2.2)]
      rw [scN_no e, e]
      exact cscore_bad k s w hT hk hs h
end Go.Proofs.YtndopjmdpmkgeaaGreatDoor

namespace Go.Proofs.YtndopjmdpmkgeaaGreatDoor
open Go Go.ChangeShapes Go.WideShapes Go.ChangeAt Go.RowKit
set_option linter.unusedSimpArgs false
set_option linter.unusedVariables false

set_option maxRecDepth 100000 in
theorem corder (w : World) : Calls Tryz.prog 14 #[] w fun e w' => ∃ a cap, e = .returned (.slice a 7 cap) ∧ IsCs w' a 7 cap order10 ∧ Ext w w' := by
  go_enter Tryz.func14, Tryz.ntmps14
  go_wp2
  go_ret
  exact ⟨_, _, rfl, rorder_lit w _, (Ext.refl w).alloc _⟩
set_option maxRecDepth 100000 in
set_option maxHeartbeats 4000000 in
/-- The likeliest of some charsets, by the program. -/
theorem cguess (b : ByteArray) (a : Option Addr) (n cap : Nat) (zs : List Int) (w : World) (hT : TabD w) (hz : IsCs w a n cap zs) (hs : b.size ≤ 1000) (hn : n ≤ 1000) : Calls Tryz.prog 12 #[.string b, .slice a n cap] w fun e w' => e = .returned (.tuple #[.int .i64 (gN (scoreB b) zs), .bool (decide (0 ≤ guess10 (scoreB b) zs))]) ∧ Ext w w' := by
  have HZ := Lib.hid hz
  have HT := Lib.hid hT
  have HSc : Hid (∀ c w, TabD w → Calls Tryz.prog 10 #[.int .i64 c, .string b] w fun e w' => e = .returned (.tuple #[.int .i64 (scN b c), .bool (scoreB b c).isSome]) ∧ Ext w w') := fun c w hT => cscore c b w hT (by omega)
  have HYes : Hid (∀ c n, scoreB b c = some n → scN b c = n) := fun c n h => scN_yes h
  have hps := pass_zero (scoreB b) (fun c n h => (scoreB_ge b c n h).1) zs
  obtain ⟨f, hf⟩ : ∃ f, f = scoreB b := ⟨_, rfl⟩
  rw [← hf] at HSc HYes hps ⊢
  obtain ⟨M, hM⟩ : ∃ M : Nat → Int, M = fun j => (pass10 f (0, 0) (zs.take j)).1 := ⟨_, rfl⟩
  obtain ⟨B, hB⟩ : ∃ B : Nat → Int, B = fun j => (pass10 f (0, 0) (zs.take j)).2 := ⟨_, rfl⟩
  have HNone : Hid (∀ j c, zs[j]? = some c → f c = none → M (j + 1) = M j ∧ B (j + 1) = B j) := fun j c h e => by
    have := pass10_take f (0, 0) zs j c h
    rw [e] at this
    rw [hM, hB]
    simp only
    rw [this]
    exact ⟨rfl, rfl⟩
  have HMore : Hid (∀ j c n, zs[j]? = some c → f c = some n → M j < n → M (j + 1) = n ∧ B (j + 1) = c) := fun j c n h e hl => by
    have := pass10_take f (0, 0) zs j c h
    rw [e] at this
    rw [hM] at hl
    simp only at this hl
    rw [if_pos hl] at this
    rw [hM, hB]
    simp only
    rw [this]
    exact ⟨rfl, rfl⟩
  have HLess : Hid (∀ j c n, zs[j]? = some c → f c = some n → n ≤ M j → M (j + 1) = M j ∧ B (j + 1) = B j) := fun j c n h e hl => by
    have := pass10_take f (0, 0) zs j c h
    rw [e] at this
    rw [hM] at hl
    simp only at this hl
    rw [if_neg (by omega)] at this
    rw [hM, hB]
    simp only
    rw [this]
    exact ⟨rfl, rfl⟩
  have HM0 : Hid (M 0 = 0) := by show M 0 = 0; rw [hM]; rfl
  have HB0 : Hid (B 0 = 0) := by show B 0 = 0; rw [hB]; rfl
  have hzn : zs.take n = zs := List.take_of_length_le (by rw [hz.1]; exact Nat.le_refl _)
  have hMn : M n = most10 f 0 zs := by
    rw [hM]
    show (pass10 f (0, 0) (zs.take n)).1 = _
    rw [hzn]
    exact hps.2.1
  have hBn : gN f zs = B n := by
    rw [hB]
    show _ = (pass10 f (0, 0) (zs.take n)).2
    rw [hzn]
    exact hps.1.symm
  have hR : decide (0 ≤ guess10 f zs) = decide (0 < M n) := by
    rw [hMn]
    exact hps.2.2.symm
  rw [hBn]
  generalize decide (0 ≤ guess10 f zs) = R at hR ⊢
  have HR := Lib.hid hR
  clear hz hzn hM hB hf hps hT hMn hBn hR
  generalize scN b = g at HSc HYes
  go_enter Tryz.func12, Tryz.ntmps12
  go_wp2
  go_loopw [6, 7, 14] (fun u v i wr => ∃ j : Nat, j ≤ n ∧ u = .int .i64 (B j) ∧ v = .int .i64 (M j) ∧ i = .int .i64 j ∧ Ext w wr) (fun _ _ i _ => n - (intOf i).toNat)
  case atStart => exact ⟨0, by omega, by rw [HB0.out], by rw [HM0.out], rfl, Ext.refl _⟩
  case round =>
    obtain ⟨j, hj, rfl, rfl, rfl, hx⟩ := hrel
    by_cases hlt : j < n
    · have hji : (j : Int) < n := by omega
      obtain ⟨x, off, c, rfl, hzc, hcell⟩ := HZ.out.cell hlt
      have hc := hcell _ hx
      have HS1 := Lib.hid (fun w hT => HSc.out c w hT)
      have HN0 := Lib.hid (HNone.out j c hzc)
      have HN1 := Lib.hid (fun n => HMore.out j c n hzc)
      have HN2 := Lib.hid (fun n => HLess.out j c n hzc)
      have hy : Hid (f c = none ∨ ∃ n, f c = some n ∧ g c = n) := by
        show _ ∨ _
        cases e : f c with
        | none => exact .inl rfl
        | some n => exact .inr ⟨n, rfl, HYes.out c n e⟩
      have HTr := Lib.hid (HT.out.ext hx)
      clear HSc HYes hcell hzc HNone HMore HLess HM0 HB0
      rcases hy.out with e | ⟨m, e, e2⟩
      · have HE := Lib.hid (HN0.out e)
        rw [e] at HS1
        clear hy e HN0 HN1 HN2
        generalize g c = v at HS1
        go_wp2_with (go_at_call 10; refine (HS1.out _ HTr.out).mono ?_; rintro e w3 ⟨rfl, hb3⟩; have hx3 := hx.trans hb3)
        go_roundw
        case rel => exact ⟨j + 1, by omega, by rw [HE.out.2], by rw [HE.out.1], by go_num, hx3⟩
        case measure => simp [intOf]; omega
      · by_cases hm : M j < m
        · have HE := Lib.hid (HN1.out m e hm)
          rw [e, e2] at HS1
          clear hy e e2 HN0 HN1 HN2
          go_wp2_with (go_at_call 10; refine (HS1.out _ HTr.out).mono ?_; rintro e w3 ⟨rfl, hb3⟩; have hx3 := hx.trans hb3)
          go_roundw
          case rel => exact ⟨j + 1, by omega, by rw [HE.out.2], by rw [HE.out.1], by go_num, hx3⟩
          case measure => simp [intOf]; omega
        · have HE := Lib.hid (HN2.out m e (by omega))
          rw [e, e2] at HS1
          clear hy e e2 HN0 HN1 HN2
          go_wp2_with (go_at_call 10; refine (HS1.out _ HTr.out).mono ?_; rintro e w3 ⟨rfl, hb3⟩; have hx3 := hx.trans hb3)
          go_roundw
          case rel => exact ⟨j + 1, by omega, by rw [HE.out.2], by rw [HE.out.1], by go_num, hx3⟩
          case measure => simp [intOf]; omega
    · have hje : j = n := by omega
      subst hje
      have hji : ¬ (j : Int) < j := by omega
      clear HSc HYes HNone HMore HLess HM0 HB0
      by_cases h0 : 0 < M j
      · have HRt : Hid (R = true) := by show _; rw [HR.out]; exact decide_eq_true h0
        clear HR
        go_wp2
        go_ret2
        exact ⟨by first | (rw [HRt.out]; done) | (rw [HRt.out]; rfl), hx⟩
      · have HRt : Hid (R = false) := by show _; rw [HR.out]; exact decide_eq_false h0
        clear HR
        go_wp2
        go_ret2
        exact ⟨by first | (rw [HRt.out]; done) | (rw [HRt.out]; rfl), hx⟩
set_option maxRecDepth 100000 in
theorem cresolve_signs (b d : ByteArray) (x0 fb : Int) (g : Bool) (x3 : Int) (w : World) (hT : TabE w) (hb : b.size ≤ 100000) (h : badS b < 0) : Calls Tryz.prog 18 #[.string b, .string d, .agg #[.int .i64 x0, .int .i64 fb, .bool g, .int .i64 x3]] w fun e w' => e = .returned (.int .i64 7) ∧ Ext w w' := by
  have hv : validS b = true := by rw [validS_eq]; exact decide_eq_true h
  have HV := Lib.hid (fun w hT => valid_any b w hT (by omega))
  rw [hv] at HV
  have HT := Lib.hid (hT.ext ((Ext.refl w).alloc (.cells #[.int .i64 x0, .int .i64 fb, .bool g, .int .i64 x3] 44)))
  clear hT h hv
  go_enter Tryz.func18, Tryz.ntmps18
  go_wp2_with (go_at_call 31; refine (HV.out _ HT.out.d.t).mono ?_; rintro e w2 ⟨rfl, hb2⟩)
  go_ret
  exact ⟨rfl, ((Ext.refl w).alloc _).trans hb2⟩
set_option maxRecDepth 100000 in
set_option maxHeartbeats 2000000 in
theorem cresolve (b d : ByteArray) (x0 fb : Int) (g : Bool) (x3 : Int) (w : World) (hT : TabE w) (hb : b.size ≤ 1000) (hd : d.size ≤ 1000) : Calls Tryz.prog 18 #[.string b, .string d, .agg #[.int .i64 x0, .int .i64 fb, .bool g, .int .i64 x3]] w fun e w' => e = .returned (.int .i64 (res10 b d fb g)) ∧ Ext w w' := by
  by_cases h : badS b < 0
  · rw [res10_signs h]
    exact cresolve_signs b d x0 fb g x3 w hT (by omega) h
  · have hv : validS b = false := by rw [validS_eq]; exact decide_eq_false h
    have HV := Lib.hid (fun w hT => valid_any b w hT (by omega))
    rw [hv] at HV
    have HN := Lib.hid (fun w hT hT9 => named_any d w hT hT9 (by omega))
    have e0 : res10 b d fb g = if 0 ≤ named9 d 10 0 then named9 d 10 0 else if g = true ∧ 0 ≤ guess10 (scoreB b) order10 then guess10 (scoreB b) order10 else fb := if_neg h
    rw [e0]
    unfold num9 at HN
    generalize named9 d 10 0 = c at HN ⊢
    have HT := Lib.hid (hT.ext ((Ext.refl w).alloc (.cells #[.int .i64 x0, .int .i64 fb, .bool g, .int .i64 x3] 44)))
    have HF := Lib.hid (heap_alloc_new w (.cells #[.int .i64 x0, .int .i64 fb, .bool g, .int .i64 x3] 44))
    have HX := Lib.hid ((Ext.refl w).alloc (.cells #[.int .i64 x0, .int .i64 fb, .bool g, .int .i64 x3] 44))
    have HLt : Hid (w.heap.size < (w.alloc (.cells #[.int .i64 x0, .int .i64 fb, .bool g, .int .i64 x3] 44)).heap.size) := by show _ < _; simp
    clear h e0 hv hT
    by_cases hc : 0 ≤ c
    · have hc1 : ¬ c < 0 := by omega
      rw [if_pos hc]
      rw [if_neg hc1, decide_eq_true hc] at HN
      go_enter Tryz.func18, Tryz.ntmps18
      go_wp2_with (first
        | (go_at_call 31; refine (HV.out _ HT.out.d.t).mono ?_; rintro e w2 ⟨rfl, hb2⟩)
        | (go_at_call 32; refine (HN.out _ (HT.out.ext hb2).d.t (HT.out.ext hb2).t9).mono ?_; rintro e w3 ⟨rfl, hb3⟩))
      go_ret
      exact ⟨rfl, (HX.out.trans hb2).trans hb3⟩
    · have hc1 : c < 0 := by omega
      rw [if_neg hc]
      rw [if_pos hc1, decide_eq_false hc] at HN
      cases g with
      | false =>
        rw [if_neg (by rintro ⟨h, _⟩; cases h)]
        go_enter Tryz.func18, Tryz.ntmps18
        go_wp2_with (first
          | (go_at_call 31; refine (HV.out _ HT.out.d.t).mono ?_; rintro e w2 ⟨rfl, hb2⟩)
          | (go_at_call 32; refine (HN.out _ (HT.out.ext hb2).d.t (HT.out.ext hb2).t9).mono ?_; rintro e w3 ⟨rfl, hb3⟩; obtain ⟨⟨k0, k1, k2, k3⟩, _⟩ := facts4 (((hb2.trans hb3).block w.heap.size HLt.out).trans HF.out)))
        go_ret
        exact ⟨rfl, (HX.out.trans hb2).trans hb3⟩
      | true =>
        have HG : Hid (∀ a cap w, TabD w → IsCs w a 7 cap order10 → Calls Tryz.prog 12 #[.string b, .slice a 7 cap] w fun e w' => e = .returned (.tuple #[.int .i64 (gN (scoreB b) order10), .bool (decide (0 ≤ guess10 (scoreB b) order10))]) ∧ Ext w w') := fun a cap w hT hz => cguess b a 7 cap order10 w hT hz hb (by omega)
        have HO := Lib.hid (fun w => corder w)
        unfold gN at HG
        generalize guess10 (scoreB b) order10 = r at HG ⊢
        by_cases hr : 0 ≤ r
        · have hr1 : ¬ r < 0 := by omega
          rw [if_pos ⟨rfl, hr⟩]
          rw [if_neg hr1, decide_eq_true hr] at HG
          go_enter Tryz.func18, Tryz.ntmps18
          go_wp2_with (first
            | (go_at_call 31; refine (HV.out _ HT.out.d.t).mono ?_; rintro e w2 ⟨rfl, hb2⟩)
            | (go_at_call 32; refine (HN.out _ (HT.out.ext hb2).d.t (HT.out.ext hb2).t9).mono ?_; rintro e w3 ⟨rfl, hb3⟩; obtain ⟨⟨k0, k1, k2, k3⟩, _⟩ := facts4 (((hb2.trans hb3).block w.heap.size HLt.out).trans HF.out))
            | (go_at_call 14; refine (HO.out _).mono ?_; rintro e w4 ⟨ao, co, rfl, hz, hb4⟩; have HZ := Lib.hid hz; have HT4 := Lib.hid (((HT.out.ext hb2).ext hb3).ext hb4); clear hz k0 k1 k2 k3)
            | (go_at_call 12; refine (HG.out _ _ _ HT4.out.d HZ.out).mono ?_; rintro e w5 ⟨rfl, hb5⟩))
          go_ret
          exact ⟨rfl, (((HX.out.trans hb2).trans hb3).trans hb4).trans hb5⟩
        · have hr1 : r < 0 := by omega
          rw [if_neg (fun h => hr h.2)]
          rw [if_pos hr1, decide_eq_false hr] at HG
          go_enter Tryz.func18, Tryz.ntmps18
          go_wp2_with (first
            | (go_at_call 31; refine (HV.out _ HT.out.d.t).mono ?_; rintro e w2 ⟨rfl, hb2⟩)
            | (go_at_call 32; refine (HN.out _ (HT.out.ext hb2).d.t (HT.out.ext hb2).t9).mono ?_; rintro e w3 ⟨rfl, hb3⟩; obtain ⟨⟨k0, k1, k2, k3⟩, _⟩ := facts4 (((hb2.trans hb3).block w.heap.size HLt.out).trans HF.out))
            | (go_at_call 14; refine (HO.out _).mono ?_; rintro e w4 ⟨ao, co, rfl, hz, hb4⟩; have HZ := Lib.hid hz; have HT4 := Lib.hid (((HT.out.ext hb2).ext hb3).ext hb4); clear hz k0 k1 k2 k3)
            | (go_at_call 12; refine (HG.out _ _ _ HT4.out.d HZ.out).mono ?_; rintro e w5 ⟨rfl, hb5⟩; obtain ⟨⟨k0, k1, k2, k3⟩, _⟩ := facts4 (((((hb2.trans hb3).trans hb4).trans hb5).block w.heap.size HLt.out).trans HF.out)))
          go_ret
          exact ⟨rfl, (((HX.out.trans hb2).trans hb3).trans hb4).trans hb5⟩
end Go.Proofs.YtndopjmdpmkgeaaGreatDoor

namespace Go.Proofs.YtndopjmdpmkgeaaGreatDoor
open Go Go.ChangeShapes Go.WideShapes Go.ChangeAt Go.RowKit
set_option linter.unusedSimpArgs false
set_option linter.unusedVariables false

theorem decN_size9 (c : Nat) (hc : c ≤ 9) (s : ByteArray) : (decN c s).1.size ≤ 8 * s.size := by
  by_cases h : c ≤ 7
  · exact (decN_bounds c h s).1
  · unfold decN
    rw [if_neg (by omega), if_neg (by omega), if_neg (by omega)]
    show (wtxt _ _).size ≤ _
    unfold wtxt
    split
    · have h1 := encs_le (wdS (decide (c = 9)) s).1
      have h2 := wd_len (decide (c = 9)) _ 0 s.data.toList (Nat.le_refl _)
      have e2 : s.data.toList.length = s.size := rfl
      have e3 : (wd (decide (c = 9)) 0 s.data.toList).1 = (wdS (decide (c = 9)) s).1 := rfl
      rw [txt_len]
      rw [e3, e2] at h2
      omega
    · show 0 ≤ _
      omega
theorem ex10a : scN ⟨#[193, 194]⟩ 1 = 8 ∧ (scoreB ⟨#[193, 194]⟩ 1).isSome = true := by
  decide +kernel
theorem decN_two (c : Nat) (hc : c = 4 ∨ c = 5 ∨ c = 6) (x y : UInt8) (hx : ¬ x.toNat < 128) : decN c ⟨#[x, y]⟩ = if (sg9 c x.toNat y.toNat).size = 0 then (⟨#[]⟩, 0) else (sg9 c x.toNat y.toNat, -1) := by
  unfold decN
  rw [if_neg (by omega), if_pos (by omega)]
  have h0 : 0 < (⟨#[x, y]⟩ : ByteArray).size := by show 0 < 2; decide
  have h1 : 0 + 1 < (⟨#[x, y]⟩ : ByteArray).size := by show 1 < 2; decide
  by_cases h : (sg9 c x.toNat y.toNat).size = 0
  · rw [dec9_none h0 hx h1 h, if_pos h]
    rfl
  · rw [dec9_two h0 hx h1 h, dec9_end (by show ¬ 2 < 2; decide), if_neg h]
    refine Prod.ext ?_ rfl
    show (⟨#[]⟩ : ByteArray) ++ sg9 c x.toNat y.toNat = sg9 c x.toNat y.toNat
    exact nil_app9 _

theorem sb_two (c : Nat) (hc : c = 4 ∨ c = 5 ∨ c = 6) (x y : UInt8) (hx : ¬ x.toNat < 128) : scoreB ⟨#[x, y]⟩ c = if (sg9 c x.toNat y.toNat).size = 0 then none else some (score10 c (-1) (sgn (sg9 c x.toNat y.toNat))) := by
  unfold scoreB
  rw [Int.toNat_natCast, decN_two c hc x y hx]
  by_cases h : (sg9 c x.toNat y.toNat).size = 0
  · rw [if_pos h, if_pos h, if_neg (by rintro ⟨_, _, h⟩; exact absurd h (by decide))]
  · rw [if_neg h, if_neg h, if_pos ⟨by omega, by omega, (show (-1 : Int) < 0 by decide)⟩]
def sbK (c : Nat) : Option Int := if (sg9 c 176 161).size = 0 then none else some (score10 c (-1) (sgn (sg9 c 176 161)))
def gK (c : Int) : Option Int := if c = 4 then sbK 4 else if c = 6 then sbK 6 else if c = 5 then sbK 5 else some (score10 c (-1) (decZ c [176, 161]))
theorem guess_fK : guess10 gK order10 = 4 := by decide +kernel
theorem gK_4 : gK 4 = sbK 4 := if_pos rfl
theorem gK_6 : gK 6 = sbK 6 := by unfold gK; rw [if_neg (by decide), if_pos rfl]
theorem gK_5 : gK 5 = sbK 5 := by unfold gK; rw [if_neg (by decide), if_neg (by decide), if_pos rfl]
theorem gK_one (k : Nat) (h : k ≤ 3) : gK k = some (score10 k (-1) (decZ k [176, 161])) := by unfold gK; rw [if_neg (by omega), if_neg (by omega), if_neg (by omega)]
theorem guess10_congr (f g : Int → Option Int) (l : List Int) (h : ∀ c ∈ l, f c = g c) : guess10 f l = guess10 g l := by
  have hm : ∀ (l : List Int) (m : Int), (∀ c ∈ l, f c = g c) → most10 f m l = most10 g m l := by
    intro l
    induction l with
    | nil => intro m _; rfl
    | cons c l ih =>
      intro m h
      unfold most10
      rw [h c List.mem_cons_self]
      exact ih _ (fun d hd => h d (List.mem_cons_of_mem _ hd))
  have hf : ∀ (l : List Int) (m : Int), (∀ c ∈ l, f c = g c) → first10 f m l = first10 g m l := by
    intro l
    induction l with
    | nil => intro m _; rfl
    | cons c l ih =>
      intro m h
      unfold first10
      rw [h c List.mem_cons_self, ih m (fun d hd => h d (List.mem_cons_of_mem _ hd))]
  unfold guess10
  rw [hm l 0 h, hf l _ h]
theorem ex10b : guess10 (scoreB ⟨#[176, 161]⟩) order10 = 4 := by
  rw [← guess_fK]
  refine guess10_congr _ _ _ fun c hc => ?_
  have one : ∀ k : Nat, k ≤ 3 → scoreB ⟨#[176, 161]⟩ (k : Int) = some (score10 k (-1) (decZ k [176, 161])) := fun k hk => by
    unfold scoreB
    have e : decN k ⟨#[176, 161]⟩ = (txt (decZ k [176, 161]), -1) := by unfold decN; rw [if_pos hk]
    rw [Int.toNat_natCast, e, if_pos ⟨by omega, by omega, (show (-1 : Int) < 0 by decide)⟩, txt_sgn _ (decZ_signs k _ (by omega) (by omega))]
  have two : ∀ k : Nat, (k = 4 ∨ k = 5 ∨ k = 6) → scoreB ⟨#[176, 161]⟩ (k : Int) = sbK k := fun k hk => sb_two k hk 176 161 (by decide)
  unfold order10 at hc
  simp only [List.mem_cons, List.not_mem_nil, or_false] at hc
  have t4 : scoreB ⟨#[176, 161]⟩ 4 = sbK 4 := two 4 (by decide)
  have t5 : scoreB ⟨#[176, 161]⟩ 5 = sbK 5 := two 5 (by decide)
  have t6 : scoreB ⟨#[176, 161]⟩ 6 = sbK 6 := two 6 (by decide)
  have both : ∀ k : Nat, k ≤ 3 → scoreB ⟨#[176, 161]⟩ (k : Int) = gK (k : Int) := fun k hk => by rw [one k hk, gK_one k hk]
  rcases hc with rfl | rfl | rfl | rfl | rfl | rfl | rfl
  · rw [t4, gK_4]
  · rw [t6, gK_6]
  · rw [t5, gK_5]
  · exact both 1 (by decide)
  · exact both 2 (by decide)
  · exact both 3 (by decide)
  · exact both 0 (by decide)
set_option maxRecDepth 100000 in
set_option maxHeartbeats 4000000 in
theorem awake10_any (w : World) (hT : TabE w) : Calls Tryz.prog 21 #[] w fun e w' => e = .returned (.bool true) ∧ Ext w w' := by
  have HT := Lib.hid hT
  have HS : Hid (∀ w, TabD w → Calls Tryz.prog 10 #[.int .i64 1, .string ⟨#[193, 194]⟩] w fun e w' => e = .returned (.tuple #[.int .i64 8, .bool true]) ∧ Ext w w') := fun w hT => by
    have := cscore 1 ⟨#[193, 194]⟩ w hT (by decide)
    rwa [ex10a.1, ex10a.2] at this
  have HG : Hid (∀ a cap w, TabD w → IsCs w a 7 cap order10 → Calls Tryz.prog 12 #[.string ⟨#[176, 161]⟩, .slice a 7 cap] w fun e w' => e = .returned (.tuple #[.int .i64 4, .bool true]) ∧ Ext w w') := fun a cap w hT hz => by
    have := cguess ⟨#[176, 161]⟩ a 7 cap order10 w hT hz (by decide) (by decide)
    unfold gN at this
    rw [ex10b] at this
    exact this
  have HO := Lib.hid (fun w => corder w)
  clear hT
  go_enter Tryz.func21, Tryz.ntmps21
  go_wp2_with (first
    | (go_at_call 10; refine (HS.out _ HT.out.d).mono ?_; rintro e w1 ⟨rfl, hb1⟩)
    | (go_at_call 14; refine (HO.out _).mono ?_; rintro e w2 ⟨ao, co, rfl, hz, hb2⟩; have HZ := Lib.hid hz; have HT2 := Lib.hid ((HT.out.ext hb1).ext hb2); clear hz)
    | (go_at_call 12; refine (HG.out _ _ _ HT2.out.d HZ.out).mono ?_; rintro e w3 ⟨rfl, hb3⟩; have HT3 := Lib.hid (HT2.out.ext hb3))
    | (go_at_call 37; refine (awake9_any _ HT3.out).mono ?_; rintro e w4 ⟨rfl, hb4⟩))
  go_ret
  exact ⟨rfl, ((hb1.trans hb2).trans hb3).trans hb4⟩
theorem awake10 (w : World) (hT : TabE w) : Calls Tryz.prog 9 #[] w fun e w' => e = .returned (.bool true) ∧ Ext w w' := by
  have HT := Lib.hid hT
  clear hT
  go_enter Tryz.func9, Tryz.ntmps9
  go_wp2_with (go_at_call 21; refine (awake10_any _ HT.out).mono ?_; rintro e w1 ⟨rfl, hb1⟩)
  go_ret
  exact ⟨rfl, hb1⟩
end Go.Proofs.YtndopjmdpmkgeaaGreatDoor

namespace Go.Proofs.YtndopjmdpmkgeaaGreatDoor.detectScores
open Go Go.Proofs.YtndopjmdpmkgeaaGreatDoor Go.ChangeShapes Go.WideShapes Go.ChangeAt Go.RowKit
open Go.ChangeMaps (open_string shut_string)
set_option linter.unusedSimpArgs false
set_option linter.unusedVariables false

abbrev Tabs (w : World) : Prop := TabE w
set_option maxRecDepth 100000 in
set_option maxHeartbeats 4000000 in
theorem walk_long (c : Int) (s : ByteArray) (W : World) (hT : Tabs W) (h : 150 < s.size) : Calls Tryz.prog 3 #[.int .i64 c, .string s] W fun e w' => e = .returned (.bool true) ∧ Ext W w' := by
  have HT := Lib.hid hT
  have h1 : (150 : Int) < s.size := by omega
  clear hT h
  go_enter Tryz.func3, Tryz.ntmps3
  go_wp2_with (go_at_call 9; refine (awake10 _ HT.out).mono ?_; rintro e w1 ⟨rfl, hb1⟩)
  go_ret
  exact ⟨rfl, hb1⟩
set_option maxRecDepth 100000 in
set_option maxHeartbeats 4000000 in
theorem walk_main (c : Int) (s : ByteArray) (W : World) (hT : Tabs W) (h : s.size ≤ 150) : Calls Tryz.prog 3 #[.int .i64 c, .string s] W fun e w' => e = .returned (.bool true) ∧ Ext W w' := by
  have HT := Lib.hid hT
  have h1 : ¬ (150 : Int) < s.size := by omega
  have HC := Lib.hid (fun w hT => cscore c s w hT (by omega))
  have HR := Lib.hid (fun w => rscore c s w (by omega))
  generalize scN s c = v at HC HR
  generalize (scoreB s c).isSome = b at HC HR
  clear hT h
  cases b
  all_goals
    go_enter Tryz.func3, Tryz.ntmps3
    go_wp2_with (first
      | (go_at_call 10; refine (HC.out _ HT.out.d).mono ?_; rintro e w1 ⟨rfl, hb1⟩)
      | (go_at_call 11; refine (HR.out _).mono ?_; rintro e w2 ⟨rfl, hb2⟩; have hx2 := hb1.trans hb2)
      | (go_at_call 9; refine (awake10 _ (HT.out.ext hx2)).mono ?_; rintro e w3 ⟨rfl, hb3⟩))
    go_ret
    exact ⟨by first | (simp; done) | rfl, hx2.trans hb3⟩
theorem walk (c : Int) (s : ByteArray) (W : World) (hT : Tabs W) : Calls Tryz.prog 3 #[.int .i64 c, .string s] W fun e w' => e = .returned (.bool true) ∧ Ext W w' := by
  by_cases h : s.size ≤ 150
  · exact walk_main c s W hT h
  · exact walk_long c s W hT (by omega)
end Go.Proofs.YtndopjmdpmkgeaaGreatDoor.detectScores

namespace Go.Proofs.YtndopjmdpmkgeaaGreatDoor.detectGuesses
open Go Go.Proofs.YtndopjmdpmkgeaaGreatDoor Go.ChangeShapes Go.WideShapes Go.ChangeAt Go.RowKit
open Go.ChangeMaps (open_string shut_string)
set_option linter.unusedSimpArgs false
set_option linter.unusedVariables false

abbrev Tabs (w : World) : Prop := TabE w
set_option maxRecDepth 100000 in
set_option maxHeartbeats 4000000 in
theorem walk_long (b : ByteArray) (a : Option Addr) (n cap : Nat) (W : World) (hT : Tabs W) (h : 100 < b.size ∨ (b.size ≤ 100 ∧ 20 < n)) : Calls Tryz.prog 4 #[.string b, .slice a n cap] W fun e w' => e = .returned (.bool true) ∧ Ext W w' := by
  have HT := Lib.hid hT
  have h1 : (100 : Int) < b.size ∨ (¬ (100 : Int) < b.size ∧ (20 : Int) < n) := by omega
  clear hT h
  rcases h1 with h1 | ⟨h1, h2⟩
  all_goals
    go_enter Tryz.func4, Tryz.ntmps4
    go_wp2_with (go_at_call 9; refine (awake10 _ HT.out).mono ?_; rintro e w1 ⟨rfl, hb1⟩)
    go_ret
    exact ⟨rfl, hb1⟩
theorem take_cs (zs : List Int) (k : Nat) (c : Int) (h : zs[k]? = some c) : zs.take (k + 1) = zs.take k ++ [c] := by
  rw [List.take_add_one, h]
  rfl
/-- What is guessed of some charsets, as the law looks at it: a charset, or none. -/
def GsOut (b : ByteArray) (n : Nat) (zs : List Int) (k c : Int) (ok : Bool) : Prop :=
  (∀ a cap w, TabD w → IsCs w a n cap zs → Calls Tryz.prog 12 #[.string b, .slice a n cap] w fun e w' => e = .returned (.tuple #[.int .i64 c, .bool ok]) ∧ Ext w w') ∧
  (∀ a cap w, IsCs w a n cap zs → Calls Tryz.prog 13 #[.string b, .slice a n cap] w fun e w' => e = .returned (.int .i64 k) ∧ Ext w w')
theorem gs_out (b : ByteArray) (n : Nat) (zs : List Int) (hs : b.size ≤ 100) (hn : n ≤ 20) : (∃ k : Int, 0 ≤ k ∧ GsOut b n zs k k true) ∨ (∃ k : Int, ¬ 0 ≤ k ∧ GsOut b n zs k 0 false) := by
  by_cases h : 0 ≤ guess10 (scoreB b) zs
  · refine .inl ⟨_, h, fun a cap w hT hz => ?_, fun a cap w hz => rguess b a n cap zs w hz (by omega) (by omega)⟩
    have h1 := cguess b a n cap zs w hT hz (by omega) (by omega)
    unfold gN at h1
    rw [if_neg (by omega), decide_eq_true h] at h1
    exact h1
  · refine .inr ⟨_, h, fun a cap w hT hz => ?_, fun a cap w hz => rguess b a n cap zs w hz (by omega) (by omega)⟩
    have h1 := cguess b a n cap zs w hT hz (by omega) (by omega)
    unfold gN at h1
    rw [if_pos (by omega), decide_eq_false h] at h1
    exact h1
set_option maxRecDepth 100000 in
set_option maxHeartbeats 8000000 in
theorem walk_main (b : ByteArray) (a : Option Addr) (n cap : Nat) (zs : List Int) (W : World) (hz : IsCs W a n cap zs) (hT : Tabs W) (hs : b.size ≤ 100) (hn : n ≤ 20) : Calls Tryz.prog 4 #[.string b, .slice a n cap] W fun e w' => e = .returned (.bool true) ∧ Ext W w' := by
  have h1 : ¬ (100 : Int) < b.size := by omega
  have h2 : ¬ (20 : Int) < n := by omega
  have HTk := Lib.hid (fun k c h => take_cs zs k c h)
  have hfull : zs.take n = zs := List.take_of_length_le (by rw [hz.1]; exact Nat.le_refl _)
  have HFu := Lib.hid hfull
  have HGs := Lib.hid (gs_out b n zs hs hn)
  have HGo := Lib.hid (gs_out b 7 order10 hs (by omega))
  have HCO := Lib.hid (fun w => corder w)
  have HRO := Lib.hid (fun w => rorder w)
  obtain ⟨i1, hj, hj0, hj1, hj2⟩ := info_parts_cs
  have hra : W.ownsRow W.heap.size 25 1 (.slice none 0 0) 0 (csCells (zs.take 0)) := ⟨rfl, .inl ⟨rfl, rfl⟩⟩
  obtain ⟨w0, hw0⟩ : ∃ w0, w0 = W := ⟨_, rfl⟩
  have hxs : Ext w0 W := by rw [hw0]; exact Ext.refl _
  have hra1 : W.ownsRow w0.heap.size 25 1 (.slice none 0 0) 0 (csCells (zs.take 0)) := by rw [hw0]; exact hra
  have HE : Hid (∀ w', Ext w0 w' → Ext W w') := fun w' h => by rw [← hw0]; exact h
  have HT0 : Hid (Tabs w0) := by rw [hw0]; exact hT
  have HZ0 : Hid (IsCs w0 a n cap zs) := by rw [hw0]; exact hz
  clear hw0 hra hT hz hfull hs
  go_enter Tryz.func4, Tryz.ntmps4
  go_wp2
  go_loopw [5, 28] (fun u i wr => ∃ k : Nat, k ≤ n ∧ i = .int .i64 k ∧ wr.ownsRow w0.heap.size 25 1 u k (csCells (zs.take k)) ∧ Ext w0 wr) (fun _ i _ => n - (intOf i).toNat)
  case atStart => exact ⟨0, by omega, rfl, hra1, hxs⟩
  case round =>
    obtain ⟨k, hk, rfl, ho, hx⟩ := hrel
    clear hra1 hxs
    have hle := hx.size
    by_cases hlt : k < n
    · have hki : (k : Int) < n := by omega
      obtain ⟨x, off, c, rfl, hzc, hcell⟩ := HZ0.out.cell hlt
      have hc := hcell _ hx
      have HK := Lib.hid (HTk.out k c hzc)
      clear hcell hzc HTk HFu HGs HGo HCO HRO
      go_wp2_with (first
        | (at_builtin; refine wpList_append_fresh _ rfl _ _ 29 rfl (w0.heap.size) 25 i1 (.int .i64 0) 1 8 Tryz.underlying29 hj hj0 hj1 hj2 rfl (by decide) _ _ _ rfl (ho.alloc _) ⟨wr.heap.size, 0, none⟩ 1 1 [.int .i64 c] rfl rfl (cell_one_new _ _ _) (fun x hx => by simp at hx; subst hx; rfl) (by unfold maxLen; omega) (by omega) (by simp; omega) ?_; intro v5 w5 hown5 hgrow5 hfresh5; have hx5 := hx.own ho (Nat.le_refl _) hgrow5; clear hgrow5 hfresh5 ho))
      go_roundw
      case rel =>
        refine ⟨k + 1, by omega, by go_num, ?_, hx5⟩
        rw [HK.out, csCells_app]
        exact hown5
      case measure => simp [intOf]; omega
    · have hke : k = n := by omega
      subst hke
      have hki : ¬ (k : Int) < k := by omega
      rw [HFu.out] at ho
      obtain ⟨a1, cap1, rfl, hr1⟩ := own_cs ho
      have H1 := Lib.hid hr1
      have HTr := Lib.hid (HT0.out.ext hx)
      have HZr := Lib.hid (HZ0.out.ext hx)
      clear ho hr1 HTk HFu
      rcases HGs.out with ⟨q, hq, HG⟩ | ⟨q, hq, HG⟩
      all_goals
        have HG1 := Lib.hid HG.1
        have HG2 := Lib.hid HG.2
        clear HG
        go_wp2_with (first
          | (go_at_call 12; refine (HG1.out _ _ _ HTr.out.d H1.out).mono ?_; rintro e w1 ⟨rfl, hb1⟩)
          | (go_at_call 13; refine (HG2.out _ _ _ (HZr.out.ext hb1)).mono ?_; rintro e w2 ⟨rfl, hb2⟩)
          | (go_at_call 14; refine (HCO.out _).mono ?_; rintro e w3 ⟨a3, cap3, rfl, hz3, hb3⟩; have H3 := Lib.hid hz3; clear hz3)
          | (go_at_call 15; refine (HRO.out _).mono ?_; rintro e w4 ⟨a4, cap4, rfl, hz4, hb4⟩; have H4 := Lib.hid hz4; have H34 := Lib.hid (H3.out.ext hb4); clear hz4))
        have hx4 := (((hx.trans hb1).trans hb2).trans hb3).trans hb4
        have HX4 := Lib.hid hx4
        clear hx4 hb1 hb2 hb3 hb4 HG1 HG2 H1 HTr HZr HGs
        go_loopw [69] (fun i wr => ∃ j : Nat, j ≤ 7 ∧ i = .int .i64 j ∧ Ext w4 wr) (fun i _ => 7 - (intOf i).toNat)
        case atStart => exact ⟨0, by omega, rfl, Ext.refl _⟩
        case round =>
          obtain ⟨j, hj7, rfl, hxj⟩ := hrel
          by_cases hjm : j < 7
          · have hji : (j : Int) < 7 := by omega
            obtain ⟨x3, o3, c3, rfl, hz3, hc3⟩ := H34.out.cell hjm
            obtain ⟨x4, o4, c4, rfl, hz4, hc4⟩ := H4.out.cell hjm
            have e34 : c3 = c4 := Option.some.inj (hz3.symm.trans hz4)
            subst e34
            have d3 := hc3 _ hxj
            have d4 := hc4 _ hxj
            clear hc3 hc4 hz3 hz4 HGo HCO HRO
            go_wp2
            go_roundw
            case rel => exact ⟨j + 1, by omega, by go_num, hxj⟩
            case measure => simp [intOf]; omega
          · have hji : ¬ (j : Int) < 7 := by omega
            have hxr := HX4.out.trans hxj
            have HTq := Lib.hid (HT0.out.ext hxr)
            have HX := Lib.hid (HE.out _ hxr)
            have H35 := Lib.hid (H34.out.ext hxj)
            clear hxr hx hxj HX4 H3 H34 H4
            rcases HGo.out with ⟨r, hr, HG⟩ | ⟨r, hr, HG⟩
            all_goals
              have HG1 := Lib.hid HG.1
              have HG2 := Lib.hid HG.2
              clear HG
              go_wp2_with (first
                | (go_at_call 12; refine (HG1.out _ _ _ HTq.out.d H35.out).mono ?_; rintro e w5 ⟨rfl, hb5⟩)
                | (go_at_call 15; refine (HRO.out _).mono ?_; rintro e w6 ⟨a6, cap6, rfl, hz6, hb6⟩; have H6 := Lib.hid hz6; clear hz6)
                | (go_at_call 13; refine (HG2.out _ _ _ H6.out).mono ?_; rintro e w7 ⟨rfl, hb7⟩; have hx7 := (hb5.trans hb6).trans hb7)
                | (go_at_call 9; refine (awake10 _ (HTq.out.ext hx7)).mono ?_; rintro e w8 ⟨rfl, hb8⟩))
              go_ret
              exact ⟨by first | rfl | (simp; done) | (simp; omega), (HX.out.trans hx7).trans hb8⟩
theorem walk {W0 : World} (b : ByteArray) (a : Option Addr) (n cap : Nat) (zs : List Int) (hz : IsCs W0 a n cap zs) (W : World) (e0 : W0 = W) (hT : Tabs W) : Calls Tryz.prog 4 #[.string b, .slice a n cap] W fun e w' => e = .returned (.bool true) ∧ Ext W w' := by
  subst e0
  by_cases h : b.size ≤ 100 ∧ n ≤ 20
  · exact walk_main b a n cap zs W0 hz hT h.1 h.2
  · exact walk_long b a n cap W0 hT (by omega)
end Go.Proofs.YtndopjmdpmkgeaaGreatDoor.detectGuesses

namespace Go.Proofs.YtndopjmdpmkgeaaGreatDoor.detectMarks
open Go Go.Proofs.YtndopjmdpmkgeaaGreatDoor Go.ChangeShapes Go.WideShapes Go.ChangeAt Go.RowKit
open Go.ChangeMaps (open_string shut_string)
set_option linter.unusedSimpArgs false
set_option linter.unusedVariables false

abbrev Tabs (w : World) : Prop := TabE w
set_option maxRecDepth 100000 in
set_option maxHeartbeats 4000000 in
theorem walk (s : ByteArray) (W : World) (hT : Tabs W) : Calls Tryz.prog 5 #[.string s] W fun e w' => e = .returned (.bool true) ∧ Ext W w' := by
  have HT := Lib.hid hT
  have HC := Lib.hid (fun w => cmark s w)
  have HR := Lib.hid (fun w => rmark s w)
  generalize (mark10 s).1 = u at HC HR
  generalize (mark10 s).2 = v at HC HR
  clear hT
  go_enter Tryz.func5, Tryz.ntmps5
  go_wp2_with (first
    | (go_at_call 16; refine (HC.out _).mono ?_; rintro e w1 ⟨rfl, hb1⟩)
    | (go_at_call 17; refine (HR.out _).mono ?_; rintro e w2 ⟨rfl, hb2⟩; have hx2 := hb1.trans hb2)
    | (go_at_call 9; refine (awake10 _ (HT.out.ext hx2)).mono ?_; rintro e w3 ⟨rfl, hb3⟩))
  go_ret
  exact ⟨by first | (simp; done) | rfl, hx2.trans hb3⟩
end Go.Proofs.YtndopjmdpmkgeaaGreatDoor.detectMarks

namespace Go.Proofs.YtndopjmdpmkgeaaGreatDoor.detectResolves
open Go Go.Proofs.YtndopjmdpmkgeaaGreatDoor Go.ChangeShapes Go.WideShapes Go.ChangeAt Go.RowKit
open Go.ChangeMaps (open_string shut_string)
set_option linter.unusedSimpArgs false
set_option linter.unusedVariables false

abbrev Tabs (w : World) : Prop := TabE w
set_option maxRecDepth 100000 in
set_option maxHeartbeats 4000000 in
theorem walk_long (b d : ByteArray) (fb : Int) (g : Bool) (W : World) (hT : Tabs W) (h : 100 < b.size ∨ (b.size ≤ 100 ∧ 100 < d.size)) : Calls Tryz.prog 6 #[.string b, .string d, .int .i64 fb, .bool g] W fun e w' => e = .returned (.bool true) ∧ Ext W w' := by
  have HT := Lib.hid hT
  have h1 : (100 : Int) < b.size ∨ (¬ (100 : Int) < b.size ∧ (100 : Int) < d.size) := by omega
  clear hT h
  rcases h1 with h1 | ⟨h1, h2⟩
  all_goals
    go_enter Tryz.func6, Tryz.ntmps6
    go_wp2_with (go_at_call 9; refine (awake10 _ HT.out).mono ?_; rintro e w1 ⟨rfl, hb1⟩)
    go_ret
    exact ⟨rfl, hb1⟩
set_option maxRecDepth 100000 in
set_option maxHeartbeats 4000000 in
theorem walk_main (b d : ByteArray) (fb : Int) (g : Bool) (W : World) (hT : Tabs W) (hb : b.size ≤ 100) (hd : d.size ≤ 100) : Calls Tryz.prog 6 #[.string b, .string d, .int .i64 fb, .bool g] W fun e w' => e = .returned (.bool true) ∧ Ext W w' := by
  have HT := Lib.hid hT
  have h1 : ¬ (100 : Int) < b.size := by omega
  have h2 : ¬ (100 : Int) < d.size := by omega
  have HC := Lib.hid (fun w hT => cresolve b d 0 fb g 0 w hT (by omega) (by omega))
  have HR := Lib.hid (fun w => rresolve b d fb g w (by omega) (by omega))
  generalize res10 b d fb g = v at HC HR
  clear hT hb hd
  go_enter Tryz.func6, Tryz.ntmps6
  go_wp2_with (first
    | (go_at_call 18; refine (HC.out _ HT.out).mono ?_; rintro e w1 ⟨rfl, hb1⟩)
    | (go_at_call 9; refine (awake10 _ (HT.out.ext hb1)).mono ?_; rintro e w2 ⟨rfl, hb2⟩; have hx2 := hb1.trans hb2)
    | (go_at_call 19; refine (HR.out _).mono ?_; rintro e w3 ⟨rfl, hb3⟩))
  go_ret
  exact ⟨by first | (simp; done) | rfl, hx2.trans hb3⟩
theorem walk (b d : ByteArray) (fb : Int) (g : Bool) (W : World) (hT : Tabs W) : Calls Tryz.prog 6 #[.string b, .string d, .int .i64 fb, .bool g] W fun e w' => e = .returned (.bool true) ∧ Ext W w' := by
  by_cases h : b.size ≤ 100 ∧ d.size ≤ 100
  · exact walk_main b d fb g W hT h.1 h.2
  · exact walk_long b d fb g W hT (by omega)
end Go.Proofs.YtndopjmdpmkgeaaGreatDoor.detectResolves

namespace Go.Proofs.YtndopjmdpmkgeaaGreatDoor.detectSums
open Go Go.Proofs.YtndopjmdpmkgeaaGreatDoor Go.ChangeShapes Go.WideShapes Go.ChangeAt Go.RowKit
open Go.ChangeMaps (open_string shut_string)
set_option linter.unusedSimpArgs false
set_option linter.unusedVariables false

abbrev Tabs (w : World) : Prop := TabE w
set_option maxRecDepth 100000 in
set_option maxHeartbeats 4000000 in
theorem walk_long (c : Int) (a b : ByteArray) (W : World) (hT : Tabs W) (h : c < 0 ∨ (¬ c < 0 ∧ 3 < c) ∨ (¬ c < 0 ∧ ¬ 3 < c ∧ 100 < a.size) ∨ (¬ c < 0 ∧ ¬ 3 < c ∧ ¬ 100 < a.size ∧ 100 < b.size)) : Calls Tryz.prog 7 #[.int .i64 c, .string a, .string b] W fun e w' => e = .returned (.bool true) ∧ Ext W w' := by
  have HT := Lib.hid hT
  have h1 : c < 0 ∨ (¬ c < 0 ∧ 3 < c) ∨ (¬ c < 0 ∧ ¬ 3 < c ∧ (100 : Int) < a.size) ∨ (¬ c < 0 ∧ ¬ 3 < c ∧ ¬ (100 : Int) < a.size ∧ (100 : Int) < b.size) := by omega
  clear hT h
  rcases h1 with h1 | ⟨h1, h2⟩ | ⟨h1, h2, h3⟩ | ⟨h1, h2, h3, h4⟩
  all_goals
    go_enter Tryz.func7, Tryz.ntmps7
    go_wp2_with (go_at_call 9; refine (awake10 _ HT.out).mono ?_; rintro e w1 ⟨rfl, hb1⟩)
    go_ret
    exact ⟨rfl, hb1⟩
/-- The score of bytes in a charset of one byte a sign. -/
theorem one_score (c : Nat) (hc : c ≤ 3) (s : ByteArray) : scoreB s c = some (score10 c (-1) (decZ c s.data.toList)) := by
  unfold scoreB
  have e : decN c s = (txt (decZ c s.data.toList), -1) := by unfold decN; rw [if_pos hc]
  rw [Int.toNat_natCast, e, if_pos ⟨by omega, by omega, (show (-1 : Int) < 0 by decide)⟩, txt_sgn _ (decZ_signs c _ (by omega) (by omega))]
theorem decZ_both (c : Int) (a b : ByteArray) : decZ c (a ++ b).data.toList = decZ c a.data.toList ++ decZ c b.data.toList := by
  rw [append_list]
  unfold decZ
  rw [List.map_append]
theorem decZ_some (c : Int) (a : ByteArray) (h : decZ c a.data.toList ≠ []) : a.data.toList ≠ [] := fun e => h (by rw [e]; rfl)
/-- The score of both: the sum, or three less. -/
theorem sums (c : Nat) (hc : c ≤ 3) (a b : ByteArray) : scN (a ++ b) c = scN a c + scN b c ∨ (a.data.toList ≠ [] ∧ b.data.toList ≠ [] ∧ scN (a ++ b) c = scN a c + scN b c - 3) := by
  rw [scN_yes (one_score c hc (a ++ b)), scN_yes (one_score c hc a), scN_yes (one_score c hc b), decZ_both]
  rcases score10_sum c (decZ c a.data.toList) (decZ c b.data.toList) with h | ⟨h1, h2, h⟩
  · exact .inl h
  · exact .inr ⟨decZ_some c a h1, decZ_some c b h2, h⟩
set_option maxRecDepth 100000 in
set_option maxHeartbeats 4000000 in
theorem walk_main (c : Nat) (hc : c ≤ 3) (a b : ByteArray) (W : World) (hT : Tabs W) (ha : a.size ≤ 100) (hb : b.size ≤ 100) : Calls Tryz.prog 7 #[.int .i64 c, .string a, .string b] W fun e w' => e = .returned (.bool true) ∧ Ext W w' := by
  have HT := Lib.hid hT
  have h1 : ¬ (c : Int) < 0 := by omega
  have h2 : ¬ (3 : Int) < c := by omega
  have h3 : ¬ (100 : Int) < a.size := by omega
  have h4 : ¬ (100 : Int) < b.size := by omega
  have hab : (a ++ b).size = a.size + b.size := by simp
  have HCA := Lib.hid (fun w hT => cscore c a w hT (by omega))
  have HCB := Lib.hid (fun w hT => cscore c b w hT (by omega))
  have HCC := Lib.hid (fun w hT => cscore c (a ++ b) w hT (by omega))
  rw [one_score c hc a] at HCA
  rw [one_score c hc b] at HCB
  rw [one_score c hc (a ++ b)] at HCC
  have b1 := scN_bd a c
  have b2 := scN_bd b c
  have hsum := sums c hc a b
  generalize scN (a ++ b) c = z at HCC hsum
  generalize scN a c = x at HCA hsum b1
  generalize scN b c = y at HCB hsum b2
  have x0 : -8800 ≤ x := by omega
  have x1 : x ≤ 4800 := by omega
  have y0 : -8800 ≤ y := by omega
  have y1 : y ≤ 4800 := by omega
  clear hT hc b1 b2 hab ha hb
  generalize (c : Int) = q at HCA HCB HCC h1 h2 ⊢
  have K1 := Lib.hid trivial
  have K2 := Lib.hid trivial
  rcases hsum with rfl | ⟨hna, hnb, rfl⟩
  · go_enter Tryz.func7, Tryz.ntmps7
    go_wp2_with (first
      | (go_at_call 10; clear K1; refine (HCA.out _ HT.out.d).mono ?_; rintro e w1 ⟨rfl, hb1⟩; have HT1 := Lib.hid (HT.out.ext hb1))
      | (go_at_call 10; clear K2; refine (HCB.out _ HT1.out.d).mono ?_; rintro e w2 ⟨rfl, hb2⟩; have HT2 := Lib.hid (HT1.out.ext hb2))
      | (go_at_call 10; refine (HCC.out _ HT2.out.d).mono ?_; rintro e w3 ⟨rfl, hb3⟩; have HT3 := Lib.hid (HT2.out.ext hb3))
      | (go_at_call 9; refine (awake10 _ HT3.out).mono ?_; rintro e w4 ⟨rfl, hb4⟩))
    go_ret
    exact ⟨by first | (simp; done) | rfl, ((hb1.trans hb2).trans hb3).trans hb4⟩
  · have g0 : ((x + y - 3) == (x + y)) = false := beq_false_of_ne (by omega)
    have na := ne_facts9 hna
    have nb := ne_facts9 hnb
    obtain ⟨na1, na2, na3⟩ := na
    obtain ⟨nb1, nb2, nb3⟩ := nb
    clear hna hnb
    go_enter Tryz.func7, Tryz.ntmps7
    go_wp2_with (first
      | (go_at_call 10; clear K1; refine (HCA.out _ HT.out.d).mono ?_; rintro e w1 ⟨rfl, hb1⟩; have HT1 := Lib.hid (HT.out.ext hb1))
      | (go_at_call 10; clear K2; refine (HCB.out _ HT1.out.d).mono ?_; rintro e w2 ⟨rfl, hb2⟩; have HT2 := Lib.hid (HT1.out.ext hb2))
      | (go_at_call 10; refine (HCC.out _ HT2.out.d).mono ?_; rintro e w3 ⟨rfl, hb3⟩; have HT3 := Lib.hid (HT2.out.ext hb3))
      | (go_at_call 9; refine (awake10 _ HT3.out).mono ?_; rintro e w4 ⟨rfl, hb4⟩))
    go_ret
    exact ⟨by first | (simp; done) | rfl, ((hb1.trans hb2).trans hb3).trans hb4⟩
theorem walk (c : Int) (a b : ByteArray) (W : World) (hT : Tabs W) : Calls Tryz.prog 7 #[.int .i64 c, .string a, .string b] W fun e w' => e = .returned (.bool true) ∧ Ext W w' := by
  by_cases h : (0 ≤ c ∧ c ≤ 3) ∧ a.size ≤ 100 ∧ b.size ≤ 100
  · obtain ⟨⟨h0, h3⟩, ha, hb⟩ := h
    obtain ⟨k, rfl⟩ := Int.eq_ofNat_of_zero_le h0
    exact walk_main k (by omega) a b W hT ha hb
  · exact walk_long c a b W hT (by omega)
end Go.Proofs.YtndopjmdpmkgeaaGreatDoor.detectSums

namespace Go.Proofs.YtndopjmdpmkgeaaGreatDoor.detectSigns
open Go Go.Proofs.YtndopjmdpmkgeaaGreatDoor Go.ChangeShapes Go.WideShapes Go.ChangeAt Go.RowKit
open Go.ChangeMaps (open_string shut_string)
set_option linter.unusedSimpArgs false
set_option linter.unusedVariables false

abbrev Tabs (w : World) : Prop := TabE w
set_option maxRecDepth 100000 in
set_option maxHeartbeats 4000000 in
theorem walk_long (c : Int) (b d : ByteArray) (fb : Int) (g : Bool) (W : World) (hT : Tabs W) (h : 100 < b.size ∨ (b.size ≤ 100 ∧ 50 < d.size)) : Calls Tryz.prog 8 #[.int .i64 c, .string b, .string d, .int .i64 fb, .bool g] W fun e w' => e = .returned (.bool true) ∧ Ext W w' := by
  have HT := Lib.hid hT
  have h1 : (100 : Int) < b.size ∨ (¬ (100 : Int) < b.size ∧ (50 : Int) < d.size) := by omega
  clear hT h
  rcases h1 with h1 | ⟨h1, h2⟩
  all_goals
    go_enter Tryz.func8, Tryz.ntmps8
    go_wp2_with (go_at_call 9; refine (awake10 _ HT.out).mono ?_; rintro e w1 ⟨rfl, hb1⟩)
    go_ret
    exact ⟨rfl, hb1⟩
/-- What the document's Decode answers: a fault, or signs. -/
theorem ref_or (c : Int) (s : ByteArray) (hs : s.size ≤ 1000) :
    (∃ (u : ByteArray) (x y : Int), x ≠ 0 ∧ ∀ w, Calls Tryz.prog 20 #[.int .i64 c, .string s] w fun e w' => e = .returned (.tuple #[.string u, .int .i64 x, .int .i64 y]) ∧ Ext w w') ∨
    (∃ (u : ByteArray), badS u < 0 ∧ u.size ≤ 100000 ∧ ∀ w, Calls Tryz.prog 20 #[.int .i64 c, .string s] w fun e w' => e = .returned (.tuple #[.string u, .int .i64 0, .int .i64 0]) ∧ Ext w w') := by
  by_cases hc : c < 0 ∨ 9 < c
  · exact .inl ⟨_, 5, _, by decide, fun w => rdecN_arg c s w hc⟩
  · obtain ⟨k, rfl⟩ := Int.eq_ofNat_of_zero_le (show 0 ≤ c by omega)
    by_cases h : (decN k s).2 < 0
    · refine .inr ⟨(decN k s).1, decN_signs9 k s, ?_, fun w => ?_⟩
      · have := decN_size9 k (by omega) s
        omega
      · have := rdecN k s w (by omega) (by omega)
        rwa [show code9 (decN k s).2 = 0 from if_pos h, show at9 (decN k s).2 = 0 from if_pos h] at this
    · refine .inl ⟨(decN k s).1, 2, at9 (decN k s).2, by decide, fun w => ?_⟩
      have := rdecN k s w (by omega) (by omega)
      rwa [show code9 (decN k s).2 = 2 from if_neg h] at this
set_option maxRecDepth 100000 in
set_option maxHeartbeats 4000000 in
theorem walk_main (c : Int) (b d : ByteArray) (fb : Int) (g : Bool) (W : World) (hT : Tabs W) (hb : b.size ≤ 100) (hd : d.size ≤ 50) : Calls Tryz.prog 8 #[.int .i64 c, .string b, .string d, .int .i64 fb, .bool g] W fun e w' => e = .returned (.bool true) ∧ Ext W w' := by
  have HT := Lib.hid hT
  have h1 : ¬ (100 : Int) < b.size := by omega
  have h2 : ¬ (50 : Int) < d.size := by omega
  have hor := ref_or c b (by omega)
  clear hT hb hd
  rcases hor with ⟨u, x, y, hx, hD⟩ | ⟨u, hu, hz, hD⟩
  · have HD := Lib.hid hD
    have g0 : (x != 0) = true := bne10 hx
    clear hD hx
    go_enter Tryz.func8, Tryz.ntmps8
    go_wp2_with (first
      | (go_at_call 20; refine (HD.out _).mono ?_; rintro e w1 ⟨rfl, hb1⟩)
      | (go_at_call 9; refine (awake10 _ (HT.out.ext hb1)).mono ?_; rintro e w2 ⟨rfl, hb2⟩))
    go_ret
    exact ⟨rfl, hb1.trans hb2⟩
  · have HD := Lib.hid hD
    have HC := Lib.hid (fun w hT => cresolve_signs u d 0 fb g 0 w hT hz hu)
    clear hD hu hz
    go_enter Tryz.func8, Tryz.ntmps8
    go_wp2_with (first
      | (go_at_call 20; refine (HD.out _).mono ?_; rintro e w1 ⟨rfl, hb1⟩)
      | (go_at_call 9; refine (awake10 _ (HT.out.ext hb1)).mono ?_; rintro e w2 ⟨rfl, hb2⟩; have hx2 := hb1.trans hb2)
      | (go_at_call 18; refine (HC.out _ (HT.out.ext hx2)).mono ?_; rintro e w3 ⟨rfl, hb3⟩))
    go_ret
    exact ⟨by first | (simp; done) | rfl, hx2.trans hb3⟩
theorem walk (c : Int) (b d : ByteArray) (fb : Int) (g : Bool) (W : World) (hT : Tabs W) : Calls Tryz.prog 8 #[.int .i64 c, .string b, .string d, .int .i64 fb, .bool g] W fun e w' => e = .returned (.bool true) ∧ Ext W w' := by
  by_cases h : b.size ≤ 100 ∧ d.size ≤ 50
  · exact walk_main c b d fb g W hT h.1 h.2
  · exact walk_long c b d fb g W hT (by omega)
end Go.Proofs.YtndopjmdpmkgeaaGreatDoor.detectSigns

