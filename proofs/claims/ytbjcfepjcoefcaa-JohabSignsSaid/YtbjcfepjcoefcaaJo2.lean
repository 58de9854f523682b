/-
  The document's answers of layer 6 (2): the sign of a code, the code of a sign.
-/
import Derived.Test.YtbjcfepjcoefcaaJo1
namespace Go.Proofs.Ytbjcfepjcoefcaa
open Go Go.ChangeShapes Go.WideShapes Go.ChangeAt Go.RowKit
set_option linter.unusedSimpArgs false
set_option linter.unusedVariables false

/-- The sign of three parts' numbers; 0: there is none. -/
def partsJ (i m f : Int) : Int :=
  if i < -1 ∨ 18 < i ∨ m = -2 ∨ f = -2 then 0
  else if 0 ≤ i ∧ 0 ≤ m then 44032 + (i * 21 + m) * 28 + f
  else if i < 0 ∧ 0 ≤ m ∧ f = 0 then 12623 + m
  else if 0 ≤ i ∧ m < 0 ∧ f = 0 then aloneZ i
  else if i < 0 ∧ m < 0 ∧ 0 < f then aloneZ (100 + f)
  else 0
/-- The sign of a code of sixteen bits; 0: there is none. -/
def signJ (c : Nat) : Int := if c < 32768 then 0 else partsJ (((c / 1024 % 32 : Nat) : Int) - 2) (medZ (c / 32 % 32)) (finZ (c % 32))
set_option maxRecDepth 100000 in
set_option maxHeartbeats 4000000 in
theorem rsignj (c : Nat) (w : World) (h : c < 65536) : Calls Try.prog 8 #[.int .i64 c] w fun e w' => e = .returned (.int .i32 (signJ c)) ∧ Ext w w' := by
  by_cases hlo : c < 32768
  · have e : signJ c = 0 := if_pos hlo
    rw [e]
    obtain ⟨n, hn⟩ : ∃ n : Int, n = c := ⟨_, rfl⟩
    rw [← hn]
    have h1 : n < 32768 := by omega
    clear hn e hlo h
    go_enter Try.func8, Try.ntmps8
    go_wp2
    go_ret
    exact ⟨rfl, Ext.refl _⟩
  have e : signJ c = partsJ (((c / 1024 % 32 : Nat) : Int) - 2) (medZ (c / 32 % 32)) (finZ (c % 32)) := if_neg hlo
  rw [e]
  have hm := medZ_bd ⟨c / 32 % 32, by omega⟩
  have hf := finZ_bd ⟨c % 32, by omega⟩
  have hm : -2 ≤ medZ (c / 32 % 32) ∧ medZ (c / 32 % 32) ≤ 20 := hm
  have hf : (finZ (c % 32) = -2 ∨ 0 ≤ finZ (c % 32)) ∧ finZ (c % 32) ≤ 27 := hf
  have HM := Lib.hid (fun w => rmedial (c / 32 % 32) w (by omega))
  have HF := Lib.hid (fun w => rfinal (c % 32) w (by omega))
  have e1 : ((c / 32 % 32 : Nat) : Int) = (c : Int) / 32 % 32 := by omega
  have e2 : ((c % 32 : Nat) : Int) = (c : Int) % 32 := by omega
  have e3 : ((c / 1024 % 32 : Nat) : Int) = (c : Int) / 1024 % 32 := by omega
  rw [e1] at HM
  rw [e2] at HF
  rw [e3]
  generalize medZ (c / 32 % 32) = m at hm HM
  generalize finZ (c % 32) = f at hf HF
  obtain ⟨n, hn⟩ : ∃ n : Int, n = c := ⟨_, rfl⟩
  rw [← hn] at HM HF ⊢
  have n0 : ¬ n < 32768 := by omega
  have n1 : 0 ≤ n := by omega
  have n2 : n < 65536 := by omega
  clear hn e e1 e2 e3 hlo h
  obtain ⟨i, hi⟩ : ∃ i : Int, i = n / 1024 % 32 - 2 := ⟨_, rfl⟩
  have i0 : -2 ≤ i := by omega
  have i1 : i ≤ 29 := by omega
  obtain ⟨m0, m1⟩ := hm
  obtain ⟨f0, f1⟩ := hf
  rw [← hi]
  have HI := Lib.hid hi
  clear hi
  have HS : Hid (∀ w, Calls Try.prog 8 #[.int .i64 n] w fun e w' => e = .returned (.int .i32 (partsJ i m f)) ∧ Ext w w') := by
    intro w
    by_cases a1 : i < -1
    · have hp : partsJ i m f = 0 := if_pos (.inl a1)
      rw [hp]
      have hi := HI.out
      subst hi
      clear HI hp f0
      go_enter Try.func8, Try.ntmps8
      go_wp2_with (first
        | (go_at_call 15; refine (HM.out _).mono ?_; rintro e w1 ⟨rfl, hb1⟩)
        | (go_at_call 16; refine (HF.out _).mono ?_; rintro e w2 ⟨rfl, hb2⟩))
      go_ret
      exact ⟨rfl, hb1.trans hb2⟩
    by_cases a2 : 18 < i
    · have hp : partsJ i m f = 0 := if_pos (.inr (.inl a2))
      rw [hp]
      have hi := HI.out
      subst hi
      clear HI hp f0
      go_enter Try.func8, Try.ntmps8
      go_wp2_with (first
        | (go_at_call 15; refine (HM.out _).mono ?_; rintro e w1 ⟨rfl, hb1⟩)
        | (go_at_call 16; refine (HF.out _).mono ?_; rintro e w2 ⟨rfl, hb2⟩))
      go_ret
      exact ⟨rfl, hb1.trans hb2⟩
    by_cases a3 : m = -2
    · have hp : partsJ i m f = 0 := if_pos (.inr (.inr (.inl a3)))
      rw [hp]
      subst a3
      have hi := HI.out
      subst hi
      clear HI hp f0
      go_enter Try.func8, Try.ntmps8
      go_wp2_with (first
        | (go_at_call 15; refine (HM.out _).mono ?_; rintro e w1 ⟨rfl, hb1⟩)
        | (go_at_call 16; refine (HF.out _).mono ?_; rintro e w2 ⟨rfl, hb2⟩))
      go_ret
      exact ⟨rfl, hb1.trans hb2⟩
    have a3b : (m == -2) = false := beq_false_of_ne a3
    by_cases a4 : f = -2
    · have hp : partsJ i m f = 0 := if_pos (.inr (.inr (.inr a4)))
      rw [hp]
      subst a4
      have hi := HI.out
      subst hi
      clear HI hp f0
      go_enter Try.func8, Try.ntmps8
      go_wp2_with (first
        | (go_at_call 15; refine (HM.out _).mono ?_; rintro e w1 ⟨rfl, hb1⟩)
        | (go_at_call 16; refine (HF.out _).mono ?_; rintro e w2 ⟨rfl, hb2⟩))
      go_ret
      exact ⟨rfl, hb1.trans hb2⟩
    have a4b : (f == -2) = false := beq_false_of_ne a4
    have hno : ¬ (i < -1 ∨ 18 < i ∨ m = -2 ∨ f = -2) := by omega
    have f2 : 0 ≤ f := by omega
    by_cases b1 : 0 ≤ i
    · have b1n : ¬ i < 0 := by omega
      by_cases b2 : 0 ≤ m
      · have hp : partsJ i m f = 44032 + (i * 21 + m) * 28 + f := by unfold partsJ; rw [if_neg hno, if_pos ⟨b1, b2⟩]
        rw [hp]
        clear hno
        have hi := HI.out
        subst hi
        clear HI hp f0
        go_enter Try.func8, Try.ntmps8
        go_wp2_with (first
          | (go_at_call 15; refine (HM.out _).mono ?_; rintro e w1 ⟨rfl, hb1⟩)
          | (go_at_call 16; refine (HF.out _).mono ?_; rintro e w2 ⟨rfl, hb2⟩))
        go_ret
        exact ⟨rfl, hb1.trans hb2⟩
      · have b2n : m < 0 := by omega
        by_cases b3 : f = 0
        · have hp : partsJ i m f = aloneZ i := by unfold partsJ; rw [if_neg hno, if_neg (by omega), if_neg (by omega), if_pos ⟨b1, b2n, b3⟩]
          rw [hp]
          clear hno
          subst b3
          have hi := HI.out
          subst hi
          clear HI hp f0
          go_enter Try.func8, Try.ntmps8
          go_wp2_with (first
            | (go_at_call 15; refine (HM.out _).mono ?_; rintro e w1 ⟨rfl, hb1⟩)
            | (go_at_call 16; refine (HF.out _).mono ?_; rintro e w2 ⟨rfl, hb2⟩)
            | (go_at_call 17; refine (ralone _ _).mono ?_; rintro e w3 ⟨rfl, hb3⟩))
          go_ret
          exact ⟨rfl, (hb1.trans hb2).trans hb3⟩
        · have b3b : (f == 0) = false := beq_false_of_ne b3
          have hp : partsJ i m f = 0 := by unfold partsJ; rw [if_neg hno, if_neg (by omega), if_neg (by omega), if_neg (by omega), if_neg (by omega)]
          rw [hp]
          clear hno
          have hi := HI.out
          subst hi
          clear HI hp f0
          go_enter Try.func8, Try.ntmps8
          go_wp2_with (first
            | (go_at_call 15; refine (HM.out _).mono ?_; rintro e w1 ⟨rfl, hb1⟩)
            | (go_at_call 16; refine (HF.out _).mono ?_; rintro e w2 ⟨rfl, hb2⟩))
          go_ret
          exact ⟨rfl, hb1.trans hb2⟩
    · have b1n : i < 0 := by omega
      by_cases b2 : 0 ≤ m
      · have b2n : ¬ m < 0 := by omega
        by_cases b3 : f = 0
        · have hp : partsJ i m f = 12623 + m := by unfold partsJ; rw [if_neg hno, if_neg (by omega), if_pos ⟨b1n, b2, b3⟩]
          rw [hp]
          clear hno
          subst b3
          have hi := HI.out
          subst hi
          clear HI hp f0
          go_enter Try.func8, Try.ntmps8
          go_wp2_with (first
            | (go_at_call 15; refine (HM.out _).mono ?_; rintro e w1 ⟨rfl, hb1⟩)
            | (go_at_call 16; refine (HF.out _).mono ?_; rintro e w2 ⟨rfl, hb2⟩))
          go_ret
          exact ⟨rfl, hb1.trans hb2⟩
        · have b3b : (f == 0) = false := beq_false_of_ne b3
          have hp : partsJ i m f = 0 := by unfold partsJ; rw [if_neg hno, if_neg (by omega), if_neg (by omega), if_neg (by omega), if_neg (by omega)]
          rw [hp]
          clear hno
          have hi := HI.out
          subst hi
          clear HI hp f0
          go_enter Try.func8, Try.ntmps8
          go_wp2_with (first
            | (go_at_call 15; refine (HM.out _).mono ?_; rintro e w1 ⟨rfl, hb1⟩)
            | (go_at_call 16; refine (HF.out _).mono ?_; rintro e w2 ⟨rfl, hb2⟩))
          go_ret
          exact ⟨rfl, hb1.trans hb2⟩
      · have b2n : m < 0 := by omega
        by_cases b3 : 0 < f
        · have hp : partsJ i m f = aloneZ (100 + f) := by unfold partsJ; rw [if_neg hno, if_neg (by omega), if_neg (by omega), if_neg (by omega), if_pos ⟨b1n, b2n, b3⟩]
          rw [hp]
          clear hno
          have hi := HI.out
          subst hi
          clear HI hp f0
          go_enter Try.func8, Try.ntmps8
          go_wp2_with (first
            | (go_at_call 15; refine (HM.out _).mono ?_; rintro e w1 ⟨rfl, hb1⟩)
            | (go_at_call 16; refine (HF.out _).mono ?_; rintro e w2 ⟨rfl, hb2⟩)
            | (go_at_call 17; refine (ralone _ _).mono ?_; rintro e w3 ⟨rfl, hb3⟩))
          go_ret
          exact ⟨rfl, (hb1.trans hb2).trans hb3⟩
        · have hp : partsJ i m f = 0 := by unfold partsJ; rw [if_neg hno, if_neg (by omega), if_neg (by omega), if_neg (by omega), if_neg (by omega)]
          rw [hp]
          clear hno
          have hi := HI.out
          subst hi
          clear HI hp f0
          go_enter Try.func8, Try.ntmps8
          go_wp2_with (first
            | (go_at_call 15; refine (HM.out _).mono ?_; rintro e w1 ⟨rfl, hb1⟩)
            | (go_at_call 16; refine (HF.out _).mono ?_; rintro e w2 ⟨rfl, hb2⟩))
          go_ret
          exact ⟨rfl, hb1.trans hb2⟩
  exact HS.out w
/-- The least number from n on, of so many, that has a value; -1: none has. -/
def seekGo (g : Nat → Int) (p : Int) : Nat → Nat → Int
  | 0, _ => -1
  | k + 1, n => if g n = p then (n : Int) else seekGo g p k (n + 1)
theorem seekGo_at (g : Nat → Int) (p : Int) : ∀ (k n j : Nat), j < k → (∀ i, i < j → g (n + i) ≠ p) → g (n + j) = p → seekGo g p k n = ((n + j : Nat) : Int)
  | 0, _, _, h, _, _ => by omega
  | k + 1, n, 0, _, _, e => by rw [seekGo, if_pos (by simpa using e)]; rfl
  | k + 1, n, j + 1, h, hn, e => by
    have h0 := hn 0 (by omega)
    rw [seekGo, if_neg (by simpa using h0), seekGo_at g p k (n + 1) j (by omega) (fun i hi => by
      have := hn (i + 1) (by omega)
      rwa [show n + 1 + i = n + (i + 1) from by omega]) (by rwa [show n + 1 + j = n + (j + 1) from by omega])]
    omega
theorem seekGo_no (g : Nat → Int) (p : Int) : ∀ (k n : Nat), (∀ i, i < k → g (n + i) ≠ p) → seekGo g p k n = -1
  | 0, _, _ => rfl
  | k + 1, n, hn => by
    have h0 := hn 0 (by omega)
    rw [seekGo, if_neg (by simpa using h0), seekGo_no g p k (n + 1) (fun i hi => by
      have := hn (i + 1) (by omega)
      rwa [show n + 1 + i = n + (i + 1) from by omega])]
/-- The code of a sign; -1: there is none. -/
def codeJ (p : Int) : Int := if p < 12593 ∨ 55203 < p ∨ (12643 < p ∧ p < 44032) then -1 else seekGo signJ p 32768 32768
set_option maxRecDepth 100000 in
set_option maxHeartbeats 2000000 in
theorem rcode (p : Int) (w : World) : Calls Try.prog 11 #[.int .i32 p] w fun e w' => e = .returned (.int .i64 (codeJ p)) ∧ Ext w w' := by
  by_cases a1 : p < 12593
  · have e : codeJ p = -1 := if_pos (.inl a1)
    rw [e]
    go_enter Try.func11, Try.ntmps11
    go_wp2
    go_ret
    exact ⟨rfl, Ext.refl _⟩
  by_cases a2 : 55203 < p
  · have e : codeJ p = -1 := if_pos (.inr (.inl a2))
    rw [e]
    go_enter Try.func11, Try.ntmps11
    go_wp2
    go_ret
    exact ⟨rfl, Ext.refl _⟩
  by_cases a3 : 12643 < p ∧ p < 44032
  · have e : codeJ p = -1 := if_pos (.inr (.inr a3))
    rw [e]
    obtain ⟨a3, a4⟩ := a3
    go_enter Try.func11, Try.ntmps11
    go_wp2
    go_ret
    exact ⟨rfl, Ext.refl _⟩
  have e : codeJ p = seekGo signJ p 32768 32768 := if_neg (by omega)
  rw [e]
  obtain ⟨r, hr⟩ : ∃ r, seekGo signJ p 32768 32768 = r := ⟨_, rfl⟩
  rw [hr]
  have HR := Lib.hid hr
  clear hr e
  have HS := Lib.hid (fun (c : Nat) (h : c < 65536) w => rsignj c w h)
  have hcase : ¬ 12643 < p ∨ (12643 < p ∧ ¬ p < 44032) := by omega
  clear a3
  go_enter Try.func11, Try.ntmps11
  rcases hcase with a3 | ⟨a3, a4⟩
  all_goals
    go_wp2
    go_loopw [3] (fun i wr => ∃ k q : Nat, k = 32768 + q ∧ q ≤ 32768 ∧ i = .int .i64 k ∧ Ext w wr ∧ Hid (∀ j, j < q → signJ (32768 + j) ≠ p)) (fun i _ => 65536 - (intOf i).toNat)
    case atStart => exact ⟨32768, 0, rfl, by omega, rfl, Ext.refl _, fun j h => by omega⟩
    case round =>
      obtain ⟨k, q, hkq, hq, rfl, hx, HN⟩ := hrel
      have HKQ := Lib.hid hkq
      have hk0 : 32768 ≤ k := by omega
      have hk1 : k ≤ 65536 := by omega
      clear hkq hq
      by_cases hlt : k < 65536
      · have h8 : (k : Int) < 65536 := by omega
        have HB := Lib.hid (HS.out k hlt)
        by_cases he : signJ k = p
        · have HF : Hid (r = (k : Int)) := by
            show r = _
            rw [← HR.out]
            have := HKQ.out
            subst this
            exact seekGo_at signJ p 32768 32768 q (by omega) HN.out he
          rw [he] at HB
          clear he
          go_wp2_with (go_at_call 8; refine (HB.out _).mono ?_; rintro e w2 ⟨rfl, hb2⟩)
          go_ret
          exact ⟨by rw [HF.out]; rfl, hx.trans hb2⟩
        · have he2 : (signJ k == p) = false := beq_false_of_ne he
          have HE := Lib.hid he
          generalize signJ k = v at HB he he2
          go_wp2_with (go_at_call 8; refine (HB.out _).mono ?_; rintro e w2 ⟨rfl, hb2⟩)
          go_roundw
          case rel =>
            have hkq := HKQ.out
            refine ⟨k + 1, q + 1, by omega, by omega, by go_num, hx.trans hb2, fun j hj => ?_⟩
            by_cases e : j = q
            · rw [e, ← hkq]; exact HE.out
            · exact HN.out j (by omega)
          case measure => simp [intOf]; omega
      · have hq2 : q = 32768 := by have := HKQ.out; omega
        have HF : Hid (r = -1) := by
          show r = _
          rw [← HR.out]
          exact seekGo_no signJ p 32768 32768 (fun i hi => HN.out i (by omega))
        have h8 : ¬ (k : Int) < 65536 := by omega
        clear hlt
        go_wp2
        go_ret
        exact ⟨by rw [HF.out]; rfl, hx⟩
end Go.Proofs.Ytbjcfepjcoefcaa
