/-
  The document's answers of layer 8 (2): the signs of two bytes as a text; the code of the signs with which some begin.
-/
import Derived.Test.YtabcneomeemnpaaDoorBg1
import Derived.Test.YtabcneomeemnpaaDoorBg2
namespace Go.Proofs.YtabcneomeemnpaaDoor
open Go Go.ChangeShapes Go.WideShapes Go.ChangeAt Go.RowKit
set_option linter.unusedSimpArgs false
set_option linter.unusedVariables false

/-- The text of two bytes' signs. -/
def sigT (a b : Nat) : ByteArray := ⟨(encs (signsB a b)).toArray⟩
theorem sigT_two (a b : Nat) (p q : Int) (h : twoS ((a * 256 + b : Nat) : Int) = (p, q)) (hp : p ≠ 0) : sigT a b = signText p ++ signText q := by
  unfold sigT signsB
  rw [h, if_pos hp, show [p, q] = [p] ++ [q] from rfl, encs_app, encs_one, encs_one]
  apply ByteArray.ext
  rw [ByteArray.data_append]
  simp [signText]
theorem sigT_one (a b : Nat) (h : (twoS ((a * 256 + b : Nat) : Int)).1 = 0) (hp : oneB a b ≠ 0) : sigT a b = signText (oneB a b) := by
  unfold sigT signsB
  rw [if_neg (by rw [h]; decide), if_pos hp, encs_one]
  rfl
theorem sigT_no (a b : Nat) (h : (twoS ((a * 256 + b : Nat) : Int)).1 = 0) (hp : oneB a b = 0) : sigT a b = ⟨#[]⟩ := by
  unfold sigT signsB
  rw [if_neg (by rw [h]; decide), if_neg (by rw [hp]; decide)]
  rfl
theorem signText_size (p : Int) : (signText p).size ≤ 4 := by
  show (Lib.encodeRune p).toArray.size ≤ 4
  rw [List.size_toArray]
  exact enc_le p
set_option maxRecDepth 100000 in
set_option maxHeartbeats 1000000 in
theorem rsigns8 (a b : Nat) (w : World) (ha : a < 256) (hb : b < 256) : Calls Tryd.prog 8 #[.int .i64 a, .int .i64 b] w fun e w' => e = .returned (.string (sigT a b)) ∧ Ext w w' := by
  have H1 := Lib.hid (fun w => rtwo8 (a : Int) (b : Int) w (by omega) (by omega) (by omega) (by omega))
  have H2 := Lib.hid (fun w => rone8 a (b : Int) w (by omega) (by omega))
  have H3 := Lib.hid (fun (p : Int) (h : isSign p = true) (w : World) => rbytes_any p w h)
  have hc : ((a : Int) * 256 + (b : Int)) = ((a * 256 + b : Nat) : Int) := by omega
  rw [hc] at H1
  rcases two_cases ((a * 256 + b : Nat) : Int) with e | ⟨c, e⟩ | ⟨c, e⟩ | ⟨c, e⟩ | ⟨c, e⟩
  · rw [e] at H1
    have e0 : (twoS ((a * 256 + b : Nat) : Int)).1 = 0 := by rw [e]
    by_cases hp : oneB a b = 0
    · rw [sigT_no a b e0 hp]
      rw [hp] at H2
      clear e e0 hc
      go_enter Tryd.func8, Tryd.ntmps8
      go_wp2_with (first
        | (go_at_call 17; refine (H1.out _).mono ?_; rintro e w1 ⟨rfl, rfl⟩)
        | (go_at_call 14; refine (H2.out _).mono ?_; rintro e w1 ⟨rfl, hx⟩))
      go_ret
      exact ⟨rfl, hx⟩
    · rw [sigT_one a b e0 hp]
      have hbd := oneB_bd a b
      have hs : isSign (oneB a b) = true := (isSign_iff _).2 (by omega)
      have g : (oneB a b == 0) = false := beq_false_of_ne hp
      generalize oneB a b = p at H2 hp hs g ⊢
      clear e e0 hc hbd
      go_enter Tryd.func8, Tryd.ntmps8
      go_wp2_with (first
        | (go_at_call 17; refine (H1.out _).mono ?_; rintro e w1 ⟨rfl, rfl⟩)
        | (go_at_call 14; refine (H2.out _).mono ?_; rintro e w1 ⟨rfl, hx⟩)
        | (go_at_call 18; refine (H3.out _ hs _).mono ?_; rintro e w1 ⟨rfl, hy⟩))
      go_ret
      exact ⟨rfl, hx.trans hy⟩
  all_goals
    rw [sigT_two a b _ _ e (by decide)]
    rw [e] at H1
    have hz1 := signText_size 202
    have hz2 := signText_size 234
    have hz3 := signText_size 772
    have hz4 := signText_size 780
    have hx := Ext.refl w
    clear e c hc
    go_enter Tryd.func8, Tryd.ntmps8
    go_wp2_with (first
      | (go_at_call 17; refine (H1.out _).mono ?_; rintro e w1 ⟨rfl, rfl⟩)
      | (go_at_call 18; refine (H3.out _ ?_ _).mono ?_; (· decide); rintro e w1 ⟨rfl, hy⟩; replace hx := hx.trans hy; clear hy))
    go_ret
    exact ⟨rfl, hx⟩
end Go.Proofs.YtabcneomeemnpaaDoor
