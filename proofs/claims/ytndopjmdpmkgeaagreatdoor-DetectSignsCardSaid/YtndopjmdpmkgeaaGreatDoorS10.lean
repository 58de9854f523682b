/-
  What the proof of this claim leans on (S10).
-/
import Derived.Test.YtndopjmdpmkgeaaGreatDoorS3
import Derived.Test.YtndopjmdpmkgeaaGreatDoorS9
namespace Go.Proofs.YtndopjmdpmkgeaaGreatDoor
open Go Go.RowKit
set_option linter.unusedSimpArgs false
set_option linter.unusedVariables false

/-- A unit's number. -/
def un (big : Bool) (x y : UInt8) : Nat := if big then x.toNat * 256 + y.toNat else y.toNat * 256 + x.toNat
theorem un_lt (big : Bool) (x y : UInt8) : un big x y < 65536 := by
  have := x.toNat_lt
  have := y.toNat_lt
  unfold un
  split <;> omega
/-- Is it the first unit of two? Is it the second one? -/
def isHi (n : Nat) : Bool := decide (55296 ≤ n ∧ n < 56320)
def isLo (n : Nat) : Bool := decide (56320 ≤ n ∧ n < 57344)
theorem isHi_iff (n : Nat) : isHi n = true ↔ 55296 ≤ n ∧ n < 56320 := by simp [isHi]
theorem isLo_iff (n : Nat) : isLo n = true ↔ 56320 ≤ n ∧ n < 57344 := by simp [isLo]
/-- The sign of two units. -/
def pairOf (u v : Nat) : Int := 65536 + ((u : Int) - 55296) * 1024 + v - 56320
theorem pairOf_bd {u v : Nat} (h : isHi u = true) (k : isLo v = true) : 65536 ≤ pairOf u v ∧ pairOf u v ≤ 1114111 := by
  have := (isHi_iff u).1 h
  have := (isLo_iff v).1 k
  unfold pairOf
  omega
theorem pairOf_sign {u v : Nat} (h : isHi u = true) (k : isLo v = true) : isSign (pairOf u v) = true := by
  have := pairOf_bd h k
  exact (isSign_iff _).2 (.inr (by omega))
def wdTwo (big : Bool) (f : Nat → List UInt8 → List Int × Int) (a : Nat) (x y : UInt8) : List UInt8 → List Int × Int
  | x2 :: y2 :: l2 => if isHi (un big x y) && isLo (un big x2 y2) then (pairOf (un big x y) (un big x2 y2) :: (f (a + 4) l2).1, (f (a + 4) l2).2) else ([], (a : Int))
  | _ => ([], (a : Int))
def wdStep (big : Bool) (f : Nat → List UInt8 → List Int × Int) (a : Nat) : List UInt8 → List Int × Int
  | [] => ([], -1)
  | [_] => ([], (a : Int))
  | x :: y :: l => if isSign ((un big x y : Nat) : Int) then (((un big x y : Nat) : Int) :: (f (a + 2) l).1, (f (a + 2) l).2) else wdTwo big f a x y l
/-- The signs whose units bytes are, up to the first place at which there is none; that place (a being that of the first byte), or -1. -/
def wdGo (big : Bool) : Nat → Nat → List UInt8 → List Int × Int
  | 0 => fun _ _ => ([], -1)
  | n + 1 => fun a l => wdStep big (wdGo big n) a l
def wd (big : Bool) (a : Nat) (l : List UInt8) : List Int × Int := wdGo big l.length a l
theorem wdGo_succ (big : Bool) (n a : Nat) (l : List UInt8) : wdGo big (n + 1) a l = wdStep big (wdGo big n) a l := rfl
theorem wdGo_sign (big : Bool) (n a : Nat) (x y : UInt8) (l : List UInt8) (h : isSign (un big x y) = true) : wdGo big (n + 1) a (x :: y :: l) = (((un big x y : Nat) : Int) :: (wdGo big n (a + 2) l).1, (wdGo big n (a + 2) l).2) := by
  rw [wdGo_succ]
  unfold wdStep
  exact if_pos h
theorem wdGo_not (big : Bool) (n a : Nat) (x y : UInt8) (l : List UInt8) (h : isSign (un big x y) = false) : wdGo big (n + 1) a (x :: y :: l) = wdTwo big (wdGo big n) a x y l := by
  rw [wdGo_succ]
  unfold wdStep
  exact if_neg (by rw [h]; exact Bool.false_ne_true)
theorem wdGo_pair (big : Bool) (n a : Nat) (x y x2 y2 : UInt8) (l : List UInt8) (h0 : isSign (un big x y) = false) : wdGo big (n + 1) a (x :: y :: x2 :: y2 :: l) = if isHi (un big x y) && isLo (un big x2 y2) then (pairOf (un big x y) (un big x2 y2) :: (wdGo big n (a + 4) l).1, (wdGo big n (a + 4) l).2) else ([], (a : Int)) := by
  rw [wdGo_not big n a x y _ h0]
  unfold wdTwo
  exact Eq.refl _
theorem wdGo_end (big : Bool) (n a : Nat) (x y : UInt8) (l : List UInt8) (h0 : isSign (un big x y) = false) (hl : l.length < 2) : wdGo big (n + 1) a (x :: y :: l) = ([], (a : Int)) := by
  rw [wdGo_not big n a x y _ h0]
  match l, hl with
  | [], _ => unfold wdTwo; exact Eq.refl _
  | [z], _ => unfold wdTwo; exact Eq.refl _
  | _ :: _ :: _, h => simp at h; omega
theorem wdGo_fuel (big : Bool) : ∀ (n m a : Nat) (l : List UInt8), l.length ≤ n → l.length ≤ m → wdGo big n a l = wdGo big m a l
  | 0, 0, _, _, _, _ => rfl
  | 0, m + 1, a, [], _, _ => rfl
  | 0, m + 1, a, _ :: _, h, _ => by simp at h
  | n + 1, 0, a, [], _, _ => rfl
  | n + 1, 0, a, _ :: _, _, h => by simp at h
  | n + 1, m + 1, a, [], _, _ => rfl
  | n + 1, m + 1, a, [_], _, _ => rfl
  | n + 1, m + 1, a, x :: y :: l, h, k => by
    have h1 : l.length ≤ n := by simp at h; omega
    have k1 : l.length ≤ m := by simp at k; omega
    cases hs : isSign (un big x y)
    · by_cases hl : l.length < 2
      · rw [wdGo_end big n a x y l hs hl, wdGo_end big m a x y l hs hl]
      · match l, hl with
        | [], hl => simp at hl
        | [_], hl => simp at hl
        | x2 :: y2 :: l2, _ =>
          rw [wdGo_pair big n a x y x2 y2 l2 hs, wdGo_pair big m a x y x2 y2 l2 hs, wdGo_fuel big n m (a + 4) l2 (by simp at h1; omega) (by simp at k1; omega)]
    · rw [wdGo_sign big n a x y l hs, wdGo_sign big m a x y l hs, wdGo_fuel big n m (a + 2) l h1 k1]
theorem wd_nil (big : Bool) (a : Nat) : wd big a [] = ([], -1) := rfl
theorem wd_one (big : Bool) (a : Nat) (x : UInt8) : wd big a [x] = ([], (a : Int)) := rfl
theorem wd_sign (big : Bool) (a : Nat) (x y : UInt8) (l : List UInt8) (h : isSign (un big x y) = true) : wd big a (x :: y :: l) = (((un big x y : Nat) : Int) :: (wd big (a + 2) l).1, (wd big (a + 2) l).2) := by
  unfold wd
  rw [List.length_cons, List.length_cons, wdGo_sign big _ a x y l h, wdGo_fuel big (l.length + 1) l.length _ l (by omega) (by omega)]
theorem wd_two (big : Bool) (a : Nat) (x y x2 y2 : UInt8) (l : List UInt8) (h0 : isSign (un big x y) = false) (h : isHi (un big x y) = true) (k : isLo (un big x2 y2) = true) : wd big a (x :: y :: x2 :: y2 :: l) = (pairOf (un big x y) (un big x2 y2) :: (wd big (a + 4) l).1, (wd big (a + 4) l).2) := by
  unfold wd
  rw [List.length_cons, List.length_cons, List.length_cons, List.length_cons, wdGo_pair big _ a x y x2 y2 l h0, if_pos (by rw [h, k]; rfl), wdGo_fuel big (l.length + 1 + 1 + 1) l.length _ l (by omega) (by omega)]
theorem wd_no (big : Bool) (a : Nat) (x y x2 y2 : UInt8) (l : List UInt8) (h0 : isSign (un big x y) = false) (h : (isHi (un big x y) && isLo (un big x2 y2)) = false) : wd big a (x :: y :: x2 :: y2 :: l) = ([], (a : Int)) := by
  unfold wd
  rw [List.length_cons, wdGo_pair big _ a x y x2 y2 l h0, if_neg (by rw [h]; decide)]
theorem wd_end (big : Bool) (a : Nat) (x y : UInt8) (l : List UInt8) (h0 : isSign (un big x y) = false) (hl : l.length < 2) : wd big a (x :: y :: l) = ([], (a : Int)) := by
  unfold wd
  rw [List.length_cons, wdGo_end big _ a x y l h0 hl]
/-- Where every unit that isn't a sign's stands, one of four ways leads on. -/
theorem wd_cases (big : Bool) (a : Nat) (l : List UInt8) {P : Prop} (h0 : l = [] → P) (h1 : ∀ x, l = [x] → P) (h2 : ∀ x y t, l = x :: y :: t → isSign (un big x y) = true → P)
    (h3 : ∀ x y x2 y2 t, l = x :: y :: x2 :: y2 :: t → isSign (un big x y) = false → isHi (un big x y) = true → isLo (un big x2 y2) = true → P)
    (h4 : ∀ x y x2 y2 t, l = x :: y :: x2 :: y2 :: t → isSign (un big x y) = false → (isHi (un big x y) && isLo (un big x2 y2)) = false → P)
    (h5 : ∀ x y t, l = x :: y :: t → isSign (un big x y) = false → t.length < 2 → P) : P := by
  match l, h0, h1, h2, h3, h4, h5 with
  | [], h0, _, _, _, _, _ => exact h0 rfl
  | [x], _, h1, _, _, _, _ => exact h1 x rfl
  | [x, y], _, _, h2, _, _, h5 =>
    cases hs : isSign (un big x y)
    · exact h5 x y [] rfl hs (by decide)
    · exact h2 x y [] rfl hs
  | [x, y, z], _, _, h2, _, _, h5 =>
    cases hs : isSign (un big x y)
    · exact h5 x y [z] rfl hs (by simp)
    · exact h2 x y [z] rfl hs
  | x :: y :: x2 :: y2 :: t, _, _, h2, h3, h4, _ =>
    cases hs : isSign (un big x y)
    · cases hh : isHi (un big x y)
      · exact h4 x y x2 y2 t rfl hs (by rw [hh]; rfl)
      · cases hl : isLo (un big x2 y2)
        · exact h4 x y x2 y2 t rfl hs (by rw [hl, hh]; rfl)
        · exact h3 x y x2 y2 t rfl hs hh hl
    · exact h2 x y _ rfl hs
theorem wd_signs (big : Bool) : ∀ (n a : Nat) (l : List UInt8), l.length ≤ n → allSigns (wd big a l).1 = true
  | 0, a, [], _ => rfl
  | 0, a, _ :: _, h => by simp at h
  | n + 1, a, l, hn => by
    refine wd_cases big a l (fun e => by subst e; rfl) (fun x e => by subst e; rfl) (fun x y t e h => ?_) (fun x y x2 y2 t e h h1 h2 => ?_) (fun x y x2 y2 t e h h1 => ?_) (fun x y t e h h1 => ?_)
    · subst e
      have ih := wd_signs big n (a + 2) t (by simp at hn; omega)
      rw [wd_sign big a x y t h]
      unfold allSigns at ih ⊢
      rw [List.all_cons, ih, h]; rfl
    · subst e
      have ih := wd_signs big n (a + 4) t (by simp at hn; omega)
      rw [wd_two big a x y x2 y2 t h h1 h2]
      unfold allSigns at ih ⊢
      rw [List.all_cons, ih, pairOf_sign h1 h2]; rfl
    · subst e; rw [wd_no big a x y x2 y2 t h h1]; rfl
    · subst e; rw [wd_end big a x y t h h1]; rfl
theorem wd_len (big : Bool) : ∀ (n a : Nat) (l : List UInt8), l.length ≤ n → 2 * (wd big a l).1.length ≤ l.length
  | 0, a, [], _ => Nat.le_refl _
  | 0, a, _ :: _, h => by simp at h
  | n + 1, a, l, hn => by
    refine wd_cases big a l (fun e => by subst e; exact Nat.le_refl _) (fun x e => by subst e; rw [wd_one]; simp) (fun x y t e h => ?_) (fun x y x2 y2 t e h h1 h2 => ?_) (fun x y x2 y2 t e h h1 => ?_) (fun x y t e h h1 => ?_)
    · subst e
      have ih := wd_len big n (a + 2) t (by simp at hn; omega)
      rw [wd_sign big a x y t h]
      simp only [List.length_cons]; omega
    · subst e
      have ih := wd_len big n (a + 4) t (by simp at hn; omega)
      rw [wd_two big a x y x2 y2 t h h1 h2]
      simp only [List.length_cons]; omega
    · subst e; rw [wd_no big a x y x2 y2 t h h1]; simp
    · subst e; rw [wd_end big a x y t h h1]; simp
/-- A unit as bytes. -/
def ub (big : Bool) (u : Nat) : List UInt8 := if big then [(u / 256).toUInt8, (u % 256).toUInt8] else [(u % 256).toUInt8, (u / 256).toUInt8]
theorem hi_not {u : Nat} (h : isHi u = true) : isSign (u : Int) = false := by
  have := (isHi_iff u).1 h
  exact (isSign_no _).2 (by omega)
end Go.Proofs.YtndopjmdpmkgeaaGreatDoor

