/-
  Layer 12, plainly: what is printed is read as it was.
-/
import Derived.Test.YtbdjncnofpbkkaaTa0
namespace Go.Proofs.Ytbdjncnofpbkkaa
open Go Go.RowKit
set_option linter.unusedSimpArgs false
set_option linter.unusedVariables false

/-- A tail that may be printed. -/
structure GoodT (T : TailZ) : Prop where
  cut : ∀ z, 0 ≤ z → z < 5 → cutZ (T.tx z) = T.tx z
  fits : ∀ z, 0 ≤ z → z < 5 → ((T.tx z).size : Int) ≤ widthZ z T.track
theorem checkFrom_good (T : TailZ) : ∀ (n : Nat) (i : Int), (checkFrom T n i).1 = 0 ↔ ∀ z, i ≤ z → z < i + n → cutZ (T.tx z) = T.tx z ∧ ((T.tx z).size : Int) ≤ widthZ z T.track
  | 0, i => by
    constructor
    · intro _ z h1 h2; omega
    · intro _; rfl
  | n + 1, i => by
    have ih := checkFrom_good T n (i + 1)
    unfold checkFrom
    by_cases h1 : cutZ (T.tx i) ≠ T.tx i
    · rw [if_pos h1]
      constructor
      · intro h; exact absurd h (show ¬ (5 : Int) = 0 by decide)
      · intro h; exact absurd (h i (by omega) (by omega)).1 h1
    · rw [if_neg h1]
      have h1' : cutZ (T.tx i) = T.tx i := Classical.byContradiction h1
      by_cases h2 : widthZ i T.track < ((T.tx i).size : Int)
      · rw [if_pos h2]
        constructor
        · intro h; exact absurd h (show ¬ (4 : Int) = 0 by decide)
        · intro h; have := (h i (by omega) (by omega)).2; omega
      · rw [if_neg h2, ih]
        constructor
        · intro h z hz1 hz2
          by_cases e : z = i
          · subst e; exact ⟨h1', by omega⟩
          · exact h z (by omega) (by omega)
        · intro h z hz1 hz2
          exact h z (by omega) (by omega)
theorem check_good (T : TailZ) : (checkZ T).1 = 0 ↔ GoodT T := by
  unfold checkZ
  rw [checkFrom_good T 5 0]
  constructor
  · intro h
    exact ⟨fun z h0 h5 => (h z h0 (by omega)).1, fun z h0 h5 => (h z h0 (by omega)).2⟩
  · intro h z h0 h5
    exact ⟨h.cut z h0 (by omega), h.fits z h0 (by omega)⟩
theorem checkFrom_zero (T : TailZ) : ∀ (n : Nat) (i : Int), (checkFrom T n i).1 = 0 → checkFrom T n i = (0, 0)
  | 0, i, _ => rfl
  | n + 1, i, h => by
    unfold checkFrom at h ⊢
    split at h
    · exact absurd h (show ¬ (5 : Int) = 0 by decide)
    · rename_i h1
      rw [if_neg h1]
      split at h
      · exact absurd h (show ¬ (4 : Int) = 0 by decide)
      · rename_i h2
        rw [if_neg h2]
        exact checkFrom_zero T n (i + 1) h
theorem check_zero (T : TailZ) (h : GoodT T) : checkZ T = (0, 0) := checkFrom_zero T 5 0 ((check_good T).2 h)
/-! ### A tail's bytes as a list -/
def padL (s : ByteArray) (n : Nat) : List UInt8 := s.data.toList ++ List.replicate (n - s.size) 0
theorem padL_len (s : ByteArray) (n : Nat) (h : s.size ≤ n) : (padL s n).length = n := by
  unfold padL
  rw [List.length_append, List.length_replicate]
  have : s.data.toList.length = s.size := rfl
  omega
theorem padZ_list (s : ByteArray) (n : Int) : (padZ s n).data.toList = padL s n.toNat := by
  unfold padZ padL
  rw [app_list]
  rfl
def w4 (k : Int) : Nat := if k = 0 then 30 else 28
def trL (k : Int) : List UInt8 := if k = 0 then [] else [0, (k % 256).toNat.toUInt8]
def printL (T : TailZ) : List UInt8 := [84, 65, 71] ++ (padL T.t0 30 ++ (padL T.t1 30 ++ (padL T.t2 30 ++ (padL T.t3 4 ++ (padL T.t4 (w4 T.track) ++ (trL T.track ++ [(T.genre % 256).toNat.toUInt8]))))))
theorem print_list (T : TailZ) : (printZ T).data.toList = printL T := by
  have hp : (printFrom T 5 0 ⟨#[84, 65, 71]⟩).data.toList = [84, 65, 71] ++ (padL T.t0 30 ++ (padL T.t1 30 ++ (padL T.t2 30 ++ (padL T.t3 4 ++ padL T.t4 (w4 T.track))))) := by
    have e0 : T.tx 0 = T.t0 := rfl
    have e1 : T.tx (0 + 1) = T.t1 := rfl
    have e2 : T.tx (0 + 1 + 1) = T.t2 := rfl
    have e3 : T.tx (0 + 1 + 1 + 1) = T.t3 := rfl
    have e4 : T.tx (0 + 1 + 1 + 1 + 1) = T.t4 := rfl
    have f0 : widthZ 0 T.track = 30 := by unfold widthZ; simp
    have f1 : widthZ (0 + 1) T.track = 30 := by unfold widthZ; simp
    have f2 : widthZ (0 + 1 + 1) T.track = 30 := by unfold widthZ; simp
    have f3 : widthZ (0 + 1 + 1 + 1) T.track = 4 := by unfold widthZ; simp
    have f4 : (widthZ (0 + 1 + 1 + 1 + 1) T.track).toNat = w4 T.track := by
      unfold widthZ w4
      by_cases h : T.track = 0 <;> simp [h]
    unfold printFrom printFrom printFrom printFrom printFrom printFrom
    rw [e0, e1, e2, e3, e4, f0, f1, f2, f3]
    simp only [app_list, padZ_list, f4]
    simp
  show ((if T.track ≠ 0 then printFrom T 5 0 ⟨#[84, 65, 71]⟩ ++ strOfNums [0, T.track % 256] else printFrom T 5 0 ⟨#[84, 65, 71]⟩) ++ byteZ8 T.genre).data.toList = _
  unfold printL trL
  by_cases h : T.track = 0
  · rw [if_neg (show ¬ T.track ≠ 0 from fun e => e h), if_pos h]
    simp only [app_list, hp]
    simp [byteZ8, strOfNums]
  · rw [if_pos (show T.track ≠ 0 from h), if_neg h]
    simp only [app_list, hp]
    simp [byteZ8, strOfNums]
theorem printL_len (T : TailZ) (h : GoodT T) : (printL T).length = 128 := by
  have s0 := h.fits 0 (by decide) (by decide)
  have s1 := h.fits 1 (by decide) (by decide)
  have s2 := h.fits 2 (by decide) (by decide)
  have s3 := h.fits 3 (by decide) (by decide)
  have s4 := h.fits 4 (by decide) (by decide)
  have s0 : T.t0.size ≤ 30 := by have := s0; rw [show T.tx 0 = T.t0 from rfl, show widthZ 0 T.track = 30 by unfold widthZ; simp] at this; omega
  have s1 : T.t1.size ≤ 30 := by have := s1; rw [show T.tx 1 = T.t1 from rfl, show widthZ 1 T.track = 30 by unfold widthZ; simp] at this; omega
  have s2 : T.t2.size ≤ 30 := by have := s2; rw [show T.tx 2 = T.t2 from rfl, show widthZ 2 T.track = 30 by unfold widthZ; simp] at this; omega
  have s3 : T.t3.size ≤ 4 := by have := s3; rw [show T.tx 3 = T.t3 from rfl, show widthZ 3 T.track = 4 by unfold widthZ; simp] at this; omega
  have s4 : T.t4.size ≤ w4 T.track := by
    have := s4
    rw [show T.tx 4 = T.t4 from rfl] at this
    unfold widthZ at this
    unfold w4
    by_cases hk : T.track = 0
    · simp [hk] at this ⊢; omega
    · simp [hk] at this ⊢; omega
  unfold printL
  simp only [List.length_append, padL_len _ _ s0, padL_len _ _ s1, padL_len _ _ s2, padL_len _ _ s3, padL_len _ _ s4]
  unfold w4 trL
  by_cases hk : T.track = 0 <;> simp [hk]
end Go.Proofs.Ytbdjncnofpbkkaa
