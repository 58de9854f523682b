/-
  The document's sign at a place is the decoder's.
-/
import Derived.Test.YtealeedbkjiabaaDoorPtAt
namespace Go.Proofs.YtealeedbkjiabaaDoor
open Go Go.ChangeShapes Go.WideShapes Go.ChangeAt Go.RowKit
set_option linter.unusedSimpArgs false
set_option linter.unusedVariables false

/-- The decoder's sign and its bytes; 0: there is none. -/
def atR (l : List UInt8) : Int × Int := if (Lib.decodeL l).1 = 65533 ∧ (Lib.decodeL l).2 = 1 then (0, 0) else (((Lib.decodeL l).1 : Int), ((Lib.decodeL l).2 : Int))
theorem atR_bad {l : List UInt8} (h : Lib.decodeL l = (65533, 1)) : atR l = (0, 0) := by unfold atR; rw [h]; rfl
theorem atR_ok {l : List UInt8} {v n : Nat} (h : Lib.decodeL l = (v, n)) (h2 : n ≠ 1) : atR l = ((v : Int), (n : Int)) := by unfold atR; rw [h]; exact if_neg (fun k => h2 k.2)
theorem size_sign {p : Int} (h : isSign p = true) : (signText p).size = if p < 128 then 1 else if p < 2048 then 2 else if p < 65536 then 3 else 4 := by
  have hp := (isSign_iff p).1 h
  have hl : (signText p).size = (Lib.encodeRuneZ p).length := by
    show (Lib.encodeRune p).length = _
    exact List.length_map _
  rw [hl]
  by_cases h1 : p < 128
  · rw [if_pos h1, Lib.encodeRuneZ_one (by omega) (by omega)]; rfl
  by_cases h2 : p < 2048
  · rw [if_neg h1, if_pos h2, Lib.encodeRuneZ_two (by omega) (by omega)]; rfl
  by_cases h3 : p < 65536
  · rw [if_neg h1, if_neg h2, if_pos h3, Lib.encodeRuneZ_three (by omega)]; rfl
  · rw [if_neg h1, if_neg h2, if_neg h3, Lib.encodeRuneZ_four (by omega) (by omega)]; rfl
theorem bounds {n : Nat} {p0 : Int} {m val : Nat → Int} (hn : n ≤ 4) (v1 : val 1 = p0) (vs : ∀ k, 1 ≤ k → val (k + 1) = val k * 64 + m k) (ml : ∀ k, -1 ≤ m k ∧ m k ≤ 63) (h0 : 0 ≤ p0) (h1 : p0 ≤ 31) :
    ∀ k, 1 ≤ k → k ≤ n → (∀ j, 1 ≤ j → j < k → 0 ≤ m j) → 0 ≤ val k ∧ val k ≤ 8388608 := by
  intro k hk1 hk2 hj
  have w2 := vs 1 (by omega)
  have w3 := vs 2 (by omega)
  have w4 := vs 3 (by omega)
  have l1 := ml 1
  have l2 := ml 2
  have l3 := ml 3
  have hk : k = 1 ∨ k = 2 ∨ k = 3 ∨ k = 4 := by omega
  rcases hk with rfl | rfl | rfl | rfl
  · omega
  · have j1 := hj 1 (by omega) (by omega)
    have w2 : val 2 = val 1 * 64 + m 1 := w2
    omega
  · have j1 := hj 1 (by omega) (by omega)
    have j2 := hj 2 (by omega) (by omega)
    have w2 : val 2 = val 1 * 64 + m 1 := w2
    have w3 : val 3 = val 2 * 64 + m 2 := w3
    omega
  · have j1 := hj 1 (by omega) (by omega)
    have j2 := hj 2 (by omega) (by omega)
    have j3 := hj 3 (by omega) (by omega)
    have w2 : val 2 = val 1 * 64 + m 1 := w2
    have w3 : val 3 = val 2 * 64 + m 2 := w3
    have w4 : val 4 = val 3 * 64 + m 3 := w4
    omega
theorem atOut_zero {n : Nat} {p0 : Int} {m val : Nat → Int} (hn : n ≤ 4) (v1 : val 1 = p0) (vs : ∀ k, 1 ≤ k → val (k + 1) = val k * 64 + m k) (ml : ∀ k, -1 ≤ m k ∧ m k ≤ 63) (h0 : 0 ≤ p0) (h1 : p0 ≤ 31)
    (h : (∀ j, 1 ≤ j → j < n → 0 ≤ m j) → isSign (val n) = true → (signText (val n)).size = n → False) : AtOut n p0 m val 0 0 :=
  ⟨v1, vs, bounds hn v1 vs ml h0 h1, ml, fun _ _ _ _ _ => ⟨rfl, rfl⟩, fun _ _ => ⟨rfl, rfl⟩, fun _ _ _ => ⟨rfl, rfl⟩, fun a b c => (h a b c).elim⟩
theorem atOut_full {n : Nat} {p0 : Int} {m val : Nat → Int} (hn : n ≤ 4) (v1 : val 1 = p0) (vs : ∀ k, 1 ≤ k → val (k + 1) = val k * 64 + m k) (ml : ∀ k, -1 ≤ m k ∧ m k ≤ 63) (h0 : 0 ≤ p0) (h1 : p0 ≤ 31)
    (hm : ∀ j, 1 ≤ j → j < n → 0 ≤ m j) (hs : isSign (val n) = true) (hz : (signText (val n)).size = n) : AtOut n p0 m val (val n) n :=
  ⟨v1, vs, bounds hn v1 vs ml h0 h1, ml, fun k a b _ c => absurd (hm k a b) (by omega), fun _ b => by (rw [hs] at b; cases b), fun _ _ c => absurd hz c, fun _ _ _ => ⟨rfl, rfl⟩⟩
/-- What the loop adds up. -/
def valZ (p0 : Int) (m : Nat → Int) : Nat → Int
  | 0 => 0
  | 1 => p0
  | k + 2 => valZ p0 m (k + 1) * 64 + m (k + 1)
theorem valZ_succ (p0 : Int) (m : Nat → Int) (k : Nat) (h : 1 ≤ k) : valZ p0 m (k + 1) = valZ p0 m k * 64 + m k := by
  obtain ⟨j, rfl⟩ : ∃ j, k = j + 1 := ⟨k - 1, by omega⟩
  rfl
theorem byte_get (s : ByteArray) (i k : Nat) (h : i + k < s.size) : ((s.data.toList.drop i).getD k 0) = s[i + k] := by
  rw [List.getD, List.getElem?_drop, byte_at s (i + k) h]
  rfl
theorem moreZ_dec (s : ByteArray) (i k : Nat) (b : Nat) (hb : b = ((s.data.toList.drop i).getD k 0).toNat) : moreZ s (i + k) = if k < s.size - i ∧ b / 64 = 2 then ((b % 64 : Nat) : Int) else -1 := by
  by_cases h : i + k < s.size
  · rw [byte_get s i k h] at hb
    by_cases h2 : 128 ≤ b ∧ b ≤ 191
    · rw [moreZ_yes h (by rw [← hb]; exact h2), if_pos ⟨by omega, by omega⟩, ← hb]
      omega
    · rw [moreZ_no h (by rw [← hb]; exact h2), if_neg (by omega)]
  · rw [moreZ_none h, if_neg (by omega)]
theorem out2 (L b0 b1 b2 b3 : Nat) (h1 : 192 ≤ b0) (h2 : b0 < 224) (m : Nat → Int) (ml : ∀ k, -1 ≤ m k ∧ m k ≤ 63) (m1 : m 1 = if 1 < L ∧ b1 / 64 = 2 then ((b1 % 64 : Nat) : Int) else -1) (l : List UInt8) (hl : Lib.decodeL l = Lib.decodeN L b0 b1 b2 b3) :
    AtOut 2 ((b0 : Int) - 192) m (valZ ((b0 : Int) - 192) m) (atR l).1 (atR l).2 := by
  have hz := fun h => atOut_zero (n := 2) (p0 := (b0 : Int) - 192) (val := valZ ((b0 : Int) - 192) m) (by omega) rfl (valZ_succ _ m) ml (by omega) (by omega) h
  have hf := fun a b c => atOut_full (n := 2) (p0 := (b0 : Int) - 192) (val := valZ ((b0 : Int) - 192) m) (by omega) rfl (valZ_succ _ m) ml (by omega) (by omega) a b c
  have hv : valZ ((b0 : Int) - 192) m 2 = ((b0 : Int) - 192) * 64 + m 1 := rfl
  unfold Lib.decodeN at hl
  rw [if_neg (by omega)] at hl
  by_cases c1 : 1 < L ∧ b1 / 64 = 2
  · rw [if_pos ⟨by omega, c1⟩] at hl
    rw [if_pos c1] at m1
    by_cases c2 : b0 % 32 * 64 + b1 % 64 ≥ 128
    · rw [if_pos c2] at hl
      rw [atR_ok hl (by omega)]
      have hvn : valZ ((b0 : Int) - 192) m 2 = ((b0 % 32 * 64 + b1 % 64 : Nat) : Int) := by rw [hv]; omega
      have hs : isSign (valZ ((b0 : Int) - 192) m 2) = true := by rw [hvn, isSign_iff]; omega
      have h3 := hf (fun j a b => by have hj : j = 1 := (by omega); subst hj; omega) hs (by rw [size_sign hs, hvn, if_neg (by omega), if_pos (by omega)])
      rwa [hvn] at h3
    · rw [if_neg c2] at hl
      rw [atR_bad hl]
      refine hz (fun a hs c => ?_)
      rw [size_sign hs, if_pos (by omega)] at c
      omega
  · rw [if_neg (fun h => c1 h.2), if_neg (by omega), if_neg (by omega)] at hl
    rw [if_neg c1] at m1
    rw [atR_bad hl]
    exact hz (fun a _ _ => by have := a 1 (by omega) (by omega); omega)
theorem out3 (L b0 b1 b2 b3 : Nat) (h1 : 224 ≤ b0) (h2 : b0 < 240) (m : Nat → Int) (ml : ∀ k, -1 ≤ m k ∧ m k ≤ 63) (m1 : m 1 = if 1 < L ∧ b1 / 64 = 2 then ((b1 % 64 : Nat) : Int) else -1) (m2 : m 2 = if 2 < L ∧ b2 / 64 = 2 then ((b2 % 64 : Nat) : Int) else -1) (l : List UInt8) (hl : Lib.decodeL l = Lib.decodeN L b0 b1 b2 b3) :
    AtOut 3 ((b0 : Int) - 224) m (valZ ((b0 : Int) - 224) m) (atR l).1 (atR l).2 := by
  have hz := fun h => atOut_zero (n := 3) (p0 := (b0 : Int) - 224) (val := valZ ((b0 : Int) - 224) m) (by omega) rfl (valZ_succ _ m) ml (by omega) (by omega) h
  have hf := fun a b c => atOut_full (n := 3) (p0 := (b0 : Int) - 224) (val := valZ ((b0 : Int) - 224) m) (by omega) rfl (valZ_succ _ m) ml (by omega) (by omega) a b c
  have hv : valZ ((b0 : Int) - 224) m 3 = (((b0 : Int) - 224) * 64 + m 1) * 64 + m 2 := rfl
  unfold Lib.decodeN at hl
  rw [if_neg (by omega), if_neg (by omega)] at hl
  by_cases c1 : 1 < L ∧ b1 / 64 = 2
  · rw [if_pos c1] at m1
    by_cases c2 : 2 < L ∧ b2 / 64 = 2
    · rw [if_pos c2] at m2
      rw [if_pos ⟨by omega, c1, c2⟩] at hl
      have hvn : valZ ((b0 : Int) - 224) m 3 = ((b0 % 16 * 4096 + b1 % 64 * 64 + b2 % 64 : Nat) : Int) := by rw [hv]; omega
      by_cases c3 : b0 % 16 * 4096 + b1 % 64 * 64 + b2 % 64 ≥ 2048 ∧ (b0 % 16 * 4096 + b1 % 64 * 64 + b2 % 64 < 55296 ∨ (57344 ≤ b0 % 16 * 4096 + b1 % 64 * 64 + b2 % 64 ∧ b0 % 16 * 4096 + b1 % 64 * 64 + b2 % 64 ≤ 1114111))
      · rw [if_pos c3] at hl
        rw [atR_ok hl (by omega)]
        have hs : isSign (valZ ((b0 : Int) - 224) m 3) = true := by rw [hvn, isSign_iff]; omega
        have h3 := hf (fun j a b => by
          have hj : j = 1 ∨ j = 2 := by omega
          rcases hj with rfl | rfl <;> omega) hs (by rw [size_sign hs, hvn, if_neg (by omega), if_neg (by omega), if_pos (by omega)])
        rwa [hvn] at h3
      · rw [if_neg c3] at hl
        rw [atR_bad hl]
        refine hz (fun a hs c => ?_)
        rw [size_sign hs] at c
        rw [isSign_iff] at hs
        rw [hvn] at hs c
        by_cases k1 : ((b0 % 16 * 4096 + b1 % 64 * 64 + b2 % 64 : Nat) : Int) < 128
        · rw [if_pos k1] at c; omega
        · rw [if_neg k1] at c
          by_cases k2 : ((b0 % 16 * 4096 + b1 % 64 * 64 + b2 % 64 : Nat) : Int) < 2048
          · rw [if_pos k2] at c; omega
          · omega
    · rw [if_neg (fun h => c2 h.2.2), if_neg (by omega)] at hl
      rw [if_neg c2] at m2
      rw [atR_bad hl]
      exact hz (fun a _ _ => by have := a 2 (by omega) (by omega); omega)
  · rw [if_neg (fun h => c1 h.2.1), if_neg (by omega)] at hl
    rw [if_neg c1] at m1
    rw [atR_bad hl]
    exact hz (fun a _ _ => by have := a 1 (by omega) (by omega); omega)
theorem out4 (L b0 b1 b2 b3 : Nat) (h1 : 240 ≤ b0) (h2 : b0 < 248) (m : Nat → Int) (ml : ∀ k, -1 ≤ m k ∧ m k ≤ 63) (m1 : m 1 = if 1 < L ∧ b1 / 64 = 2 then ((b1 % 64 : Nat) : Int) else -1) (m2 : m 2 = if 2 < L ∧ b2 / 64 = 2 then ((b2 % 64 : Nat) : Int) else -1) (m3 : m 3 = if 3 < L ∧ b3 / 64 = 2 then ((b3 % 64 : Nat) : Int) else -1) (l : List UInt8) (hl : Lib.decodeL l = Lib.decodeN L b0 b1 b2 b3) :
    AtOut 4 ((b0 : Int) - 240) m (valZ ((b0 : Int) - 240) m) (atR l).1 (atR l).2 := by
  have hz := fun h => atOut_zero (n := 4) (p0 := (b0 : Int) - 240) (val := valZ ((b0 : Int) - 240) m) (by omega) rfl (valZ_succ _ m) ml (by omega) (by omega) h
  have hf := fun a b c => atOut_full (n := 4) (p0 := (b0 : Int) - 240) (val := valZ ((b0 : Int) - 240) m) (by omega) rfl (valZ_succ _ m) ml (by omega) (by omega) a b c
  have hv : valZ ((b0 : Int) - 240) m 4 = ((((b0 : Int) - 240) * 64 + m 1) * 64 + m 2) * 64 + m 3 := rfl
  unfold Lib.decodeN at hl
  rw [if_neg (by omega), if_neg (by omega), if_neg (by omega)] at hl
  by_cases c1 : 1 < L ∧ b1 / 64 = 2
  · rw [if_pos c1] at m1
    by_cases c2 : 2 < L ∧ b2 / 64 = 2
    · rw [if_pos c2] at m2
      by_cases c3 : 3 < L ∧ b3 / 64 = 2
      · rw [if_pos c3] at m3
        rw [if_pos ⟨by omega, c1, c2, c3⟩] at hl
        have hvn : valZ ((b0 : Int) - 240) m 4 = ((b0 % 8 * 262144 + b1 % 64 * 4096 + b2 % 64 * 64 + b3 % 64 : Nat) : Int) := by rw [hv]; omega
        generalize b0 % 8 * 262144 + b1 % 64 * 4096 + b2 % 64 * 64 + b3 % 64 = v at hl hvn
        by_cases c4 : v ≥ 65536 ∧ (v < 55296 ∨ (57344 ≤ v ∧ v ≤ 1114111))
        · rw [if_pos c4] at hl
          rw [atR_ok hl (by omega)]
          have hs : isSign (valZ ((b0 : Int) - 240) m 4) = true := by rw [hvn, isSign_iff]; omega
          have h3 := hf (fun j a b => by
            have hj : j = 1 ∨ j = 2 ∨ j = 3 := by omega
            rcases hj with rfl | rfl | rfl <;> omega) hs (by rw [size_sign hs, hvn, if_neg (by omega), if_neg (by omega), if_neg (by omega)])
          rwa [hvn] at h3
        · rw [if_neg c4] at hl
          rw [atR_bad hl]
          refine hz (fun a hs c => ?_)
          rw [size_sign hs] at c
          rw [isSign_iff] at hs
          rw [hvn] at hs c
          by_cases k1 : ((v : Nat) : Int) < 128
          · rw [if_pos k1] at c; omega
          · rw [if_neg k1] at c
            by_cases k2 : ((v : Nat) : Int) < 2048
            · rw [if_pos k2] at c; omega
            · rw [if_neg k2] at c
              by_cases k3 : ((v : Nat) : Int) < 65536
              · rw [if_pos k3] at c; omega
              · omega
      · rw [if_neg (fun h => c3 h.2.2.2)] at hl
        rw [if_neg c3] at m3
        rw [atR_bad hl]
        exact hz (fun a _ _ => by have := a 3 (by omega) (by omega); omega)
    · rw [if_neg (fun h => c2 h.2.2.1)] at hl
      rw [if_neg c2] at m2
      rw [atR_bad hl]
      exact hz (fun a _ _ => by have := a 2 (by omega) (by omega); omega)
  · rw [if_neg (fun h => c1 h.2.1)] at hl
    rw [if_neg c1] at m1
    rw [atR_bad hl]
    exact hz (fun a _ _ => by have := a 1 (by omega) (by omega); omega)
theorem rat_any (s : ByteArray) (i : Nat) (w : World) (hi : i < s.size) (hs : s.size ≤ 1099511627776) :
    Calls Tryd.prog 59 #[.string s, .int .i64 i] w fun e w' => e = .returned (.tuple #[.int .i32 (atR (s.data.toList.drop i)).1, .int .i64 (atR (s.data.toList.drop i)).2]) ∧ Ext w w' := by
  have hl := Lib.decodeL_N (s.data.toList.drop i)
  have hlen : (s.data.toList.drop i).length = s.size - i := List.length_drop
  have hb0 : (s.data.toList.drop i).getD 0 0 = s[i] := byte_get s i 0 hi
  rw [hlen, hb0] at hl
  have m1 := moreZ_dec s i 1 _ rfl
  have m2 := moreZ_dec s i 2 _ rfl
  have m3 := moreZ_dec s i 3 _ rfl
  have hM := fun (k : Nat) (w : World) => more_int s i k w hs
  have ml := fun k => moreZ_le s (i + k)
  by_cases h1 : s[i].toNat < 128
  · have e : Lib.decodeL (s.data.toList.drop i) = (s[i].toNat, 1) := by
      rw [hl]
      unfold Lib.decodeN
      rw [if_pos h1]
    have e2 : atR (s.data.toList.drop i) = ((s[i].toNat : Int), 1) := by
      unfold atR
      rw [e]
      exact if_neg (fun k => by have := k.1; simp at this; omega)
    rw [e2]
    exact rat_ascii s i w hi hs h1
  by_cases h2 : s[i].toNat < 192
  · have e : Lib.decodeL (s.data.toList.drop i) = (65533, 1) := by
      rw [hl]
      unfold Lib.decodeN
      rw [if_neg h1, if_neg (by omega), if_neg (by omega), if_neg (by omega)]
    rw [atR_bad e]
    exact rat_none s i w hi hs (.inl ⟨by omega, h2⟩)
  by_cases h3 : s[i].toNat < 224
  · exact rat_2 s i w hi hs (by omega) h3 _ _ _ _ hM (out2 _ _ _ _ _ (by omega) h3 _ ml m1 _ hl)
  by_cases h4 : s[i].toNat < 240
  · exact rat_3 s i w hi hs (by omega) h4 _ _ _ _ hM (out3 _ _ _ _ _ (by omega) h4 _ ml m1 m2 _ hl)
  by_cases h5 : s[i].toNat < 248
  · exact rat_4 s i w hi hs (by omega) h5 _ _ _ _ hM (out4 _ _ _ _ _ (by omega) h5 _ ml m1 m2 m3 _ hl)
  · have e : Lib.decodeL (s.data.toList.drop i) = (65533, 1) := by
      have hb := s[i].toNat_lt
      rw [hl]
      unfold Lib.decodeN
      rw [if_neg h1, if_neg (by omega), if_neg (by omega), if_neg (by omega)]
    rw [atR_bad e]
    exact rat_none s i w hi hs (.inr (by omega))
end Go.Proofs.YtealeedbkjiabaaDoor
