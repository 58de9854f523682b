/-
  Plain facts: a sign's bytes are decoded as that sign; where the first place without a sign is, behind a text of signs.
-/
import Derived.Test.YtealeedbkjiabaaDoorPt3
namespace Go.Proofs.YtealeedbkjiabaaDoor
open Go
set_option linter.unusedSimpArgs false
set_option linter.unusedVariables false

theorem u8z (x : Int) (h0 : 0 ≤ x) (h1 : x < 256) : (x.toNat.toUInt8).toNat = x.toNat := by
  rw [Nat.toUInt8_eq, UInt8.toNat_ofNat_of_lt']
  show x.toNat < 256
  omega
theorem dec1 (p : Int) (t : List UInt8) (h0 : 0 ≤ p) (h1 : p < 128) : Lib.decodeL (Lib.encodeRune p ++ t) = (p.toNat, 1) := by
  unfold Lib.encodeRune
  rw [Lib.encodeRuneZ_one h0 (by omega), Lib.decodeL_N]
  simp only [List.map_cons, List.map_nil, List.cons_append, List.nil_append, List.getD_cons_zero, List.getD_cons_succ, List.length_cons]
  rw [u8z p h0 (by omega)]
  unfold Lib.decodeN
  rw [if_pos (by omega)]
theorem dec2 (p : Int) (t : List UInt8) (h0 : 128 ≤ p) (h1 : p < 2048) : Lib.decodeL (Lib.encodeRune p ++ t) = (p.toNat, 2) := by
  unfold Lib.encodeRune
  rw [Lib.encodeRuneZ_two h0 (by omega), Lib.decodeL_N]
  simp only [List.map_cons, List.map_nil, List.cons_append, List.nil_append, List.getD_cons_zero, List.getD_cons_succ, List.length_cons]
  rw [u8z (192 + p / 64) (by omega) (by omega), u8z (128 + p % 64) (by omega) (by omega)]
  obtain ⟨n, rfl⟩ := Int.eq_ofNat_of_zero_le (show 0 ≤ p by omega)
  have e0 : (192 + (n : Int) / 64).toNat = 192 + n / 64 := by omega
  have e1 : (128 + (n : Int) % 64).toNat = 128 + n % 64 := by omega
  rw [e0, e1, Int.toNat_natCast]
  have k1 : n < 2048 := by omega
  have k0 : 128 ≤ n := by omega
  unfold Lib.decodeN
  have c1 : (192 + n / 64) / 32 = 6 := by omega
  have c2 : (128 + n % 64) / 64 = 2 := by omega
  have c3 : (192 + n / 64) % 32 * 64 + (128 + n % 64) % 64 = n := by omega
  have c0 : ¬ (192 + n / 64) < 128 := by omega
  have c4 : n ≥ 128 := by omega
  rw [if_neg c0, if_pos ⟨c1, by omega, c2⟩, c3, if_pos c4]
theorem dec3 (p : Int) (t : List UInt8) (h : (2048 ≤ p ∧ p < 55296) ∨ (57343 < p ∧ p ≤ 65535)) : Lib.decodeL (Lib.encodeRune p ++ t) = (p.toNat, 3) := by
  unfold Lib.encodeRune
  rw [Lib.encodeRuneZ_three h, Lib.decodeL_N]
  simp only [List.map_cons, List.map_nil, List.cons_append, List.nil_append, List.getD_cons_zero, List.getD_cons_succ, List.length_cons]
  rw [u8z (224 + p / 4096) (by omega) (by omega), u8z (128 + p / 64 % 64) (by omega) (by omega), u8z (128 + p % 64) (by omega) (by omega)]
  obtain ⟨n, rfl⟩ := Int.eq_ofNat_of_zero_le (show 0 ≤ p by omega)
  have e0 : (224 + (n : Int) / 4096).toNat = 224 + n / 4096 := by omega
  have e1 : (128 + (n : Int) / 64 % 64).toNat = 128 + n / 64 % 64 := by omega
  have e2 : (128 + (n : Int) % 64).toNat = 128 + n % 64 := by omega
  rw [e0, e1, e2, Int.toNat_natCast]
  have k : (2048 ≤ n ∧ n < 55296) ∨ (57343 < n ∧ n ≤ 65535) := by omega
  unfold Lib.decodeN
  have c0 : ¬ (224 + n / 4096) < 128 := by omega
  have c1 : ¬ (224 + n / 4096) / 32 = 6 := by omega
  have c2 : (224 + n / 4096) / 16 = 14 := by omega
  have c3 : (128 + n / 64 % 64) / 64 = 2 := by omega
  have c4 : (128 + n % 64) / 64 = 2 := by omega
  have c5 : (224 + n / 4096) % 16 * 4096 + (128 + n / 64 % 64) % 64 * 64 + (128 + n % 64) % 64 = n := by omega
  have c6 : n ≥ 2048 := by omega
  rw [if_neg c0, if_neg (fun h => c1 h.1), if_pos ⟨c2, ⟨by omega, c3⟩, ⟨by omega, c4⟩⟩, c5, if_pos ⟨c6, by omega⟩]
theorem dec4 (p : Int) (t : List UInt8) (h0 : 65536 ≤ p) (h1 : p ≤ 1114111) : Lib.decodeL (Lib.encodeRune p ++ t) = (p.toNat, 4) := by
  unfold Lib.encodeRune
  rw [Lib.encodeRuneZ_four h0 h1, Lib.decodeL_N]
  simp only [List.map_cons, List.map_nil, List.cons_append, List.nil_append, List.getD_cons_zero, List.getD_cons_succ, List.length_cons]
  rw [u8z (240 + p / 262144) (by omega) (by omega), u8z (128 + p / 4096 % 64) (by omega) (by omega), u8z (128 + p / 64 % 64) (by omega) (by omega), u8z (128 + p % 64) (by omega) (by omega)]
  obtain ⟨n, rfl⟩ := Int.eq_ofNat_of_zero_le (show 0 ≤ p by omega)
  have e0 : (240 + (n : Int) / 262144).toNat = 240 + n / 262144 := by omega
  have e1 : (128 + (n : Int) / 4096 % 64).toNat = 128 + n / 4096 % 64 := by omega
  have e2 : (128 + (n : Int) / 64 % 64).toNat = 128 + n / 64 % 64 := by omega
  have e3 : (128 + (n : Int) % 64).toNat = 128 + n % 64 := by omega
  rw [e0, e1, e2, e3, Int.toNat_natCast]
  have k1 : n ≤ 1114111 := by omega
  have k0 : 65536 ≤ n := by omega
  unfold Lib.decodeN
  have c0 : ¬ (240 + n / 262144) < 128 := by omega
  have c1 : ¬ (240 + n / 262144) / 32 = 6 := by omega
  have c2 : ¬ (240 + n / 262144) / 16 = 14 := by omega
  have c3 : (240 + n / 262144) / 8 = 30 := by omega
  have c4 : (128 + n / 4096 % 64) / 64 = 2 := by omega
  have c5 : (128 + n / 64 % 64) / 64 = 2 := by omega
  have c6 : (128 + n % 64) / 64 = 2 := by omega
  have c7 : (240 + n / 262144) % 8 * 262144 + (128 + n / 4096 % 64) % 64 * 4096 + (128 + n / 64 % 64) % 64 * 64 + (128 + n % 64) % 64 = n := by omega
  have c8 : n ≥ 65536 := by omega
  rw [if_neg c0, if_neg (fun h => c1 h.1), if_neg (fun h => c2 h.1), if_pos ⟨c3, ⟨by omega, c4⟩, ⟨by omega, c5⟩, ⟨by omega, c6⟩⟩, c7, if_pos ⟨c8, by omega⟩]
theorem dec_enc (p : Int) (h : isSign p = true) (t : List UInt8) : Lib.decodeL (Lib.encodeRune p ++ t) = (p.toNat, (Lib.encodeRune p).length) := by
  have hp := (isSign_iff p).1 h
  have hl : (Lib.encodeRune p).length = (Lib.encodeRuneZ p).length := List.length_map _
  rw [hl]
  by_cases h1 : p < 128
  · rw [dec1 p t (by omega) h1, Lib.encodeRuneZ_one (by omega) (by omega)]; rfl
  by_cases h2 : p < 2048
  · rw [dec2 p t (by omega) h2, Lib.encodeRuneZ_two (by omega) (by omega)]; rfl
  by_cases h3 : p < 65536
  · rw [dec3 p t (by omega), Lib.encodeRuneZ_three (by omega)]; rfl
  · rw [dec4 p t (by omega) (by omega), Lib.encodeRuneZ_four (by omega) (by omega)]; rfl
theorem enc_good (p : Int) (h : isSign p = true) : ¬ (p.toNat = 65533 ∧ (Lib.encodeRune p).length = 1) := by
  rintro ⟨h1, h2⟩
  have hp := (isSign_iff p).1 h
  have hl : (Lib.encodeRune p).length = (Lib.encodeRuneZ p).length := List.length_map _
  rw [hl, Lib.encodeRuneZ_three (by omega)] at h2
  simp at h2
theorem enc_ne (p : Int) (t : List UInt8) : Lib.encodeRune p ++ t ≠ [] := by
  intro e
  have h := congrArg List.length e
  have h2 := (Lib.runeCells_le p).1
  rw [Lib.runeCells_length] at h2
  rw [List.length_append, List.length_nil] at h
  omega
theorem badL_enc (a : Nat) (p : Int) (h : isSign p = true) (t : List UInt8) : badL a (Lib.encodeRune p ++ t) = badL (a + (Lib.encodeRune p).length) t := by
  rw [badL_step a _ (enc_ne p t), dec_enc p h t, if_neg (enc_good p h)]
  simp only
  rw [List.drop_left]
theorem badL_encs : ∀ (l : List Int) (a : Nat) (t : List UInt8), allSigns l = true → badL a (encs l ++ t) = badL (a + (encs l).length) t
  | [], a, t, _ => by simp [encs]
  | p :: l, a, t, h => by
    unfold allSigns at h
    rw [List.all_cons, Bool.and_eq_true] at h
    rw [encs_cons, List.append_assoc, badL_enc a p h.1, badL_encs l _ t h.2, List.length_append, Nat.add_assoc]
theorem badL_shift : ∀ (n : Nat) (a : Nat) (l : List UInt8), l.length ≤ n → badL a l = if badL 0 l < 0 then -1 else a + badL 0 l
  | n, a, [], _ => by rw [badL_nil, badL_nil, if_pos (by decide)]
  | 0, a, x :: l, h => by simp at h
  | n + 1, a, x :: l, h => by
    have hne : x :: l ≠ [] := by simp
    have hw := Lib.decodeL_width (x :: l)
    rw [badL_step a _ hne, badL_step 0 _ hne]
    by_cases hb : (Lib.decodeL (x :: l)).1 = 65533 ∧ (Lib.decodeL (x :: l)).2 = 1
    · rw [if_pos hb, if_pos hb]; simp
    · rw [if_neg hb, if_neg hb]
      have hd : ((x :: l).drop (Lib.decodeL (x :: l)).2).length ≤ n := by rw [List.length_drop]; omega
      rw [badL_shift n _ _ hd, badL_shift n (0 + _) _ hd]
      generalize badL 0 (List.drop (Lib.decodeL (x :: l)).2 (x :: l)) = q
      generalize (Lib.decodeL (x :: l)).2 = k
      by_cases hq : q < 0
      · simp [hq]
      · have h2 : ¬ (((0 + k : Nat) : Int) + q < 0) := by omega
        rw [if_neg hq, if_neg hq, if_neg h2]
        omega
end Go.Proofs.YtealeedbkjiabaaDoor
