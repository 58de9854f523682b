/-
  What the proof of this claim leans on (S39).
-/
import Derived.Test.YtndopjmdpmkgeaaGreatDoorS29
import Derived.Test.YtndopjmdpmkgeaaGreatDoorS36
import Derived.Test.YtndopjmdpmkgeaaGreatDoorS37
import Derived.Test.YtndopjmdpmkgeaaGreatDoorS38
namespace Go.Proofs.YtndopjmdpmkgeaaGreatDoor
open Go Go.ChangeShapes Go.WideShapes Go.ChangeAt Go.RowKit
set_option linter.unusedSimpArgs false
set_option linter.unusedVariables false

/-- What the program's variables hold, of all layers up to this one. -/
structure TabE (w : World) : Prop where
  d : TabD w
  t9 : Tab9 w
theorem TabE.ext {w w' : World} (h : TabE w) (k : Ext w w') : TabE w' := ⟨h.d.ext k, h.t9.ext k⟩
theorem ex_dec9a : decN 4 ⟨#[97, 176, 161]⟩ = (⟨#[97, 234, 176, 128]⟩, -1) := by
  unfold decN
  rw [if_neg (by decide), if_pos (by decide), dec9_low (by decide) (by decide), dec9_two (by decide) (by decide) (by decide) (by decide +kernel), dec9_end (by decide)]
  refine Prod.ext ?_ rfl
  decide +kernel
theorem ex_dec9b : decN 4 ⟨#[97, 176]⟩ = (⟨#[]⟩, 1) := by
  unfold decN
  rw [if_neg (by decide), if_pos (by decide), dec9_low (by decide) (by decide), dec9_left (by decide) (by decide) (by decide)]
  rfl
theorem ex9a (w : World) (hT : TabD w) : Calls Tryz.prog 23 #[.int .i64 4, .string ⟨#[97, 176, 161]⟩] w fun e w' => e = .returned (.tuple #[.string ⟨#[97, 234, 176, 128]⟩, .agg #[.int .i64 0, .int .i64 0]]) ∧ Ext w w' := by
  have h := decode_cs 4 ⟨#[97, 176, 161]⟩ w (by decide) hT (by decide)
  unfold DecOut at h
  rw [ex_dec9a] at h
  exact h
theorem ex9b (w : World) (hT : TabD w) : Calls Tryz.prog 23 #[.int .i64 4, .string ⟨#[97, 176]⟩] w fun e w' => e = .returned (.tuple #[.string ⟨#[]⟩, .agg #[.int .i64 2, .int .i64 1]]) ∧ Ext w w' := by
  have h := decode_cs 4 ⟨#[97, 176]⟩ w (by decide) hT (by decide)
  unfold DecOut at h
  rw [ex_dec9b] at h
  exact h
theorem ex9c (w : World) (hT : TabE w) : Calls Tryz.prog 32 #[.string ⟨#[85, 84, 70, 56]⟩] w fun e w' => e = .returned (.tuple #[.int .i64 7, .bool true]) ∧ Ext w w' := by
  have h := named_any ⟨#[85, 84, 70, 56]⟩ w hT.d.t hT.t9 (by decide)
  have e : named9 ⟨#[85, 84, 70, 56]⟩ 10 0 = 7 := by decide +kernel
  unfold num9 at h
  rw [e] at h
  exact h
set_option maxRecDepth 100000 in
set_option maxHeartbeats 4000000 in
theorem awake9_any (w : World) (hT : TabE w) : Calls Tryz.prog 37 #[] w fun e w' => e = .returned (.bool true) ∧ Ext w w' := by
  have hC := KeepT.start hT.d.t
  have HT := Lib.hid hT
  have K1 := Lib.hid trivial
  have K2 := Lib.hid trivial
  clear hT
  go_enter Tryz.func37, Tryz.ntmps37
  go_wp2_with (first
    | (go_at_call 23; clear K1; refine (ex9a _ (HT.out.ext hC.ex).d).mono ?_; rintro e w1 ⟨rfl, hb⟩; have hC' := (hC.ext hb).two (.int .i64 0) (.int .i64 0) 54; clear hC hb; have hC := hC'; clear hC'; obtain ⟨a0, a1, _⟩ := hC.c)
    | (go_at_call 23; clear K2; refine (ex9b _ (HT.out.ext hC.ex).d).mono ?_; rintro e w2 ⟨rfl, hb⟩; have hC' := (hC.ext hb).two (.int .i64 2) (.int .i64 1) 54; clear hC hb a0 a1; have hC := hC'; clear hC'; obtain ⟨b0, b1, a0, a1, _⟩ := hC.c)
    | (go_at_call 32; refine (ex9c _ (HT.out.ext hC.ex)).mono ?_; rintro e w3 ⟨rfl, hb⟩; have hC' := hC.ext hb; clear hC hb b0 b1 a0 a1; have hC := hC'; clear hC'; obtain ⟨b0, b1, a0, a1, _⟩ := hC.c)
    | (go_at_call 60; refine (awake02 _ hC.tb).mono ?_; rintro e w4 ⟨rfl, hb⟩; have hC' := hC.ext hb; clear hC hb b0 b1 a0 a1; have hC := hC'; clear hC'; obtain ⟨b0, b1, a0, a1, _⟩ := hC.c)
    | (go_at_call 61; refine (awake5_any _ hC.tb).mono ?_; rintro e w5 ⟨rfl, hb⟩; have hC' := hC.ext hb; clear hC hb b0 b1 a0 a1; have hC := hC'; clear hC'; obtain ⟨b0, b1, a0, a1, _⟩ := hC.c)
    | (go_at_call 62; refine (awake6_any _).mono ?_; rintro e w6 ⟨rfl, hb⟩; have hC' := hC.ext hb; clear hC hb b0 b1 a0 a1; have hC := hC'; clear hC'; obtain ⟨b0, b1, a0, a1, _⟩ := hC.c)
    | (go_at_call 63; refine (awake7_any _ (HT.out.ext hC.ex).d.t7).mono ?_; rintro e w7 ⟨rfl, hb⟩; have hC' := hC.ext hb; clear hC hb b0 b1 a0 a1; have hC := hC'; clear hC'; obtain ⟨b0, b1, a0, a1, _⟩ := hC.c)
    | (go_at_call 64; refine (awake8_any _ (HT.out.ext hC.ex).d.t8).mono ?_; rintro e w8 ⟨rfl, hb⟩; have hC' := hC.ext hb; clear hC hb b0 b1 a0 a1; have hC := hC'; clear hC'; obtain ⟨b0, b1, a0, a1, _⟩ := hC.c)
    | (go_at_call 24; refine (bad_no _ _ _ (by decide)).mono ?_; rintro e w9 ⟨rfl, hb⟩; have hC' := hC.ext hb; clear hC hb b0 b1 a0 a1; have hC := hC'; clear hC'; obtain ⟨b0, b1, a0, a1, _⟩ := hC.c))
  go_ret
  exact ⟨rfl, hC.ex⟩
end Go.Proofs.YtndopjmdpmkgeaaGreatDoor

namespace Go.Proofs.YtndopjmdpmkgeaaGreatDoor
open Go Go.RowKit
set_option linter.unusedSimpArgs false
set_option linter.unusedVariables false

theorem dec9_size {f : Nat → Nat → ByteArray} (hf : ∀ a b, (f a b).size ≤ 8) (s : ByteArray) : ∀ (n i : Nat) (t : ByteArray), s.size - i ≤ n → i ≤ s.size → t.size ≤ 8 * i → (dec9 f s i t).1.size ≤ 8 * s.size ∧ (dec9 f s i t).2 ≤ s.size
  | n, i, t, hn, hi, ht => by
    by_cases h : i < s.size
    · by_cases hb : s[i].toNat < 128
      · rw [dec9_low h hb]
        match n, hn with
        | 0, hn => omega
        | n + 1, hn => exact dec9_size hf s n (i + 1) _ (by omega) (by omega) (by rw [ByteArray.size_append, ByteArray.size_extract]; omega)
      · by_cases h2 : i + 1 < s.size
        · by_cases h3 : (f s[i].toNat s[i + 1].toNat).size = 0
          · rw [dec9_none h hb h2 h3]
            exact ⟨Nat.zero_le _, by show (i : Int) ≤ s.size; omega⟩
          · rw [dec9_two h hb h2 h3]
            match n, hn with
            | 0, hn => omega
            | n + 1, hn => exact dec9_size hf s n (i + 2) _ (by omega) (by omega) (by have := hf s[i].toNat s[i + 1].toNat; rw [ByteArray.size_append]; omega)
        · rw [dec9_left h hb h2]
          exact ⟨Nat.zero_le _, by show (i : Int) ≤ s.size; omega⟩
    · rw [dec9_end h]
      exact ⟨by show t.size ≤ _; omega, by show (-1 : Int) ≤ s.size; omega⟩
theorem decN_bounds (c : Nat) (hc : c ≤ 7) (s : ByteArray) : (decN c s).1.size ≤ 8 * s.size ∧ (decN c s).2 ≤ s.size := by
  unfold decN
  by_cases h3 : c ≤ 3
  · rw [if_pos h3]
    refine ⟨?_, by show (-1 : Int) ≤ s.size; omega⟩
    show (txt _).size ≤ _
    rw [txt_len]
    have h1 := encs_le (decZ c s.data.toList)
    have h2 : (decZ c s.data.toList).length = s.size := by unfold decZ; rw [List.length_map]; rfl
    omega
  rw [if_neg h3]
  by_cases h6 : c ≤ 6
  · rw [if_pos h6]
    exact dec9_size (sg9_size c) s s.size 0 ⟨#[]⟩ (by omega) (by omega) (by decide)
  · rw [if_neg h6, if_pos (by omega)]
    refine ⟨?_, ?_⟩
    · show (if badS s < 0 then s else ⟨#[]⟩).size ≤ _
      split
      · omega
      · exact Nat.zero_le _
    · show badS s ≤ s.size
      have := badL_le s.size 0 s.data.toList (Nat.le_refl _)
      have h2 : badS s = badL 0 s.data.toList := rfl
      have h3 : s.data.toList.length = s.size := rfl
      omega
/-- The program's Decode where there is no fault, and where there is one. -/
theorem decode_yes (c : Nat) (s : ByteArray) (hc : c ≤ 9) (hs : s.size ≤ 100000) (u : ByteArray) (hu : (decN c s).1 = u) (h : (decN c s).2 < 0) (w : World) (hT : TabD w) :
    Calls Tryz.prog 23 #[.int .i64 c, .string s] w fun e w' => e = .returned (.tuple #[.string u, .agg #[.int .i64 0, .int .i64 0]]) ∧ Ext w w' := by
  have h1 := decode_cs c s w hc hT hs
  unfold DecOut at h1
  rw [hu, show code9 (decN c s).2 = 0 from if_pos h, show at9 (decN c s).2 = 0 from if_pos h] at h1
  exact h1
theorem decode_no (c : Nat) (s : ByteArray) (hc : c ≤ 9) (hs : s.size ≤ 100000) (u : ByteArray) (hu : (decN c s).1 = u) (p : Int) (hp : (decN c s).2 = p) (h : ¬ p < 0) (w : World) (hT : TabD w) :
    Calls Tryz.prog 23 #[.int .i64 c, .string s] w fun e w' => e = .returned (.tuple #[.string u, .agg #[.int .i64 2, .int .i64 p]]) ∧ Ext w w' := by
  have h1 := decode_cs c s w hc hT hs
  unfold DecOut at h1
  rw [hu, hp, show code9 p = 2 from if_neg h, show at9 p = p from if_neg h] at h1
  exact h1
end Go.Proofs.YtndopjmdpmkgeaaGreatDoor

namespace Go.Proofs.YtndopjmdpmkgeaaGreatDoor
open Go Go.RowKit
set_option linter.unusedSimpArgs false
set_option linter.unusedVariables false

def small10 (p : Int) : Bool := decide (1072 ≤ p ∧ p ≤ 1119) || decide (p = 1169)
def cap10 (p : Int) : Bool := decide (1024 ≤ p ∧ p ≤ 1071) || decide (p = 1168)
/-- How likely a sign is in a charset. -/
def weight10 (c : Int) (p : Int) : Int :=
  if p < 128 then (if p = 127 ∨ (p < 32 ∧ p ≠ 9 ∧ p ≠ 10 ∧ p ≠ 13) then -6 else 0)
  else if c = 0 then (if p < 160 then -8 else if p < 192 ∨ p = 215 ∨ p = 247 then -1 else 1)
  else if c ≤ 3 then (if small10 p then 4 else if cap10 p then 2 else -4)
  else if c ≤ 5 then (if 44032 ≤ p ∧ p ≤ 55203 then (if inM (p - 44032).toNat then 6 else 2) else if 12593 ≤ p ∧ p ≤ 12686 then -2 else 1)
  else if 19968 ≤ p ∧ p ≤ 40959 then 5 else 1
theorem weight10_bd (c p : Int) : -8 ≤ weight10 c p ∧ weight10 c p ≤ 6 := by
  unfold weight10
  repeat' split
  all_goals omega
/-- What a sign adds behind another one. -/
def step10 (c q p : Int) : Int := weight10 c p - (if small10 q && cap10 p then 3 else 0)
theorem step10_bd (c q p : Int) : -11 ≤ step10 c q p ∧ step10 c q p ≤ 6 := by
  have := weight10_bd c p
  unfold step10
  split <;> omega
/-- The score of signs behind a sign q (-1: none). -/
def score10 (c : Int) : Int → List Int → Int
  | _, [] => 0
  | q, p :: l => step10 c q p + score10 c p l
def last10 : Int → List Int → Int
  | q, [] => q
  | _, p :: l => last10 p l
theorem score10_bd (c : Int) : ∀ (q : Int) (l : List Int), -(11 * (l.length : Int)) ≤ score10 c q l ∧ score10 c q l ≤ 6 * (l.length : Int)
  | _, [] => by simp [score10]
  | q, p :: l => by
    have h1 := step10_bd c q p
    have h2 := score10_bd c p l
    unfold score10
    simp only [List.length_cons]
    omega
theorem score10_app (c : Int) : ∀ (q : Int) (l m : List Int), score10 c q (l ++ m) = score10 c q l + score10 c (last10 q l) m
  | _, [], m => by simp [score10, last10]
  | q, p :: l, m => by
    have := score10_app c p l m
    simp only [List.cons_append, score10, last10]
    omega
theorem score10_snoc (c q p : Int) (l : List Int) : score10 c q (l ++ [p]) = score10 c q l + step10 c (last10 q l) p := by
  rw [score10_app]
  simp [score10]
theorem last10_snoc : ∀ (q p : Int) (l : List Int), last10 q (l ++ [p]) = p
  | _, _, [] => rfl
  | q, p, x :: l => by
    show last10 x (l ++ [p]) = p
    exact last10_snoc x p l
/-- Both scores together, or 3 less. -/
theorem score10_sum (c : Int) (l m : List Int) : score10 c (-1) (l ++ m) = score10 c (-1) l + score10 c (-1) m ∨ (l ≠ [] ∧ m ≠ [] ∧ score10 c (-1) (l ++ m) = score10 c (-1) l + score10 c (-1) m - 3) := by
  rw [score10_app]
  cases l with
  | nil => exact .inl rfl
  | cons x l =>
    cases m with
    | nil => exact .inl rfl
    | cons p m =>
      have h0 : small10 (-1) = false := rfl
      simp only [score10]
      have e : step10 c (-1) p = weight10 c p := by unfold step10; rw [h0]; simp
      rw [e]
      unfold step10
      cases h : small10 (last10 (-1) (x :: l)) && cap10 p with
      | false => left; simp only [Bool.false_eq_true, if_false]; omega
      | true => right; exact ⟨by simp, by simp, by simp only [if_true]; omega⟩
theorem badS_both {a b : ByteArray} (ha : badS a < 0) (hb : badS b < 0) : badS (a ++ b) < 0 := by
  rw [badS_app a b ha, if_pos hb]
  decide
theorem badS_nil9 : badS (⟨#[]⟩ : ByteArray) < 0 := by decide
theorem badS_low (s : ByteArray) (i : Nat) (h : i < s.size) (hb : s[i].toNat < 128) : badS (s.extract i (i + 1)) < 0 := by
  have hp : Plain9 (s.extract i (i + 1)) := fun j hj => by
    have hz : (s.extract i (i + 1)).size = 1 := by rw [ByteArray.size_extract]; omega
    have : j = 0 := by omega
    subst this
    rw [ByteArray.getElem_extract]
    exact hb
  rw [badS_plain hp]
  decide
theorem badS_txt9 (p : Int) (h : p ≠ 0 → isSign p = true) : badS (txt9 p) < 0 := by
  unfold txt9
  split
  · exact badS_nil9
  · rename_i hp
    have h1 := txt_bad [p] (by simp [allSigns, h hp])
    have e : txt [p] = signText p := by
      unfold txt signText
      rw [encs_one]
    rwa [e] at h1
theorem badS_sg9 (c a b : Nat) (hc : c = 4 ∨ c = 5 ∨ c = 6) (ha : a < 256) (hb : b < 256) : badS (sg9 c a b) < 0 := by
  rcases hc with rfl | rfl | rfl
  · exact badS_txt9 _ fun h => signW_sign a b ha hb h
  · exact badS_txt9 _ fun h => signJ_sign _ (by omega) h
  · show badS (sigT a b) < 0
    have h1 := sig_out a b
    have h2 := signsB_all a b
    rw [textOut_yes h2] at h1
    rw [← h1]
    exact txt_bad _ h2
theorem dec9_signs (c : Nat) (hc : c = 4 ∨ c = 5 ∨ c = 6) (s : ByteArray) : ∀ (n i : Nat) (t : ByteArray), s.size - i ≤ n → badS t < 0 → badS (dec9 (sg9 c) s i t).1 < 0
  | n, i, t, hn, ht => by
    by_cases h : i < s.size
    · by_cases hb : s[i].toNat < 128
      · rw [dec9_low h hb]
        match n, hn with
        | 0, hn => omega
        | n + 1, hn => exact dec9_signs c hc s n (i + 1) _ (by omega) (badS_both ht (badS_low s i h hb))
      · by_cases h2 : i + 1 < s.size
        · by_cases h3 : (sg9 c s[i].toNat s[i + 1].toNat).size = 0
          · rw [dec9_none h hb h2 h3]
            exact badS_nil9
          · rw [dec9_two h hb h2 h3]
            match n, hn with
            | 0, hn => omega
            | n + 1, hn => exact dec9_signs c hc s n (i + 2) _ (by omega) (badS_both ht (badS_sg9 c _ _ hc s[i].toNat_lt s[i + 1].toNat_lt))
        · rw [dec9_left h hb h2]
          exact badS_nil9
    · rw [dec9_end h]
      exact ht
/-- What is decoded is made of signs. -/
theorem decN_signs (c : Nat) (hc : c ≤ 7) (s : ByteArray) : badS (decN c s).1 < 0 := by
  unfold decN
  by_cases h3 : c ≤ 3
  · rw [if_pos h3]
    exact txt_bad _ (decZ_signs c _ (by omega) (by omega))
  rw [if_neg h3]
  by_cases h6 : c ≤ 6
  · rw [if_pos h6]
    exact dec9_signs c (by omega) s s.size 0 ⟨#[]⟩ (by omega) badS_nil9
  · rw [if_neg h6, if_pos (by omega)]
    show badS (if badS s < 0 then s else ⟨#[]⟩) < 0
    split
    · assumption
    · exact badS_nil9
/-- The score of bytes in a charset; none: they are no text there, or it isn't a legacy one. -/
def scoreB (s : ByteArray) (c : Int) : Option Int := if 0 ≤ c ∧ c ≤ 6 ∧ (decN c.toNat s).2 < 0 then some (score10 c (-1) (sgn (decN c.toNat s).1)) else none
/-- The greatest score above m of some charsets. -/
def most10 (f : Int → Option Int) : Int → List Int → Int
  | m, [] => m
  | m, c :: l => most10 f (match f c with | some n => if m < n then n else m | none => m) l
/-- The first of some charsets that has a score; -1: none. -/
def first10 (f : Int → Option Int) (m : Int) : List Int → Int
  | [] => -1
  | c :: l => if f c = some m then c else first10 f m l
/-- The likeliest of some charsets, of several the first; -1: none is likely. -/
def guess10 (f : Int → Option Int) (l : List Int) : Int := if most10 f 0 l = 0 then -1 else first10 f (most10 f 0 l) l
/-- The same in one pass: the greatest score so far, and whose it is. -/
def pass10 (f : Int → Option Int) : Int × Int → List Int → Int × Int
  | r, [] => r
  | r, c :: l => pass10 f (match f c with | some n => if r.1 < n then (n, c) else r | none => r) l
theorem pass10_fst (f : Int → Option Int) : ∀ (r : Int × Int) (l : List Int), (pass10 f r l).1 = most10 f r.1 l
  | _, [] => rfl
  | r, c :: l => by
    unfold pass10 most10
    rw [pass10_fst f _ l]
    congr 1
    cases f c with
    | none => rfl
    | some n => simp only; split <;> rfl
theorem most10_ge (f : Int → Option Int) : ∀ (m : Int) (l : List Int), m ≤ most10 f m l
  | _, [] => Int.le_refl _
  | m, c :: l => by
    unfold most10
    refine Int.le_trans ?_ (most10_ge f _ l)
    cases f c with
    | none => exact Int.le_refl _
    | some n => simp only; split <;> omega
/-- In one pass the same comes out: the first that has the greatest score, if that is above what was there. -/
theorem pass10_snd (f : Int → Option Int) : ∀ (r : Int × Int) (l : List Int), (pass10 f r l).2 = if most10 f r.1 l = r.1 then r.2 else first10 f (most10 f r.1 l) l
  | r, [] => by simp [pass10, most10]
  | r, c :: l => by
    unfold pass10 most10 first10
    rw [pass10_snd f _ l]
    cases hf : f c with
    | none => simp
    | some n =>
      simp only
      have hg := most10_ge f n l
      by_cases h : r.1 < n
      · simp only [if_pos h]
        by_cases h2 : most10 f n l = n
        · rw [if_pos h2, if_neg (by omega), h2, if_pos rfl]
        · rw [if_neg h2, if_neg (by omega), if_neg (fun e => h2 (Option.some.inj e).symm)]
      · simp only [if_neg h]
        have hg2 := most10_ge f r.1 l
        by_cases h2 : most10 f r.1 l = r.1
        · rw [if_pos h2, if_pos h2]
        · rw [if_neg h2, if_neg h2, if_neg (fun e => by have := Option.some.inj e; omega)]
theorem bne10 {a b : Int} (h : a ≠ b) : (a != b) = true := by rw [bne, beq_false_of_ne h]; rfl
theorem low10 (c p : Int) (h : p < 128) : (p = 127 ∧ weight10 c p = -6) ∨ (p = 9 ∧ weight10 c p = 0) ∨ (p = 10 ∧ weight10 c p = 0) ∨ (p = 13 ∧ weight10 c p = 0) ∨ (p < 32 ∧ p ≠ 9 ∧ p ≠ 10 ∧ p ≠ 13 ∧ p ≠ 127 ∧ weight10 c p = -6) ∨ (¬ p < 32 ∧ p ≠ 127 ∧ weight10 c p = 0) := by
  unfold weight10
  rw [if_pos h]
  split <;> omega
theorem lat10 (p : Int) (h : ¬ p < 128) : (p < 160 ∧ weight10 0 p = -8) ∨ (¬ p < 160 ∧ p < 192 ∧ weight10 0 p = -1) ∨ (p = 215 ∧ weight10 0 p = -1) ∨ (p = 247 ∧ weight10 0 p = -1) ∨ (¬ p < 160 ∧ ¬ p < 192 ∧ p ≠ 215 ∧ p ≠ 247 ∧ weight10 0 p = 1) := by
  unfold weight10
  rw [if_neg h, if_pos rfl]
  split
  · omega
  split <;> omega
theorem cyr10 (c p : Int) (h : ¬ p < 128) (h0 : c ≠ 0) (h3 : c ≤ 3) : weight10 c p = if small10 p then 4 else if cap10 p then 2 else -4 := by
  unfold weight10
  rw [if_neg h, if_neg h0, if_pos h3]
theorem kor10 (c p : Int) (h : ¬ p < 128) (h0 : c ≠ 0) (h3 : ¬ c ≤ 3) (h5 : c ≤ 5) : (44032 ≤ p ∧ p ≤ 55203 ∧ weight10 c p = if inM (p - 44032).toNat then 6 else 2) ∨ (12593 ≤ p ∧ p ≤ 12686 ∧ weight10 c p = -2) ∨ (p < 44032 ∧ p < 12593 ∧ weight10 c p = 1) ∨ (p < 44032 ∧ ¬ p < 12593 ∧ 12686 < p ∧ weight10 c p = 1) ∨ (55203 < p ∧ weight10 c p = 1) := by
  unfold weight10
  rw [if_neg h, if_neg h0, if_neg h3, if_pos h5]
  by_cases ha : 44032 ≤ p ∧ p ≤ 55203
  · rw [if_pos ha]
    exact .inl ⟨ha.1, ha.2, rfl⟩
  · rw [if_neg ha]
    split <;> omega
theorem chi10 (c p : Int) (h : ¬ p < 128) (h0 : c ≠ 0) (h3 : ¬ c ≤ 3) (h5 : ¬ c ≤ 5) : (19968 ≤ p ∧ p ≤ 40959 ∧ weight10 c p = 5) ∨ (p < 19968 ∧ weight10 c p = 1) ∨ (¬ p < 19968 ∧ 40959 < p ∧ weight10 c p = 1) := by
  unfold weight10
  rw [if_neg h, if_neg h0, if_neg h3, if_neg h5]
  split <;> omega
theorem score10_zero (c : Int) (l : List Int) : score10 c 0 l = score10 c (-1) l := by
  cases l with
  | nil => rfl
  | cons p l =>
    have a : small10 0 = false := rfl
    have b : small10 (-1) = false := rfl
    simp only [score10]
    unfold step10
    rw [a, b]
theorem step10_first (c p : Int) : step10 c (-1) p = weight10 c p := by
  have b : small10 (-1) = false := rfl
  unfold step10
  rw [b]
  simp
theorem score10_take (c q0 : Int) (zs : List Int) (k : Nat) (p : Int) (h : zs[k]? = some p) : score10 c q0 (zs.take (k + 1)) = score10 c q0 (zs.take k) + step10 c (last10 q0 (zs.take k)) p ∧ last10 q0 (zs.take (k + 1)) = p := by
  have e : zs.take (k + 1) = zs.take k ++ [p] := by rw [List.take_add_one, h]; rfl
  rw [e]
  exact ⟨score10_snoc c q0 p _, last10_snoc q0 p _⟩
theorem score10_len (c q0 : Int) (zs : List Int) (k n : Nat) (h : k ≤ n) : -(11 * (n : Int)) ≤ score10 c q0 (zs.take k) ∧ score10 c q0 (zs.take k) ≤ 6 * (n : Int) := by
  have h1 := score10_bd c q0 (zs.take k)
  have h2 := List.length_take_le k zs
  omega
/-- The score of bytes, as a number: 0, if there is none. -/
def scN (s : ByteArray) (c : Int) : Int := (scoreB s c).getD 0
theorem scN_no {s : ByteArray} {c : Int} (h : scoreB s c = none) : scN s c = 0 := by unfold scN; rw [h]; rfl
theorem scN_yes {s : ByteArray} {c n : Int} (h : scoreB s c = some n) : scN s c = n := by unfold scN; rw [h]; rfl
theorem scN_bd (s : ByteArray) (c : Int) : -(88 * (s.size : Int)) ≤ scN s c ∧ scN s c ≤ 48 * (s.size : Int) := by
  unfold scN scoreB
  split
  · rename_i h
    have h1 := score10_bd c (-1) (sgn (decN c.toNat s).1)
    have h2 := sgn_len (decN c.toNat s).1
    have h3 := (decN_bounds c.toNat (by omega) s).1
    show -(88 * (s.size : Int)) ≤ score10 c (-1) (sgn (decN c.toNat s).1) ∧ score10 c (-1) (sgn (decN c.toNat s).1) ≤ 48 * (s.size : Int)
    omega
  · show -(88 * (s.size : Int)) ≤ 0 ∧ (0 : Int) ≤ 48 * (s.size : Int)
    omega
theorem scoreB_ge (s : ByteArray) (c n : Int) (h : scoreB s c = some n) : 0 ≤ c ∧ c ≤ 6 := by
  unfold scoreB at h
  split at h
  · rename_i h1
    exact ⟨h1.1, h1.2.1⟩
  · cases h
theorem most10_hit (f : Int → Option Int) : ∀ (m : Int) (l : List Int), most10 f m l = m ∨ ∃ c ∈ l, f c = some (most10 f m l)
  | m, [] => .inl rfl
  | m, c :: l => by
    unfold most10
    cases hf : f c with
    | none =>
      simp only
      rcases most10_hit f m l with h | ⟨d, h1, h2⟩
      · exact .inl h
      · exact .inr ⟨d, List.mem_cons_of_mem _ h1, h2⟩
    | some n =>
      simp only
      by_cases h3 : m < n
      · rw [if_pos h3]
        rcases most10_hit f n l with h | ⟨d, h1, h2⟩
        · exact .inr ⟨c, List.mem_cons_self, by rw [hf, h]⟩
        · exact .inr ⟨d, List.mem_cons_of_mem _ h1, h2⟩
      · rw [if_neg h3]
        rcases most10_hit f m l with h | ⟨d, h1, h2⟩
        · exact .inl h
        · exact .inr ⟨d, List.mem_cons_of_mem _ h1, h2⟩
theorem first10_mem (f : Int → Option Int) (m : Int) : ∀ l : List Int, (∃ c ∈ l, f c = some m) → f (first10 f m l) = some m
  | [], ⟨c, h, _⟩ => by cases h
  | c :: l, ⟨d, h, hd⟩ => by
    unfold first10
    by_cases hc : f c = some m
    · rw [if_pos hc]; exact hc
    · rw [if_neg hc]
      refine first10_mem f m l ⟨d, ?_, hd⟩
      rcases List.mem_cons.1 h with rfl | h
      · exact absurd hd hc
      · exact h
theorem guess10_some (f : Int → Option Int) (hf : ∀ c n, f c = some n → 0 ≤ c) (l : List Int) : (0 < most10 f 0 l ∧ 0 ≤ guess10 f l ∧ guess10 f l = first10 f (most10 f 0 l) l) ∨ (most10 f 0 l = 0 ∧ guess10 f l = -1) := by
  have h0 := most10_ge f 0 l
  unfold guess10
  by_cases h : most10 f 0 l = 0
  · exact .inr ⟨h, if_pos h⟩
  · rw [if_neg h]
    refine .inl ⟨by omega, ?_, rfl⟩
    rcases most10_hit f 0 l with h1 | h1
    · exact absurd h1 h
    · exact hf _ _ (first10_mem f _ l h1)
/-- The likeliest; 0: none. -/
def gN (f : Int → Option Int) (l : List Int) : Int := if guess10 f l < 0 then 0 else guess10 f l
theorem pass_zero (f : Int → Option Int) (hf : ∀ c n, f c = some n → 0 ≤ c) (l : List Int) : (pass10 f (0, 0) l).2 = gN f l ∧ (pass10 f (0, 0) l).1 = most10 f 0 l ∧ decide (0 < most10 f 0 l) = decide (0 ≤ guess10 f l) := by
  refine ⟨?_, pass10_fst f _ l, ?_⟩
  · rw [pass10_snd]
    unfold gN
    show (if most10 f 0 l = 0 then (0 : Int) else first10 f (most10 f 0 l) l) = _
    rcases guess10_some f hf l with ⟨h1, h2, h3⟩ | ⟨h1, h2⟩
    · rw [if_neg (by omega), if_neg (by omega), h3]
    · rw [if_pos h1, h2, if_pos (by decide)]
  · rcases guess10_some f hf l with ⟨h1, h2, h3⟩ | ⟨h1, h2⟩
    · rw [decide_eq_true h1, decide_eq_true h2]
    · rw [decide_eq_false (by omega), decide_eq_false (by omega)]
theorem pass10_take (f : Int → Option Int) (r : Int × Int) (zs : List Int) (k : Nat) (c : Int) (h : zs[k]? = some c) : pass10 f r (zs.take (k + 1)) = match f c with | some n => if (pass10 f r (zs.take k)).1 < n then (n, c) else pass10 f r (zs.take k) | none => pass10 f r (zs.take k) := by
  have e : zs.take (k + 1) = zs.take k ++ [c] := by rw [List.take_add_one, h]; rfl
  rw [e]
  generalize zs.take k = l
  induction l generalizing r with
  | nil => rfl
  | cons d l ih =>
    show pass10 f _ (l ++ [c]) = _
    rw [ih]
    rfl
theorem most10_take (f : Int → Option Int) (m : Int) (zs : List Int) (k : Nat) (c : Int) (h : zs[k]? = some c) : most10 f m (zs.take (k + 1)) = match f c with | some n => if most10 f m (zs.take k) < n then n else most10 f m (zs.take k) | none => most10 f m (zs.take k) := by
  have e : zs.take (k + 1) = zs.take k ++ [c] := by rw [List.take_add_one, h]; rfl
  rw [e]
  generalize zs.take k = l
  induction l generalizing m with
  | nil => rfl
  | cons d l ih =>
    show most10 f _ (l ++ [c]) = _
    rw [ih]
    rfl
def mark10 (s : ByteArray) : Int × Int := if Lib.hasPrefix s.data.toList (⟨#[239, 187, 191]⟩ : ByteArray).data.toList then (7, 3) else if Lib.hasPrefix s.data.toList (⟨#[255, 254]⟩ : ByteArray).data.toList then (8, 2) else if Lib.hasPrefix s.data.toList (⟨#[254, 255]⟩ : ByteArray).data.toList then (9, 2) else (0, 0)
theorem pre2 (s : ByteArray) (h0 : 0 < s.size) (h1 : 1 < s.size) (a b : UInt8) : Lib.hasPrefix s.data.toList [a, b] = true ↔ s[0].toNat = a.toNat ∧ s[1].toNat = b.toNat := by
  have e0 := byte_at s 0 h0
  have e1 := byte_at s 1 h1
  generalize s[0] = u at e0 ⊢
  generalize s[1] = v at e1 ⊢
  generalize s.data.toList = l at e0 e1 ⊢
  match l, e0, e1 with
  | x :: y :: r, e0, e1 =>
    simp only [List.getElem?_cons_zero, List.getElem?_cons_succ, Option.some.injEq] at e0 e1
    subst e0 e1
    simp only [Lib.hasPrefix, List.isPrefixOf, Bool.and_true, Bool.and_eq_true, beq_iff_eq]
    exact ⟨fun ⟨h1, h2⟩ => ⟨by rw [h1], by rw [h2]⟩, fun ⟨h1, h2⟩ => ⟨(UInt8.toNat_inj.1 h1).symm, (UInt8.toNat_inj.1 h2).symm⟩⟩
theorem pre3 (s : ByteArray) (h0 : 0 < s.size) (h1 : 1 < s.size) (h2 : 2 < s.size) (a b c : UInt8) : Lib.hasPrefix s.data.toList [a, b, c] = true ↔ s[0].toNat = a.toNat ∧ s[1].toNat = b.toNat ∧ s[2].toNat = c.toNat := by
  have e0 := byte_at s 0 h0
  have e1 := byte_at s 1 h1
  have e2 := byte_at s 2 h2
  generalize s[0] = u at e0 ⊢
  generalize s[1] = v at e1 ⊢
  generalize s[2] = z at e2 ⊢
  generalize s.data.toList = l at e0 e1 e2 ⊢
  match l, e0, e1, e2 with
  | x :: y :: q :: r, e0, e1, e2 =>
    simp only [List.getElem?_cons_zero, List.getElem?_cons_succ, Option.some.injEq] at e0 e1 e2
    subst e0 e1 e2
    simp only [Lib.hasPrefix, List.isPrefixOf, Bool.and_true, Bool.and_eq_true, beq_iff_eq]
    exact ⟨fun ⟨h1, h2, h3⟩ => ⟨by rw [h1], by rw [h2], by rw [h3]⟩, fun ⟨h1, h2, h3⟩ => ⟨(UInt8.toNat_inj.1 h1).symm, (UInt8.toNat_inj.1 h2).symm, (UInt8.toNat_inj.1 h3).symm⟩⟩
theorem pre_short (s : ByteArray) (p : List UInt8) (h : s.size < p.length) : Lib.hasPrefix s.data.toList p = false := by
  rw [← Lib.hasPrefix_of_take, decide_eq_false (by have e2 : s.data.toList.length = s.size := rfl; omega)]
  rfl
theorem mark_short (s : ByteArray) (h : s.size < 2) : mark10 s = (0, 0) := by
  unfold mark10
  rw [pre_short s _ (by show s.size < 3; omega), pre_short s _ (by show s.size < 2; omega), pre_short s _ (by show s.size < 2; omega)]
  rfl
theorem mark_eq (s : ByteArray) (h0 : 0 < s.size) (h1 : 1 < s.size) : mark10 s = if (∃ h : 2 < s.size, s[0].toNat = 239 ∧ s[1].toNat = 187 ∧ s[2].toNat = 191) then (7, 3) else if s[0].toNat = 255 ∧ s[1].toNat = 254 then (8, 2) else if s[0].toNat = 254 ∧ s[1].toNat = 255 then (9, 2) else (0, 0) := by
  have a2 : Lib.hasPrefix s.data.toList [255, 254] = true ↔ s[0].toNat = 255 ∧ s[1].toNat = 254 := pre2 s h0 h1 255 254
  have a3 : Lib.hasPrefix s.data.toList [254, 255] = true ↔ s[0].toNat = 254 ∧ s[1].toNat = 255 := pre2 s h0 h1 254 255
  have a1 : Lib.hasPrefix s.data.toList [239, 187, 191] = true ↔ ∃ h : 2 < s.size, s[0].toNat = 239 ∧ s[1].toNat = 187 ∧ s[2].toNat = 191 := by
    by_cases h2 : 2 < s.size
    · have := pre3 s h0 h1 h2 239 187 191
      exact ⟨fun h => ⟨h2, this.1 h⟩, fun ⟨_, h⟩ => this.2 h⟩
    · rw [pre_short s _ (by show s.size < 3; omega)]
      exact ⟨fun h => (by cases h), fun ⟨h, _⟩ => absurd h h2⟩
  unfold mark10
  show (if Lib.hasPrefix s.data.toList [239, 187, 191] = true then ((7 : Int), (3 : Int)) else if Lib.hasPrefix s.data.toList [255, 254] = true then (8, 2) else if Lib.hasPrefix s.data.toList [254, 255] = true then (9, 2) else (0, 0)) = _
  by_cases b1 : Lib.hasPrefix s.data.toList [239, 187, 191] = true
  · rw [if_pos b1, if_pos (a1.1 b1)]
  rw [if_neg b1, if_neg (fun h => b1 (a1.2 h))]
  by_cases b2 : Lib.hasPrefix s.data.toList [255, 254] = true
  · rw [if_pos b2, if_pos (a2.1 b2)]
  rw [if_neg b2, if_neg (fun h => b2 (a2.2 h))]
  by_cases b3 : Lib.hasPrefix s.data.toList [254, 255] = true
  · rw [if_pos b3, if_pos (a3.1 b3)]
  · rw [if_neg b3, if_neg (fun h => b3 (a3.2 h))]
def order10 : List Int := [4, 6, 5, 1, 2, 3, 0]
def res10 (b d : ByteArray) (fb : Int) (g : Bool) : Int :=
  if badS b < 0 then 7 else if 0 ≤ named9 d 10 0 then named9 d 10 0 else if g = true ∧ 0 ≤ guess10 (scoreB b) order10 then guess10 (scoreB b) order10 else fb
/-- What is decoded is made of signs, in any charset. -/
theorem decN_signs9 (c : Nat) (s : ByteArray) : badS (decN c s).1 < 0 := by
  by_cases h : c ≤ 7
  · exact decN_signs c h s
  · unfold decN
    rw [if_neg (by omega), if_neg (by omega), if_neg (by omega)]
    show badS (wtxt _ _) < 0
    unfold wtxt
    split
    · exact txt_bad _ (wd_signs _ _ _ _ (Nat.le_refl _))
    · exact badS_nil9
end Go.Proofs.YtndopjmdpmkgeaaGreatDoor

namespace Go.Proofs.YtndopjmdpmkgeaaGreatDoor
open Go Go.ChangeShapes Go.WideShapes Go.ChangeAt Go.RowKit
set_option linter.unusedSimpArgs false
set_option linter.unusedVariables false

theorem rsmall10 (p : Int) (w : World) : Calls Tryz.prog 28 #[.int .i32 p] w fun e w' => e = .returned (.bool (small10 p)) ∧ w = w' := by
  by_cases h0 : 1072 ≤ p
  · by_cases h1 : p ≤ 1119
    · have e : small10 p = true := by unfold small10; rw [decide_eq_true ⟨h0, h1⟩]; rfl
      rw [e]
      go_enter Tryz.func28, Tryz.ntmps28
      go_wp2
      go_ret
      exact ⟨rfl, rfl⟩
    · by_cases h2 : p = 1169
      · subst h2
        go_enter Tryz.func28, Tryz.ntmps28
        go_wp2
        go_ret
        exact ⟨rfl, rfl⟩
      · have e : small10 p = false := by unfold small10; rw [decide_eq_false (fun h => h1 h.2), decide_eq_false h2]; rfl
        have g : (p == 1169) = false := beq_false_of_ne h2
        rw [e]
        go_enter Tryz.func28, Tryz.ntmps28
        go_wp2
        go_ret
        exact ⟨rfl, rfl⟩
  · have e : small10 p = false := by unfold small10; rw [decide_eq_false (fun h => h0 h.1), decide_eq_false (by omega)]; rfl
    have g : (p == 1169) = false := beq_false_of_ne (by omega)
    rw [e]
    go_enter Tryz.func28, Tryz.ntmps28
    go_wp2
    go_ret
    exact ⟨rfl, rfl⟩
theorem rcap10 (p : Int) (w : World) : Calls Tryz.prog 29 #[.int .i32 p] w fun e w' => e = .returned (.bool (cap10 p)) ∧ w = w' := by
  by_cases h0 : 1024 ≤ p
  · by_cases h1 : p ≤ 1071
    · have e : cap10 p = true := by unfold cap10; rw [decide_eq_true ⟨h0, h1⟩]; rfl
      rw [e]
      go_enter Tryz.func29, Tryz.ntmps29
      go_wp2
      go_ret
      exact ⟨rfl, rfl⟩
    · by_cases h2 : p = 1168
      · subst h2
        go_enter Tryz.func29, Tryz.ntmps29
        go_wp2
        go_ret
        exact ⟨rfl, rfl⟩
      · have e : cap10 p = false := by unfold cap10; rw [decide_eq_false (fun h => h1 h.2), decide_eq_false h2]; rfl
        have g : (p == 1168) = false := beq_false_of_ne h2
        rw [e]
        go_enter Tryz.func29, Tryz.ntmps29
        go_wp2
        go_ret
        exact ⟨rfl, rfl⟩
  · have e : cap10 p = false := by unfold cap10; rw [decide_eq_false (fun h => h0 h.1), decide_eq_false (by omega)]; rfl
    have g : (p == 1168) = false := beq_false_of_ne (by omega)
    rw [e]
    go_enter Tryz.func29, Tryz.ntmps29
    go_wp2
    go_ret
    exact ⟨rfl, rfl⟩
theorem csmall10 (p : Int) (w : World) : Calls Tryz.prog 44 #[.int .i32 p] w fun e w' => e = .returned (.bool (small10 p)) ∧ w = w' := by
  by_cases h0 : 1072 ≤ p
  · by_cases h1 : p ≤ 1119
    · have e : small10 p = true := by unfold small10; rw [decide_eq_true ⟨h0, h1⟩]; rfl
      rw [e]
      go_enter Tryz.func44, Tryz.ntmps44
      go_wp2
      go_ret
      exact ⟨rfl, rfl⟩
    · by_cases h2 : p = 1169
      · subst h2
        go_enter Tryz.func44, Tryz.ntmps44
        go_wp2
        go_ret
        exact ⟨rfl, rfl⟩
      · have e : small10 p = false := by unfold small10; rw [decide_eq_false (fun h => h1 h.2), decide_eq_false h2]; rfl
        have g : (p == 1169) = false := beq_false_of_ne h2
        rw [e]
        go_enter Tryz.func44, Tryz.ntmps44
        go_wp2
        go_ret
        exact ⟨rfl, rfl⟩
  · have e : small10 p = false := by unfold small10; rw [decide_eq_false (fun h => h0 h.1), decide_eq_false (by omega)]; rfl
    have g : (p == 1169) = false := beq_false_of_ne (by omega)
    rw [e]
    go_enter Tryz.func44, Tryz.ntmps44
    go_wp2
    go_ret
    exact ⟨rfl, rfl⟩
theorem ccap10 (p : Int) (w : World) : Calls Tryz.prog 45 #[.int .i32 p] w fun e w' => e = .returned (.bool (cap10 p)) ∧ w = w' := by
  by_cases h0 : 1024 ≤ p
  · by_cases h1 : p ≤ 1071
    · have e : cap10 p = true := by unfold cap10; rw [decide_eq_true ⟨h0, h1⟩]; rfl
      rw [e]
      go_enter Tryz.func45, Tryz.ntmps45
      go_wp2
      go_ret
      exact ⟨rfl, rfl⟩
    · by_cases h2 : p = 1168
      · subst h2
        go_enter Tryz.func45, Tryz.ntmps45
        go_wp2
        go_ret
        exact ⟨rfl, rfl⟩
      · have e : cap10 p = false := by unfold cap10; rw [decide_eq_false (fun h => h1 h.2), decide_eq_false h2]; rfl
        have g : (p == 1168) = false := beq_false_of_ne h2
        rw [e]
        go_enter Tryz.func45, Tryz.ntmps45
        go_wp2
        go_ret
        exact ⟨rfl, rfl⟩
  · have e : cap10 p = false := by unfold cap10; rw [decide_eq_false (fun h => h0 h.1), decide_eq_false (by omega)]; rfl
    have g : (p == 1168) = false := beq_false_of_ne (by omega)
    rw [e]
    go_enter Tryz.func45, Tryz.ntmps45
    go_wp2
    go_ret
    exact ⟨rfl, rfl⟩
set_option maxRecDepth 100000 in
theorem rweight_low (c p : Int) (w : World) (h : p < 128) : Calls Tryz.prog 27 #[.int .i64 c, .int .i32 p] w fun e w' => e = .returned (.int .i64 (weight10 c p)) ∧ w = w' := by
  rcases low10 c p h with ⟨rfl, e⟩ | ⟨rfl, e⟩ | ⟨rfl, e⟩ | ⟨rfl, e⟩ | ⟨h1, h2, h3, h4, h5, e⟩ | ⟨h1, h2, e⟩
  · rw [e]; clear e; go_enter Tryz.func27, Tryz.ntmps27; go_wp2; go_ret; exact ⟨rfl, rfl⟩
  · rw [e]; clear e; go_enter Tryz.func27, Tryz.ntmps27; go_wp2; go_ret; exact ⟨rfl, rfl⟩
  · rw [e]; clear e; go_enter Tryz.func27, Tryz.ntmps27; go_wp2; go_ret; exact ⟨rfl, rfl⟩
  · rw [e]; clear e; go_enter Tryz.func27, Tryz.ntmps27; go_wp2; go_ret; exact ⟨rfl, rfl⟩
  · have g1 : (p == 127) = false := beq_false_of_ne h5
    have g2 := bne10 h2
    have g3 := bne10 h3
    have g4 := bne10 h4
    rw [e]
    clear e h2 h3 h4 h5
    go_enter Tryz.func27, Tryz.ntmps27
    go_wp2
    go_ret
    exact ⟨rfl, rfl⟩
  · have g1 : (p == 127) = false := beq_false_of_ne h2
    rw [e]
    clear e h2
    go_enter Tryz.func27, Tryz.ntmps27
    go_wp2
    go_ret
    exact ⟨rfl, rfl⟩
set_option maxRecDepth 100000 in
theorem rweight_lat (p : Int) (w : World) (h : ¬ p < 128) : Calls Tryz.prog 27 #[.int .i64 0, .int .i32 p] w fun e w' => e = .returned (.int .i64 (weight10 0 p)) ∧ w = w' := by
  rcases lat10 p h with ⟨h1, e⟩ | ⟨h1, h2, e⟩ | ⟨rfl, e⟩ | ⟨rfl, e⟩ | ⟨h1, h2, h3, h4, e⟩
  · rw [e]; clear e; go_enter Tryz.func27, Tryz.ntmps27; go_wp2; go_ret; exact ⟨rfl, rfl⟩
  · rw [e]; clear e; go_enter Tryz.func27, Tryz.ntmps27; go_wp2; go_ret; exact ⟨rfl, rfl⟩
  · rw [e]; clear e; go_enter Tryz.func27, Tryz.ntmps27; go_wp2; go_ret; exact ⟨rfl, rfl⟩
  · rw [e]; clear e; go_enter Tryz.func27, Tryz.ntmps27; go_wp2; go_ret; exact ⟨rfl, rfl⟩
  · have g1 : (p == 215) = false := beq_false_of_ne h3
    have g2 : (p == 247) = false := beq_false_of_ne h4
    rw [e]
    clear e h3 h4
    go_enter Tryz.func27, Tryz.ntmps27
    go_wp2
    go_ret
    exact ⟨rfl, rfl⟩
set_option maxRecDepth 100000 in
theorem rweight_cyr (c p : Int) (w : World) (h : ¬ p < 128) (h0 : c ≠ 0) (h3 : c ≤ 3) : Calls Tryz.prog 27 #[.int .i64 c, .int .i32 p] w fun e w' => e = .returned (.int .i64 (weight10 c p)) ∧ w = w' := by
  rw [cyr10 c p h h0 h3]
  have HS := Lib.hid (fun w => rsmall10 p w)
  have HC := Lib.hid (fun w => rcap10 p w)
  have g0 : (c == 0) = false := beq_false_of_ne h0
  generalize small10 p = a at HS ⊢
  generalize cap10 p = b at HC ⊢
  clear h0
  cases a <;> cases b
  all_goals
    go_enter Tryz.func27, Tryz.ntmps27
    go_wp2_with (first
      | (go_at_call 28; refine (HS.out _).mono ?_; rintro e w1 ⟨rfl, rfl⟩)
      | (go_at_call 29; refine (HC.out _).mono ?_; rintro e w2 ⟨rfl, rfl⟩))
    go_ret
    exact ⟨rfl, rfl⟩
set_option maxRecDepth 100000 in
theorem rweight_kor (c p : Int) (w : World) (h : ¬ p < 128) (h0 : c ≠ 0) (h3 : ¬ c ≤ 3) (h5 : c ≤ 5) : Calls Tryz.prog 27 #[.int .i64 c, .int .i32 p] w fun e w' => e = .returned (.int .i64 (weight10 c p)) ∧ w = w' := by
  have g0 : (c == 0) = false := beq_false_of_ne h0
  rcases kor10 c p h h0 h3 h5 with ⟨h1, h2, e⟩ | ⟨h1, h2, e⟩ | ⟨h1, h2, e⟩ | ⟨h1, h2, h4, e⟩ | ⟨h1, e⟩
  · rw [e]
    obtain ⟨n, hn⟩ : ∃ n : Nat, n = (p - 44032).toNat := ⟨_, rfl⟩
    rw [← hn]
    have hP : p - 44032 = (n : Int) := by omega
    have HI := Lib.hid (fun w => rin n w (by omega))
    generalize inM n = b at HI ⊢
    clear e h0 hn
    cases b
    all_goals
      go_enter Tryz.func27, Tryz.ntmps27
      go_wp2_with (go_at_call 47; refine (HI.out _).mono ?_; rintro e w1 ⟨rfl, rfl⟩)
      go_ret
      exact ⟨rfl, rfl⟩
  · have h4 : ¬ 44032 ≤ p := by omega
    rw [e]; clear e h0; go_enter Tryz.func27, Tryz.ntmps27; go_wp2; go_ret; exact ⟨rfl, rfl⟩
  · have h4 : ¬ 44032 ≤ p := by omega
    rw [e]; clear e h0; go_enter Tryz.func27, Tryz.ntmps27; go_wp2; go_ret; exact ⟨rfl, rfl⟩
  · have h6 : ¬ 44032 ≤ p := by omega
    have h7 : ¬ p ≤ 12686 := by omega
    rw [e]; clear e h0; go_enter Tryz.func27, Tryz.ntmps27; go_wp2; go_ret; exact ⟨rfl, rfl⟩
  · have h6 : 44032 ≤ p := by omega
    have h7 : ¬ p ≤ 55203 := by omega
    have h8 : 12593 ≤ p := by omega
    have h9 : ¬ p ≤ 12686 := by omega
    rw [e]; clear e h0; go_enter Tryz.func27, Tryz.ntmps27; go_wp2; go_ret; exact ⟨rfl, rfl⟩
set_option maxRecDepth 100000 in
theorem rweight_chi (c p : Int) (w : World) (h : ¬ p < 128) (h0 : c ≠ 0) (h3 : ¬ c ≤ 3) (h5 : ¬ c ≤ 5) : Calls Tryz.prog 27 #[.int .i64 c, .int .i32 p] w fun e w' => e = .returned (.int .i64 (weight10 c p)) ∧ w = w' := by
  have g0 : (c == 0) = false := beq_false_of_ne h0
  rcases chi10 c p h h0 h3 h5 with ⟨h1, h2, e⟩ | ⟨h1, e⟩ | ⟨h1, h2, e⟩
  · rw [e]; clear e h0; go_enter Tryz.func27, Tryz.ntmps27; go_wp2; go_ret; exact ⟨rfl, rfl⟩
  · have h6 : ¬ 19968 ≤ p := by omega
    rw [e]; clear e h0; go_enter Tryz.func27, Tryz.ntmps27; go_wp2; go_ret; exact ⟨rfl, rfl⟩
  · have h6 : ¬ p ≤ 40959 := by omega
    have h7 : 19968 ≤ p := by omega
    rw [e]; clear e h0; go_enter Tryz.func27, Tryz.ntmps27; go_wp2; go_ret; exact ⟨rfl, rfl⟩
/-- How likely a sign is, by the document. -/
theorem rweight (c p : Int) (w : World) : Calls Tryz.prog 27 #[.int .i64 c, .int .i32 p] w fun e w' => e = .returned (.int .i64 (weight10 c p)) ∧ w = w' := by
  by_cases h : p < 128
  · exact rweight_low c p w h
  by_cases h0 : c = 0
  · subst h0
    exact rweight_lat p w h
  by_cases h3 : c ≤ 3
  · exact rweight_cyr c p w h h0 h3
  by_cases h5 : c ≤ 5
  · exact rweight_kor c p w h h0 h3 h5
  · exact rweight_chi c p w h h0 h3 h5
end Go.Proofs.YtndopjmdpmkgeaaGreatDoor

namespace Go.Proofs.YtndopjmdpmkgeaaGreatDoor
open Go Go.ChangeShapes Go.WideShapes Go.ChangeAt Go.RowKit
set_option linter.unusedSimpArgs false
set_option linter.unusedVariables false

/-- Numbers of charsets in memory: none, or some. -/
def IsCs (w : World) (a : Option Addr) (len cap : Nat) (zs : List Int) : Prop :=
  zs.length = len ∧ (len = 0 ∨ ∃ (x off : Nat), a = some ⟨x, off, none⟩ ∧ len ≤ cap ∧ x < w.heap.size ∧ ∀ (j : Nat) z, zs[j]? = some z → w.cell? ⟨x, off + j, none⟩ = some (.int .i64 z))
def csCells (l : List Int) : List Value := l.map fun z => .int .i64 z
theorem csCells_app (a b : List Int) : csCells (a ++ b) = csCells a ++ csCells b := by simp [csCells]
theorem IsCs.ext {w w' : World} {a : Option Addr} {len cap : Nat} {zs : List Int} (h : IsCs w a len cap zs) (k : Ext w w') : IsCs w' a len cap zs := by
  obtain ⟨h1, h2⟩ := h
  refine ⟨h1, ?_⟩
  rcases h2 with h2 | ⟨x, off, rfl, hc, hx, hcell⟩
  · exact .inl h2
  · exact .inr ⟨x, off, rfl, hc, Nat.lt_of_lt_of_le hx k.size, fun j z hj => (World.cell?_of_block (k.block x hx)).trans (hcell j z hj)⟩
theorem own_cs {w : World} {B : Nat} {v : Value} {n : Nat} {zs : List Int} (h : w.ownsRow B 25 1 v n (csCells zs)) : ∃ a cap, v = .slice a n cap ∧ IsCs w a n cap zs := by
  obtain ⟨hl, ⟨rfl, rfl⟩ | ⟨g, cap, cur, rfl, hg, hh, hn, hm, hs, ht⟩⟩ := h
  · exact ⟨none, 0, rfl, by simpa [csCells] using hl, .inl rfl⟩
  · have hbl : zs.length = n := by simpa [csCells] using hl
    refine ⟨some ⟨g, 0, none⟩, cap, rfl, hbl, .inr ⟨g, 0, rfl, hn, lt_of_block hh, fun j z hj => ?_⟩⟩
    have hjl : j < zs.length := (List.getElem?_eq_some_iff.1 hj).1
    have e1 : (csCells zs)[j]? = some (.int .i64 z) := by simp [csCells, hj]
    rw [← ht, List.getElem?_take, if_pos (by omega)] at e1
    have e2 : w.cell? ⟨g, 0 + j, none⟩ = cur.toList[j]? := by simp [World.cell?, hh]
    rw [e2, e1]
theorem IsCs.cell {w : World} {a : Option Addr} {n cap : Nat} {zs : List Int} (h : IsCs w a n cap zs) {k : Nat} (hk : k < n) : ∃ x off z, a = some ⟨x, off, none⟩ ∧ zs[k]? = some z ∧ ∀ w', Ext w w' → w'.cell? ⟨x, off + k, none⟩ = some (.int .i64 z) := by
  obtain ⟨h1, h2⟩ := h
  rcases h2 with h2 | ⟨x, off, rfl, hc, hx, hcell⟩
  · omega
  · have e : zs[k]? = some zs[k] := List.getElem?_eq_getElem (by omega)
    exact ⟨x, off, _, rfl, e, fun w' hxx => (World.cell?_of_block (hxx.block x hx)).trans (hcell k _ e)⟩
theorem isCs_of {w : World} {x : Addr} {zs : List Int} {len cap : Nat} (hl : len ≤ cap) (hz : zs.length = cap) (hc : ∀ i, i < zs.length → w.cell? (x.add i) = some (.int .i64 (zs.getD i 0))) : IsCs w (some x) len cap (zs.take len) := by
  refine ⟨by simp; omega, ?_⟩
  by_cases h0 : len = 0
  · exact .inl h0
  · obtain ⟨b, off, spot⟩ := x
    have e0 := hc 0 (by omega)
    have hspot : spot = none := by simpa [Addr.add] using World.cell?_spot e0
    subst hspot
    have hlt := World.block_lt_of_cell? w _ e0
    refine .inr ⟨b, off, rfl, hl, by simpa [Addr.add] using hlt, fun j y hj => ?_⟩
    have hjl : j < len := by
      rcases Nat.lt_or_ge j len with h | h
      · exact h
      · rw [List.getElem?_eq_none (by simp; omega)] at hj
        cases hj
    have e1 := hc j (by omega)
    rw [Go.WideShapes.add_plain] at e1
    rw [e1]
    rw [List.getElem?_take, if_pos hjl] at hj
    simp [List.getD, hj]
/-- Two rows that a call owns lie apart. -/
def FarV (u v : Value) : Prop := ∀ g, u.ownBlock = some g → v.ownBlock = some g → False
theorem FarV.symm {u v : Value} (h : FarV u v) : FarV v u := fun g a b => h g b a
theorem FarV.step {w w' : World} {o : Obj} {B : Nat} {e : TypeId} {size : Nat} {v v' u : Value} {n : Nat} {xs : List Value} (hf : FarV v u) (ho : w.ownsRow B e size u n xs) (hg : (w.alloc o).grownBy w' v.ownBlock) (hfr : v'.ownBlock = v.ownBlock ∨ v'.ownBlock = some (w.alloc o).heap.size) :
    w'.ownsRow B e size u n xs ∧ FarV v' u := by
  have hlt := ho.lt
  refine ⟨(ho.alloc o).kept hg ?_, fun g a b => ?_⟩
  · cases hu : u.ownBlock with
    | none => exact .inl rfl
    | some g =>
      refine .inr fun h => hf g h.symm hu
  · rcases hfr with h | h
    · exact hf g (h ▸ a) b
    · have h1 := hlt g b
      rw [h] at a
      have h2 : (w.alloc o).heap.size = g := Option.some.inj a
      have h3 : w.heap.size ≤ (w.alloc o).heap.size := by simp
      omega
theorem info_cs : (Tryz.prog.info? 25).map (fun i => (i.zero, i.size, i.bytes)) = some (some (.int .i64 0), 1, 8) := by kernel_rfl
theorem info_parts_cs : ∃ i, Tryz.prog.info? 25 = some i ∧ i.zero = some (.int .i64 0) ∧ i.size = 1 ∧ i.bytes = 8 := by
  obtain ⟨i, hi, h2⟩ := Option.map_eq_some_iff.1 info_cs
  obtain ⟨h3, h4⟩ := Prod.mk.inj h2
  obtain ⟨h5, h6⟩ := Prod.mk.inj h4
  exact ⟨i, hi, h3, h5, h6⟩
end Go.Proofs.YtndopjmdpmkgeaaGreatDoor

namespace Go.Proofs.YtndopjmdpmkgeaaGreatDoor
open Go Go.ChangeShapes Go.WideShapes Go.ChangeAt Go.RowKit
set_option linter.unusedSimpArgs false
set_option linter.unusedVariables false

set_option maxRecDepth 100000 in
theorem rscore_no (c : Int) (s : ByteArray) (w : World) (hc : c < 0 ∨ 6 < c) : Calls Tryz.prog 11 #[.int .i64 c, .string s] w fun e w' => e = .returned (.tuple #[.int .i64 0, .bool false]) ∧ Ext w w' := by
  have hcc : c < 0 ∨ (¬ c < 0 ∧ 6 < c) := by omega
  clear hc
  rcases hcc with h | ⟨h, h2⟩
  all_goals
    go_enter Tryz.func11, Tryz.ntmps11
    go_wp2
    go_ret2
    exact ⟨rfl, Ext.refl _⟩
set_option maxRecDepth 100000 in
theorem rscore_bad (c : Nat) (s : ByteArray) (w : World) (hc : c ≤ 6) (hs : s.size ≤ 100000) (h : ¬ (decN c s).2 < 0) : Calls Tryz.prog 11 #[.int .i64 c, .string s] w fun e w' => e = .returned (.tuple #[.int .i64 0, .bool false]) ∧ Ext w w' := by
  have HD : Hid (∃ u v, ∀ w, Calls Tryz.prog 20 #[.int .i64 c, .string s] w fun e w' => e = .returned (.tuple #[.string u, .int .i64 2, .int .i64 v]) ∧ Ext w w') := ⟨_, _, fun w => by
    have := rdecN c s w (by omega) (by omega)
    rwa [show code9 (decN c s).2 = 2 from if_neg h] at this⟩
  obtain ⟨u, v, HDD⟩ := HD.out
  have HD2 := Lib.hid HDD
  have n0 : ¬ (c : Int) < 0 := by omega
  have n1 : ¬ (6 : Int) < c := by omega
  clear HD HDD h hc
  generalize (c : Int) = q at HD2 n0 n1 ⊢
  go_enter Tryz.func11, Tryz.ntmps11
  go_wp2_with (go_at_call 20; refine (HD2.out _).mono ?_; rintro e w1 ⟨rfl, hb1⟩)
  go_ret2
  exact ⟨rfl, hb1⟩
set_option maxRecDepth 100000 in
set_option maxHeartbeats 4000000 in
theorem rscore_ok (c : Nat) (s : ByteArray) (w : World) (hc : c ≤ 6) (hs : s.size ≤ 100000) (h : (decN c s).2 < 0) : Calls Tryz.prog 11 #[.int .i64 c, .string s] w fun e w' => e = .returned (.tuple #[.int .i64 (score10 c (-1) (sgn (decN c s).1)), .bool true]) ∧ Ext w w' := by
  have hb := decN_signs c (by omega) s
  have hsz := (decN_bounds c (by omega) s).1
  have HD : Hid (∀ w, Calls Tryz.prog 20 #[.int .i64 c, .string s] w fun e w' => e = .returned (.tuple #[.string (decN c s).1, .int .i64 0, .int .i64 0]) ∧ Ext w w') := fun w => by
    have := rdecN c s w (by omega) (by omega)
    rwa [show code9 (decN c s).2 = 0 from if_pos h, show at9 (decN c s).2 = 0 from if_pos h] at this
  have n0 : ¬ (c : Int) < 0 := by omega
  have n1 : ¬ (6 : Int) < c := by omega
  generalize (decN c s).1 = t at HD hb hsz ⊢
  clear h hc
  generalize (c : Int) = q at HD n0 n1 ⊢
  have hl := sgn_len t
  have HP : Hid (∀ w, Calls Tryz.prog 26 #[.string t] w fun e w' => ∃ a cap, e = .returned (.tuple #[.slice a (sgn t).length cap, .int .i64 (-1)]) ∧ IsRow w' a (sgn t).length cap (sgn t) ∧ Ext w w') := fun w => rpoints_ok t w (by omega) hb
  generalize sgn t = zs at hl HP ⊢
  have hzl : zs.length ≤ 800000 := by omega
  obtain ⟨S, hS⟩ : ∃ S : Nat → Int, S = fun j => score10 q (-1) (zs.take j) := ⟨_, rfl⟩
  obtain ⟨L, hL⟩ : ∃ L : Nat → Int, L = fun j => last10 (-1) (zs.take j) := ⟨_, rfl⟩
  have HSt : Hid (∀ j p, zs[j]? = some p → S (j + 1) = S j + step10 q (L j) p ∧ L (j + 1) = p) := fun j p hj => by rw [hS, hL]; exact score10_take q (-1) zs j p hj
  have HBd : Hid (∀ j, j ≤ zs.length → -(11 * (zs.length : Int)) ≤ S j ∧ S j ≤ 6 * (zs.length : Int)) := fun j hj => by rw [hS]; exact score10_len q (-1) zs j _ hj
  have hS0 : S 0 = 0 := by rw [hS]; rfl
  have hL0 : L 0 = -1 := by rw [hL]; rfl
  have HEnd : Hid (score10 q (-1) zs = S zs.length) := by rw [hS]; show _ = score10 q (-1) (zs.take zs.length); rw [List.take_length]
  rw [HEnd.out]
  clear hS hL HEnd hl hb hsz
  have HW := Lib.hid (fun p w => rweight q p w)
  have HSm := Lib.hid (fun p w => rsmall10 p w)
  have HCp := Lib.hid (fun p w => rcap10 p w)
  have HS0 := Lib.hid hS0
  have HL0 := Lib.hid hL0
  clear hS0 hL0
  go_enter Tryz.func11, Tryz.ntmps11
  go_wp2_with (first
    | (go_at_call 20; refine (HD.out _).mono ?_; rintro e w1 ⟨rfl, hb1⟩)
    | (go_at_call 26; refine (HP.out _).mono ?_; rintro e w2 ⟨a, cap, rfl, hz, hb2⟩; have HZ := Lib.hid hz; clear hz))
  have hxw := hb1.trans hb2
  have HXW := Lib.hid hxw
  clear hb1 hb2 hxw HD HP
  go_loopw [11, 12] (fun v i wr => ∃ j : Nat, j ≤ zs.length ∧ v = .int .i64 (S j) ∧ i = .int .i64 j ∧ Ext w2 wr) (fun _ i _ => zs.length - (intOf i).toNat)
  case atStart => exact ⟨0, by omega, by rw [HS0.out], rfl, Ext.refl _⟩
  case round =>
    obtain ⟨j, hj, rfl, rfl, hx⟩ := hrel
    have hbd := HBd.out j hj
    by_cases hlt : j < zs.length
    · have hji : (j : Int) < zs.length := by omega
      obtain ⟨x, off, p, rfl, hzp, hcell⟩ := HZ.out.cell hlt
      have hcp := hcell _ hx
      have hw := weight10_bd q p
      have HN := Lib.hid (HSt.out j p hzp).1
      have HW1 := Lib.hid (fun w => HW.out p w)
      by_cases h0 : 0 < j
      case neg =>
        have h0i : ¬ (0 : Int) < j := by omega
        have HN1 : Hid (S (j + 1) = S j + weight10 q p) := by
          show _ = _
          have e0 : j = 0 := by omega
          rw [HN.out, show L j = -1 by rw [e0]; exact HL0.out, step10_first]
        generalize weight10 q p = v at hw HW1 HN1
        clear HN HSt HBd HS0 HL0 HW hcell hzp HSm HCp h0
        go_wp2_with (go_at_call 27; refine (HW1.out _).mono ?_; rintro e w3 ⟨rfl, rfl⟩)
        go_roundw
        case rel => exact ⟨j + 1, by omega, by rw [HN1.out], by go_num, hx⟩
        case measure => simp [intOf]; omega
      case pos =>
        obtain ⟨i, rfl⟩ : ∃ i, j = i + 1 := ⟨j - 1, by omega⟩
        obtain ⟨x2, off2, z, he2, hzz, hcell2⟩ := HZ.out.cell (k := i) (by omega)
        obtain ⟨rfl, rfl⟩ : x = x2 ∧ off = off2 := by
          have := Option.some.inj he2
          injection this with a b c
          exact ⟨a, b⟩
        have hcz := hcell2 _ hx
        have hLi : L (i + 1) = z := (HSt.out i z hzz).2
        have HN1 : Hid (S (i + 1 + 1) = S (i + 1) + (weight10 q p - (if small10 z && cap10 p then 3 else 0))) := by
          show _ = _
          rw [HN.out, hLi]
          rfl
        have HS1 := Lib.hid (fun w => HSm.out z w)
        have HC1 := Lib.hid (fun w => HCp.out p w)
        generalize weight10 q p = v at hw HW1 HN1
        generalize small10 z = u1 at HN1 HS1
        generalize cap10 p = u2 at HN1 HC1
        have hji2 : (i : Int) + 1 < zs.length := by omega
        have hil : (i : Int) < zs.length := by omega
        clear HN HSt HBd HS0 HL0 HW hcell hzp hcell2 hzz HSm HCp he2 hLi
        cases u1 with
        | false =>
          have HN2 : Hid (S (i + 1 + 1) = S (i + 1) + v) := by show _ = _; rw [HN1.out]; simp
          clear HN1
          go_wp2_with (first
            | (go_at_call 27; refine (HW1.out _).mono ?_; rintro e w3 ⟨rfl, rfl⟩)
            | (go_at_call 28; refine (HS1.out _).mono ?_; rintro e w4 ⟨rfl, rfl⟩))
          go_roundw
          case rel => exact ⟨i + 1 + 1, by omega, by rw [HN2.out], by go_num, hx⟩
          case measure => simp [intOf]; omega
        | true =>
          cases u2 with
          | false =>
            have HN2 : Hid (S (i + 1 + 1) = S (i + 1) + v) := by show _ = _; rw [HN1.out]; simp
            clear HN1
            go_wp2_with (first
              | (go_at_call 27; refine (HW1.out _).mono ?_; rintro e w3 ⟨rfl, rfl⟩)
              | (go_at_call 28; refine (HS1.out _).mono ?_; rintro e w4 ⟨rfl, rfl⟩)
              | (go_at_call 29; refine (HC1.out _).mono ?_; rintro e w5 ⟨rfl, rfl⟩))
            go_roundw
            case rel => exact ⟨i + 1 + 1, by omega, by rw [HN2.out], by go_num, hx⟩
            case measure => simp [intOf]; omega
          | true =>
            have HN2 : Hid (S (i + 1 + 1) = S (i + 1) + v - 3) := by show _ = _; rw [HN1.out]; simp; omega
            clear HN1
            go_wp2_with (first
              | (go_at_call 27; refine (HW1.out _).mono ?_; rintro e w3 ⟨rfl, rfl⟩)
              | (go_at_call 28; refine (HS1.out _).mono ?_; rintro e w4 ⟨rfl, rfl⟩)
              | (go_at_call 29; refine (HC1.out _).mono ?_; rintro e w5 ⟨rfl, rfl⟩))
            go_roundw
            case rel => exact ⟨i + 1 + 1, by omega, by rw [HN2.out], by go_num, hx⟩
            case measure => simp [intOf]; omega
    · have hje : j = zs.length := by omega
      subst hje
      have hji : ¬ (zs.length : Int) < zs.length := by omega
      have HX := Lib.hid (HXW.out.trans hx)
      clear HSt HBd HS0 HL0 HW HSm HCp HXW hx
      go_wp2
      go_ret2
      exact ⟨rfl, HX.out⟩
/-- The document's score of bytes in any charset. -/
theorem rscore (c : Int) (s : ByteArray) (w : World) (hs : s.size ≤ 100000) : Calls Tryz.prog 11 #[.int .i64 c, .string s] w fun e w' => e = .returned (.tuple #[.int .i64 (scN s c), .bool (scoreB s c).isSome]) ∧ Ext w w' := by
  by_cases hc : c < 0 ∨ 6 < c
  · have e : scoreB s c = none := if_neg (by omega)
    rw [scN_no e, e]
    exact rscore_no c s w hc
  · obtain ⟨k, rfl⟩ := Int.eq_ofNat_of_zero_le (show 0 ≤ c by omega)
    have hk : k ≤ 6 := by omega
    by_cases h : (decN k s).2 < 0
    · have e : scoreB s (k : Int) = some (score10 k (-1) (sgn (decN k s).1)) := by
        unfold scoreB
        rw [Int.toNat_natCast, if_pos ⟨by omega, by omega, h⟩]
      rw [scN_yes e, e]
      exact rscore_ok k s w hk hs h
    · have e : scoreB s (k : Int) = none := by
        unfold scoreB
        rw [Int.toNat_natCast, if_neg (fun h2 => h h2.2.2)]
      rw [scN_no e, e]
      exact rscore_bad k s w hk hs h
theorem isCs_lit (w : World) (zs : List Int) (T : TypeId) : IsCs (w.alloc (.cells (csCells zs).toArray T)) (some ⟨w.heap.size, 0, none⟩) zs.length zs.length zs := by
  refine ⟨rfl, .inr ⟨w.heap.size, 0, rfl, Nat.le_refl _, by simp, fun j z hj => ?_⟩⟩
  have h := heap_alloc_new w (.cells (csCells zs).toArray T)
  have e1 : (csCells zs)[j]? = some (.int .i64 z) := by simp [csCells, hj]
  have e2 : ∀ (W : World) (g : Nat), W.heap[g]? = some (.cells (csCells zs).toArray T (0, 0)) → W.cell? ⟨g, 0 + j, none⟩ = (csCells zs)[j]? := fun W g hh => by simp [World.cell?, hh]
  rw [e2 _ _ h, e1]
theorem rorder_lit (w : World) (T : TypeId) : IsCs (w.alloc (.cells #[.int .i64 4, .int .i64 6, .int .i64 5, .int .i64 1, .int .i64 2, .int .i64 3, .int .i64 0] T)) (some ⟨w.heap.size, 0, none⟩) 7 7 order10 := isCs_lit w order10 T
set_option maxRecDepth 100000 in
theorem rorder (w : World) : Calls Tryz.prog 15 #[] w fun e w' => ∃ a cap, e = .returned (.slice a 7 cap) ∧ IsCs w' a 7 cap order10 ∧ Ext w w' := by
  go_enter Tryz.func15, Tryz.ntmps15
  go_wp2
  go_ret
  exact ⟨_, _, rfl, rorder_lit w _, (Ext.refl w).alloc _⟩
set_option maxRecDepth 100000 in
set_option maxHeartbeats 4000000 in
/-- The document's likeliest of some charsets. -/
theorem rguess (b : ByteArray) (a : Option Addr) (n cap : Nat) (zs : List Int) (w : World) (hz : IsCs w a n cap zs) (hs : b.size ≤ 1000) (hn : n ≤ 1000) : Calls Tryz.prog 13 #[.string b, .slice a n cap] w fun e w' => e = .returned (.int .i64 (guess10 (scoreB b) zs)) ∧ Ext w w' := by
  have HZ := Lib.hid hz
  have HLen := Lib.hid hz.1
  have HSc : Hid (∀ c w, Calls Tryz.prog 11 #[.int .i64 c, .string b] w fun e w' => e = .returned (.tuple #[.int .i64 (scN b c), .bool (scoreB b c).isSome]) ∧ Ext w w') := fun c w => rscore c b w (by omega)
  have HBd := Lib.hid (fun c => scN_bd b c)
  have HNo : Hid (∀ c, scoreB b c = none → scN b c = 0) := fun c h => scN_no h
  have HYes : Hid (∀ c n, scoreB b c = some n → scN b c = n) := fun c n h => scN_yes h
  obtain ⟨f, hf⟩ : ∃ f, f = scoreB b := ⟨_, rfl⟩
  rw [← hf] at HSc HNo HYes ⊢
  obtain ⟨M, hM⟩ : ∃ M : Nat → Int, M = fun j => most10 f 0 (zs.take j) := ⟨_, rfl⟩
  have HMt : Hid (∀ j c, zs[j]? = some c → M (j + 1) = match f c with | some n => if M j < n then n else M j | none => M j) := fun j c h => by rw [hM]; exact most10_take f 0 zs j c h
  have HM0 : Hid (M 0 = 0) := by show M 0 = 0; rw [hM]; rfl
  obtain ⟨G, hG⟩ : ∃ G, G = guess10 f zs := ⟨_, rfl⟩
  have hzn : zs.take n = zs := List.take_of_length_le (by rw [hz.1]; exact Nat.le_refl _)
  have HG0 : Hid (M n = 0 → G = -1) := fun h => by
    rw [hM] at h
    simp only at h
    rw [hzn] at h
    rw [hG]
    exact if_pos h
  have HG1 : Hid (M n ≠ 0 → G = first10 f (M n) (zs.drop 0)) := fun h => by
    rw [hM] at h ⊢
    simp only at h ⊢
    rw [hzn] at h ⊢
    rw [hG]
    exact if_neg h
  have HFirst : Hid (∀ m j c, zs[j]? = some c → first10 f m (zs.drop j) = if f c = some m then c else first10 f m (zs.drop (j + 1))) := fun m j c h => by rw [drop_int h]; rfl
  have HFEnd : Hid (∀ m, first10 f m (zs.drop n) = -1) := fun m => by rw [List.drop_eq_nil_of_le (by rw [hz.1]; exact Nat.le_refl _)]; rfl
  rw [← hG]
  clear hz hzn hG hM hf
  generalize scN b = g at HSc HBd HNo HYes
  go_enter Tryz.func13, Tryz.ntmps13
  go_wp2
  go_loopw [5, 6] (fun v i wr => ∃ j : Nat, j ≤ n ∧ v = .int .i64 (M j) ∧ i = .int .i64 j ∧ Ext w wr) (fun _ i _ => n - (intOf i).toNat)
  case atStart => exact ⟨0, by omega, by rw [HM0.out], rfl, Ext.refl _⟩
  case round =>
    obtain ⟨j, hj, rfl, rfl, hx⟩ := hrel
    by_cases hlt : j < n
    · have hji : (j : Int) < n := by omega
      obtain ⟨x, off, c, rfl, hzc, hcell⟩ := HZ.out.cell hlt
      have hc := hcell _ hx
      have HN := Lib.hid (HMt.out j c hzc)
      have HS1 := Lib.hid (fun w => HSc.out c w)
      have hy : Hid (f c = none ∨ ∃ n, f c = some n ∧ g c = n) := by
        show _ ∨ _
        cases e : f c with
        | none => exact .inl rfl
        | some n => exact .inr ⟨n, rfl, HYes.out c n e⟩
      clear HSc HBd HMt HM0 HG0 HG1 HFirst HFEnd HNo HYes hcell hzc
      rcases hy.out with e | ⟨m, e, e2⟩
      · have HN1 : Hid (M (j + 1) = M j) := by show _ = _; rw [HN.out, e]
        rw [e] at HS1
        clear HN hy e
        generalize g c = v at HS1
        go_wp2_with (go_at_call 11; refine (HS1.out _).mono ?_; rintro e w3 ⟨rfl, hb3⟩; have hx3 := hx.trans hb3)
        go_roundw
        case rel => exact ⟨j + 1, by omega, by rw [HN1.out], by go_num, hx3⟩
        case measure => simp [intOf]; omega
      · rw [e, e2] at HS1
        by_cases hm : M j < m
        · have HN1 : Hid (M (j + 1) = m) := by show _ = _; rw [HN.out, e]; exact if_pos hm
          clear HN hy e e2
          go_wp2_with (go_at_call 11; refine (HS1.out _).mono ?_; rintro e w3 ⟨rfl, hb3⟩; have hx3 := hx.trans hb3)
          go_roundw
          case rel => exact ⟨j + 1, by omega, by rw [HN1.out], by go_num, hx3⟩
          case measure => simp [intOf]; omega
        · have HN1 : Hid (M (j + 1) = M j) := by show _ = _; rw [HN.out, e]; exact if_neg hm
          clear HN hy e e2
          go_wp2_with (go_at_call 11; refine (HS1.out _).mono ?_; rintro e w3 ⟨rfl, hb3⟩; have hx3 := hx.trans hb3)
          go_roundw
          case rel => exact ⟨j + 1, by omega, by rw [HN1.out], by go_num, hx3⟩
          case measure => simp [intOf]; omega
    · have hje : j = n := by omega
      subst hje
      have hji : ¬ (j : Int) < j := by omega
      obtain ⟨m, hm⟩ : ∃ m, m = M j := ⟨_, rfl⟩
      rw [← hm] at HG0 HG1 ⊢
      by_cases h0 : m = 0
      · have HE := Lib.hid (HG0.out h0)
        subst h0
        clear hm HMt HM0 HSc HBd HNo HYes HG0 HG1 HFirst HFEnd
        go_wp2
        go_ret
        exact ⟨by first | (rw [HE.out]; done) | (rw [HE.out]; rfl), hx⟩
      · have HE := Lib.hid (HG1.out h0)
        have g0 : (m == 0) = false := beq_false_of_ne h0
        clear hm HMt HM0 HG0 HG1 h0 HBd
        go_wp2
        go_loopw [9] (fun i wr => ∃ q : Nat, q ≤ j ∧ i = .int .i64 q ∧ Hid (G = first10 f m (zs.drop q)) ∧ Ext w wr) (fun i _ => j - (intOf i).toNat)
        case atStart => exact ⟨0, by omega, rfl, HE.out, hx⟩
        case round =>
          obtain ⟨q, hq, rfl, HQ, hxq⟩ := hrel
          by_cases hqm : q < j
          · have hqi : (q : Int) < j := by omega
            obtain ⟨x, off, c, rfl, hzc, hcell⟩ := HZ.out.cell hqm
            have hc := hcell _ hxq
            have HCell := Lib.hid hcell
            have HN := Lib.hid (HFirst.out m q c hzc)
            have HS1 := Lib.hid (fun w => HSc.out c w)
            have hy : Hid (f c = none ∨ ∃ n, f c = some n ∧ g c = n) := by
              show _ ∨ _
              cases e : f c with
              | none => exact .inl rfl
              | some n => exact .inr ⟨n, rfl, HYes.out c n e⟩
            clear HSc HFirst HFEnd HNo HYes hcell hzc HE
            rcases hy.out with e | ⟨k, e, e2⟩
            · have HN1 : Hid (G = first10 f m (zs.drop (q + 1))) := by show _ = _; rw [HQ.out, HN.out, if_neg (by rw [e]; exact fun h => by cases h)]
              rw [e] at HS1
              clear HN hy e HQ
              generalize g c = v at HS1
              go_wp2_with (go_at_call 11; refine (HS1.out _).mono ?_; rintro e w3 ⟨rfl, hb3⟩; have hx3 := hxq.trans hb3)
              go_roundw
              case rel => exact ⟨q + 1, by omega, by go_num, HN1, hx3⟩
              case measure => simp [intOf]; omega
            · rw [e, e2] at HS1
              by_cases hm : k = m
              · have gm : (k == m) = true := beq_iff_eq.2 hm
                have HN1 : Hid (G = c) := by show _ = _; rw [HQ.out, HN.out, if_pos (by rw [e, hm])]
                clear HN hy e e2 HQ hm
                go_wp2_with (go_at_call 11; refine (HS1.out _).mono ?_; rintro e w3 ⟨rfl, hb3⟩; have hx3 := hxq.trans hb3; have hc3 := HCell.out _ hx3; clear hc)
                go_ret
                exact ⟨by first | (rw [HN1.out]; done) | (rw [HN1.out]; rfl), hx3⟩
              · have HN1 : Hid (G = first10 f m (zs.drop (q + 1))) := by show _ = _; rw [HQ.out, HN.out, if_neg (by rw [e]; exact fun h => hm (Option.some.inj h))]
                have gm : (k == m) = false := beq_false_of_ne hm
                clear HN hy e e2 HQ hm
                go_wp2_with (go_at_call 11; refine (HS1.out _).mono ?_; rintro e w3 ⟨rfl, hb3⟩; have hx3 := hxq.trans hb3)
                go_roundw
                case rel => exact ⟨q + 1, by omega, by go_num, HN1, hx3⟩
                case measure => simp [intOf]; omega
          · have hqe : q = j := by omega
            subst hqe
            have hqi : ¬ (q : Int) < q := by omega
            have HN1 : Hid (G = -1) := by show _ = _; rw [HQ.out]; exact HFEnd.out m
            clear HSc HFirst HFEnd HNo HYes HE HQ
            go_wp2
            go_ret
            exact ⟨by first | (rw [HN1.out]; done) | (rw [HN1.out]; rfl), hxq⟩
end Go.Proofs.YtndopjmdpmkgeaaGreatDoor

