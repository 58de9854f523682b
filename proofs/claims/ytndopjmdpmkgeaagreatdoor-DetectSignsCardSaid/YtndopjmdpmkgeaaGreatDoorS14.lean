/-
  What the proof of this claim leans on (S14).
-/
import Derived.Test.YtndopjmdpmkgeaaGreatDoorS6
import Derived.Test.YtndopjmdpmkgeaaGreatDoorS8
import Derived.Test.YtndopjmdpmkgeaaGreatDoorS13
import Derived.Lib.MapLaws
import Derived.Lib.TrimAscii
namespace Go.Proofs.YtndopjmdpmkgeaaGreatDoor
open Go Go.ChangeShapes Go.WideShapes Go.ChangeAt Go.RowKit
set_option linter.unusedSimpArgs false
set_option linter.unusedVariables false

/-- The text of bytes in a charset, and the place of the fault; -1: none. -/
def decN (c : Nat) (s : ByteArray) : ByteArray × Int :=
  if c ≤ 3 then (txt (decZ c s.data.toList), -1)
  else if c ≤ 6 then dec9 (sg9 c) s 0 ⟨#[]⟩
  else if c = 7 then (if badS s < 0 then s else ⟨#[]⟩, badS s)
  else (wtxt (wdS (decide (c = 9)) s).1 (wdS (decide (c = 9)) s).2, (wdS (decide (c = 9)) s).2)
set_option maxRecDepth 100000 in
set_option maxHeartbeats 1000000 in
theorem rdecN_arg (c : Int) (s : ByteArray) (w : World) (hc : c < 0 ∨ 9 < c) :
    Calls Tryz.prog 20 #[.int .i64 c, .string s] w fun e w' => e = .returned (.tuple #[.string ⟨#[]⟩, .int .i64 5, .int .i64 0]) ∧ Ext w w' := by
  have hcc : c < 0 ∨ (¬ c < 0 ∧ 9 < c) := by omega
  clear hc
  rcases hcc with h | ⟨h, h2⟩
  all_goals
    go_enter Tryz.func20, Tryz.ntmps20
    go_wp2
    refine bodyPost_ret (v := .tuple #[.string ⟨#[]⟩, .int .i64 5, .int .i64 0]) (by simp [results, Tryz.results20, go_sem]) rfl ?_
    exact ⟨rfl, Ext.refl _⟩
set_option maxRecDepth 100000 in
set_option maxHeartbeats 1000000 in
theorem rdecN_one (c : Nat) (s : ByteArray) (w : World) (hc : c ≤ 3) (hs : s.size ≤ 1000000) :
    Calls Tryz.prog 20 #[.int .i64 c, .string s] w fun e w' => e = .returned (.tuple #[.string (decN c s).1, .int .i64 0, .int .i64 0]) ∧ Ext w w' := by
  have e : (decN c s).1 = txt (decZ c s.data.toList) := by unfold decN; rw [if_pos hc]
  rw [e]
  have HD := Lib.hid (fun w => rdec5 (c : Int) s w (by omega) (by omega) hs)
  clear e
  generalize txt (decZ (c : Int) s.data.toList) = t at HD
  have h0 : (0 : Int) ≤ c := by omega
  have h1 : (c : Int) ≤ 3 := by omega
  clear hc
  generalize (c : Int) = z at HD h0 h1
  go_enter Tryz.func20, Tryz.ntmps20
  go_wp2_with (go_at_call 34; refine (HD.out _).mono ?_; rintro e w1 ⟨rfl, hb⟩)
  refine bodyPost_ret (v := .tuple #[.string t, .int .i64 0, .int .i64 0]) (by simp [results, Tryz.results20, go_sem]) rfl ?_
  exact ⟨rfl, hb⟩
set_option maxRecDepth 100000 in
set_option maxHeartbeats 1000000 in
theorem rdecN_signs (s : ByteArray) (w : World) (hs : s.size ≤ 1000000) :
    Calls Tryz.prog 20 #[.int .i64 7, .string s] w fun e w' => e = .returned (.tuple #[.string (decN 7 s).1, .int .i64 (code9 (decN 7 s).2), .int .i64 (at9 (decN 7 s).2)]) ∧ Ext w w' := by
  have e : decN 7 s = (if badS s < 0 then s else ⟨#[]⟩, badS s) := by unfold decN; rw [if_neg (by omega), if_neg (by omega), if_pos rfl]
  rw [e]
  clear e
  by_cases h : badS s < 0
  · have HP := Lib.hid (fun w => rpoints_ok s w (by omega) h)
    have e1 : (if badS s < 0 then s else ⟨#[]⟩, badS s).1 = s := if_pos h
    have e2 : code9 (badS s) = 0 := if_pos h
    have e3 : at9 (badS s) = 0 := if_pos h
    rw [e1, show (if badS s < 0 then s else ⟨#[]⟩, badS s).2 = badS s from rfl, e2, e3]
    clear e1 e2 e3
    go_enter Tryz.func20, Tryz.ntmps20
    go_wp2_with (go_at_call 26; refine (HP.out _).mono ?_; rintro e w1 ⟨a, cap, rfl, _, hb⟩)
    refine bodyPost_ret (v := .tuple #[.string s, .int .i64 0, .int .i64 0]) (by simp [results, Tryz.results20, go_sem]) rfl ?_
    exact ⟨rfl, hb⟩
  · have HP := Lib.hid (fun w => rpoints_bad s w (by omega) h)
    have e1 : (if badS s < 0 then s else ⟨#[]⟩, badS s).1 = (⟨#[]⟩ : ByteArray) := if_neg h
    have e2 : code9 (badS s) = 2 := if_neg h
    have e3 : at9 (badS s) = badS s := if_neg h
    rw [e1, show (if badS s < 0 then s else ⟨#[]⟩, badS s).2 = badS s from rfl, e2, e3]
    clear e1 e2 e3
    generalize badS s = p at HP h
    go_enter Tryz.func20, Tryz.ntmps20
    go_wp2_with (go_at_call 26; refine (HP.out _).mono ?_; rintro e w1 ⟨rfl, hb⟩)
    refine bodyPost_ret (v := .tuple #[.string ⟨#[]⟩, .int .i64 2, .int .i64 p]) (by simp [results, Tryz.results20, go_sem]) rfl ?_
    exact ⟨rfl, hb⟩
set_option maxRecDepth 100000 in
set_option maxHeartbeats 1000000 in
theorem rdecN_units (c : Nat) (s : ByteArray) (w : World) (hc : c = 8 ∨ c = 9) (hs : s.size ≤ 1000000) :
    Calls Tryz.prog 20 #[.int .i64 c, .string s] w fun e w' => e = .returned (.tuple #[.string (decN c s).1, .int .i64 (code9 (decN c s).2), .int .i64 (at9 (decN c s).2)]) ∧ Ext w w' := by
  have e : decN c s = (wtxt (wdS (decide (c = 9)) s).1 (wdS (decide (c = 9)) s).2, (wdS (decide (c = 9)) s).2) := by unfold decN; rw [if_neg (by omega), if_neg (by omega), if_neg (by omega)]
  rw [e]
  have HR := Lib.hid (fun w => rdecode s (decide (c = 9)) _ _ w hs rfl rfl)
  clear e
  have g : ((c : Int) == 9) = decide (c = 9) := by rcases hc with rfl | rfl <;> rfl
  have h0 : (8 : Int) ≤ c := by omega
  have h1 : (c : Int) ≤ 9 := by omega
  generalize (wdS (decide (c = 9)) s).2 = p at HR
  by_cases hp : p < 0
  · have e2 : code9 p = 0 := if_pos hp
    have e3 : at9 p = 0 := if_pos hp
    simp only [e2, e3]
    clear e2 e3 hc
    generalize wtxt (wdS (decide (c = 9)) s).1 p = t at HR
    generalize decide (c = 9) = b at HR g
    generalize (c : Int) = z at g h0 h1
    go_enter Tryz.func20, Tryz.ntmps20
    go_wp2_with (go_at_call 35; refine (HR.out _).mono ?_; rintro e w1 ⟨rfl, hb⟩)
    refine bodyPost_ret (v := .tuple #[.string t, .int .i64 0, .int .i64 0]) (by simp [results, Tryz.results20, go_sem]) rfl ?_
    exact ⟨rfl, hb⟩
  · have e2 : code9 p = 2 := if_neg hp
    have e3 : at9 p = p := if_neg hp
    have e4 : wtxt (wdS (decide (c = 9)) s).1 p = ⟨#[]⟩ := if_neg hp
    simp only [e2, e3, e4]
    rw [e4] at HR
    clear e2 e3 e4 hc
    generalize decide (c = 9) = b at HR g
    generalize (c : Int) = z at g h0 h1
    go_enter Tryz.func20, Tryz.ntmps20
    go_wp2_with (go_at_call 35; refine (HR.out _).mono ?_; rintro e w1 ⟨rfl, hb⟩)
    refine bodyPost_ret (v := .tuple #[.string ⟨#[]⟩, .int .i64 2, .int .i64 p]) (by simp [results, Tryz.results20, go_sem]) rfl ?_
    exact ⟨rfl, hb⟩
/-- What the document's Decode answers, in any charset. -/
theorem rdecN (c : Nat) (s : ByteArray) (w : World) (hc : c ≤ 9) (hs : s.size ≤ 1000000) :
    Calls Tryz.prog 20 #[.int .i64 c, .string s] w fun e w' => e = .returned (.tuple #[.string (decN c s).1, .int .i64 (code9 (decN c s).2), .int .i64 (at9 (decN c s).2)]) ∧ Ext w w' := by
  by_cases h3 : c ≤ 3
  · have e : (decN c s).2 = -1 := by unfold decN; rw [if_pos h3]
    rw [e]
    exact rdecN_one c s w h3 hs
  by_cases h6 : c ≤ 6
  · refine rdec9 c s w (by omega) hs _ _ ?_
    unfold decN
    rw [if_neg h3, if_pos h6]
  by_cases h7 : c = 7
  · subst h7
    exact rdecN_signs s w hs
  · exact rdecN_units c s w (by omega) hs
end Go.Proofs.YtndopjmdpmkgeaaGreatDoor

namespace Go.Proofs.YtndopjmdpmkgeaaGreatDoor
open Go Go.RowKit
set_option linter.unusedSimpArgs false
set_option linter.unusedVariables false

theorem badS_app (a b : ByteArray) (h : badS a < 0) : badS (a ++ b) = if badS b < 0 then -1 else (a.size : Int) + badS b := by
  have hz := runesL_signs a.data.toList.length a.data.toList (Nat.le_refl _)
  have hb := runesL_back a.data.toList.length 0 a.data.toList (Nat.le_refl _) h
  have e : textOut (runesL a.data.toList) = a := by
    rw [textOut_yes hz, hb]
  have := badS_append hz b
  rw [e] at this
  exact this
/-- All bytes are below 128. -/
def Plain9 (s : ByteArray) : Prop := ∀ i (h : i < s.size), s[i].toNat < 128
theorem enc_ascii : ∀ i : Fin 128, Lib.encodeRune ((i.val : Nat) : Int) = [UInt8.ofNat i.val] := by decide
theorem encs_ascii : ∀ l : List UInt8, (∀ x ∈ l, x.toNat < 128) → encs (l.map fun x => (x.toNat : Int)) = l ∧ allSigns (l.map fun x => (x.toNat : Int)) = true
  | [], _ => ⟨rfl, rfl⟩
  | x :: l, h => by
    obtain ⟨h1, h2⟩ := encs_ascii l fun y hy => h y (List.mem_cons_of_mem x hy)
    have hx := h x (List.mem_cons_self ..)
    have e := enc_ascii ⟨x.toNat, hx⟩
    simp only [UInt8.ofNat_toNat] at e
    have hs : isSign (x.toNat : Int) = true := (isSign_iff _).2 (by omega)
    constructor
    · rw [List.map_cons, encs_cons, h1, e]
      rfl
    · unfold allSigns at h2 ⊢
      rw [List.map_cons, List.all_cons, hs, h2]
      rfl
theorem Plain9.mem {s : ByteArray} (h : Plain9 s) : ∀ x ∈ s.data.toList, x.toNat < 128 := fun x hx => by
  obtain ⟨i, hi⟩ := List.getElem?_of_mem hx
  obtain ⟨h1, h2⟩ := List.getElem?_eq_some_iff.1 hi
  have := h i h1
  rw [← h2]
  exact this
theorem badS_plain {s : ByteArray} (h : Plain9 s) : badS s = -1 := by
  obtain ⟨h1, h2⟩ := encs_ascii s.data.toList h.mem
  have e : textOut (s.data.toList.map fun x => (x.toNat : Int)) = s := by rw [textOut_yes h2, h1]
  have := badS_append h2 ⟨#[]⟩
  rw [e, app_nil9] at this
  have hb : badS (⟨#[]⟩ : ByteArray) = -1 := rfl
  rw [hb] at this
  exact this
end Go.Proofs.YtndopjmdpmkgeaaGreatDoor

namespace Go.Proofs.YtndopjmdpmkgeaaGreatDoor
open Go Go.RowKit
set_option linter.unusedSimpArgs false
set_option linter.unusedVariables false

/-- What the mapping makes of a rune. -/
def small9 (x : Int) : Int := if 65 ≤ x ∧ x ≤ 90 then x + 32 else x
theorem enc_low {x : Int} (h0 : 0 ≤ x) (h1 : x < 128) : Lib.encodeRune x = [UInt8.ofNat x.toNat] := by
  have := enc_ascii ⟨x.toNat, by omega⟩
  simp only [show ((x.toNat : Nat) : Int) = x from by omega] at this
  exact this
theorem small_low (b : UInt8) (h : b.toNat < 128) : Lib.encodeRune (small9 b.toNat) = [low9 b] := by
  have e := low9_nat b
  have hz : small9 b.toNat = ((low9 b).toNat : Int) := by
    unfold small9
    rw [e]
    split <;> split <;> omega
  have hl : (low9 b).toNat < 128 := by rw [e]; split <;> omega
  rw [hz, enc_low (by omega) (by omega)]
  simp
theorem small_nonneg {x : Int} (h : 0 ≤ x) : 0 ≤ small9 x := by unfold small9; split <;> omega
theorem map_small : ∀ (n : Nat) (s L : List UInt8), s.length ≤ n → (∀ x ∈ L, x.toNat < 128) → (Lib.mapD small9 s = L ↔ s.map low9 = L)
  | n, [], L, _, _ => by rw [Lib.mapD_nil, List.map_nil]
  | n + 1, b :: t, L, hn, hL => by
    have hne : b :: t ≠ [] := by simp
    rw [Lib.mapD_step _ _ hne, if_pos (small_nonneg (by omega)), List.map_cons]
    by_cases hb : b.toNat < 128
    · rw [Lib.decodeL_ascii b t hb]
      show Lib.encodeRune (small9 b.toNat) ++ Lib.mapD small9 t = L ↔ _
      rw [small_low b hb]
      have hn2 : t.length ≤ n := by simp at hn; omega
      cases L with
      | nil => simp
      | cons x L =>
        have ih := map_small n t L hn2 fun y hy => hL y (List.mem_cons_of_mem x hy)
        simp only [List.singleton_append, List.cons.injEq]
        rw [ih]
    · have hlow : low9 b = b := by
        unfold low9
        rw [if_neg (by omega)]
      rw [hlow]
      have hr : ¬ (b :: t.map low9 = L) := fun e => by
        have := hL b (by rw [← e]; exact List.mem_cons_self ..)
        omega
      refine ⟨fun e => absurd ?_ id, fun e => absurd e hr⟩
      by_cases hv : (Lib.decodeL (b :: t)).1 = 65533 ∧ (Lib.decodeL (b :: t)).2 = 1
      · rw [hv.1, show Lib.encodeRune (small9 ((65533 : Nat) : Int)) = [239, 191, 189] by decide] at e
        have := hL 239 (by rw [← e]; exact List.mem_cons_self ..)
        exact absurd this (by decide)
      · have he := Lib.encode_decode _ hne hv
        obtain ⟨k, hk⟩ : ∃ k, (Lib.decodeL (b :: t)).2 = k + 1 := ⟨(Lib.decodeL (b :: t)).2 - 1, by have := Lib.decodeL_width (b :: t); omega⟩
        rw [hk, List.take_succ_cons] at he
        by_cases hc : 65 ≤ (((Lib.decodeL (b :: t)).1 : Nat) : Int) ∧ (((Lib.decodeL (b :: t)).1 : Nat) : Int) ≤ 90
        · rw [enc_low (by omega) (by omega)] at he
          have h0 := (List.cons.inj he).1
          have h1 := congrArg UInt8.toNat h0
          simp only [UInt8.toNat_ofNat'] at h1
          omega
        · have hs : small9 (((Lib.decodeL (b :: t)).1 : Nat) : Int) = (((Lib.decodeL (b :: t)).1 : Nat) : Int) := if_neg hc
          rw [hs, he] at e
          have := hL b (by rw [← e]; exact List.mem_cons_self ..)
          exact hb this
/-- All names, in the order of the charsets. -/
def nmT : List (ByteArray × Nat) := (List.range 10).flatMap fun c => (labels9 c).map fun s => (s, c)
/-- The j-th name, and whose it is. -/
def nmS (j : Nat) : ByteArray := (nmT.getD j (⟨#[]⟩, 0)).1
def nmC (j : Nat) : Nat := (nmT.getD j (⟨#[]⟩, 0)).2
/-- A label in small letters. -/
def small (l : ByteArray) : ByteArray := ⟨(Lib.mapD small9 l.data.toList).toArray⟩
theorem nm_low : (List.range 22).all (fun j => (nmS j).data.toList.all fun x => decide (x.toNat < 128)) = true := by decide +kernel
theorem nm_same (l : ByteArray) (j : Nat) (hj : j < 22) : (nmS j = small l ↔ same9 l (nmS j) = true) := by
  have h1 := List.all_eq_true.1 nm_low j (List.mem_range.2 hj)
  have h2 : ∀ x ∈ (nmS j).data.toList, x.toNat < 128 := fun x hx => of_decide_eq_true (List.all_eq_true.1 h1 x hx)
  have h3 := map_small _ l.data.toList (nmS j).data.toList (Nat.le_refl _) h2
  unfold same9
  rw [decide_eq_true_iff, ← h3]
  unfold small
  constructor
  · intro e; rw [e]
  · intro e
    apply ByteArray.ext
    apply Array.ext'
    exact e.symm
/-- The charset of a list of small letters. -/
def namedX (X : List UInt8) : Nat → Nat → Int
  | 0, _ => -1
  | n + 1, c => if (labels9 c).any (fun b => decide (X = b.data.toList)) then c else namedX X n (c + 1)
theorem named_X (l : ByteArray) : ∀ n c, named9 l n c = namedX (l.data.toList.map low9) n c
  | 0, _ => rfl
  | n + 1, c => by
    unfold named9 namedX
    rw [named_X l n (c + 1)]
    rfl
set_option maxRecDepth 100000 in
theorem named_all : (List.range 22).all (fun j => namedX (nmS j).data.toList 10 0 == ((nmC j : Nat) : Int)) = true := by decide +kernel
theorem named_hit (l : ByteArray) (j : Nat) (hj : j < 22) (h : same9 l (nmS j) = true) : named9 l 10 0 = (nmC j : Int) := by
  rw [named_X, of_decide_eq_true h]
  exact eq_of_beq (List.all_eq_true.1 named_all j (List.mem_range.2 hj))
theorem named_none_go (l : ByteArray) : ∀ n c, (∀ k, c ≤ k → k < c + n → (labels9 k).any (same9 l) = false) → named9 l n c = -1
  | 0, _, _ => rfl
  | n + 1, c, h => by
    unfold named9
    rw [h c (Nat.le_refl _) (by omega)]
    simp only [Bool.false_eq_true, if_false]
    exact named_none_go l n (c + 1) fun k h1 h2 => h k (by omega) (by omega)
theorem nm_has : (List.range 10).all (fun c => (labels9 c).all fun s => (List.range 22).any fun j => decide (nmS j = s)) = true := by decide +kernel
theorem named_miss (l : ByteArray) (h : ∀ j, j < 22 → same9 l (nmS j) = false) : named9 l 10 0 = -1 := by
  refine named_none_go l 10 0 fun k _ hk => ?_
  rw [List.any_eq_false]
  intro s hs
  have h1 := List.all_eq_true.1 (List.all_eq_true.1 nm_has k (List.mem_range.2 (by omega))) s hs
  obtain ⟨j, hj, e⟩ := List.any_eq_true.1 h1
  have e2 := of_decide_eq_true e
  rw [← e2, h j (List.mem_range.1 hj)]
  decide
theorem nm_bd (j : Nat) : nmC j < 10 := by
  by_cases h : j < 22
  · have : (List.range 22).all (fun j => decide (nmC j < 10)) = true := by decide +kernel
    exact of_decide_eq_true (List.all_eq_true.1 this j (List.mem_range.2 h))
  · unfold nmC
    rw [List.getD_eq_getElem?_getD, List.getElem?_eq_none (by
      have : nmT.length = 22 := by decide +kernel
      omega)]
    decide
end Go.Proofs.YtndopjmdpmkgeaaGreatDoor

