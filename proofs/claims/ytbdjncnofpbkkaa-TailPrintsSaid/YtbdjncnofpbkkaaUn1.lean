/-
  Layer 11, the document: what looks like sound; Put, Drop.
-/
import Derived.Test.YtbdjncnofpbkkaaBase
import Derived.Test.YtbdjncnofpbkkaaUn0
namespace Go.Proofs.Ytbdjncnofpbkkaa
open Go Go.ChangeShapes Go.WideShapes Go.ChangeAt Go.RowKit
set_option linter.unusedSimpArgs false
set_option linter.unusedVariables false

theorem ul_at (s : ByteArray) (i : Nat) (h : i < s.size) : s.data.toList.drop i = s[i] :: s.data.toList.drop (i + 1) :=
  List.drop_eq_getElem_cons (show i < s.data.toList.length from h)
theorem ul_end (s : ByteArray) (i : Nat) (h : ¬ i < s.size) : s.data.toList.drop i = [] := List.drop_eq_nil_of_le (by show s.size ≤ i; omega)
theorem looks_no (s : ByteArray) (i : Nat) (h : i < s.size) (hx : ¬ s[i].toNat = 255) : looksU (s.data.toList.drop i) = false := by
  rw [ul_at s i h]
  cases s.data.toList.drop (i + 1) with
  | nil => exact decide_eq_false hx
  | cons y r => exact decide_eq_false (fun e => hx e.1)
theorem looks_last (s : ByteArray) (i : Nat) (h : i < s.size) (hx : s[i].toNat = 255) (h2 : ¬ i + 1 < s.size) : looksU (s.data.toList.drop i) = true := by
  rw [ul_at s i h, ul_end s (i + 1) h2]
  exact decide_eq_true hx
theorem looks_more (s : ByteArray) (i : Nat) (h : i < s.size) (hx : s[i].toNat = 255) (h2 : i + 1 < s.size) : looksU (s.data.toList.drop i) = decide (s[i + 1].toNat = 0 ∨ 224 ≤ s[i + 1].toNat) := by
  rw [ul_at s i h, ul_at s (i + 1) h2]
  show decide _ = decide _
  rw [decide_eq_decide]
  exact ⟨fun e => e.2, fun e => ⟨hx, e⟩⟩
set_option maxRecDepth 100000 in
set_option maxHeartbeats 1000000 in
theorem rlooks (s : ByteArray) (i : Nat) (w : World) (h : i < s.size) (hs : s.size ≤ 1000000) : Calls Try.prog 10 #[.string s, .int .i64 i] w fun e w' => e = .returned (.bool (looksU (s.data.toList.drop i))) ∧ w = w' := by
  have hii : (i : Int) < s.size := by omega
  by_cases hx : s[i].toNat = 255
  · have g0 : ((s[i].toNat : Int) != 255) = false := by rw [hx]; rfl
    have hwk : IntKind.i64.wrap ((i : Int) + 1) = (i : Int) + 1 := IntWalk.i64_in _ (by omega)
    by_cases h2 : i + 1 < s.size
    · have h2i : (i : Int) + 1 < s.size := by omega
      have g1 : ((i : Int) + 1 == (s.size : Int)) = false := beq_false_of_ne (by omega)
      have hk1 : ((i : Int) + 1).toNat = i + 1 := by omega
      have hk2 : ¬ (i : Int) + 1 < 0 := by omega
      rw [looks_more s i h hx h2]
      have hy := s[i + 1].toNat_lt
      by_cases y0 : s[i + 1].toNat = 0
      · have g2 : ((s[i + 1].toNat : Int) == 0) = true := by rw [y0]; rfl
        rw [decide_eq_true (.inl y0)]
        clear y0 hx hy
        go_enter Try.func10, Try.ntmps10
        go_wp2
        go_ret
        exact ⟨rfl, rfl⟩
      · have g2 : ((s[i + 1].toNat : Int) == 0) = false := beq_false_of_ne (by omega)
        by_cases y1 : 224 ≤ s[i + 1].toNat
        · have g3 : (224 : Int) ≤ s[i + 1].toNat := by omega
          rw [decide_eq_true (.inr y1)]
          clear y0 y1 hx hy
          go_enter Try.func10, Try.ntmps10
          go_wp2
          go_ret
          exact ⟨rfl, rfl⟩
        · have g3 : ¬ (224 : Int) ≤ s[i + 1].toNat := by omega
          have g4 : decide ((224 : Int) ≤ s[i + 1].toNat) = false := decide_eq_false g3
          rw [decide_eq_false (by omega)]
          clear y0 y1 hx hy
          go_enter Try.func10, Try.ntmps10
          go_wp2
          go_ret
          exact ⟨rfl, rfl⟩
    · have g1 : ((i : Int) + 1 == (s.size : Int)) = true := beq_iff_eq.2 (by omega)
      rw [looks_last s i h hx h2]
      clear hx h2
      go_enter Try.func10, Try.ntmps10
      go_wp2
      go_ret
      exact ⟨rfl, rfl⟩
  · have g0 : ((s[i].toNat : Int) != 255) = true := by rw [bne, beq_false_of_ne (by omega)]; rfl
    rw [looks_no s i h hx]
    clear hx
    go_enter Try.func10, Try.ntmps10
    go_wp2
    go_ret
    exact ⟨rfl, rfl⟩
/-- Bytes as a text. -/
def bsU (l : List UInt8) : ByteArray := ⟨l.toArray⟩
theorem bsU_list (l : List UInt8) : (bsU l).data.toList = l := rfl
theorem bsU_of (s : ByteArray) : bsU s.data.toList = s := rfl
theorem one_at (s : ByteArray) (i : Nat) (h : i < s.size) : (s.extract i (i + 1)).data.toList = [s[i]] := by
  have e : (s.extract i (i + 1)).data.toList = (s.data.toList.drop i).take 1 := by
    rw [ByteArray.data_extract, Array.toList_extract]
    simp [List.extract]
  rw [e, ul_at s i h]
  rfl
theorem app_list (t s : ByteArray) : (t ++ s).data.toList = t.data.toList ++ s.data.toList := by
  rw [ByteArray.data_append, Array.toList_append]
theorem list_bs {t : ByteArray} {l : List UInt8} (h : t.data.toList = l) : t = bsU l := by
  apply ByteArray.ext
  apply Array.toList_inj.1
  exact h
set_option maxRecDepth 100000 in
set_option maxHeartbeats 2000000 in
theorem rput (s : ByteArray) (w : World) (hs : s.size ≤ 1000000) : Calls Try.prog 13 #[.string s] w fun e w' => e = .returned (.string (bsU (putU s.data.toList))) ∧ w = w' := by
  have HL := Lib.hid (fun i w h => rlooks s i w h hs)
  obtain ⟨R, hR⟩ : ∃ R, R = putU s.data.toList := ⟨_, rfl⟩
  rw [← hR]
  have H0 : Hid ((⟨#[]⟩ : ByteArray).data.toList ++ putU (s.data.toList.drop 0) = R) := hR.symm
  have HSt : Hid (∀ i (h : i < s.size), putU (s.data.toList.drop i) = s[i] :: (if looksU (s.data.toList.drop i) then 0 :: putU (s.data.toList.drop (i + 1)) else putU (s.data.toList.drop (i + 1)))) := fun i h => by rw [ul_at s i h, putU_cons]
  have HOne := Lib.hid (fun i h => one_at s i h)
  have HEn : Hid (putU (s.data.toList.drop s.size) = []) := by show _ = _; rw [ul_end s s.size (by omega)]; rfl
  clear hR
  go_enter Try.func13, Try.ntmps13
  go_wp2
  go_loopw [3, 4] (fun u i wr => ∃ (k : Nat) (t : ByteArray), k ≤ s.size ∧ u = .string t ∧ i = .int .i64 k ∧ wr = w ∧ t.size ≤ 2 * k ∧ Hid (t.data.toList ++ putU (s.data.toList.drop k) = R)) (fun _ i _ => s.size - (intOf i).toNat)
  case atStart => exact ⟨0, ⟨#[]⟩, by omega, rfl, rfl, rfl, by decide, H0⟩
  case round =>
    obtain ⟨k, t, hk, rfl, rfl, rfl, hts, HA⟩ := hrel
    by_cases hlt : k < s.size
    · have hki : (k : Int) < s.size := by omega
      have HK := Lib.hid (fun w => HL.out k w hlt)
      have HS1 := Lib.hid (HSt.out k hlt)
      have HO1 := Lib.hid (HOne.out k hlt)
      have hz : (s.extract k (k + 1)).size = 1 := by rw [ByteArray.size_extract]; omega
      have hwk : IntKind.i64.wrap ((k : Int) + 1) = (k : Int) + 1 := IntWalk.i64_in _ (by omega)
      cases hb : looksU (s.data.toList.drop k) with
      | true =>
        rw [hb] at HK HS1
        have HN : Hid (((t ++ s.extract k (k + 1)) ++ ⟨#[0]⟩ : ByteArray).data.toList ++ putU (s.data.toList.drop (k + 1)) = R) := by
          show _ = R
          rw [← HA.out, HS1.out, if_pos rfl, app_list, app_list, HO1.out]
          simp
        clear HL HSt HOne HEn H0 HA HS1 HO1 hb
        go_wp2_with (go_at_call 10; refine (HK.out _).mono ?_; rintro e w1 ⟨rfl, rfl⟩)
        go_roundw
        case rel => exact ⟨k + 1, _, by omega, rfl, by go_num, by first | rfl | trivial, by rw [ByteArray.size_append, ByteArray.size_append, hz]; show t.size + 1 + 1 ≤ _; omega, HN⟩
        case measure => simp [intOf]; omega
      | false =>
        rw [hb] at HK HS1
        have HN : Hid ((t ++ s.extract k (k + 1)).data.toList ++ putU (s.data.toList.drop (k + 1)) = R) := by
          show _ = R
          rw [← HA.out, HS1.out, if_neg (by decide), app_list, HO1.out]
          simp
        clear HL HSt HOne HEn H0 HA HS1 HO1 hb
        go_wp2_with (go_at_call 10; refine (HK.out _).mono ?_; rintro e w1 ⟨rfl, rfl⟩)
        go_roundw
        case rel => exact ⟨k + 1, _, by omega, rfl, by go_num, by first | rfl | trivial, by rw [ByteArray.size_append, hz]; omega, HN⟩
        case measure => simp [intOf]; omega
    · have hke : k = s.size := by omega
      subst hke
      have hki : ¬ (s.size : Int) < s.size := by omega
      have hr : t.data.toList = R := by
        have := HA.out
        rw [HEn.out, List.append_nil] at this
        exact this
      have HT := Lib.hid (list_bs hr)
      clear HL HSt HOne HEn H0 HA hr
      go_wp2
      go_ret
      exact ⟨by first | (rw [HT.out]; done) | (rw [HT.out]; rfl), rfl⟩
theorem dropU_at (s : ByteArray) (i : Nat) (h : i < s.size) (hx : ¬ (s[i].toNat = 255 ∧ ∃ h2 : i + 1 < s.size, s[i + 1].toNat = 0)) : dropU (s.data.toList.drop i) = s[i] :: dropU (s.data.toList.drop (i + 1)) := by
  rw [ul_at s i h, dropU_one]
  rintro ⟨h1, h2⟩
  by_cases h3 : i + 1 < s.size
  · rw [ul_at s (i + 1) h3] at h2
    exact hx ⟨h1, h3, by rw [Option.some.inj h2]; rfl⟩
  · rw [ul_end s (i + 1) h3] at h2
    cases h2
theorem dropU_at2 (s : ByteArray) (i : Nat) (h : i < s.size) (hx : s[i].toNat = 255) (h2 : i + 1 < s.size) (hy : s[i + 1].toNat = 0) : dropU (s.data.toList.drop i) = s[i] :: dropU (s.data.toList.drop (i + 2)) := by
  rw [ul_at s i h, ul_at s (i + 1) h2, dropU_two _ _ _ hx (UInt8.toNat_inj.1 hy)]
set_option maxRecDepth 100000 in
set_option maxHeartbeats 2000000 in
theorem rdrop (s : ByteArray) (w : World) (hs : s.size ≤ 1000000) : Calls Try.prog 15 #[.string s] w fun e w' => e = .returned (.string (bsU (dropU s.data.toList))) ∧ w = w' := by
  obtain ⟨R, hR⟩ : ∃ R, R = dropU s.data.toList := ⟨_, rfl⟩
  rw [← hR]
  have H0 : Hid ((⟨#[]⟩ : ByteArray).data.toList ++ dropU (s.data.toList.drop 0) = R) := hR.symm
  have HS1 := Lib.hid (fun i h hx => dropU_at s i h hx)
  have HS2 := Lib.hid (fun i h hx h2 hy => dropU_at2 s i h hx h2 hy)
  have HOne := Lib.hid (fun i h => one_at s i h)
  have HEn : Hid (dropU (s.data.toList.drop s.size) = []) := by show _ = _; rw [ul_end s s.size (by omega)]; rfl
  clear hR
  go_enter Try.func15, Try.ntmps15
  go_wp2
  go_loopw [3, 4] (fun u i wr => ∃ (k : Nat) (t : ByteArray), k ≤ s.size ∧ u = .string t ∧ i = .int .i64 k ∧ wr = w ∧ t.size ≤ k ∧ Hid (t.data.toList ++ dropU (s.data.toList.drop k) = R)) (fun _ i _ => s.size - (intOf i).toNat)
  case atStart => exact ⟨0, ⟨#[]⟩, by omega, rfl, rfl, rfl, by decide, H0⟩
  case round =>
    obtain ⟨k, t, hk, rfl, rfl, rfl, hts, HA⟩ := hrel
    by_cases hlt : k < s.size
    · have hki : (k : Int) < s.size := by omega
      have HO1 := Lib.hid (HOne.out k hlt)
      have hz : (s.extract k (k + 1)).size = 1 := by rw [ByteArray.size_extract]; omega
      have hwk : IntKind.i64.wrap ((k : Int) + 1) = (k : Int) + 1 := IntWalk.i64_in _ (by omega)
      have HN1 : Hid (¬ (s[k].toNat = 255 ∧ ∃ h2 : k + 1 < s.size, s[k + 1].toNat = 0) → (t ++ s.extract k (k + 1)).data.toList ++ dropU (s.data.toList.drop (k + 1)) = R) := fun hx => by
        rw [← HA.out, HS1.out k hlt hx, app_list, HO1.out]
        simp
      by_cases hx : s[k].toNat = 255
      · have g0 : ((s[k].toNat : Int) == 255) = true := by rw [hx]; rfl
        by_cases h2 : k + 1 < s.size
        · have h2i : (k : Int) + 1 < s.size := by omega
          have hk1 : ((k : Int) + 1).toNat = k + 1 := by omega
          have hk2 : ¬ (k : Int) + 1 < 0 := by omega
          by_cases hy : s[k + 1].toNat = 0
          · have g1 : ((s[k + 1].toNat : Int) == 0) = true := by rw [hy]; rfl
            have HN : Hid ((t ++ s.extract k (k + 1)).data.toList ++ dropU (s.data.toList.drop (k + 2)) = R) := by
              show _ = R
              rw [← HA.out, HS2.out k hlt hx h2 hy, app_list, HO1.out]
              simp
            clear HS1 HS2 HOne HEn H0 HA HO1 hx hy HN1
            go_wp2
            go_roundw
            case rel => exact ⟨k + 2, _, by omega, rfl, by go_num, by first | rfl | trivial, by rw [ByteArray.size_append, hz]; omega, HN⟩
            case measure => simp [intOf]; omega
          · have g1 : ((s[k + 1].toNat : Int) == 0) = false := beq_false_of_ne (by omega)
            have HN := Lib.hid (HN1.out (fun h => hy h.2.2))
            clear HS1 HS2 HOne HEn H0 HA HO1 hx hy HN1
            go_wp2
            go_roundw
            case rel => exact ⟨k + 1, _, by omega, rfl, by go_num, by first | rfl | trivial, by rw [ByteArray.size_append, hz]; omega, HN⟩
            case measure => simp [intOf]; omega
        · have h2i : ¬ (k : Int) + 1 < s.size := by omega
          have HN := Lib.hid (HN1.out (fun h => h2 h.2.1))
          clear HS1 HS2 HOne HEn H0 HA HO1 hx HN1
          go_wp2
          go_roundw
          case rel => exact ⟨k + 1, _, by omega, rfl, by go_num, by first | rfl | trivial, by rw [ByteArray.size_append, hz]; omega, HN⟩
          case measure => simp [intOf]; omega
      · have g0 : ((s[k].toNat : Int) == 255) = false := beq_false_of_ne (by omega)
        have HN := Lib.hid (HN1.out (fun h => hx h.1))
        clear HS1 HS2 HOne HEn H0 HA HO1 hx HN1
        go_wp2
        go_roundw
        case rel => exact ⟨k + 1, _, by omega, rfl, by go_num, by first | rfl | trivial, by rw [ByteArray.size_append, hz]; omega, HN⟩
        case measure => simp [intOf]; omega
    · have hke : k = s.size := by omega
      subst hke
      have hki : ¬ (s.size : Int) < s.size := by omega
      have hr : t.data.toList = R := by
        have := HA.out
        rw [HEn.out, List.append_nil] at this
        exact this
      have HT := Lib.hid (list_bs hr)
      clear HS1 HS2 HOne HEn H0 HA hr
      go_wp2
      go_ret
      exact ⟨by first | (rw [HT.out]; done) | (rw [HT.out]; rfl), rfl⟩
end Go.Proofs.Ytbdjncnofpbkkaa
