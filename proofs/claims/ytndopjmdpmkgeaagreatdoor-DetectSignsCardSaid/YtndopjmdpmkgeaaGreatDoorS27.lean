/-
  What the proof of this claim leans on (S27).
-/
import Derived.Test.YtndopjmdpmkgeaaGreatDoorS0
import Derived.Test.YtndopjmdpmkgeaaGreatDoorS7
import Derived.Lib.AtoiAllMem
import Derived.Lib.ConvBytes
import Derived.Lib.Strings
import Derived.Lib.Walk
namespace Go.Proofs.YtndopjmdpmkgeaaGreatDoor
open Go Go.ChangeShapes Go.WideShapes Go.ChangeAt Go.RowKit
set_option linter.unusedSimpArgs false
set_option linter.unusedVariables false

/-- The number of the first digits. -/
def pvM (dg : Nat → Nat) : Nat → Nat
  | 0 => 0
  | j + 1 => pvM dg j * 16 + dg j
theorem pvM_lt (dg : Nat → Nat) (h : ∀ j, dg j < 16) : ∀ k, pvM dg k < 16 ^ k
  | 0 => Nat.zero_lt_one
  | k + 1 => by
    have := pvM_lt dg h k
    have := h k
    rw [pvM, Nat.pow_succ]
    omega
theorem digB_num (d : Nat) (h : d < 10) : ((digB d).toNat : Int) = 48 + (d : Int) := by
  have : ∀ d : Fin 10, ((digB d.val).toNat : Int) = 48 + (d.val : Int) := by decide +kernel
  exact this ⟨d, h⟩
theorem digB_low (d : Nat) (h : d < 16) (h2 : ¬ d < 10) : ((digB d).toNat : Int) = 87 + (d : Int) := by
  have : ∀ d : Fin 16, ¬ d.val < 10 → ((digB d.val).toNat : Int) = 87 + (d.val : Int) := by decide +kernel
  exact this ⟨d, h⟩ h2
theorem or_low (d : Nat) (h : d < 16) (h2 : ¬ d < 10) : bits .or .u8 (87 + (d : Int)) 32 = 87 + (d : Int) := by
  have : ∀ d : Fin 16, ¬ d.val < 10 → bits .or .u8 (87 + (d.val : Int)) 32 = 87 + (d.val : Int) := by decide +kernel
  exact this ⟨d, h⟩ h2
theorem lower_at (d : Nat) (h : d < 16) (h2 : ¬ d < 10) (w : World) : Calls Tryz.prog 252 #[.int .u8 (87 + (d : Int))] w fun e w' => e = .returned (.int .u8 (87 + (d : Int))) ∧ w = w' := by
  have e := or_low d h h2
  go_enter Tryz.func252, Tryz.ntmps252
  go_wp2
  go_ret
  exact ⟨rfl, rfl⟩
set_option maxHeartbeats 4000000 in
set_option maxRecDepth 100000 in
theorem parse_16 (t : ByteArray) (dg : Nat → Nat) (hd : ∀ j, dg j < 16) (hz : t.size = 7) (ht : ∀ j, j < 7 → t.data.toList.getD j 0 = digB (dg j)) (w : World) :
    Calls Tryz.prog 235 #[.string t, .int .i64 16, .int .i64 28] w fun e w' => e = .returned (.tuple #[.int .u64 (pvM dg 7), .nilIface]) ∧ Ext w w' := by
  have hemp : t.toList.isEmpty = false := by
    rw [← decide_eq_emptyBytes]
    exact decide_eq_false (fun h => by rw [h] at hz; cases hz)
  have hcv := Lib.run_convert_string_bytes (P := Tryz.prog) w 9 96 5 t (u := .string) Tryz.underlying9 Tryz.underlying96 Tryz.underlying5
  have hB : ∀ j, j < 7 → (Lib.bytesWorld w 5 t).cell? ⟨w.heap.size, j, none⟩ = some (.int .u8 (digB (dg j)).toNat) := fun j hj => by
    rw [← ht j hj]
    exact Lib.bytesWorld_cell w 5 t j (by omega)
  have hX : Ext w (Lib.bytesWorld w 5 t) := ⟨rfl, rfl, rfl, by rw [Lib.bytesWorld_size]; omega, fun i hi => Lib.bytesWorld_at_old w _ t i hi⟩
  rw [hz] at hcv
  obtain ⟨W1, hW1⟩ : ∃ W1, W1 = Lib.bytesWorld w 5 t := ⟨_, rfl⟩
  rw [← hW1] at hcv hB hX
  have HB := Lib.hid hB
  have HD := Lib.hid hd
  have HP := Lib.hid (pvM_lt dg hd)
  clear hW1 hB hd ht
  go_enter Tryz.func235, Tryz.ntmps235
  go_wp2
  go_loop [12, 13, 101] (fun vu vn vi => ∃ (k : Nat) (a : Int), vu = .bool false ∧ vn = .int .u64 a ∧ vi = .int .i64 k ∧ k ≤ 7 ∧ Hid (a = (pvM dg k : Int))) (fun _ _ vi => 7 - (intOf vi).toNat)
  case atStart => exact ⟨0, 0, rfl, rfl, rfl, by omega, rfl⟩
  case round =>
    obtain ⟨k, a, rfl, rfl, rfl, hk, HA⟩ := hrel
    by_cases hkn : k < 7
    · have hc := HB.out k hkn
      have hdk := HD.out k
      have h16 : pvM dg (k + 1) < 268435456 := Nat.lt_of_lt_of_le (HP.out (k + 1)) (by rw [show (268435456 : Nat) = 16 ^ 7 from rfl]; exact Nat.pow_le_pow_right (by decide) (by omega))
      have hN : a * 16 + (dg k : Int) = (pvM dg (k + 1) : Int) := by rw [HA.out, pvM]; omega
      have a0 : 0 ≤ a := by rw [HA.out]; omega
      have a2 : a * 16 + (dg k : Int) < 268435456 := by rw [hN]; omega
      have a1 : a < 16777216 := by omega
      have HN := Lib.hid hN
      clear HA h16 hN
      generalize dg k = d at hc hdk HN a2
      by_cases hdig : d < 10
      · rw [digB_num d hdig] at hc
        go_wp2
        go_round
        case rel => exact ⟨k + 1, _, rfl, rfl, by go_num, by omega, by show _ = _; rw [← HN.out]; omega⟩
        case measure => simp [intOf]; omega
      · rw [digB_low d hdk hdig] at hc
        have HL := Lib.hid (fun w => lower_at d hdk hdig w)
        go_wp2_with (go_at_call 252; refine (HL.out _).mono ?_; rintro e w' ⟨rfl, rfl⟩)
        go_round
        case rel => exact ⟨k + 1, _, rfl, rfl, by go_num, by omega, by show _ = _; rw [← HN.out]; omega⟩
        case measure => simp [intOf]; omega
    · have hkk : k = 7 := by omega
      subst hkk
      have HA2 := Lib.hid HA.out
      clear HA
      go_wp2
      go_ret2
      exact ⟨by rw [HA2.out]; rfl, hX⟩

theorem parse_pub (t : ByteArray) (dg : Nat → Nat) (hd : ∀ j, dg j < 16) (hz : t.size = 7) (ht : ∀ j, j < 7 → t.data.toList.getD j 0 = digB (dg j)) (w : World) :
    Calls Tryz.prog 217 #[.string t, .int .i64 16, .int .i64 28] w fun e w' => e = .returned (.tuple #[.int .u64 (pvM dg 7), .nilIface]) ∧ Ext w w' := by
  have HP := Lib.hid (fun w => parse_16 t dg hd hz ht w)
  generalize pvM dg 7 = v at HP
  clear hd hz ht
  go_enter Tryz.func217, Tryz.ntmps217
  go_wp2_with (go_at_call 235; refine (HP.out _).mono ?_; rintro e w' ⟨rfl, hb⟩)
  go_ret2
  exact ⟨rfl, hb⟩
theorem digM_at (n j : Nat) (h : j < 7) : digM (7 * n + j) = memM / 2 ^ (28 * n) / 16 ^ (6 - j) % 16 := by
  unfold digM
  rw [show (7 * n + j) / 7 * 7 + 6 - (7 * n + j) % 7 = 7 * n + (6 - j) by omega, Nat.pow_add, ← Nat.div_div_eq_div_mul, show (16 : Nat) ^ (7 * n) = 2 ^ (28 * n) by rw [show (16 : Nat) = 2 ^ 4 from rfl, ← Nat.pow_mul]; congr 1; omega]
theorem pvM_word (n : Nat) : ∀ k, k ≤ 7 → pvM (fun j => digM (7 * n + j)) k = memM / 2 ^ (28 * n) / 16 ^ (7 - k) % 16 ^ k
  | 0, _ => by rw [Nat.pow_zero, Nat.mod_one]; rfl
  | k + 1, h => by
    rw [pvM, pvM_word n k (by omega)]
    show _ + digM (7 * n + k) = _
    rw [digM_at n k (by omega)]
    generalize memM / 2 ^ (28 * n) = q
    rw [show 7 - k = (6 - k) + 1 by omega, show 7 - (k + 1) = 6 - k by omega, Nat.pow_succ 16 (6 - k), ← Nat.div_div_eq_div_mul]
    generalize q / 16 ^ (6 - k) = r
    rw [Nat.pow_succ, Nat.mul_comm (16 ^ k) 16, Nat.mod_mul]
    omega
theorem pvM_all (n : Nat) : pvM (fun j => digM (7 * n + j)) 7 = wordM n := by
  rw [pvM_word n 7 (by omega)]
  show memM / 2 ^ (28 * n) / 1 % 268435456 = _
  rw [Nat.div_one]
  rfl
theorem memT_cut (n : Nat) (h : n < 399) : ((memT 2793).extract (7 * n) (7 * n + 7)).size = 7 ∧ ∀ j, j < 7 → ((memT 2793).extract (7 * n) (7 * n + 7)).data.toList.getD j 0 = digB (digM (7 * n + j)) := by
  have hl : (memT 2793).size = 2793 := by simp [memT, ByteArray.size]
  refine ⟨by rw [ByteArray.size_extract, hl]; omega, fun j hj => ?_⟩
  rw [ByteArray.data_extract, Array.toList_extract, List.getD_eq_getElem?_getD]
  simp only [memT, List.extract_eq_take_drop, List.getElem?_take, List.getElem?_drop, List.getElem?_map]
  rw [if_pos (by omega), List.getElem?_range (by omega)]
  rfl
theorem parse_word (n : Nat) (h : n < 399) (x : ByteArray) (hx : x = memT 2793) (i j : Nat) (hi : i = 7 * n) (hj : j = 7 * n + 7) (w : World) :
    Calls Tryz.prog 217 #[.string (x.extract i j), .int .i64 16, .int .i64 28] w fun e w' => e = .returned (.tuple #[.int .u64 (wordM n), .nilIface]) ∧ Ext w w' := by
  subst hx hi hj
  obtain ⟨h1, h2⟩ := memT_cut n h
  rw [← pvM_all n]
  exact parse_pub _ (fun j => digM (7 * n + j)) (fun j => Nat.mod_lt _ (by decide)) h1 h2 w
set_option maxHeartbeats 4000000 in
set_option maxRecDepth 100000 in
theorem word_at (b : Bool) (n : Nat) (h : n < 399) (w : World) : Calls Tryz.prog 197 #[.int .i64 n, .bool b] w fun e w' => e = .returned (.int .u64 (selW b n)) ∧ Ext w w' := by
  have HP := Lib.hid (fun (x : ByteArray) (hx : x = memT 2793) w => parse_word n h x hx (n * 7) ((n + 1) * 7) (by omega) (by omega) w)
  have hn : (n : Int) < 399 := by omega
  have hl := wordM_lt n
  unfold selW
  generalize wordM n = v at HP hl
  have hsub : ((268435455 - v : Nat) : Int) = 268435455 - (v : Int) := by omega
  cases b
  all_goals
    go_enter Tryz.func197, Tryz.ntmps197
    go_wp2_with fail
    refine (HP.out _ ?hh _).mono ?_
    case hh => kernel_rfl
    rintro e w1 ⟨rfl, hb⟩
    go_wp2
    go_ret
    exact ⟨by first | rfl | (rw [hsub]; rfl), hb⟩
end Go.Proofs.YtndopjmdpmkgeaaGreatDoor

