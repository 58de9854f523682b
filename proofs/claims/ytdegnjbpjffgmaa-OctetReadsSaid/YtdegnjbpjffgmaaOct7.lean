/-
  Contracts of the document's own answers for layer 1 (1): numbers.
-/
import Derived.Test.YtdegnjbpjffgmaaOct6
namespace Go.Proofs.Ytdegnjbpjffgmaa
open Go.ChangeShapes Go.WideShapes Go.ChangeAt Go.RowKit
set_option linter.unusedSimpArgs false
set_option linter.unusedVariables false

theorem rsize_any (s : Int) (w : World) : Calls Try.prog 13 #[.int .i64 s] w fun e w' => e = .returned (.int .i64 (cw s)) ∧ w = w' := by
  unfold cw
  by_cases h1 : s < 0
  · rw [if_pos h1]
    go_enter Try.func13, Try.ntmps13
    go_wp2
    go_ret
    exact ⟨rfl, rfl⟩
  · rw [if_neg h1]
    by_cases h2 : 8 < s
    · rw [if_pos h2]
      go_enter Try.func13, Try.ntmps13
      go_wp2
      go_ret
      exact ⟨rfl, rfl⟩
    · rw [if_neg h2]
      go_enter Try.func13, Try.ntmps13
      go_wp2
      go_ret
      exact ⟨rfl, rfl⟩
/-- One byte, as a text. -/
def one (c : Nat) : ByteArray := bytesBy 1 (fun _ => c)
theorem bytes_ext {a b : ByteArray} (h : a.data.toList = b.data.toList) : a = b := by
  cases a; cases b
  congr 1
  exact Array.toList_inj.1 h
theorem bytesBy_list (k : Nat) (f : Nat → Nat) : (bytesBy k f).data.toList = (List.range k).map fun j => UInt8.ofNat (f j) := by
  simp [bytesBy, strOfNums]
theorem bytesBy_size (k : Nat) (f : Nat → Nat) : (bytesBy k f).size = k := by
  show (bytesBy k f).data.size = k
  rw [← Array.length_toList, bytesBy_list]
  simp
theorem bytesBy_congr {k : Nat} {f g : Nat → Nat} (h : ∀ j, j < k → f j = g j) : bytesBy k f = bytesBy k g := by
  refine bytes_ext ?_
  rw [bytesBy_list, bytesBy_list]
  refine List.map_congr_left fun j hj => ?_
  rw [h j (List.mem_range.1 hj)]
theorem bytesBy_cons (k : Nat) (f : Nat → Nat) : one (f 0) ++ bytesBy k (fun j => f (j + 1)) = bytesBy (k + 1) f := by
  refine bytes_ext ?_
  rw [ByteArray.data_append, Array.toList_append, one, bytesBy_list, bytesBy_list, bytesBy_list, List.range_succ_eq_map (n := k)]
  simp
theorem bytesBy_snoc (k : Nat) (f : Nat → Nat) : bytesBy k f ++ one (f k) = bytesBy (k + 1) f := by
  refine bytes_ext ?_
  rw [ByteArray.data_append, Array.toList_append, one, bytesBy_list, bytesBy_list, bytesBy_list, List.range_succ (n := k)]
  simp
theorem string_one (c : Int) (d : Nat) (h : c = d) (W : World) : (convert 58 9 (.slice (some ⟨W.heap.size, 0, none⟩) 1 1)).run Try.prog (W.alloc (.cells #[.int .u8 c] 5)) = .ok (.string (one d)) (W.alloc (.cells #[.int .u8 c] 5)) := by
  subst h
  exact string_row _ _ 1 (fun _ => d) (World.rowIs_alloc W #[.int .u8 (d : Int)] 5 _ (fun i hi => by simp at hi; subst hi; rfl))
theorem string_four (a b c d : Int) (f : Nat → Nat) (h0 : a = f 0) (h1 : b = f 1) (h2 : c = f 2) (h3 : d = f 3) (W : World) : (convert 58 9 (.slice (some ⟨W.heap.size, 0, none⟩) 4 4)).run Try.prog (W.alloc (.cells #[.int .u8 a, .int .u8 b, .int .u8 c, .int .u8 d] 5)) = .ok (.string (bytesBy 4 f)) (W.alloc (.cells #[.int .u8 a, .int .u8 b, .int .u8 c, .int .u8 d] 5)) := by
  subst h0 h1 h2 h3
  exact string_row _ _ 4 f (World.rowIs_alloc W #[.int .u8 (f 0 : Int), .int .u8 (f 1 : Int), .int .u8 (f 2 : Int), .int .u8 (f 3 : Int)] 5 _ (fun i hi => by
    simp at hi
    match i, hi with
    | 0, _ => rfl
    | 1, _ => rfl
    | 2, _ => rfl
    | 3, _ => rfl))
theorem rsafe_ref (n : Nat) (w : World) (hn : (n : Int) ≤ 268435455) : Calls Try.prog 23 #[.int .u64 n] w fun e w' => e = .returned (.string (bytesBy 4 (safeAt n))) ∧ Ext w w' := by
  have h4 := string_four ((n : Int) / 2097152 % 128) ((n : Int) / 16384 % 128) ((n : Int) / 128 % 128) ((n : Int) % 128) (safeAt n)
    (by unfold safeAt; rw [show 128 ^ (3 - 0) = 2097152 from rfl]; omega) (by unfold safeAt; rw [show 128 ^ (3 - 1) = 16384 from rfl]; omega) (by unfold safeAt; rw [show 128 ^ (3 - 2) = 128 from rfl]; omega) (by unfold safeAt; rw [show 128 ^ (3 - 3) = 1 from rfl]; omega)
  go_enter Try.func23, Try.ntmps23
  go_wp2
  go_ret
  exact ⟨rfl, (Ext.refl _).alloc _⟩
set_option maxRecDepth 100000 in
set_option maxHeartbeats 400000 in
theorem rbig_ref (n : Nat) (s : Int) (w : World) (hn : n < 18446744073709551616) : Calls Try.prog 10 #[.int .u64 n, .int .i64 s] w fun e w' => e = .returned (.string (bytesBy (cw s).toNat (bigAt n (cw s).toNat))) ∧ Ext w w' := by
  have hl := cw_lo s
  have hh := cw_hi s
  obtain ⟨k, hk⟩ := Int.eq_ofNat_of_zero_le hl
  rw [hk] at hh ⊢
  rw [Int.toNat_natCast]
  have hw := rsize_any s
  rw [hk] at hw
  have HW := Lib.hid hw
  clear hw hk hl
  go_enter Try.func10, Try.ntmps10
  go_wp2
  go_loopw [0, 5, 6] (fun mv t i wr => ∃ q m : Nat, ∃ z : ByteArray, q ≤ k ∧ i = .int .i64 q ∧ mv = .int .u64 m ∧ t = .string z ∧ Hid (m = n / 256 ^ q) ∧ Hid (z = bytesBy q (bigAt n q)) ∧ Ext w wr) (fun _ _ i _ => k - (intOf i).toNat)
  case atStart => exact ⟨0, n, _, Nat.zero_le _, rfl, rfl, rfl, by show n = n / 256 ^ 0; simp, rfl, Ext.refl _⟩
  case round =>
    obtain ⟨q, m, z, hq, rfl, rfl, rfl, HM, HZ, hx⟩ := hrel
    have h1 : m ≤ 18446744073709551615 := by have := HM.out; have h1 : n / 256 ^ q ≤ n := Nat.div_le_self _ _; omega
    by_cases hlt : q < k
    · have h2 := string_one ((m : Int) % 256) (m % 256) (by omega)
      have hz : z.size ≤ 8 := by rw [HZ.out, bytesBy_size]; omega
      have ho : (one (m % 256)).size ≤ 1 := by rw [one, bytesBy_size]; omega
      go_wp2_with (first | (go_at_call 13; refine (HW.out _).mono ?_; rintro e w1 ⟨rfl, rfl⟩))
      go_roundw
      case rel =>
        refine ⟨q + 1, m / 256, _, by omega, by go_num, ?_, rfl, ?_, ?_, hx.alloc _⟩
        · rfl
        · show m / 256 = n / 256 ^ (q + 1)
          rw [HM.out, Nat.div_div_eq_div_mul, Nat.pow_succ]
        · show one (m % 256) ++ z = bytesBy (q + 1) (bigAt n (q + 1))
          rw [← bytesBy_cons, HZ.out, HM.out]
          congr 1
          exact bytesBy_congr fun j hj => by unfold bigAt; rw [show q + 1 - 1 - (j + 1) = q - 1 - j from by omega]
      case measure => simp [intOf]; omega
    · have hqk : q = k := by omega
      subst hqk
      go_wp2_with (first | (go_at_call 13; refine (HW.out _).mono ?_; rintro e w1 ⟨rfl, rfl⟩))
      go_ret
      exact ⟨by rw [← HZ.out]; rfl, hx⟩
set_option maxRecDepth 100000 in
set_option maxHeartbeats 400000 in
theorem rsmall_ref (n : Nat) (s : Int) (w : World) (hn : n < 18446744073709551616) : Calls Try.prog 11 #[.int .u64 n, .int .i64 s] w fun e w' => e = .returned (.string (bytesBy (cw s).toNat (smallAt n))) ∧ Ext w w' := by
  have hl := cw_lo s
  have hh := cw_hi s
  obtain ⟨k, hk⟩ := Int.eq_ofNat_of_zero_le hl
  rw [hk] at hh ⊢
  rw [Int.toNat_natCast]
  have hw := rsize_any s
  rw [hk] at hw
  have HW := Lib.hid hw
  clear hw hk hl
  go_enter Try.func11, Try.ntmps11
  go_wp2
  go_loopw [0, 5, 6] (fun mv t i wr => ∃ q m : Nat, ∃ z : ByteArray, q ≤ k ∧ i = .int .i64 q ∧ mv = .int .u64 m ∧ t = .string z ∧ Hid (m = n / 256 ^ q) ∧ Hid (z = bytesBy q (smallAt n)) ∧ Ext w wr) (fun _ _ i _ => k - (intOf i).toNat)
  case atStart => exact ⟨0, n, _, Nat.zero_le _, rfl, rfl, rfl, by show n = n / 256 ^ 0; simp, rfl, Ext.refl _⟩
  case round =>
    obtain ⟨q, m, z, hq, rfl, rfl, rfl, HM, HZ, hx⟩ := hrel
    have h1 : m ≤ 18446744073709551615 := by have := HM.out; have h1 : n / 256 ^ q ≤ n := Nat.div_le_self _ _; omega
    by_cases hlt : q < k
    · have h2 := string_one ((m : Int) % 256) (m % 256) (by omega)
      have hz : z.size ≤ 8 := by rw [HZ.out, bytesBy_size]; omega
      have ho : (one (m % 256)).size ≤ 1 := by rw [one, bytesBy_size]; omega
      go_wp2_with (first | (go_at_call 13; refine (HW.out _).mono ?_; rintro e w1 ⟨rfl, rfl⟩))
      go_roundw
      case rel =>
        refine ⟨q + 1, m / 256, _, by omega, by go_num, ?_, rfl, ?_, ?_, hx.alloc _⟩
        · rfl
        · show m / 256 = n / 256 ^ (q + 1)
          rw [HM.out, Nat.div_div_eq_div_mul, Nat.pow_succ]
        · show z ++ one (m % 256) = bytesBy (q + 1) (smallAt n)
          rw [← bytesBy_snoc, HZ.out, HM.out]
          rfl
      case measure => simp [intOf]; omega
    · have hqk : q = k := by omega
      subst hqk
      go_wp2_with (first | (go_at_call 13; refine (HW.out _).mono ?_; rintro e w1 ⟨rfl, rfl⟩))
      go_ret
      exact ⟨by rw [← HZ.out]; rfl, hx⟩
/-- A text, the last byte first. -/
def rev (s : ByteArray) : ByteArray := ⟨s.data.toList.reverse.toArray⟩
def revTo (s : ByteArray) (k : Nat) : ByteArray := ⟨(s.data.toList.take k).reverse.toArray⟩
theorem revTo_succ (s : ByteArray) (k : Nat) (h : k < s.size) : s.extract k (k + 1) ++ revTo s k = revTo s (k + 1) := by
  refine bytes_ext ?_
  rw [ByteArray.data_append, Array.toList_append]
  have e : (s.extract k (k + 1)).data.toList = [s[k]] := by
    simp
    rw [List.drop_eq_getElem_cons (by simpa using h)]
    rfl
  rw [e]
  show [s[k]] ++ (s.data.toList.take k).reverse = (s.data.toList.take (k + 1)).reverse
  rw [take_snoc s k h, List.reverse_append]
  rfl
theorem revTo_size (s : ByteArray) (k : Nat) (h : k ≤ s.size) : (revTo s k).size = k := by
  show (s.data.toList.take k).reverse.length = k
  have e : s.data.size = s.size := rfl
  simp
  omega
set_option maxRecDepth 100000 in
theorem rback_ref (s : ByteArray) (w : World) (hs : s.size ≤ 1099511627776) : Calls Try.prog 12 #[.string s] w fun e w' => e = .returned (.string (rev s)) ∧ w = w' := by
  go_enter Try.func12, Try.ntmps12
  go_wp2
  go_loop [3, 4] (fun t i => ∃ q : Nat, ∃ z : ByteArray, q ≤ s.size ∧ i = .int .i64 q ∧ t = .string z ∧ Hid (z = revTo s q)) (fun _ i => s.size - (intOf i).toNat)
  case atStart => exact ⟨0, _, Nat.zero_le _, rfl, rfl, by show _ = revTo s 0; rfl⟩
  case round =>
    obtain ⟨q, z, hq, rfl, rfl, HZ⟩ := hrel
    by_cases hlt : q < s.size
    · have hz : z.size ≤ 1099511627776 := by rw [HZ.out, revTo_size s q hq]; omega
      have e1 : (0 : Int) ≤ q := by omega
      have e2 : (q : Int) ≤ q + 1 := by omega
      have e3 : (q : Int) + 1 ≤ s.size := by omega
      go_wp2
      go_round
      case rel =>
        refine ⟨q + 1, _, by omega, by go_num, rfl, ?_⟩
        show s.extract q (q + 1) ++ z = revTo s (q + 1)
        rw [HZ.out, revTo_succ s q hlt]
      case measure => simp [intOf]; omega
    · have hqk : q = s.size := by omega
      go_wp2
      go_ret
      refine ⟨?_, rfl⟩
      have e : revTo s s.size = rev s := by unfold revTo rev; rw [List.take_of_length_le (by simp)]
      rw [← e, ← hqk, ← HZ.out]
      rfl
theorem leN_small (n k : Nat) : leN (bytesBy k (smallAt n)).data.toList = n % 256 ^ k := by
  rw [bytesBy_list]
  induction k with
  | zero => simp [leN, Nat.mod_one]
  | succ k ih =>
    rw [List.range_succ, List.map_append, List.map_singleton, leN_snoc, ih]
    have e : (UInt8.ofNat (smallAt n k)).toNat = n / 256 ^ k % 256 := by
      unfold smallAt
      simp
    rw [e, Nat.pow_succ, Nat.mod_mul, List.length_map, List.length_range, Nat.mul_comm]
theorem big_rev (n k : Nat) : (bytesBy k (bigAt n k)).data.toList = (bytesBy k (smallAt n)).data.toList.reverse := by
  rw [bytesBy_list, bytesBy_list]
  refine List.ext_getElem (by simp) fun i h1 h2 => ?_
  simp at h1
  simp [List.getElem_reverse, bigAt, smallAt]
theorem rev_small (n k : Nat) : rev (bytesBy k (smallAt n)) = bytesBy k (bigAt n k) := by
  refine bytes_ext ?_
  rw [big_rev]
  rfl
theorem beN_big (n k : Nat) : beN (bytesBy k (bigAt n k)).data.toList = n % 256 ^ k := by
  rw [big_rev, ← leN_rev, leN_small]
theorem sfN_safe (n : Nat) (hn : n ≤ 268435455) : sfN (bytesBy 4 (safeAt n)).data.toList = n := by
  rw [bytesBy_list]
  have e : ∀ j, (UInt8.ofNat (safeAt n j)).toNat = safeAt n j := fun j => by
    have : safeAt n j < 128 := Nat.mod_lt _ (by omega)
    simp
    omega
  simp only [List.range_succ_eq_map, List.range_zero, List.map_cons, List.map_nil, sfN, List.foldl_cons, List.foldl_nil, e]
  unfold safeAt
  simp
  omega
theorem hiAt_safe (n : Nat) : hiAt (bytesBy 4 (safeAt n)).data.toList = 4 := by
  have h : hiAt (bytesBy 4 (safeAt n)).data.toList = (bytesBy 4 (safeAt n)).data.toList.length := by
    unfold hiAt
    refine List.findIdx_eq_length_of_false fun x hx => ?_
    rw [bytesBy_list] at hx
    obtain ⟨j, _, rfl⟩ := List.mem_map.1 hx
    have : safeAt n j < 128 := Nat.mod_lt _ (by omega)
    simp
    omega
  rw [h, bytesBy_list]
  simp
theorem extract_all (s : ByteArray) (k : Nat) (h : k = s.size) : s.extract 0 (0 + k) = s := by
  subst h
  refine bytes_ext ?_
  simp
def pw (k : Nat) : Nat := 256 ^ k
theorem pw_pos (k : Nat) : 0 < pw k := Nat.pow_pos (by omega)
set_option maxRecDepth 100000 in
theorem rpower_ref (k : Nat) (w : World) (hk : k < 8) : Calls Try.prog 14 #[.int .i64 k] w fun e w' => e = .returned (.int .u64 (pw k)) ∧ w = w' := by
  go_enter Try.func14, Try.ntmps14
  go_wp2
  go_loop [3, 4] (fun t i => ∃ q m : Nat, q ≤ k ∧ i = .int .i64 q ∧ t = .int .u64 m ∧ Hid (m = 256 ^ q)) (fun _ i => k - (intOf i).toNat)
  case atStart => exact ⟨0, 1, Nat.zero_le _, rfl, rfl, by show 1 = 256 ^ 0; rfl⟩
  case round =>
    obtain ⟨q, m, hq, rfl, rfl, HM⟩ := hrel
    by_cases hlt : q < k
    · have hm : m ≤ 72057594037927935 := by
        rw [HM.out]
        have := Nat.pow_lt_pow_right (a := 256) (by omega) (show q < 7 by omega)
        have h2 : 256 ^ 7 = 72057594037927936 := by decide
        omega
      go_wp2
      go_round
      case rel =>
        refine ⟨q + 1, m * 256, by omega, by go_num, ?_, ?_⟩
        · go_num
        · show m * 256 = 256 ^ (q + 1)
          rw [HM.out, Nat.pow_succ]
      case measure => simp [intOf]; omega
    · have hqk : q = k := by omega
      subst hqk
      go_wp2
      go_ret
      refine ⟨?_, rfl⟩
      rw [show pw q = m from HM.out.symm]
      rfl
end Go.Proofs.Ytdegnjbpjffgmaa
