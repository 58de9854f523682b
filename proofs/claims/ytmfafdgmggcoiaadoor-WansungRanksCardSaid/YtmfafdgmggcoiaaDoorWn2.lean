/-
  The document's answers of layer 7 (1): digits; is a syllable in the rows.
-/
import Derived.Test.YtmfafdgmggcoiaaDoorWn1
import Derived.Test.YtmfafdgmggcoiaaDoorBase
import Derived.IntWalk
namespace Go.Proofs.YtmfafdgmggcoiaaDoor
open Go Go.ChangeShapes Go.WideShapes Go.ChangeAt Go.RowKit
set_option linter.unusedSimpArgs false
set_option linter.unusedVariables false

/-- A digit of the members; its byte; all of them. -/
def digM (j : Nat) : Nat := memM / 16 ^ (j / 7 * 7 + 6 - j % 7) % 16
def digB (d : Nat) : UInt8 := if d < 10 then (48 + d).toUInt8 else (87 + d).toUInt8
def memT (n : Nat) : ByteArray := ⟨⟨(List.range n).map fun j => digB (digM j)⟩⟩
def digU (u : UInt8) : Int := if 97 ≤ (u.toNat : Int) then (u.toNat : Int) - 97 + 10 else (u.toNat : Int) - 48
theorem digU_B : ∀ d : Fin 16, digU (digB d.val) = (d.val : Int) := by decide +kernel
theorem memT_at (n j : Nat) (h : j < (memT n).size) : digU ((memT n)[j]'h) = (digM j : Int) := by
  have e : (memT n)[j]'h = digB (digM j) := by
    simp only [memT, ByteArray.getElem_eq_getElem_data, List.getElem_toArray, List.getElem_map, List.getElem_range]
  rw [e]
  exact digU_B ⟨digM j, Nat.mod_lt _ (by decide)⟩
theorem rdigit (u : UInt8) (w : World) : Calls Tryd.prog 20 #[.int .u8 u.toNat] w fun e w' => e = .returned (.int .i64 (digU u)) ∧ w = w' := by
  have h1 : (u.toNat : Int) < 256 := by have := u.toNat_lt; omega
  unfold digU
  by_cases h : 97 ≤ (u.toNat : Int)
  · rw [if_pos h]
    go_enter Tryd.func20, Tryd.ntmps20
    go_wp2
    go_ret
    exact ⟨rfl, rfl⟩
  · rw [if_neg h]
    go_enter Tryd.func20, Tryd.ntmps20
    go_wp2
    go_ret
    exact ⟨rfl, rfl⟩
theorem rdigit_in (n : Nat) (x : ByteArray) (hx : x = memT n) (i : Nat) (h : i < x.size) (w : World) : Calls Tryd.prog 20 #[.int .u8 (x[i]'h).toNat] w fun e w' => e = .returned (.int .i64 (digM i)) ∧ w = w' := by
  subst hx
  have h2 := rdigit ((memT n)[i]'h) w
  rw [memT_at n i h] at h2
  exact h2
set_option maxRecDepth 100000 in
theorem inM_dig (n : Nat) (h : n < 11172) : inM n = (digM (n / 28 * 7 + 6 - n % 28 / 4) / 2 ^ (n % 4) % 2 == 1) := by
  unfold inM digM
  have e1 : (n / 28 * 7 + 6 - n % 28 / 4) / 7 * 7 + 6 - (n / 28 * 7 + 6 - n % 28 / 4) % 7 = n / 4 := by omega
  rw [e1]
  have e2 : 2 ^ n = 16 ^ (n / 4) * 2 ^ (n % 4) := by
    rw [show (16 : Nat) = 2 ^ 4 from rfl, ← Nat.pow_mul, ← Nat.pow_add]
    congr 1
    omega
  rw [e2, ← Nat.div_div_eq_div_mul]
  generalize memM / 16 ^ (n / 4) = q
  have hk : n % 4 < 4 := Nat.mod_lt _ (by decide)
  have e3 : q / 2 ^ (n % 4) % 2 = q % 16 / 2 ^ (n % 4) % 2 := by
    have : n % 4 = 0 ∨ n % 4 = 1 ∨ n % 4 = 2 ∨ n % 4 = 3 := by omega
    rcases this with h | h | h | h <;> rw [h] <;> omega
  rw [e3]
set_option maxRecDepth 100000 in
set_option maxHeartbeats 4000000 in
theorem rin (n : Nat) (w : World) (h : n < 11172) : Calls Tryd.prog 9 #[.int .i64 n] w fun e w' => e = .returned (.bool (inM n)) ∧ w = w' := by
  have HD := Lib.hid (fun (n : Nat) (x : ByteArray) (hx : x = memT n) (i : Nat) (h : i < x.size) w => rdigit_in n x hx i h w)
  have HI := Lib.hid (inM_dig n h)
  have hnn : (n : Int) < 11172 := by omega
  have hD : digM (n / 28 * 7 + 6 - n % 28 / 4) < 16 := Nat.mod_lt _ (by decide)
  go_enter Tryd.func9, Tryd.ntmps9
  go_wp2_with fail
  refine (HD.out 2793 _ ?hh _ _ _).mono ?_
  case hh => kernel_rfl
  rintro e w1 ⟨rfl, rfl⟩
  generalize digM (n / 28 * 7 + 6 - n % 28 / 4) = D at HI hD
  clear HD
  go_wp2
  go_loop [4, 5] (fun d i => ∃ k : Nat, k ≤ n % 4 ∧ i = .int .i64 k ∧ d = .int .i64 ((D / 2 ^ k : Nat) : Int)) (fun _ i => n % 4 - (intOf i).toNat)
  case atStart => exact ⟨0, by omega, rfl, by rw [Nat.pow_zero, Nat.div_one]⟩
  case round =>
    obtain ⟨k, hk, rfl, rfl⟩ := hrel
    have hq : D / 2 ^ k < 16 := Nat.lt_of_le_of_lt (Nat.div_le_self _ _) hD
    have HQ : Hid (D / 2 ^ k / 2 = D / 2 ^ (k + 1)) := by
      show _ = _
      rw [Nat.pow_succ, Nat.div_div_eq_div_mul]
    by_cases hlt : k < n % 4
    · generalize D / 2 ^ k = q at HQ hq
      have h5 : (k : Int) < (n : Int) % 28 % 4 := by omega
      have hk4 : (k : Int) < 4 := by omega
      go_wp2
      go_round
      case rel => exact ⟨k + 1, by omega, by go_num, by rw [← HQ.out]; go_num⟩
      case measure => simp [intOf]; omega
    · have hkk : k = n % 4 := by omega
      subst hkk
      have HE := Lib.hid HI.out
      generalize D / 2 ^ (n % 4) = q at HE hq
      have h5 : ¬ ((n % 4 : Nat) : Int) < (n : Int) % 28 % 4 := by omega
      have hr : q % 2 = 0 ∨ q % 2 = 1 := by omega
      have h6 : ((q : Int) % 2 == 1) = inM n := by
        rw [HE.out]
        rcases hr with hr | hr
        · rw [hr, beq_false_of_ne (show (q : Int) % 2 ≠ 1 by omega)]; rfl
        · rw [hr, show (q : Int) % 2 = 1 by omega]; rfl
      have H6 := Lib.hid h6
      clear h6 hr HE HI
      go_wp2
      go_ret
      exact ⟨by rw [← H6.out]; rfl, rfl⟩
end Go.Proofs.YtmfafdgmggcoiaaDoor
