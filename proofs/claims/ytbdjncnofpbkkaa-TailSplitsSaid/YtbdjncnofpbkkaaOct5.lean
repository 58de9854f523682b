/-
  Contracts of the writers of package octet: Big, Small, Safe.
-/
import Derived.Test.YtbdjncnofpbkkaaOct3
import Derived.Deep.OwnRows
import Derived.Laws.BytesArg
namespace Go.Proofs.Ytbdjncnofpbkkaa
open Go.ChangeShapes Go.WideShapes Go.ChangeAt Go.RowKit
set_option linter.unusedSimpArgs false
set_option linter.unusedVariables false

theorem make_bytes (k : Nat) (hk : k ≤ 281474976710656) (w : World) : (Instr.makeSlice 52 (.int .i64 (k : Int)) (.int .i64 (k : Int))).run Try.prog w = .ok (.slice (some ⟨w.heap.size, 0, none⟩) k k) (w.alloc (.cells (madeCells #[.int .u8 0] k) 5)) :=
  run_make_row' 52 5 (.int .u8 0) 1 Try.underlying52 info_u8 rfl .i64 .i64 k (by omega) (by omega) w
/-- So many bytes, as a text. -/
def bytesBy (k : Nat) (f : Nat → Nat) : ByteArray := strOfNums ((List.range k).map fun j => (f j : Int))
theorem string_row (w : World) (g k : Nat) (f : Nat → Nat) (h : w.rowIs g 5 k (fun j => .int .u8 (f j))) : (convert 52 9 (.slice (some ⟨g, 0, none⟩) k k)).run Try.prog w = .ok (.string (bytesBy k f)) w :=
  run_convert_bytes_arg w 52 5 Try.underlying52 Try.underlying5 g 0 k k _ (by simp) (fun i hi => by
    rw [Nat.zero_add, h.cell hi]
    simp [List.getD, hi]) 9 Try.underlying9
theorem shr_at (n q : Nat) : ((n : Int) / 2 ^ (8 * q) % 256) = ((n / 256 ^ q % 256 : Nat) : Int) := by
  rw [Int.pow_mul]
  simp
/-- Byte j of a number in k bytes, the highest first. -/
def bigAt (n k j : Nat) : Nat := n / 256 ^ (k - 1 - j) % 256
set_option maxRecDepth 100000 in
set_option maxHeartbeats 400000 in
theorem wbig (n : Nat) (s : Int) (w : World) (hn : n < 18446744073709551616) : Calls Try.prog 43 #[.int .u64 n, .int .i64 s] w fun e w' => e = .returned (.string (bytesBy (cw s).toNat (bigAt n (cw s).toNat))) ∧ Ext w w' := by
  have hl := cw_lo s
  have hh := cw_hi s
  obtain ⟨k, hk⟩ := Int.eq_ofNat_of_zero_le hl
  rw [hk] at hh ⊢
  rw [Int.toNat_natCast]
  have hw := width_any s
  rw [hk] at hw
  have HW := Lib.hid hw
  clear hw hk hl
  have hmk := make_bytes k (by omega)
  go_enter Try.func43, Try.ntmps43
  go_wp2_with (first | (go_at_call 55; refine (HW.out _).mono ?_; rintro e w1 ⟨rfl, rfl⟩))
  go_loopw [12] (fun i wr => ∃ q : Nat, q ≤ k ∧ i = .int .i64 q ∧ Ext w wr ∧ wr.rowIs w.heap.size 5 k (fun j => .int .u8 ((if k - q ≤ j then bigAt n k j else 0 : Nat) : Int))) (fun i _ => k - (intOf i).toNat)
  case atStart => exact ⟨0, Nat.zero_le _, rfl, (Ext.refl _).alloc _, (World.rowIs_made w (.int .u8 0) k 5).congr (fun i hi => by rw [if_neg (by omega)]; rfl)⟩
  case round =>
    obtain ⟨q, hq, rfl, hx, hr⟩ := hrel
    by_cases hlt : q < k
    · have hc := hr.cell (i := k - 1 - q) (by omega)
      have hf := hr.frozen (k - 1 - q)
      have he : ((k : Int) - 1 - q).toNat = k - 1 - q := by omega
      go_wp2
      go_roundw
      case rel =>
        refine ⟨q + 1, by omega, by go_num, Below.setCell hx (by simp) _, (hr.set (k - 1 - q) _).congr (fun j hj => ?_)⟩
        by_cases e : j = k - 1 - q
        · subst e
          rw [if_pos rfl, if_pos (by omega)]
          unfold bigAt
          rw [show k - 1 - (k - 1 - q) = q from by omega, shr_at]
        · rw [if_neg e]
          by_cases e2 : k - q ≤ j
          · rw [if_pos e2, if_pos (by omega)]
          · rw [if_neg e2, if_neg (by omega)]
      case measure => simp [intOf]; omega
    · have hqk : q = k := by omega
      subst hqk
      have hs := string_row wr w.heap.size q (bigAt n q) (hr.congr (fun j hj => by rw [if_pos (by omega)]))
      go_wp2
      go_ret
      exact ⟨rfl, hx⟩
/-- Byte j of a number, the lowest first. -/
def smallAt (n j : Nat) : Nat := n / 256 ^ j % 256
end Go.Proofs.Ytbdjncnofpbkkaa
