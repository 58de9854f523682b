/-
  A number below 65536 in two bytes: the contract of octet.Big there (for seats that have no reader).
-/
import Derived.Test.YtabcneomeemnpaaDoorBase
import Derived.Deep.OwnRows
import Derived.Laws.BytesArg
import Derived.IntWalk
namespace Go.Proofs.YtabcneomeemnpaaDoor
open Go Go.ChangeShapes Go.WideShapes Go.ChangeAt Go.RowKit
set_option linter.unusedSimpArgs false
set_option linter.unusedVariables false

theorem info_u8B : (Tryd.prog.info? 5).map (fun i => (i.zero, i.size, i.bytes)) = some (some (.int .u8 0), 1, 1) := by kernel_rfl
theorem width_two (w : World) : Calls Tryd.prog 35 #[.int .i64 2] w fun e w' => e = .returned (.int .i64 2) ∧ w = w' := by
  go_enter Tryd.func35, Tryd.ntmps35
  go_wp2
  go_ret
  exact ⟨by simp, rfl⟩
theorem make_two (w : World) : (Instr.makeSlice 31 (.int .i64 2) (.int .i64 2)).run Tryd.prog w = .ok (.slice (some ⟨w.heap.size, 0, none⟩) 2 2) (w.alloc (.cells (madeCells #[.int .u8 0] 2) 5)) :=
  run_make_row' 31 5 (.int .u8 0) 1 Tryd.underlying31 info_u8B rfl .i64 .i64 2 (by omega) (by omega) w
def bytesByB (k : Nat) (f : Nat → Nat) : ByteArray := strOfNums ((List.range k).map fun j => (f j : Int))
theorem string_rowB (w : World) (g k : Nat) (f : Nat → Nat) (h : w.rowIs g 5 k (fun j => .int .u8 (f j))) : (convert 31 9 (.slice (some ⟨g, 0, none⟩) k k)).run Tryd.prog w = .ok (.string (bytesByB k f)) w :=
  run_convert_bytes_arg w 31 5 Tryd.underlying31 Tryd.underlying5 g 0 k k _ (by simp) (fun i hi => by
    rw [Nat.zero_add, h.cell hi]
    simp [List.getD, hi]) 9 Tryd.underlying9
theorem shr_atB (n q : Nat) : ((n : Int) / 2 ^ (8 * q) % 256) = ((n / 256 ^ q % 256 : Nat) : Int) := by
  rw [Int.pow_mul]
  simp
def bigAtB (n k j : Nat) : Nat := n / 256 ^ (k - 1 - j) % 256
set_option maxRecDepth 100000 in
set_option maxHeartbeats 400000 in
theorem wbig2 (n : Nat) (w : World) (hn : n < 18446744073709551616) : Calls Tryd.prog 22 #[.int .u64 n, .int .i64 2] w fun e w' => e = .returned (.string (bytesByB 2 (bigAtB n 2))) ∧ Ext w w' := by
  have hmk0 := make_two w
  obtain ⟨k, hk⟩ : ∃ k : Nat, k = 2 := ⟨_, rfl⟩
  have hh : k ≤ 8 := by omega
  have hkk : ((2 : Nat) : Int) = (k : Int) := by rw [hk]
  have HW : Hid (∀ w, Calls Tryd.prog 35 #[.int .i64 2] w fun e w' => e = .returned (.int .i64 (k : Int)) ∧ w = w') := fun w => by rw [hk]; exact width_two w
  have hmk : (Instr.makeSlice 31 (.int .i64 (k : Int)) (.int .i64 (k : Int))).run Tryd.prog w = .ok (.slice (some ⟨w.heap.size, 0, none⟩) k k) (w.alloc (.cells (madeCells #[.int .u8 0] k) 5)) := by rw [hk]; exact hmk0
  rw [← hk]
  clear hmk0 hk hkk
  go_enter Tryd.func22, Tryd.ntmps22
  go_wp2_with (first | (go_at_call 35; refine (HW.out _).mono ?_; rintro e w1 ⟨rfl, rfl⟩))
  go_loopw [12] (fun i wr => ∃ q : Nat, q ≤ k ∧ i = .int .i64 q ∧ Ext w wr ∧ wr.rowIs w.heap.size 5 k (fun j => .int .u8 ((if k - q ≤ j then bigAtB n k j else 0 : Nat) : Int))) (fun i _ => k - (intOf i).toNat)
  case atStart => exact ⟨0, Nat.zero_le _, rfl, (Ext.refl _).alloc _, (World.rowIs_made w (.int .u8 0) k 5).congr (fun i hi => by rw [if_neg (by omega)]; rfl)⟩
  case round =>
    obtain ⟨q, hq, rfl, hx, hr⟩ := hrel
    by_cases hlt : q < k
    · have hc := hr.cell (i := k - 1 - q) (by omega)
      have hf := hr.frozen (k - 1 - q)
      have he : ((k : Int) - 1 - q).toNat = k - 1 - q := by omega
      go_wp2
      go_roundw
      case rel =>
        refine ⟨q + 1, by omega, by go_num, Below.setCell hx (by simp) _, (hr.set (k - 1 - q) _).congr (fun j hj => ?_)⟩
        by_cases e : j = k - 1 - q
        · subst e
          rw [if_pos rfl, if_pos (by omega)]
          unfold bigAtB
          rw [show k - 1 - (k - 1 - q) = q from by omega, shr_atB]
        · rw [if_neg e]
          by_cases e2 : k - q ≤ j
          · rw [if_pos e2, if_pos (by omega)]
          · rw [if_neg e2, if_neg (by omega)]
      case measure => simp [intOf]; omega
    · have hqk : q = k := by omega
      subst hqk
      have hs := string_rowB wr w.heap.size q (bigAtB n q) (hr.congr (fun j hj => by rw [if_pos (by omega)]))
      go_wp2
      go_ret
      exact ⟨rfl, hx⟩
/-- Two bytes of a number. -/
def twoB (n : Nat) : ByteArray := ⟨#[(n / 256).toUInt8, (n % 256).toUInt8]⟩
theorem bytesBy_twoB (n : Nat) (hn : n < 65536) : bytesByB 2 (bigAtB n 2) = twoB n := by
  have e1 : n / 256 % 256 = n / 256 := by omega
  show strOfNums [((n / 256 ^ 1 % 256 : Nat) : Int), ((n / 256 ^ 0 % 256 : Nat) : Int)] = _
  rw [Nat.pow_one, Nat.pow_zero, Nat.div_one, e1]
  unfold strOfNums twoB
  have e2 : ((n : Int) / 256).toNat = n / 256 := by omega
  have e3 : ((n : Int) % 256).toNat = n % 256 := by omega
  simp [e2, e3]
theorem big_two (n : Nat) (w : World) (hn : n < 65536) : Calls Tryd.prog 22 #[.int .u64 n, .int .i64 2] w fun e w' => e = .returned (.string (twoB n)) ∧ Ext w w' := by
  have h := wbig2 n w (by omega)
  rwa [bytesBy_twoB n hn] at h
theorem u8_of {a : Int} (h : (Lit.int .u8 a).wf = true) : ∃ u : UInt8, a = u.toNat := by
  simp only [Lit.wf, Bool.and_eq_true, decide_eq_true_eq] at h
  have e1 : IntKind.min .u8 = 0 := by decide
  have e2 : IntKind.max .u8 = 255 := by decide
  refine ⟨a.toNat.toUInt8, ?_⟩
  simp
  omega
theorem i32_of {a : Int} (h : (Lit.int .i32 a).wf = true) : -2147483648 ≤ a ∧ a ≤ 2147483647 := by
  simp only [Lit.wf, Bool.and_eq_true, decide_eq_true_eq] at h
  have e1 : IntKind.min .i32 = -2147483648 := by decide
  have e2 : IntKind.max .i32 = 2147483647 := by decide
  omega
end Go.Proofs.YtabcneomeemnpaaDoor
