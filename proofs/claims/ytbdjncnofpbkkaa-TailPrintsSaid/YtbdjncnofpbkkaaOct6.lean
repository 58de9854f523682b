/-
  Contracts of package octet: Safe; the document's example of layer 1.
-/
import Derived.Test.YtbdjncnofpbkkaaOct5
import Derived.Laws.StructEq
namespace Go.Proofs.Ytbdjncnofpbkkaa
open Go Go.ChangeShapes Go.WideShapes Go.ChangeAt Go.RowKit
set_option linter.unusedSimpArgs false
set_option linter.unusedVariables false

/-- Byte j of a number in four bytes of seven bits, the highest first. -/
def safeAt (n j : Nat) : Nat := n / 128 ^ (3 - j) % 128
theorem wsafe_no (n : Nat) (w : World) (hn : 268435455 < (n : Int)) : Calls Try.prog 64 #[.int .u64 n] w fun e w' => e = .returned (.tuple #[.string ⟨#[]⟩, .bool false]) ∧ Ext w w' := by
  go_enter Try.func64, Try.ntmps64
  go_wp2
  go_ret2
  exact ⟨rfl, Ext.refl _⟩
theorem shr_at7 (n q : Nat) (hn : (n : Int) ≤ 268435455) : bits .and .u64 ((n : Int) / 2 ^ (7 * q)) 127 % 256 = ((n / 128 ^ q % 128 : Nat) : Int) := by
  have e : (n : Int) / 2 ^ (7 * q) = ((n / 128 ^ q : Nat) : Int) := by
    rw [Int.pow_mul]
    simp
  have h1 : n / 128 ^ q ≤ n := Nat.div_le_self _ _
  have h := bits_and_u64_nat (n / 128 ^ q) 127 (by omega) (by omega)
  have h2 : n / 128 ^ q &&& 127 = n / 128 ^ q % 128 := Nat.and_two_pow_sub_one_eq_mod _ 7
  rw [e]
  rw [h2] at h
  have h3 : bits .and .u64 ((n / 128 ^ q : Nat) : Int) 127 = ((n / 128 ^ q % 128 : Nat) : Int) := h
  rw [h3]
  omega
set_option maxRecDepth 100000 in
set_option maxHeartbeats 400000 in
theorem wsafe_ok (n : Nat) (w : World) (hn : (n : Int) ≤ 268435455) : Calls Try.prog 64 #[.int .u64 n] w fun e w' => e = .returned (.tuple #[.string (bytesBy 4 (safeAt n)), .bool true]) ∧ Ext w w' := by
  have hmk : ∀ w : World, (Instr.makeSlice 52 (.int .i64 4) (.int .i64 4)).run Try.prog w = .ok (.slice (some ⟨w.heap.size, 0, none⟩) 4 4) (w.alloc (.cells (madeCells #[.int .u8 0] 4) 5)) := make_bytes 4 (by omega)
  go_enter Try.func64, Try.ntmps64
  go_wp2
  go_loopw [11] (fun i wr => ∃ q : Nat, q ≤ 4 ∧ i = .int .i64 q ∧ Ext w wr ∧ wr.rowIs w.heap.size 5 4 (fun j => .int .u8 ((if 4 - q ≤ j then safeAt n j else 0 : Nat) : Int))) (fun i _ => 4 - (intOf i).toNat)
  case atStart => exact ⟨0, Nat.zero_le _, rfl, (Ext.refl _).alloc _, (World.rowIs_made w (.int .u8 0) 4 5).congr (fun i hi => by rw [if_neg (by omega)]; rfl)⟩
  case round =>
    obtain ⟨q, hq, rfl, hx, hr⟩ := hrel
    by_cases hlt : q < 4
    · have hc := hr.cell (i := 3 - q) (by omega)
      have hf := hr.frozen (3 - q)
      have he : ((3 : Int) - q).toNat = 3 - q := by omega
      go_wp2
      go_roundw
      case rel =>
        refine ⟨q + 1, by omega, by go_num, Below.setCell hx (by simp) _, (hr.set (3 - q) _).congr (fun j hj => ?_)⟩
        by_cases e : j = 3 - q
        · subst e
          rw [if_pos rfl, if_pos (by omega)]
          unfold safeAt
          rw [show 3 - (3 - q) = q from by omega, shr_at7 _ _ hn]
        · rw [if_neg e]
          by_cases e2 : 4 - q ≤ j
          · rw [if_pos e2, if_pos (by omega)]
          · rw [if_neg e2, if_neg (by omega)]
      case measure => simp [intOf]; omega
    · have hqk : q = 4 := by omega
      subst hqk
      have hs := string_row wr w.heap.size 4 (safeAt n) (hr.congr (fun j hj => by rw [if_pos (by omega)]))
      go_wp2
      go_ret2
      exact ⟨rfl, hx⟩
theorem ex_safe (w : World) : Calls Try.prog 64 #[.int .u64 129] w fun e w' => e = .returned (.tuple #[.string ⟨#[0, 0, 1, 1]⟩, .bool true]) ∧ Ext w w' := by
  have e : bytesBy 4 (safeAt 129) = ⟨#[0, 0, 1, 1]⟩ := by decide +kernel
  rw [← e]
  exact wsafe_ok 129 w (by decide)
theorem ex_big (w : World) : Calls Try.prog 43 #[.int .u64 258, .int .i64 2] w fun e w' => e = .returned (.string ⟨#[1, 2]⟩) ∧ Ext w w' := by
  have e : bytesBy (cw 2).toNat (bigAt 258 (cw 2).toNat) = ⟨#[1, 2]⟩ := by decide +kernel
  rw [← e]
  exact wbig 258 2 w (by decide)
theorem ex_inner (w : World) : Calls Try.prog 47 #[.string ⟨#[97, 98]⟩, .int .i64 10] w fun e w' => ∃ b : Nat, w.heap.size ≤ b ∧ e = .returned (.pointer (some ⟨b, 0, none⟩)) ∧ Rdr w' b ⟨#[97, 98]⟩ 0 10 0 0 ∧ Ext w w' :=
  (inner_any _ _ w (by decide) (by decide) (by decide)).mono fun e w' ⟨h1, h2, h3⟩ => ⟨_, Nat.le_refl _, h1, h2, h3⟩
set_option maxRecDepth 100000 in
set_option maxHeartbeats 400000 in
theorem awake1_any (w : World) : Calls Try.prog 46 #[] w fun e w' => e = .returned (.bool true) ∧ Ext w w' := by
  go_enter Try.func46, Try.ntmps46
  go_wp2_with (first
    | (go_at_call 64; refine (ex_safe _).mono ?_; rintro e w1 ⟨rfl, hb1⟩)
    | (go_at_call 47; refine (ex_inner _).mono ?_; rintro e w2 ⟨b, hb, rfl, H2, hb2⟩)
    | (go_at_call 34; refine (take_short _ _ _ _ _ _ _ H2 (by decide) (by decide)).mono ?_; rintro e w3 ⟨rfl, H3, hm3⟩)
    | (go_at_call 43; refine (ex_big _).mono ?_; rintro e w4 ⟨rfl, hb4⟩; have H4 := H3.ext hb4)
    | (go_at_call 51; refine (fault_at _ _ _ _ _ _ _ H4).mono ?_; rintro e w5 ⟨rfl, hb5⟩))
  go_ret
  exact ⟨rfl, ((hb1.trans hb2).mod hm3 (Nat.le_trans hb1.size hb)).trans (hb4.trans hb5)⟩
end Go.Proofs.Ytbdjncnofpbkkaa
