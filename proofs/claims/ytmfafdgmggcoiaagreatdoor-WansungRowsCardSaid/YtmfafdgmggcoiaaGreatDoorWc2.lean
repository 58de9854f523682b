/-
  Layer 7, the code (2): what the tables tell; how many bits are set; the lowest one.
-/
import Derived.Test.YtmfafdgmggcoiaaGreatDoorWc1
import Derived.Test.YtmfafdgmggcoiaaGreatDoorShelf
import Derived.Shelf.Spec.TrailingZeros
import Derived.Lib.LaidTab
namespace Go.Proofs.YtmfafdgmggcoiaaGreatDoor
open Go Go.ChangeShapes Go.WideShapes Go.ChangeAt Go.RowKit
set_option linter.unusedSimpArgs false
set_option linter.unusedVariables false

def aheadL : List Nat := [0, 71, 130, 171, 217, 254, 291, 354, 393, 432, 488, 523, 560, 602, 619, 646, 699, 736, 773,
    830, 870, 902, 961, 998, 1031, 1072, 1089, 1104, 1173, 1225, 1267, 1298, 1327, 1353, 1434, 1495, 1561, 1618,
    1661, 1696, 1732, 1760, 1778, 1824, 1856, 1890, 1936, 1964, 1997, 2039, 2066, 2103, 2150, 2181, 2208, 2254, 2299]
def cntR : Nat → Nat → Nat
  | 0, _ => 0
  | k + 1, a => (if inM a then 1 else 0) + cntR k (a + 1)
theorem cntR_rank : ∀ (k a : Nat), rankM true (a + k) = rankM true a + cntR k a
  | 0, a => rfl
  | k + 1, a => by
    have h := cntR_rank k (a + 1)
    rw [rankM_succ] at h
    rw [show a + (k + 1) = a + 1 + k by omega, h, cntR]
    cases inM a <;> simp <;> omega
set_option maxRecDepth 100000 in
theorem ahead_step : ∀ j : Fin 56, aheadL.getD (j.val + 1) 0 = aheadL.getD j.val 0 + cntR 196 (196 * j.val) := by decide +kernel
theorem ahead_rank : ∀ j, j ≤ 56 → aheadL.getD j 0 = rankM true (196 * j)
  | 0, _ => rfl
  | j + 1, h => by
    rw [ahead_step ⟨j, by omega⟩, ahead_rank j (by omega), show 196 * (j + 1) = 196 * j + 196 by omega, cntR_rank]
theorem cellE {w w' : World} {a : Addr} {v : Value} (h : Ext w w') (hc : w.cell? a = some v) : w'.cell? a = some v :=
  (World.cell?_of_block (h.block _ (World.block_lt_of_cell? w _ hc))).trans hc
/-- What the variables hold. -/
def Tab7 (w : World) : Prop := (∀ j, j ≤ 56 → w.cell? ⟨0, j, none⟩ = some (.int .i64 (rankM true (196 * j) : Nat))) ∧ Go.Proofs.TabAt 5 Lib.deBruijn64tab w
theorem Tab7.ext {w w' : World} (h : Tab7 w) (k : Ext w w') : Tab7 w' :=
  ⟨fun j hj => cellE k (h.1 j hj), fun j hj => cellE k (h.2 j hj)⟩
theorem ahead_at (b : Bool) (g : Nat) (h : g ≤ 56) (w : World) (hT : Tab7 w) : Calls Tryz.prog 86 #[.int .i64 g, .bool b] w fun e w' => e = .returned (.int .i64 (rankM b (196 * g) : Nat)) ∧ w = w' := by
  have hc := hT.1 g h
  have h2 := rank_both (196 * g)
  have h3 : (g : Int) ≤ 56 := by omega
  have HT := Lib.hid trivial
  clear hT
  cases b
  · have e : ((rankM false (196 * g) : Nat) : Int) = (g : Int) * 7 * 28 - (rankM true (196 * g) : Nat) := by omega
    have h4 : rankM true (196 * g) ≤ 196 * g := rankM_le _ _
    have HE := Lib.hid e
    generalize rankM true (196 * g) = v at hc HE h4
    clear h2 e
    go_enter Tryz.func86, Tryz.ntmps86
    go_wp2
    go_ret
    exact ⟨by rw [HE.out]; rfl, rfl⟩
  · generalize rankM true (196 * g) = v at hc
    clear h2
    go_enter Tryz.func86, Tryz.ntmps86
    go_wp2
    go_ret
    exact ⟨rfl, rfl⟩
theorem and_i64_nat (a b : Nat) (ha : a < 4294967296) (hb : b < 4294967296) : bits .and .i64 (a : Int) (b : Int) = ((a &&& b : Nat) : Int) := by
  have hx : a &&& b ≤ a := Nat.and_le_left
  have h1 : (BitVec.ofInt 64 (a : Int)).toNat = a := by
    rw [BitVec.ofInt_natCast, BitVec.toNat_ofNat]; exact Nat.mod_eq_of_lt (by omega)
  have h2 : (BitVec.ofInt 64 (b : Int)).toNat = b := by
    rw [BitVec.ofInt_natCast, BitVec.toNat_ofNat]; exact Nat.mod_eq_of_lt (by omega)
  show IntKind.i64.wrap ((BitVec.ofInt 64 (a : Int) &&& BitVec.ofInt 64 (b : Int)).toNat : Int) = _
  rw [BitVec.toNat_and, h1, h2]
  exact IntWalk.i64_in _ (by omega)
theorem wrap_u64_nat (a : Nat) (h : a < 18446744073709551616) : IntKind.u64.wrap (a : Int) = (a : Int) := by
  rw [IntKind.wrap_u64]
  omega
set_option maxRecDepth 100000 in
theorem ones64_key (x : Nat) (h : x < 268435456) : ∃ y0 y1 y2 : Nat,
    IntKind.u64.wrap (bits .and .u64 ((x : Int) / 2) 6148914691236517205 + bits .and .u64 (x : Int) 6148914691236517205) = (y0 : Int) ∧
    IntKind.u64.wrap (bits .and .u64 ((y0 : Int) / 4) 3689348814741910323 + bits .and .u64 (y0 : Int) 3689348814741910323) = (y1 : Int) ∧
    bits .and .u64 ((y1 : Int) / 16 + (y1 : Int)) 1085102592571150095 = (y2 : Int) ∧
    (let z1 := y2 + y2 / 256; let z2 := z1 + z1 / 65536; let z3 := z2 + z2 / 4294967296; z3 % 128 = pcl x 28 ∧ z1 < 4294967296 ∧ z2 < 4294967296) ∧ y0 < 4294967296 ∧ y1 < 2147483648 ∧ y2 < 4294967296 := by
  have hm0 : mk0 8 = 6148914691236517205 := by decide +kernel
  have hm1 : mk1 8 = 3689348814741910323 := by decide +kernel
  have hm2 : mk2 8 = 1085102592571150095 := by decide +kernel
  have b0 : st0 8 x < 536870912 := by
    unfold st0
    have h1 : x / 2 &&& mk0 8 ≤ x / 2 := Nat.and_le_left
    have h2 : x &&& mk0 8 ≤ x := Nat.and_le_left
    omega
  have b1 : st1 8 (st0 8 x) < 1073741824 := by
    have h1 : st0 8 x / 4 &&& mk1 8 ≤ st0 8 x / 4 := Nat.and_le_left
    have h2 : st0 8 x &&& mk1 8 ≤ st0 8 x := Nat.and_le_left
    unfold st1
    omega
  obtain ⟨o1, o2, o3, o4⟩ := ones_32 x (by omega)
  rw [pcl_28 x h] at o1
  refine ⟨st0 8 x, st1 8 (st0 8 x), st2 8 (st1 8 (st0 8 x)), ?_, ?_, ?_, ⟨o1, o2, o3⟩, by omega, by omega, o4⟩
  · rw [show ((x : Int) / 2) = ((x / 2 : Nat) : Int) by omega, show (6148914691236517205 : Int) = ((mk0 8 : Nat) : Int) by rw [hm0]; rfl, bits_and_u64_nat _ _ (by omega) (by rw [hm0]; decide), bits_and_u64_nat _ _ (by omega) (by rw [hm0]; decide), ← Int.natCast_add]
    exact wrap_u64_nat _ (by show st0 8 x < _; omega)
  · generalize hy : st0 8 x = y at b0 b1
    rw [show ((y : Int) / 4) = ((y / 4 : Nat) : Int) by omega, show (3689348814741910323 : Int) = ((mk1 8 : Nat) : Int) by rw [hm1]; rfl, bits_and_u64_nat _ _ (by omega) (by rw [hm1]; decide), bits_and_u64_nat _ _ (by omega) (by rw [hm1]; decide), ← Int.natCast_add]
    exact wrap_u64_nat _ (by show st1 8 y < _; omega)
  · generalize hy : st1 8 (st0 8 x) = y at b1
    rw [show ((y : Int) / 16 + (y : Int)) = ((y / 16 + y : Nat) : Int) by omega, show (1085102592571150095 : Int) = ((mk2 8 : Nat) : Int) by rw [hm2]; rfl, bits_and_u64_nat _ _ (by omega) (by rw [hm2]; decide)]
    rfl
set_option maxRecDepth 100000 in
set_option maxHeartbeats 1000000 in
theorem ones64 (x : Nat) (h : x < 268435456) (w : World) : Calls Tryz.prog 107 #[.int .u64 x] w fun e w' => e = .returned (.int .i64 (pcl x 28 : Nat)) ∧ w = w' := by
  obtain ⟨y0, y1, y2, e0, e1, e2, ⟨o1, o2, o3⟩, b0, b1, b2⟩ := ones64_key x h
  have hx : (x : Int) < 268435456 := by omega
  have p0 : (y0 : Int) < 4294967296 := by omega
  have p1 : (y1 : Int) < 2147483648 := by omega
  have p2 : (y2 : Int) < 4294967296 := by omega
  obtain ⟨z1, hz1⟩ : ∃ z1, z1 = y2 + y2 / 256 := ⟨_, rfl⟩
  rw [← hz1] at o1 o2 o3
  obtain ⟨z2, hz2⟩ : ∃ z2, z2 = z1 + z1 / 65536 := ⟨_, rfl⟩
  rw [← hz2] at o1 o3
  have f1 : (y2 : Int) + (y2 : Int) / 256 = (z1 : Int) := by omega
  have f2 : (z1 : Int) + (z1 : Int) / 65536 = (z2 : Int) := by omega
  have f3 : (z2 : Int) + (z2 : Int) / 4294967296 = (z2 : Int) := by omega
  have p3 : (z1 : Int) < 4294967296 := by omega
  have p4 : (z2 : Int) < 4294967296 := by omega
  have f4 : bits .and .i64 (z2 : Int) 127 = ((pcl x 28 : Nat) : Int) := by
    rw [show (127 : Int) = ((127 : Nat) : Int) from rfl, and_i64_nat _ _ o3 (by decide), ← o1, show (127 : Nat) = 2 ^ 7 - 1 from rfl, Nat.and_two_pow_sub_one_eq_mod]
    congr 2
    omega
  generalize pcl x 28 = c at f4
  clear o1 o2 o3 b0 b1 b2 hz1 hz2 h
  go_enter Tryz.func107, Tryz.ntmps107
  go_wp2
  go_ret
  exact ⟨by first | rfl | rw [f4], rfl⟩
set_option maxRecDepth 100000 in
theorem ones_at (x : Nat) (h : x < 268435456) (w : World) : Calls Tryz.prog 88 #[.int .u64 x] w fun e w' => e = .returned (.int .i64 (pcl x 28 : Nat)) ∧ w = w' := by
  have HO := Lib.hid (fun w => ones64 x h w)
  generalize pcl x 28 = c at HO
  obtain ⟨X, hX⟩ : ∃ X : Int, X = (x : Int) := ⟨_, rfl⟩
  rw [← hX] at HO
  rw [← hX]
  have h1 : 0 ≤ X := by omega
  have h2 : X < 268435456 := by omega
  clear hX h
  go_enter Tryz.func88, Tryz.ntmps88
  go_wp2_with (go_at_call 107; refine (HO.out _).mono ?_; rintro e w1 ⟨rfl, rfl⟩)
  go_ret
  exact ⟨rfl, rfl⟩
set_option maxHeartbeats 1000000 in
theorem tz64_core (x k idx : Nat) (w : World) (hx0 : ((x : Int) == 0) = false)
    (key : IntKind.u64.wrap (bits BinOp.and IntKind.u64 (x : Int) (IntKind.u64.wrap (-(x : Int))) * 285870213051353865) / 288230376151711744 = (idx : Int))
    (hi : idx < 64) (hk : k < 64) (hcell : w.cell? ⟨5, idx, none⟩ = some (.int .u8 k)) :
    Calls Tryz.prog 109 #[.int .u64 x] w fun e w' => e = .returned (.int .i64 k) ∧ w = w' := by
  go_enter Tryz.func109, Tryz.ntmps109
  go_wp2_with (simp only [key])
  go_ret
  exact ⟨rfl, rfl⟩
theorem tz64 (x : Nat) (h : x < 268435456) (h0 : x ≠ 0) (w : World) (hT : Tab7 w) : Calls Tryz.prog 109 #[.int .u64 x] w fun e w' => e = .returned (.int .i64 (Lib.ctz 64 x : Nat)) ∧ w = w' := by
  obtain ⟨hlow, hk⟩ := Lib.lowest_bit 64 x h0 (by omega)
  obtain ⟨hi, htab⟩ := Lib.deBruijn64_at _ hk
  have hcell := hT.2 _ hi
  rw [htab] at hcell
  exact tz64_core x _ _ w (by simp; omega) (Go.Proofs.tz64_key x _ (by omega) h0 hlow) hi hk hcell
set_option maxRecDepth 100000 in
theorem tz_at (x : Nat) (h : x < 268435456) (h0 : x ≠ 0) (w : World) (hT : Tab7 w) : Calls Tryz.prog 89 #[.int .u64 x] w fun e w' => e = .returned (.int .i64 (Lib.ctz 64 x : Nat)) ∧ w = w' := by
  have HO := Lib.hid (tz64 x h h0 w hT)
  generalize Lib.ctz 64 x = c at HO
  obtain ⟨X, hX⟩ : ∃ X : Int, X = (x : Int) := ⟨_, rfl⟩
  rw [← hX] at HO
  rw [← hX]
  have h1 : 0 ≤ X := by omega
  have h2 : X < 268435456 := by omega
  clear hX h h0 hT
  go_enter Tryz.func89, Tryz.ntmps89
  go_wp2_with (go_at_call 109; refine HO.out.mono ?_; rintro e w1 ⟨rfl, rfl⟩)
  go_ret
  exact ⟨rfl, rfl⟩
end Go.Proofs.YtmfafdgmggcoiaaGreatDoor
