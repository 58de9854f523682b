/-
  What the proof of this claim leans on (S28).
-/
import Derived.Test.YtndopjmdpmkgeaaGreatDoorS2
import Derived.Test.YtndopjmdpmkgeaaGreatDoorS7
import Derived.Test.YtndopjmdpmkgeaaGreatDoorS27
import Derived.Deep.RegionHeld3
import Derived.Lib.LaidTab
import Derived.Shelf.Spec.TrailingZeros
import Derived.StillTailTactics
namespace Go.Proofs.YtndopjmdpmkgeaaGreatDoor
open Go Go.ChangeShapes Go.WideShapes Go.ChangeAt Go.RowKit
set_option linter.unusedSimpArgs false
set_option linter.unusedVariables false

def aheadL : List Nat := [0, 71, 130, 171, 217, 254, 291, 354, 393, 432, 488, 523, 560, 602, 619, 646, 699, 736, 773,
    830, 870, 902, 961, 998, 1031, 1072, 1089, 1104, 1173, 1225, 1267, 1298, 1327, 1353, 1434, 1495, 1561, 1618,
    1661, 1696, 1732, 1760, 1778, 1824, 1856, 1890, 1936, 1964, 1997, 2039, 2066, 2103, 2150, 2181, 2208, 2254, 2299]
def cntR : Nat → Nat → Nat
  | 0, _ => 0
  | k + 1, a => (if inM a then 1 else 0) + cntR k (a + 1)
theorem cntR_rank : ∀ (k a : Nat), rankM true (a + k) = rankM true a + cntR k a
  | 0, a => rfl
  | k + 1, a => by
    have h := cntR_rank k (a + 1)
    rw [rankM_succ] at h
    rw [show a + (k + 1) = a + 1 + k by omega, h, cntR]
    cases inM a <;> simp <;> omega
set_option maxRecDepth 100000 in
theorem ahead_step : ∀ j : Fin 56, aheadL.getD (j.val + 1) 0 = aheadL.getD j.val 0 + cntR 196 (196 * j.val) := by decide +kernel
theorem ahead_rank : ∀ j, j ≤ 56 → aheadL.getD j 0 = rankM true (196 * j)
  | 0, _ => rfl
  | j + 1, h => by
    rw [ahead_step ⟨j, by omega⟩, ahead_rank j (by omega), show 196 * (j + 1) = 196 * j + 196 by omega, cntR_rank]
theorem cellE {w w' : World} {a : Addr} {v : Value} (h : Ext w w') (hc : w.cell? a = some v) : w'.cell? a = some v :=
  (World.cell?_of_block (h.block _ (World.block_lt_of_cell? w _ hc))).trans hc
/-- What the variables hold. -/
def Tab7 (w : World) : Prop := (∀ j, j ≤ 56 → w.cell? ⟨5, j, none⟩ = some (.int .i64 (rankM true (196 * j) : Nat))) ∧ Go.Proofs.TabAt 7 Lib.deBruijn64tab w
theorem Tab7.ext {w w' : World} (h : Tab7 w) (k : Ext w w') : Tab7 w' :=
  ⟨fun j hj => cellE k (h.1 j hj), fun j hj => cellE k (h.2 j hj)⟩
theorem ahead_at (b : Bool) (g : Nat) (h : g ≤ 56) (w : World) (hT : Tab7 w) : Calls Tryz.prog 198 #[.int .i64 g, .bool b] w fun e w' => e = .returned (.int .i64 (rankM b (196 * g) : Nat)) ∧ w = w' := by
  have hc := hT.1 g h
  have h2 := rank_both (196 * g)
  have h3 : (g : Int) ≤ 56 := by omega
  have HT := Lib.hid trivial
  clear hT
  cases b
  · have e : ((rankM false (196 * g) : Nat) : Int) = (g : Int) * 7 * 28 - (rankM true (196 * g) : Nat) := by omega
    have h4 : rankM true (196 * g) ≤ 196 * g := rankM_le _ _
    have HE := Lib.hid e
    generalize rankM true (196 * g) = v at hc HE h4
    clear h2 e
    go_enter Tryz.func198, Tryz.ntmps198
    go_wp2
    go_ret
    exact ⟨by rw [HE.out]; rfl, rfl⟩
  · generalize rankM true (196 * g) = v at hc
    clear h2
    go_enter Tryz.func198, Tryz.ntmps198
    go_wp2
    go_ret
    exact ⟨rfl, rfl⟩
theorem and_i64_nat (a b : Nat) (ha : a < 4294967296) (hb : b < 4294967296) : bits .and .i64 (a : Int) (b : Int) = ((a &&& b : Nat) : Int) := by
  have hx : a &&& b ≤ a := Nat.and_le_left
  have h1 : (BitVec.ofInt 64 (a : Int)).toNat = a := by
    rw [BitVec.ofInt_natCast, BitVec.toNat_ofNat]; exact Nat.mod_eq_of_lt (by omega)
  have h2 : (BitVec.ofInt 64 (b : Int)).toNat = b := by
    rw [BitVec.ofInt_natCast, BitVec.toNat_ofNat]; exact Nat.mod_eq_of_lt (by omega)
  show IntKind.i64.wrap ((BitVec.ofInt 64 (a : Int) &&& BitVec.ofInt 64 (b : Int)).toNat : Int) = _
  rw [BitVec.toNat_and, h1, h2]
  exact IntWalk.i64_in _ (by omega)
theorem wrap_u64_nat (a : Nat) (h : a < 18446744073709551616) : IntKind.u64.wrap (a : Int) = (a : Int) := by
  rw [IntKind.wrap_u64]
  omega
set_option maxRecDepth 100000 in
theorem ones64_key (x : Nat) (h : x < 268435456) : ∃ y0 y1 y2 : Nat,
    IntKind.u64.wrap (bits .and .u64 ((x : Int) / 2) 6148914691236517205 + bits .and .u64 (x : Int) 6148914691236517205) = (y0 : Int) ∧
    IntKind.u64.wrap (bits .and .u64 ((y0 : Int) / 4) 3689348814741910323 + bits .and .u64 (y0 : Int) 3689348814741910323) = (y1 : Int) ∧
    bits .and .u64 ((y1 : Int) / 16 + (y1 : Int)) 1085102592571150095 = (y2 : Int) ∧
    (let z1 := y2 + y2 / 256; let z2 := z1 + z1 / 65536; let z3 := z2 + z2 / 4294967296; z3 % 128 = pcl x 28 ∧ z1 < 4294967296 ∧ z2 < 4294967296) ∧ y0 < 4294967296 ∧ y1 < 2147483648 ∧ y2 < 4294967296 := by
  have hm0 : mk0 8 = 6148914691236517205 := by decide +kernel
  have hm1 : mk1 8 = 3689348814741910323 := by decide +kernel
  have hm2 : mk2 8 = 1085102592571150095 := by decide +kernel
  have b0 : st0 8 x < 536870912 := by
    unfold st0
    have h1 : x / 2 &&& mk0 8 ≤ x / 2 := Nat.and_le_left
    have h2 : x &&& mk0 8 ≤ x := Nat.and_le_left
    omega
  have b1 : st1 8 (st0 8 x) < 1073741824 := by
    have h1 : st0 8 x / 4 &&& mk1 8 ≤ st0 8 x / 4 := Nat.and_le_left
    have h2 : st0 8 x &&& mk1 8 ≤ st0 8 x := Nat.and_le_left
    unfold st1
    omega
  obtain ⟨o1, o2, o3, o4⟩ := ones_32 x (by omega)
  rw [pcl_28 x h] at o1
  refine ⟨st0 8 x, st1 8 (st0 8 x), st2 8 (st1 8 (st0 8 x)), ?_, ?_, ?_, ⟨o1, o2, o3⟩, by omega, by omega, o4⟩
  · rw [show ((x : Int) / 2) = ((x / 2 : Nat) : Int) by omega, show (6148914691236517205 : Int) = ((mk0 8 : Nat) : Int) by rw [hm0]; rfl, bits_and_u64_nat _ _ (by omega) (by rw [hm0]; decide), bits_and_u64_nat _ _ (by omega) (by rw [hm0]; decide), ← Int.natCast_add]
    exact wrap_u64_nat _ (by show st0 8 x < _; omega)
  · generalize hy : st0 8 x = y at b0 b1
    rw [show ((y : Int) / 4) = ((y / 4 : Nat) : Int) by omega, show (3689348814741910323 : Int) = ((mk1 8 : Nat) : Int) by rw [hm1]; rfl, bits_and_u64_nat _ _ (by omega) (by rw [hm1]; decide), bits_and_u64_nat _ _ (by omega) (by rw [hm1]; decide), ← Int.natCast_add]
    exact wrap_u64_nat _ (by show st1 8 y < _; omega)
  · generalize hy : st1 8 (st0 8 x) = y at b1
    rw [show ((y : Int) / 16 + (y : Int)) = ((y / 16 + y : Nat) : Int) by omega, show (1085102592571150095 : Int) = ((mk2 8 : Nat) : Int) by rw [hm2]; rfl, bits_and_u64_nat _ _ (by omega) (by rw [hm2]; decide)]
    rfl
set_option maxRecDepth 100000 in
set_option maxHeartbeats 1000000 in
theorem ones64 (x : Nat) (h : x < 268435456) (w : World) : Calls Tryz.prog 219 #[.int .u64 x] w fun e w' => e = .returned (.int .i64 (pcl x 28 : Nat)) ∧ w = w' := by
  obtain ⟨y0, y1, y2, e0, e1, e2, ⟨o1, o2, o3⟩, b0, b1, b2⟩ := ones64_key x h
  have hx : (x : Int) < 268435456 := by omega
  have p0 : (y0 : Int) < 4294967296 := by omega
  have p1 : (y1 : Int) < 2147483648 := by omega
  have p2 : (y2 : Int) < 4294967296 := by omega
  obtain ⟨z1, hz1⟩ : ∃ z1, z1 = y2 + y2 / 256 := ⟨_, rfl⟩
  rw [← hz1] at o1 o2 o3
  obtain ⟨z2, hz2⟩ : ∃ z2, z2 = z1 + z1 / 65536 := ⟨_, rfl⟩
  rw [← hz2] at o1 o3
  have f1 : (y2 : Int) + (y2 : Int) / 256 = (z1 : Int) := by omega
  have f2 : (z1 : Int) + (z1 : Int) / 65536 = (z2 : Int) := by omega
  have f3 : (z2 : Int) + (z2 : Int) / 4294967296 = (z2 : Int) := by omega
  have p3 : (z1 : Int) < 4294967296 := by omega
  have p4 : (z2 : Int) < 4294967296 := by omega
  have f4 : bits .and .i64 (z2 : Int) 127 = ((pcl x 28 : Nat) : Int) := by
    rw [show (127 : Int) = ((127 : Nat) : Int) from rfl, and_i64_nat _ _ o3 (by decide), ← o1, show (127 : Nat) = 2 ^ 7 - 1 from rfl, Nat.and_two_pow_sub_one_eq_mod]
    congr 2
    omega
  generalize pcl x 28 = c at f4
  clear o1 o2 o3 b0 b1 b2 hz1 hz2 h
  go_enter Tryz.func219, Tryz.ntmps219
  go_wp2
  go_ret
  exact ⟨by first | rfl | rw [f4], rfl⟩
set_option maxRecDepth 100000 in
theorem ones_at (x : Nat) (h : x < 268435456) (w : World) : Calls Tryz.prog 199 #[.int .u64 x] w fun e w' => e = .returned (.int .i64 (pcl x 28 : Nat)) ∧ w = w' := by
  have HO := Lib.hid (fun w => ones64 x h w)
  generalize pcl x 28 = c at HO
  obtain ⟨X, hX⟩ : ∃ X : Int, X = (x : Int) := ⟨_, rfl⟩
  rw [← hX] at HO
  rw [← hX]
  have h1 : 0 ≤ X := by omega
  have h2 : X < 268435456 := by omega
  clear hX h
  go_enter Tryz.func199, Tryz.ntmps199
  go_wp2_with (go_at_call 219; refine (HO.out _).mono ?_; rintro e w1 ⟨rfl, rfl⟩)
  go_ret
  exact ⟨rfl, rfl⟩
set_option maxHeartbeats 1000000 in
theorem tz64_core (x k idx : Nat) (w : World) (hx0 : ((x : Int) == 0) = false)
    (key : IntKind.u64.wrap (bits BinOp.and IntKind.u64 (x : Int) (IntKind.u64.wrap (-(x : Int))) * 285870213051353865) / 288230376151711744 = (idx : Int))
    (hi : idx < 64) (hk : k < 64) (hcell : w.cell? ⟨7, idx, none⟩ = some (.int .u8 k)) :
    Calls Tryz.prog 221 #[.int .u64 x] w fun e w' => e = .returned (.int .i64 k) ∧ w = w' := by
  go_enter Tryz.func221, Tryz.ntmps221
  go_wp2_with (simp only [key])
  go_ret
  exact ⟨rfl, rfl⟩
theorem tz64 (x : Nat) (h : x < 268435456) (h0 : x ≠ 0) (w : World) (hT : Tab7 w) : Calls Tryz.prog 221 #[.int .u64 x] w fun e w' => e = .returned (.int .i64 (Lib.ctz 64 x : Nat)) ∧ w = w' := by
  obtain ⟨hlow, hk⟩ := Lib.lowest_bit 64 x h0 (by omega)
  obtain ⟨hi, htab⟩ := Lib.deBruijn64_at _ hk
  have hcell := hT.2 _ hi
  rw [htab] at hcell
  exact tz64_core x _ _ w (by simp; omega) (Go.Proofs.tz64_key x _ (by omega) h0 hlow) hi hk hcell
set_option maxRecDepth 100000 in
theorem tz_at (x : Nat) (h : x < 268435456) (h0 : x ≠ 0) (w : World) (hT : Tab7 w) : Calls Tryz.prog 207 #[.int .u64 x] w fun e w' => e = .returned (.int .i64 (Lib.ctz 64 x : Nat)) ∧ w = w' := by
  have HO := Lib.hid (tz64 x h h0 w hT)
  generalize Lib.ctz 64 x = c at HO
  obtain ⟨X, hX⟩ : ∃ X : Int, X = (x : Int) := ⟨_, rfl⟩
  rw [← hX] at HO
  rw [← hX]
  have h1 : 0 ≤ X := by omega
  have h2 : X < 268435456 := by omega
  clear hX h h0 hT
  go_enter Tryz.func207, Tryz.ntmps207
  go_wp2_with (go_at_call 221; refine HO.out.mono ?_; rintro e w1 ⟨rfl, rfl⟩)
  go_ret
  exact ⟨rfl, rfl⟩
end Go.Proofs.YtndopjmdpmkgeaaGreatDoor

namespace Go.Proofs.YtndopjmdpmkgeaaGreatDoor
open Go Go.ChangeShapes Go.WideShapes Go.ChangeAt Go.RowKit
set_option linter.unusedSimpArgs false
set_option linter.unusedVariables false

/-- Two boxes of a call's own: a number and a truth. -/
structure Nt (W w : World) (k : Int) (b : Bool) : Prop where
  ex : Ext W w
  h0 : w.heap[W.heap.size]? = some (.cells #[.int .i64 k] 3 (0, 0))
  h1 : w.heap[W.heap.size + 1]? = some (.cells #[.bool b] 4 (0, 0))
  tb : Tab7 w
theorem Nt.ext {W w w' : World} {k : Int} {b : Bool} (h : Nt W w k b) (x : Ext w w') : Nt W w' k b := by
  have h2 : W.heap.size < w.heap.size := (Array.getElem?_eq_some_iff.1 h.h0).1
  have h3 : W.heap.size + 1 < w.heap.size := (Array.getElem?_eq_some_iff.1 h.h1).1
  exact ⟨h.ex.trans x, (x.block _ h2).trans h.h0, (x.block _ h3).trans h.h1, h.tb.ext x⟩
theorem Nt.cells {W w : World} {k : Int} {b : Bool} (h : Nt W w k b) : w.cell? ⟨W.heap.size, 0, none⟩ = some (.int .i64 k) ∧ w.cell? ⟨W.heap.size + 1, 0, none⟩ = some (.bool b) ∧ w.frozen? ⟨W.heap.size, 0, none⟩ = false := by
  refine ⟨?_, ?_, by simp [World.frozen?, h.h0]⟩
  · simp only [World.cell?, h.h0]; rfl
  · simp only [World.cell?, h.h1]; rfl
theorem Nt.put {W w : World} {k : Int} {b : Bool} (h : Nt W w k b) (hT : Tab7 W) (q : Int) : Nt W (w.setCell ⟨W.heap.size, 0, none⟩ (.int .i64 q)) q b := by
  have hx : Ext W (w.setCell ⟨W.heap.size, 0, none⟩ (.int .i64 q)) := h.ex.setCell (Nat.le_refl _) _
  exact ⟨hx, Go.heap_setCell_same w _ 0 _ _ _ h.h0, (by rw [heap_setCell_other _ _ _ _ (by simp)]; exact h.h1), hT.ext hx⟩
theorem Nt.start (W : World) (k : Int) (b : Bool) (hT : Tab7 W) : Nt W ((W.alloc (.cells #[.int .i64 k] 3)).alloc (.cells #[.bool b] 4)) k b := by
  have hx : Ext W ((W.alloc (.cells #[.int .i64 k] 3)).alloc (.cells #[.bool b] 4)) := ((Ext.refl W).alloc _).alloc _
  have e1 : (W.alloc (.cells #[.int .i64 k] 3)).heap.size = W.heap.size + 1 := by simp
  refine ⟨hx, ?_, ?_, hT.ext hx⟩
  · have := (Ext.refl (W.alloc (.cells #[.int .i64 k] 3))).alloc (.cells #[.bool b] 4)
    rw [this.block W.heap.size (by rw [e1]; omega)]
    exact heap_alloc_new W _
  · have := heap_alloc_new (W.alloc (.cells #[.int .i64 k] 3)) (.cells #[.bool b] 4)
    rw [e1] at this
    exact this
set_option maxRecDepth 100000 in
set_option maxHeartbeats 1000000 in
theorem ask7 (W w : World) (K : Nat) (b : Bool) (i : Nat) (hi : i < 56) (hK : K < 20000) (h : Nt W w K b) :
    Calls Tryz.prog 206 #[.int .i64 i, .pointer (some ⟨W.heap.size + 1, 0, none⟩), .pointer (some ⟨W.heap.size, 0, none⟩)] w fun e w' => e = .returned (.bool (decide (K < rankM b (196 * (i + 1))))) ∧ Ext w w' := by
  have HA := Lib.hid (fun w hT => ahead_at b (i + 1) (by omega) w hT)
  have hr := rankM_le b (196 * (i + 1))
  obtain ⟨c0, c1, _⟩ := h.cells
  have HH := Lib.hid h
  have hh : (((i + 1 : Nat)) : Int) = (i : Int) + 1 := by omega
  rw [hh] at HA
  generalize rankM b (196 * (i + 1)) = r at HA hr ⊢
  have hr2 : (r : Int) ≤ 20000 := by omega
  have hK2 : (K : Int) < 20000 := by omega
  have hi2 : (i : Int) < 56 := by omega
  clear h hh hr
  go_enter Tryz.func206, Tryz.ntmps206
  go_wp2
  go_quiet (first | (go_at_call 198; refine (HA.out _ (HH.out.tb.ext (by first | exact Ext.refl _ | exact (Ext.refl _).drewN _))).mono ?_; rintro e w1 ⟨rfl, rfl⟩; exact ⟨rfl, _, rfl⟩))
  go_wp2
  go_ret
  exact ⟨rfl, (Ext.refl _).drewN _⟩
/-- The group in which the k-th lies. -/
def GrpM (b : Bool) (K g : Nat) : Prop := g ≤ 56 ∧ (∀ i, i < g → ¬ K < rankM b (196 * (i + 1))) ∧ (∀ i, g ≤ i → i < 56 → K < rankM b (196 * (i + 1)))
def GrpS (b : Bool) (K i j : Nat) : Prop := i ≤ j ∧ j ≤ 56 ∧ (∀ q, q < i → ¬ K < rankM b (196 * (q + 1))) ∧ (∀ q, j ≤ q → q < 56 → K < rankM b (196 * (q + 1)))
set_option maxRecDepth 100000 in
set_option maxHeartbeats 1000000 in
theorem search7 (W w : World) (K : Nat) (b : Bool) (hK : K < 20000) (h : Nt W w K b) :
    Calls Tryz.prog 205 #[.int .i64 56, .func (.func 206) #[] #[.pointer (some ⟨W.heap.size + 1, 0, none⟩), .pointer (some ⟨W.heap.size, 0, none⟩)]] w fun e w' => (∃ g : Nat, e = .returned (.int .i64 g) ∧ Hid (GrpM b K g) ∧ g ≤ 56) ∧ Ext w w' := by
  have HH := Lib.hid (fun (i : Nat) (hi : i < 56) w' (x : Ext w w') => ask7 W w' K b i hi hK (h.ext x))
  clear h
  go_enter Tryz.func205, Tryz.ntmps205
  go_wp2
  go_loopw [5, 6] (fun u v wr => ∃ (i j : Nat), u = .int .i64 i ∧ v = .int .i64 j ∧ i ≤ j ∧ j ≤ 56 ∧ Hid (GrpS b K i j) ∧ Ext w wr) (fun u v _ => (intOf v).toNat - (intOf u).toNat)
  case atStart => exact ⟨0, 56, rfl, rfl, by omega, by omega, ⟨by omega, by omega, fun k hk => by omega, fun k h1 h2 => by omega⟩, Ext.refl _⟩
  case round =>
    obtain ⟨i, j, rfl, rfl, hij, hjn, HS, hx⟩ := hrel
    by_cases hlt : i < j
    · obtain ⟨h, hh⟩ : ∃ h, h = (i + j) / 2 := ⟨_, rfl⟩
      have hhi : i ≤ h := by omega
      have hhj : h < j := by omega
      have ecast : ((i : Int) + (j : Int)) / 2 = (h : Int) := by omega
      have HC := HH.out h (by omega) wr hx
      rw [← ecast] at HC
      have hc1 : ((i : Int) + (j : Int)) / 2 + 1 = ((h + 1 : Nat) : Int) := by omega
      have HC1 := Lib.hid hc1
      have HCC := Lib.hid ecast
      have hb1 : 0 ≤ ((i : Int) + (j : Int)) / 2 := by omega
      have hb2 : ((i : Int) + (j : Int)) / 2 ≤ 56 := by omega
      by_cases hs : K < rankM b (196 * (h + 1))
      · have HT : Hid (GrpS b K i h) := by
          obtain ⟨s1, s2, s3, s4⟩ := HS.out
          refine ⟨by omega, by omega, s3, fun q h1 h2 => ?_⟩
          have := rankM_mono b (show 196 * (h + 1) ≤ 196 * (q + 1) by omega)
          omega
        rw [decide_eq_true hs] at HC
        have HCx := Lib.hid HC
        clear HC hh ecast hc1 hs
        go_wp2_with (go_at_call 206; refine HCx.out.mono ?_; rintro e w2 ⟨rfl, hb3⟩)
        go_roundw
        case rel => exact ⟨i, h, rfl, by rw [HCC.out], hhi, by omega, HT, hx.trans hb3⟩
        case measure =>
          have := HCC.out
          simp [intOf]
          omega
      · have HT : Hid (GrpS b K (h + 1) j) := by
          obtain ⟨s1, s2, s3, s4⟩ := HS.out
          refine ⟨by omega, s2, fun q hq => ?_, s4⟩
          have := rankM_mono b (show 196 * (q + 1) ≤ 196 * (h + 1) by omega)
          omega
        rw [decide_eq_false hs] at HC
        have HCx := Lib.hid HC
        clear HC hh ecast hc1 hs
        go_wp2_with (go_at_call 206; refine HCx.out.mono ?_; rintro e w2 ⟨rfl, hb3⟩)
        go_roundw
        case rel => exact ⟨h + 1, j, by rw [HC1.out], rfl, by omega, hjn, HT, hx.trans hb3⟩
        case measure =>
          have := HC1.out
          simp [intOf]
          omega
    · obtain rfl : i = j := by omega
      go_wp2
      go_ret
      exact ⟨⟨i, rfl, ⟨hjn, HS.out.2.2.1, HS.out.2.2.2⟩, hjn⟩, hx⟩
theorem grp_le {b : Bool} {K g : Nat} (h : GrpM b K g) : rankM b (196 * g) ≤ K := by
  obtain ⟨h1, h2, h3⟩ := h
  cases g with
  | zero => exact Nat.zero_le _
  | succ g => have := h2 g (by omega); omega
theorem Nt.drew {W w : World} {k : Int} {b : Bool} (h : Nt W w k b) : Nt W w.drew k b := h.ext (Ext.drew (Ext.refl _))
theorem and_pred (u : Nat) (h : u < 268435456) (h0 : u ≠ 0) : bits .and .u64 (u : Int) ((u : Int) - 1) = ((u &&& (u - 1) : Nat) : Int) := by
  rw [show ((u : Int) - 1) = ((u - 1 : Nat) : Int) by omega]
  exact bits_and_u64_nat _ _ (by omega) (by omega)
set_option maxRecDepth 100000 in
set_option maxHeartbeats 4000000 in
theorem nth_at (N : Nat) (b : Bool) (W : World) (hT : Tab7 W) (hK : N < rankM b 11172) :
    Calls Tryz.prog 180 #[.int .i64 N, .bool b] W fun e w' => e = .returned (.int .i32 (kthZ b N)) ∧ Ext W w' := by
  have hK2 : N < 11173 := by have := rankM_le b 11172; omega
  have HT := Lib.hid hT
  have HKK := Lib.hid hK
  have hK3 : (N : Int) < 11173 := by omega
  have HN0 := Lib.hid (Nt.start W N b hT)
  obtain ⟨r, hr⟩ : ∃ r, kthZ b N = r := ⟨_, rfl⟩
  have HR := Lib.hid hr
  rw [hr]
  clear hT hK hr
  go_enter Tryz.func180, Tryz.ntmps180
  go_wp2_with (go_at_call 205; refine (search7 W _ N b (by omega) HN0.out).mono ?_; rintro e w1 ⟨⟨g, rfl, HG, hg⟩, hb1⟩; have HN1 := Lib.hid (HN0.out.ext hb1); obtain ⟨c0, c1, f0⟩ := HN1.out.cells)
  have HA := Lib.hid (fun w hT => ahead_at b g hg w hT)
  have HLE := Lib.hid (grp_le HG.out)
  obtain ⟨v, hv⟩ : ∃ v, rankM b (196 * g) = v := ⟨_, rfl⟩
  rw [hv] at HA HLE
  have HV := Lib.hid hv
  have hv1 : (v : Int) ≤ (N : Int) := by have := HLE.out; omega
  clear hv
  refine wp_region_still_tail 5 (by kernel_rfl) (by kernel_rfl) ?_
  simp only [List.take_succ_cons, List.take_zero, List.drop_succ_cons, List.drop_zero]
  iterate 3 still_step
  refine wpStill_step (fun K hK => ?_)
  go_simp
  refine ⟨_, (HA.out _ HN1.out.drew.tb).mono (fun e w' h => ⟨h.1, h.2.symm⟩), hK _ ?_⟩
  clear hK K
  still_step
  refine wpStill_nil ?_
  change wpList _ _ _ _ _ w1.drew
  have HN2 := Lib.hid HN1.out.drew
  have HP := Lib.hid (fun (q : Int) => HN2.out.put HT.out q)
  clear c0 c1 f0 hb1
  generalize w1.drew = w2 at HN2 HP ⊢
  obtain ⟨c0, c1, f0⟩ := HN2.out.cells
  clear HN2 HN1
  have hg2 : (g : Int) ≤ 56 := by omega
  have hb1 := (HP.out 0).cells.2.1
  go_wp2_with fail
  have HN3 := Lib.hid (HP.out ((N : Int) - v))
  clear c0 c1 f0
  have hkv : ((N : Int) - v) = ((N - v : Nat) : Int) := by omega
  rw [hkv] at HN3 ⊢
  have HE : Hid (rankM b (28 * (7 * g)) + (N - v) = N) := by
    show _ = _
    rw [show 28 * (7 * g) = 196 * g by omega, HV.out]
    have := HLE.out
    omega
  obtain ⟨k0, hk0⟩ : ∃ k0, k0 = N - v := ⟨_, rfl⟩
  rw [← hk0] at HN3 HE ⊢
  have HN3x := HN3.out
  generalize w2.setCell ⟨W.heap.size, 0, none⟩ (.int .i64 (k0 : Int)) = w3 at HN3x ⊢
  have HWD := Lib.hid (fun w => word_at b (7 * g) (by omega) w)
  have hg7 : (((7 * g : Nat)) : Int) = (g : Int) * 7 := by omega
  rw [hg7] at HWD
  have HSL := selW_lt b (7 * g)
  have hn7 : 7 * g < 399 := by omega
  have HG7 := Lib.hid hg7
  obtain ⟨n0, hn0⟩ : ∃ n0, n0 = 7 * g := ⟨_, rfl⟩
  rw [← hn0] at HE HWD HSL hn7 HG7
  clear HN3 hkv hk0 HP HV HLE hv1 HA HN0 hb1 hn0 hg7
  refine (HWD.out _).mono ?_
  rintro e w4 ⟨rfl, hb4⟩
  have hN4 := HN3x.ext hb4
  clear HN3x hb4
  go_wp2
  go_loopw [6, 7] (fun vn vu wr => ∃ n k : Nat, n < 399 ∧ vn = .int .i64 n ∧ vu = .int .u64 (selW b n) ∧ Nt W wr k b ∧ Hid (rankM b (28 * n) + k = N)) (fun vn _ _ => 399 - (intOf vn).toNat)
  case atStart => exact ⟨n0, k0, hn7, by rw [HG7.out], rfl, hN4, HE⟩
  case round =>
    obtain ⟨n, k, hn, rfl, rfl, hN, HM⟩ := hrel
    clear hN4 HE HSL hn7 HG7 HWD
    have hlt := selW_lt b n
    have HO := Lib.hid (fun w => ones_at (selW b n) hlt w)
    have HRN := Lib.hid (rank_next b n)
    have HX : Hid (selW b n = selW b n) := rfl
    have hk4 : k < 11173 := by have := HM.out; omega
    have hk5 : (k : Int) < 11173 := by omega
    have hn5 : (n : Int) < 399 := by omega
    have hp1 := pcl_le (selW b n) 28
    obtain ⟨x, hx⟩ : ∃ x, x = selW b n := ⟨_, rfl⟩
    rw [← hx] at HO HRN hlt hp1 ⊢
    have HXX := Lib.hid hx
    obtain ⟨p, hp⟩ : ∃ p, p = pcl x 28 := ⟨_, rfl⟩
    rw [← hp] at HO HRN hp1
    have HPP := Lib.hid hp
    have hp2 : (p : Int) ≤ 28 := by omega
    have hlt2 : (x : Int) < 268435456 := by omega
    clear hx hp HX
    obtain ⟨c0, c1, f0⟩ := hN.cells
    by_cases hpk : p ≤ k
    · have hpk2 : (p : Int) ≤ (k : Int) := by omega
      have hn6 : n + 1 < 399 := by
        by_cases e : n + 1 < 399
        · exact e
        · have h1 := HRN.out
          rw [show 28 * (n + 1) = 11172 by omega] at h1
          have := HKK.out
          have := HM.out
          omega
      have HM2 : Hid (rankM b (28 * (n + 1)) + (k - p) = N) := by
        show _ = _
        rw [HRN.out]
        have := HM.out
        omega
      go_wp2_with fail
      go_quiet (first | (go_at_call 199; refine (HO.out _).mono ?_; rintro e w' ⟨rfl, rfl⟩; exact ⟨rfl, _, rfl⟩))
      have hNq := Lib.hid (hN.ext ((Ext.refl wr).drewN nq))
      clear c0 c1 f0 hN
      generalize wr.drewN nq = wq at hNq ⊢
      obtain ⟨c0, c1, f0⟩ := hNq.out.cells
      go_wp2_with fail
      refine wp_region_still_tail 4 (by kernel_rfl) (by kernel_rfl) ?_
      simp only [List.take_succ_cons, List.take_zero, List.drop_succ_cons, List.drop_zero]
      iterate 2 still_step
      refine wpStill_step (fun K hK => ?_)
      go_simp
      refine ⟨_, (HO.out _).mono (fun e w' h => ⟨h.1, h.2.symm⟩), hK _ ?_⟩
      clear hK K
      still_step
      refine wpStill_nil ?_
      change wpList _ _ _ _ _ wq.drew
      have HP := Lib.hid (fun (q : Int) => hNq.out.drew.put HT.out q)
      have hNd := Lib.hid hNq.out.drew
      clear c0 c1 f0 hNq
      generalize wq.drew = w5 at HP hNd ⊢
      obtain ⟨c0, c1, f0⟩ := hNd.out.cells
      have hb1 := (HP.out 0).cells.2.1
      go_wp2_with fail
      have HN5 := Lib.hid (HP.out ((k : Int) - p))
      have hkp : ((k : Int) - p) = ((k - p : Nat) : Int) := by omega
      rw [hkp] at HN5 ⊢
      have HN5x := HN5.out
      clear c0 c1 f0 hb1 HN5 HP hNd
      generalize w5.setCell ⟨W.heap.size, 0, none⟩ (.int .i64 ((k - p : Nat) : Int)) = w6 at HN5x ⊢
      have HWD := Lib.hid (fun w => word_at b (n + 1) hn6 w)
      rw [show (((n + 1 : Nat)) : Int) = (n : Int) + 1 by omega] at HWD
      refine (HWD.out _).mono ?_
      rintro e w7 ⟨rfl, hb7⟩
      have hN7 := HN5x.ext hb7
      clear HN5x hb7
      go_wp2
      go_roundw
      case rel => exact ⟨n + 1, k - p, hn6, by go_num, rfl, hN7, HM2⟩
      case measure => simp [intOf]; omega
    · have hpk2 : ¬ (p : Int) ≤ (k : Int) := by omega
      have hk28 : (k : Int) ≤ 28 := by omega
      go_wp2_with fail
      go_quiet (first | (go_at_call 199; refine (HO.out _).mono ?_; rintro e w' ⟨rfl, rfl⟩; exact ⟨rfl, _, rfl⟩))
      have hNq := Lib.hid (hN.ext ((Ext.refl wr).drewN nq))
      clear c0 c1 f0 hN
      generalize wr.drewN nq = wq at hNq ⊢
      obtain ⟨c0, c1, f0⟩ := hNq.out.cells
      go_wp2_with fail
      go_loop [7, 34] (fun vu vi => ∃ t i : Nat, i ≤ k ∧ vu = .int .u64 (x / 2 ^ t * 2 ^ t : Nat) ∧ vi = .int .i64 i ∧ Hid (pcl x t = i)) (fun _ vi => k - (intOf vi).toNat)
      case atStart => exact ⟨0, 0, by omega, by rw [Nat.pow_zero, Nat.div_one, Nat.mul_one], rfl, rfl⟩
      case round =>
        obtain ⟨t, i, hik, rfl, rfl, HT2⟩ := hrel
        have hul : x / 2 ^ t * 2 ^ t < 268435456 := Nat.lt_of_le_of_lt (Nat.div_mul_le_self x _) hlt
        obtain ⟨s, h1, h2, h3, h4, h5, h6, h7⟩ := low_next x t hlt (by have := HT2.out; have := HPP.out; omega)
        by_cases hi : i < k
        · have hi2 : (i : Int) < (k : Int) := by omega
          have ha := and_pred _ hul h5
          rw [h6] at ha
          have HN : Hid (pcl x (s + 1) = i + 1) := by
            show _ = _
            rw [pcl, h3, h4, HT2.out]
          clear h1 h2 h3 h4 h6 h7 HT2
          generalize x / 2 ^ t * 2 ^ t = u at hul h5 ha
          have hu0 : 1 ≤ (u : Int) := by omega
          have hu1 : (u : Int) < 268435456 := by omega
          clear hul h5
          obtain ⟨y, hy⟩ : ∃ y, y = x / 2 ^ (s + 1) * 2 ^ (s + 1) := ⟨_, rfl⟩
          rw [← hy] at ha
          have HY := Lib.hid hy
          clear hy
          go_wp2
          go_round
          case rel => exact ⟨s + 1, i + 1, by omega, by rw [HY.out], by go_num, HN⟩
          case measure => simp [intOf]; omega
        · obtain rfl : i = k := by omega
          have HTZ := Lib.hid (fun w hT => tz_at _ hul h5 w hT)
          rw [h7] at HTZ
          have HF : Hid (r = 44032 + (n : Int) * 28 + (s : Int)) := by
            show _ = _
            rw [← HR.out]
            have h8 : selW b n / 2 ^ s % 2 = 1 := by rw [← HXX.out]; exact h3
            have h9 := kth_bit b n s hn h2 h8
            rw [← HXX.out, h4, HT2.out, HM.out] at h9
            rw [kthZ_some h9]
            omega
          generalize x / 2 ^ t * 2 ^ t = u at hul HTZ
          have hs2 : (s : Int) < 28 := by omega
          have hu1 : (u : Int) < 268435456 := by omega
          clear h1 h2 h3 h4 h5 h6 h7 hul HT2
          go_wp2_with (go_at_call 207; refine (HTZ.out _ hNq.out.tb).mono ?_; rintro e w8 ⟨rfl, rfl⟩)
          go_ret
          exact ⟨by rw [HF.out]; rfl, hNq.out.ex⟩
end Go.Proofs.YtndopjmdpmkgeaaGreatDoor

namespace Go.Proofs.YtndopjmdpmkgeaaGreatDoor
open Go Go.ChangeShapes Go.WideShapes Go.ChangeAt Go.RowKit
set_option linter.unusedSimpArgs false
set_option linter.unusedVariables false

theorem ones_x (x : Nat) (h : x < 268435456) (w : World) : Calls Tryz.prog 199 #[.int .u64 x] w fun e w' => e = .returned (.int .i64 (pcl x 28 : Nat)) ∧ Ext w w' :=
  (ones_at x h w).mono fun e w' h => ⟨h.1, by rw [← h.2]; exact Ext.refl _⟩
theorem low_bits (y t : Nat) (hy : y < 268435456) (ht : t < 28) : bits .and .u64 (y : Int) (IntKind.u64.wrap (IntKind.u64.wrap (2 ^ t) - 1)) = ((y % 2 ^ t : Nat) : Int) := by
  have h1 : 2 ^ t ≤ 2 ^ 27 := Nat.pow_le_pow_right (by decide) (by omega)
  have h2 := Nat.two_pow_pos t
  have e1 : (2 : Int) ^ t = ((2 ^ t : Nat) : Int) := by simp
  rw [e1, ← Nat.and_two_pow_sub_one_eq_mod]
  generalize 2 ^ t = p at h1 h2
  rw [wrap_u64_nat p (by omega), show ((p : Int) - 1) = ((p - 1 : Nat) : Int) by omega, wrap_u64_nat _ (by omega), bits_and_u64_nat _ _ (by omega) (by omega)]
set_option maxRecDepth 100000 in
set_option maxHeartbeats 4000000 in
theorem rank_at (n : Nat) (W : World) (hT : Tab7 W) (hn : n < 11172) :
    Calls Tryz.prog 167 #[.int .i64 n] W fun e w' => e = .returned (.tuple #[.int .i64 (rankM (inM n) n : Nat), .bool (inM n)]) ∧ Ext W w' := by
  obtain ⟨q, t, hq, ht, hnn⟩ : ∃ q t : Nat, q < 399 ∧ t < 28 ∧ n = 28 * q + t := ⟨n / 28, n % 28, by omega, by omega, by omega⟩
  have HB := Lib.hid (selW_bit true q t ht)
  have HRW := Lib.hid (rank_word (inM n) q t (by omega))
  rw [← hnn] at HB HRW
  have HT := Lib.hid hT
  have HW := Lib.hid (fun (b : Bool) (i : Nat) (h : i < 399) w => word_at b i h w)
  have hl := selW_lt true q
  have h1 : (n : Int) / 28 = (q : Int) := by omega
  have h2 : (n : Int) % 28 = (t : Int) := by omega
  have h3 : (q : Int) < 399 := by omega
  have h4 : (t : Int) < 28 := by omega
  have h5 : (n : Int) < 11172 := by omega
  have HWT := Lib.hid (fun w => word_at true q hq w)
  obtain ⟨x, hx⟩ : ∃ x, x = selW true q := ⟨_, rfl⟩
  rw [← hx] at HB HWT hl
  obtain ⟨b, hb⟩ : ∃ b, b = inM n := ⟨_, rfl⟩
  rw [← hb] at HB HRW ⊢
  have hl2 : (x : Int) < 268435456 := by omega
  obtain ⟨m, s, hs, hqm⟩ : ∃ m s : Nat, s < 7 ∧ q = 7 * m + s := ⟨q / 7, q % 7, by omega, by omega⟩
  have h6 : (q : Int) / 7 = (m : Int) := by omega
  have h7 : (q : Int) % 7 = (s : Int) := by omega
  have h8 : (s : Int) < 7 := by omega
  have hbit : (bits .and .u64 ((x : Int) / 2 ^ t) 1 == 1) = b := by
    have e1 : ((x : Int) / 2 ^ t) = ((x / 2 ^ t : Nat) : Int) := by simp
    have e2 : x / 2 ^ t ≤ x := Nat.div_le_self _ _
    rw [e1, show (1 : Int) = ((1 : Nat) : Int) from rfl, bits_and_u64_nat _ _ (by omega) (by decide), Nat.and_one_is_mod, HB.out]
    cases b <;> rfl
  have HA := Lib.hid (fun w hT => ahead_at b m (by omega) w hT)
  rw [show 196 * m = 28 * (7 * m) by omega] at HA
  have HQM := Lib.hid hqm
  have hr1 := rankM_le b (28 * (7 * m))
  obtain ⟨f, hf⟩ : ∃ f, f = rankM b n := ⟨_, rfl⟩
  rw [← hf] at HRW ⊢
  clear hb hx hnn hT hqm hf
  go_enter Tryz.func167, Tryz.ntmps167
  go_wp2_with (first
    | (go_at_call 197; refine (HWT.out _).mono ?_; rintro e w1 ⟨rfl, hb1⟩)
    | (go_at_call 198; refine (HA.out _ (HT.out.ext hb1)).mono ?_; rintro e w2 ⟨rfl, rfl⟩))
  simp only [h7]
  go_loopw [7, 8] (fun vk vi wr => ∃ i : Nat, i ≤ q ∧ vk = .int .i64 (rankM b (28 * i) : Nat) ∧ vi = .int .i64 i ∧ Ext W wr) (fun _ vi _ => q - (intOf vi).toNat)
  case atStart => exact ⟨7 * m, by have := HQM.out; omega, rfl, by have := HQM.out; rw [show ((7 * m : Nat) : Int) = (q : Int) - (s : Int) by omega], hb1⟩
  case round =>
    obtain ⟨i, hi, rfl, rfl, hx⟩ := hrel
    have hri := rankM_le b (28 * i)
    by_cases hlt : i < q
    · have hWi := Lib.hid (fun w => HW.out b i (by omega) w)
      have hOi := Lib.hid (fun w => ones_x (selW b i) (selW_lt b i) w)
      have HRN := Lib.hid (rank_next b i)
      have hpi := pcl_le (selW b i) 28
      have hyl := selW_lt b i
      generalize selW b i = y at hWi hOi HRN hpi hyl
      generalize pcl y 28 = p at hOi HRN hpi
      have hlt2 : (i : Int) < (q : Int) := by omega
      have hp2 : (p : Int) ≤ 28 := by omega
      obtain ⟨v, hv⟩ : ∃ v, v = rankM b (28 * i) := ⟨_, rfl⟩
      rw [← hv] at HRN hri ⊢
      have hv2 : (v : Int) ≤ 11172 := by omega
      clear hv hb1 hyl
      go_wp2_with (first
        | (go_at_call 197; refine (hWi.out _).mono ?_; rintro e w3 ⟨rfl, hb3⟩)
        | (go_at_call 199; refine (hOi.out _).mono ?_; rintro e w4 ⟨rfl, hb4⟩))
      go_roundw
      case rel => exact ⟨i + 1, by omega, by rw [HRN.out]; go_num, by go_num, (hx.trans hb3).trans hb4⟩
      case measure => simp [intOf]; omega
    · obtain rfl : i = q := by omega
      have hyl := selW_lt b i
      have hWi := Lib.hid (fun w => HW.out b i (by omega) w)
      have hpb := pcl_below (selW b i) t (by omega)
      have hpi := pcl_le (selW b i) t
      have hym : selW b i % 2 ^ t < 268435456 := Nat.lt_of_le_of_lt (Nat.mod_le _ _) hyl
      rw [pcl_28 _ hym] at hpb
      have hOi := Lib.hid (fun w => ones_x (selW b i % 2 ^ t) hym w)
      rw [hpb, ← low_bits _ t hyl ht] at hOi
      have hC := hx.drew
      clear hx hb1 hpb hyl hym
      have hri2 := rankM_le b (28 * i)
      have HRW2 := HRW
      clear HRW
      generalize rankM b (28 * i) = v at hri2 HRW2
      generalize selW b i = y at hWi hOi HRW2 hpi
      generalize pcl y t = p at hOi HRW2 hpi
      have hp2 : (p : Int) ≤ 28 := by omega
      have hv2 : (v : Int) ≤ 20000 := by omega
      go_wp2_with fail
      refine wp_region_held_drew (S := (fun _ => True)) (by kernel_rfl) ?_ (fun hHeld => ?_)
      · (try dsimp only); try go_keep
      refine' wpAnyH_take (i := 0) (oi := { dst := some 38, op := _, type := _, pos := _, after := _, guard := _ }) (v := _) ?hixa0 (by kernel_rfl) ?hfxa0 ?hrxa0 ?hqxa0 ?hyxa0 ?hsxa0 ?restxa0
      case hixa0 => exact rfl
      case hfxa0 => kernel_rfl
      case hrxa0 => kernel_rfl
      case hqxa0 => exact fun _ _ _ h => h
      case hsxa0 => assumption
      case hyxa0 =>
        refine Or.inl ⟨by kernel_rfl, ?_⟩
        intro w hSw
        try dsimp only at hSw
        go_simp
        try with_reducible rfl
      try simp only [Act.put, List.setIfInBounds_toArray, List.set_cons_zero, List.set_cons_succ]
      refine' wpAnyH_take (i := 1) (oi := { dst := some 39, op := _, type := _, pos := _, after := _, guard := _ }) (v := _) ?hixa1 (by kernel_rfl) ?hfxa1 ?hrxa1 ?hqxa1 ?hyxa1 ?hsxa1 ?restxa1
      case hixa1 => exact rfl
      case hfxa1 => kernel_rfl
      case hrxa1 => kernel_rfl
      case hqxa1 => exact fun _ _ _ h => h
      case hsxa1 => assumption
      case hyxa1 =>
        refine Or.inl ⟨by kernel_rfl, ?_⟩
        intro w hSw
        try dsimp only at hSw
        go_simp
        try with_reducible rfl
      try simp only [Act.put, List.setIfInBounds_toArray, List.set_cons_zero, List.set_cons_succ]
      refine' wpAnyH_take (i := 2) (oi := { dst := some 40, op := _, type := _, pos := _, after := _, guard := _ }) (v := _) ?hixa2 (by kernel_rfl) ?hfxa2 ?hrxa2 ?hqxa2 ?hyxa2 ?hsxa2 ?restxa2
      case hixa2 => exact rfl
      case hfxa2 => kernel_rfl
      case hrxa2 => kernel_rfl
      case hqxa2 => exact fun _ _ _ h => h
      case hsxa2 => assumption
      case hyxa2 =>
        refine Or.inl ⟨by kernel_rfl, ?_⟩
        intro w hSw
        try dsimp only at hSw
        go_simp
        try with_reducible rfl
      try simp only [Act.put, List.setIfInBounds_toArray, List.set_cons_zero, List.set_cons_succ]
      refine' wpAnyH_take (i := 4) (oi := { dst := some 42, op := _, type := _, pos := _, after := _, guard := _ }) (v := _) ?hixa4 (by kernel_rfl) ?hfxa4 ?hrxa4 ?hqxa4 ?hyxa4 ?hsxa4 ?restxa4
      case hixa4 => exact rfl
      case hfxa4 => kernel_rfl
      case hrxa4 => kernel_rfl
      case hqxa4 => exact fun _ _ _ h => h
      case hsxa4 => assumption
      case hyxa4 =>
        refine Or.inl ⟨by kernel_rfl, ?_⟩
        intro w hSw
        try dsimp only at hSw
        go_simp
        try with_reducible rfl
      try simp only [Act.put, List.setIfInBounds_toArray, List.set_cons_zero, List.set_cons_succ]
      refine' wpAnyH_take (i := 5) (oi := { dst := some 43, op := _, type := _, pos := _, after := _, guard := _ }) (v := _) ?hixa5 (by kernel_rfl) ?hfxa5 ?hrxa5 ?hqxa5 ?hyxa5 ?hsxa5 ?restxa5
      case hixa5 => exact rfl
      case hfxa5 => kernel_rfl
      case hrxa5 => kernel_rfl
      case hqxa5 => exact fun _ _ _ h => h
      case hsxa5 => assumption
      case hyxa5 =>
        refine Or.inl ⟨by kernel_rfl, ?_⟩
        intro w hSw
        try dsimp only at hSw
        go_simp
        try with_reducible rfl
      try simp only [Act.put, List.setIfInBounds_toArray, List.set_cons_zero, List.set_cons_succ]
      refine' wpAnyH_take (i := 6) (oi := { dst := some 44, op := _, type := _, pos := _, after := _, guard := _ }) (v := _) ?hixa6 (by kernel_rfl) ?hfxa6 ?hrxa6 ?hqxa6 ?hyxa6 ?hsxa6 ?restxa6
      case hixa6 => exact rfl
      case hfxa6 => kernel_rfl
      case hrxa6 => kernel_rfl
      case hqxa6 => exact fun _ _ _ h => h
      case hsxa6 => assumption
      case hyxa6 =>
        refine Or.inl ⟨by kernel_rfl, ?_⟩
        intro w hSw
        try dsimp only at hSw
        go_simp
        try with_reducible rfl
      try simp only [Act.put, List.setIfInBounds_toArray, List.set_cons_zero, List.set_cons_succ]
      refine' wpAnyH_take (i := 10) (oi := { dst := some 48, op := _, type := _, pos := _, after := _, guard := _ }) (v := _) ?hixa10 (by kernel_rfl) ?hfxa10 ?hrxa10 ?hqxa10 ?hyxa10 ?hsxa10 ?restxa10
      case hixa10 => exact rfl
      case hfxa10 => kernel_rfl
      case hrxa10 => kernel_rfl
      case hqxa10 => exact fun _ _ _ h => h
      case hsxa10 => assumption
      case hyxa10 =>
        refine Or.inl ⟨by kernel_rfl, ?_⟩
        intro w hSw
        try dsimp only at hSw
        go_simp
        try with_reducible rfl
      try simp only [Act.put, List.setIfInBounds_toArray, List.set_cons_zero, List.set_cons_succ]
      refine wpAnyH_ready (rs := [3]) (by kernel_rfl) (by simp) ?_
      refine' AllReadyH.cons (o := _) ?hixa3 (fun K hK => ?hk0xa3) AllReadyH.nil
      case hixa3 => exact rfl
      go_simp
      go_at_call 197
      refine (hWi.out _).mono ?_
      rintro e wx ⟨rfl, hbx⟩
      have hC' := hC.trans hbx
      clear hC hbx
      have hC := hC'
      clear hC'
      try go_wp2_with fail
      refine hK.out _ _ ?hS0xa3 (fun hHeld => ?restxa3)
      case hS0xa3 => (try dsimp only); try go_keep
      clear hK K
      try simp only [Act.put, List.setIfInBounds_toArray, List.set_cons_zero, List.set_cons_succ]
      refine' wpAnyH_take (i := 7) (oi := { dst := some 45, op := _, type := _, pos := _, after := _, guard := _ }) (v := _) ?hixa7 (by kernel_rfl) ?hfxa7 ?hrxa7 ?hqxa7 ?hyxa7 ?hsxa7 ?restxa7
      case hixa7 => exact rfl
      case hfxa7 => kernel_rfl
      case hrxa7 => kernel_rfl
      case hqxa7 => exact fun _ _ _ h => h
      case hsxa7 => assumption
      case hyxa7 =>
        refine Or.inl ⟨by kernel_rfl, ?_⟩
        intro w hSw
        try dsimp only at hSw
        go_simp
        try with_reducible rfl
      try simp only [Act.put, List.setIfInBounds_toArray, List.set_cons_zero, List.set_cons_succ]
      refine wpAnyH_ready (rs := [8]) (by kernel_rfl) (by simp) ?_
      refine' AllReadyH.cons (o := _) ?hixa8 (fun K hK => ?hk0xa8) AllReadyH.nil
      case hixa8 => exact rfl
      go_simp
      go_at_call 199
      refine (hOi.out _).mono ?_
      rintro e wx ⟨rfl, hbx⟩
      have hC' := hC.trans hbx
      clear hC hbx
      have hC := hC'
      clear hC'
      try go_wp2_with fail
      refine hK.out _ _ ?hS0xa8 (fun hHeld => ?restxa8)
      case hS0xa8 => (try dsimp only); try go_keep
      clear hK K
      try simp only [Act.put, List.setIfInBounds_toArray, List.set_cons_zero, List.set_cons_succ]
      refine' wpAnyH_take (i := 9) (oi := { dst := some 47, op := _, type := _, pos := _, after := _, guard := _ }) (v := _) ?hixa9 (by kernel_rfl) ?hfxa9 ?hrxa9 ?hqxa9 ?hyxa9 ?hsxa9 ?restxa9
      case hixa9 => exact rfl
      case hfxa9 => kernel_rfl
      case hrxa9 => kernel_rfl
      case hqxa9 => exact fun _ _ _ h => h
      case hsxa9 => assumption
      case hyxa9 =>
        refine Or.inl ⟨by kernel_rfl, ?_⟩
        intro w hSw
        try dsimp only at hSw
        go_simp
        try with_reducible rfl
      try simp only [Act.put, List.setIfInBounds_toArray, List.set_cons_zero, List.set_cons_succ]
      refine' wpAnyH_take (i := 11) (oi := { dst := some 2, op := _, type := _, pos := _, after := _, guard := _ }) (v := _) ?hixa11 (by kernel_rfl) ?hfxa11 ?hrxa11 ?hqxa11 ?hyxa11 ?hsxa11 ?restxa11
      case hixa11 => exact rfl
      case hfxa11 => kernel_rfl
      case hrxa11 => kernel_rfl
      case hqxa11 => exact fun _ _ _ h => h
      case hsxa11 => assumption
      case hyxa11 =>
        refine Or.inl ⟨by kernel_rfl, ?_⟩
        intro w hSw
        try dsimp only at hSw
        go_simp
        try with_reducible rfl
      try simp only [Act.put, List.setIfInBounds_toArray, List.set_cons_zero, List.set_cons_succ]
      refine' wpAnyH_take (i := 12) (oi := { dst := some 3, op := _, type := _, pos := _, after := _, guard := _ }) (v := _) ?hixa12 (by kernel_rfl) ?hfxa12 ?hrxa12 ?hqxa12 ?hyxa12 ?hsxa12 ?restxa12
      case hixa12 => exact rfl
      case hfxa12 => kernel_rfl
      case hrxa12 => kernel_rfl
      case hqxa12 => exact fun _ _ _ h => h
      case hsxa12 => assumption
      case hyxa12 =>
        refine Or.inl ⟨by kernel_rfl, ?_⟩
        intro w hSw
        try dsimp only at hSw
        go_simp
        try with_reducible rfl
      try simp only [Act.put, List.setIfInBounds_toArray, List.set_cons_zero, List.set_cons_succ]
      refine wpAnyH_done (by kernel_rfl) ?_ _
      go_wp2
      go_ret2
      have hf : IntKind.i64.wrap ((v : Int) + (p : Int)) = (f : Int) := by rw [IntWalk.i64_in _ (by omega), HRW2.out]; omega
      exact ⟨by show Ending.returned (.tuple #[.int .i64 (IntKind.i64.wrap ((v : Int) + (p : Int))), .bool b]) = _; rw [hf], hC⟩

set_option maxRecDepth 100000 in
set_option maxHeartbeats 1000000 in
theorem place_at (k : Int) (w : World) (hT : Tab7 w) :
    Calls Tryz.prog 144 #[.int .i64 k] w fun e w' => e = .returned (.tuple #[.int .i32 (kthZ true k), .bool (decide (0 ≤ k ∧ k < 2350))]) ∧ Ext w w' := by
  by_cases h2 : 0 ≤ k ∧ k < 2350
  · obtain ⟨n, rfl⟩ := Int.eq_ofNat_of_zero_le h2.1
    rw [decide_eq_true h2]
    have HN := Lib.hid (fun w hT => nth_at n true w hT (by rw [rows_many]; omega))
    generalize kthZ true (n : Int) = r at HN
    have HT := Lib.hid hT
    have h3 : (n : Int) < 2350 := h2.2
    clear h2 hT
    go_enter Tryz.func144, Tryz.ntmps144
    go_wp2_with (go_at_call 180; refine (HN.out _ HT.out).mono ?_; rintro e w1 ⟨rfl, hb1⟩)
    go_ret2
    exact ⟨rfl, hb1⟩
  · rw [decide_eq_false h2]
    have hk : kthZ true k = 0 := by
      by_cases h : k < 0
      · exact kthZ_neg h
      · obtain ⟨n, rfl⟩ := Int.eq_ofNat_of_zero_le (show 0 ≤ k by omega)
        exact kthZ_none (kthM_none true n (by rw [rows_many]; omega))
    rw [hk]
    have h3 : k < 0 ∨ (¬ k < 0 ∧ 2350 ≤ k) := by omega
    clear hT h2
    rcases h3 with h3 | ⟨h3, h4⟩
    all_goals
      go_enter Tryz.func144, Tryz.ntmps144
      go_wp2
      go_ret2
      exact ⟨rfl, Ext.refl _⟩
set_option maxRecDepth 100000 in
set_option maxHeartbeats 1000000 in
theorem extra_at (k : Int) (w : World) (hT : Tab7 w) :
    Calls Tryz.prog 142 #[.int .i64 k] w fun e w' => e = .returned (.tuple #[.int .i32 (kthZ false k), .bool (decide (0 ≤ k ∧ k < 8822))]) ∧ Ext w w' := by
  by_cases h2 : 0 ≤ k ∧ k < 8822
  · obtain ⟨n, rfl⟩ := Int.eq_ofNat_of_zero_le h2.1
    rw [decide_eq_true h2]
    have HN := Lib.hid (fun w hT => nth_at n false w hT (by rw [others_many]; omega))
    generalize kthZ false (n : Int) = r at HN
    have HT := Lib.hid hT
    have h3 : (n : Int) < 8822 := h2.2
    clear h2 hT
    go_enter Tryz.func142, Tryz.ntmps142
    go_wp2_with (go_at_call 180; refine (HN.out _ HT.out).mono ?_; rintro e w1 ⟨rfl, hb1⟩)
    go_ret2
    exact ⟨rfl, hb1⟩
  · rw [decide_eq_false h2]
    have hk : kthZ false k = 0 := by
      by_cases h : k < 0
      · exact kthZ_neg h
      · obtain ⟨n, rfl⟩ := Int.eq_ofNat_of_zero_le (show 0 ≤ k by omega)
        exact kthZ_none (kthM_none false n (by rw [others_many]; omega))
    rw [hk]
    have h3 : k < 0 ∨ (¬ k < 0 ∧ 8822 ≤ k) := by omega
    clear hT h2
    rcases h3 with h3 | ⟨h3, h4⟩
    all_goals
      go_enter Tryz.func142, Tryz.ntmps142
      go_wp2
      go_ret2
      exact ⟨rfl, Ext.refl _⟩
set_option maxRecDepth 100000 in
set_option maxHeartbeats 1000000 in
theorem rankof_yes (P : Int) (n : Nat) (w : World) (hT : Tab7 w) (h : n < 11172) (hP : P - 44032 = (n : Int)) :
    Calls Tryz.prog 126 #[.int .i32 P] w fun e w' => e = .returned (.tuple #[.int .i64 (rankM (inM n) n : Nat), .bool (inM n), .bool true]) ∧ Ext w w' := by
  have HR := Lib.hid (fun w hT => rank_at n w hT h)
  have HT := Lib.hid hT
  generalize inM n = b at HR ⊢
  generalize rankM b n = f at HR ⊢
  have h2 : ¬ P < 44032 := by omega
  have h3 : P < 55204 := by omega
  have h4 : ¬ 55204 ≤ P := by omega
  have h5 : (n : Int) < 11172 := by omega
  clear hT h
  go_enter Tryz.func126, Tryz.ntmps126
  go_wp2_with (go_at_call 167; refine (HR.out _ HT.out).mono ?_; rintro e w1 ⟨rfl, hb1⟩)
  refine bodyPost_ret (v := .tuple #[.int .i64 f, .bool b, .bool true]) (by simp [results, Tryz.results126, go_sem]) rfl ?_
  exact ⟨rfl, hb1⟩
set_option maxRecDepth 100000 in
theorem rankof_no (p : Int) (w : World) (h : ¬ (44032 ≤ p ∧ p ≤ 55203)) :
    Calls Tryz.prog 126 #[.int .i32 p] w fun e w' => e = .returned (.tuple #[.int .i64 0, .bool false, .bool false]) ∧ Ext w w' := by
  have h3 : p < 44032 ∨ (¬ p < 44032 ∧ 55204 ≤ p) := by omega
  clear h
  rcases h3 with h3 | ⟨h3, h4⟩
  all_goals
    go_enter Tryz.func126, Tryz.ntmps126
    go_wp2
    refine bodyPost_ret (v := .tuple #[.int .i64 0, .bool false, .bool false]) (by simp [results, Tryz.results126, go_sem]) rfl ?_
    exact ⟨rfl, Ext.refl _⟩
end Go.Proofs.YtndopjmdpmkgeaaGreatDoor

