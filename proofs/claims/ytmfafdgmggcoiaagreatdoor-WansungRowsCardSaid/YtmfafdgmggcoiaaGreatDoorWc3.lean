/-
  Layer 7, the code (3): the k-th syllable that is in the rows, or isn't.
-/
import Derived.Test.YtmfafdgmggcoiaaGreatDoorWc2
import Derived.Test.YtmfafdgmggcoiaaGreatDoorWn3
import Derived.StillTailTactics
namespace Go.Proofs.YtmfafdgmggcoiaaGreatDoor
open Go Go.ChangeShapes Go.WideShapes Go.ChangeAt Go.RowKit
set_option linter.unusedSimpArgs false
set_option linter.unusedVariables false

/-- Two boxes of a call's own: a number and a truth. -/
structure Nt (W w : World) (k : Int) (b : Bool) : Prop where
  ex : Ext W w
  h0 : w.heap[W.heap.size]? = some (.cells #[.int .i64 k] 3 (0, 0))
  h1 : w.heap[W.heap.size + 1]? = some (.cells #[.bool b] 4 (0, 0))
  tb : Tab7 w
theorem Nt.ext {W w w' : World} {k : Int} {b : Bool} (h : Nt W w k b) (x : Ext w w') : Nt W w' k b := by
  have h2 : W.heap.size < w.heap.size := (Array.getElem?_eq_some_iff.1 h.h0).1
  have h3 : W.heap.size + 1 < w.heap.size := (Array.getElem?_eq_some_iff.1 h.h1).1
  exact ⟨h.ex.trans x, (x.block _ h2).trans h.h0, (x.block _ h3).trans h.h1, h.tb.ext x⟩
theorem Nt.cells {W w : World} {k : Int} {b : Bool} (h : Nt W w k b) : w.cell? ⟨W.heap.size, 0, none⟩ = some (.int .i64 k) ∧ w.cell? ⟨W.heap.size + 1, 0, none⟩ = some (.bool b) ∧ w.frozen? ⟨W.heap.size, 0, none⟩ = false := by
  refine ⟨?_, ?_, by simp [World.frozen?, h.h0]⟩
  · simp only [World.cell?, h.h0]; rfl
  · simp only [World.cell?, h.h1]; rfl
theorem Nt.put {W w : World} {k : Int} {b : Bool} (h : Nt W w k b) (hT : Tab7 W) (q : Int) : Nt W (w.setCell ⟨W.heap.size, 0, none⟩ (.int .i64 q)) q b := by
  have hx : Ext W (w.setCell ⟨W.heap.size, 0, none⟩ (.int .i64 q)) := h.ex.setCell (Nat.le_refl _) _
  exact ⟨hx, Go.heap_setCell_same w _ 0 _ _ _ h.h0, (by rw [heap_setCell_other _ _ _ _ (by simp)]; exact h.h1), hT.ext hx⟩
theorem Nt.start (W : World) (k : Int) (b : Bool) (hT : Tab7 W) : Nt W ((W.alloc (.cells #[.int .i64 k] 3)).alloc (.cells #[.bool b] 4)) k b := by
  have hx : Ext W ((W.alloc (.cells #[.int .i64 k] 3)).alloc (.cells #[.bool b] 4)) := ((Ext.refl W).alloc _).alloc _
  have e1 : (W.alloc (.cells #[.int .i64 k] 3)).heap.size = W.heap.size + 1 := by simp
  refine ⟨hx, ?_, ?_, hT.ext hx⟩
  · have := (Ext.refl (W.alloc (.cells #[.int .i64 k] 3))).alloc (.cells #[.bool b] 4)
    rw [this.block W.heap.size (by rw [e1]; omega)]
    exact heap_alloc_new W _
  · have := heap_alloc_new (W.alloc (.cells #[.int .i64 k] 3)) (.cells #[.bool b] 4)
    rw [e1] at this
    exact this
set_option maxRecDepth 100000 in
set_option maxHeartbeats 1000000 in
theorem ask7 (W w : World) (K : Nat) (b : Bool) (i : Nat) (hi : i < 56) (hK : K < 20000) (h : Nt W w K b) :
    Calls Tryz.prog 85 #[.int .i64 i, .pointer (some ⟨W.heap.size + 1, 0, none⟩), .pointer (some ⟨W.heap.size, 0, none⟩)] w fun e w' => e = .returned (.bool (decide (K < rankM b (196 * (i + 1))))) ∧ Ext w w' := by
  have HA := Lib.hid (fun w hT => ahead_at b (i + 1) (by omega) w hT)
  have hr := rankM_le b (196 * (i + 1))
  obtain ⟨c0, c1, _⟩ := h.cells
  have HH := Lib.hid h
  have hh : (((i + 1 : Nat)) : Int) = (i : Int) + 1 := by omega
  rw [hh] at HA
  generalize rankM b (196 * (i + 1)) = r at HA hr ⊢
  have hr2 : (r : Int) ≤ 20000 := by omega
  have hK2 : (K : Int) < 20000 := by omega
  have hi2 : (i : Int) < 56 := by omega
  clear h hh hr
  go_enter Tryz.func85, Tryz.ntmps85
  go_wp2
  go_quiet (first | (go_at_call 86; refine (HA.out _ (HH.out.tb.ext (by first | exact Ext.refl _ | exact (Ext.refl _).drewN _))).mono ?_; rintro e w1 ⟨rfl, rfl⟩; exact ⟨rfl, _, rfl⟩))
  go_wp2
  go_ret
  exact ⟨rfl, (Ext.refl _).drewN _⟩
/-- The group in which the k-th lies. -/
def GrpM (b : Bool) (K g : Nat) : Prop := g ≤ 56 ∧ (∀ i, i < g → ¬ K < rankM b (196 * (i + 1))) ∧ (∀ i, g ≤ i → i < 56 → K < rankM b (196 * (i + 1)))
def GrpS (b : Bool) (K i j : Nat) : Prop := i ≤ j ∧ j ≤ 56 ∧ (∀ q, q < i → ¬ K < rankM b (196 * (q + 1))) ∧ (∀ q, j ≤ q → q < 56 → K < rankM b (196 * (q + 1)))
set_option maxRecDepth 100000 in
set_option maxHeartbeats 1000000 in
theorem search7 (W w : World) (K : Nat) (b : Bool) (hK : K < 20000) (h : Nt W w K b) :
    Calls Tryz.prog 84 #[.int .i64 56, .func (.func 85) #[] #[.pointer (some ⟨W.heap.size + 1, 0, none⟩), .pointer (some ⟨W.heap.size, 0, none⟩)]] w fun e w' => (∃ g : Nat, e = .returned (.int .i64 g) ∧ Hid (GrpM b K g) ∧ g ≤ 56) ∧ Ext w w' := by
  have HH := Lib.hid (fun (i : Nat) (hi : i < 56) w' (x : Ext w w') => ask7 W w' K b i hi hK (h.ext x))
  clear h
  go_enter Tryz.func84, Tryz.ntmps84
  go_wp2
  go_loopw [5, 6] (fun u v wr => ∃ (i j : Nat), u = .int .i64 i ∧ v = .int .i64 j ∧ i ≤ j ∧ j ≤ 56 ∧ Hid (GrpS b K i j) ∧ Ext w wr) (fun u v _ => (intOf v).toNat - (intOf u).toNat)
  case atStart => exact ⟨0, 56, rfl, rfl, by omega, by omega, ⟨by omega, by omega, fun k hk => by omega, fun k h1 h2 => by omega⟩, Ext.refl _⟩
  case round =>
    obtain ⟨i, j, rfl, rfl, hij, hjn, HS, hx⟩ := hrel
    by_cases hlt : i < j
    · obtain ⟨h, hh⟩ : ∃ h, h = (i + j) / 2 := ⟨_, rfl⟩
      have hhi : i ≤ h := by omega
      have hhj : h < j := by omega
      have ecast : ((i : Int) + (j : Int)) / 2 = (h : Int) := by omega
      have HC := HH.out h (by omega) wr hx
      rw [← ecast] at HC
      have hc1 : ((i : Int) + (j : Int)) / 2 + 1 = ((h + 1 : Nat) : Int) := by omega
      have HC1 := Lib.hid hc1
      have HCC := Lib.hid ecast
      have hb1 : 0 ≤ ((i : Int) + (j : Int)) / 2 := by omega
      have hb2 : ((i : Int) + (j : Int)) / 2 ≤ 56 := by omega
      by_cases hs : K < rankM b (196 * (h + 1))
      · have HT : Hid (GrpS b K i h) := by
          obtain ⟨s1, s2, s3, s4⟩ := HS.out
          refine ⟨by omega, by omega, s3, fun q h1 h2 => ?_⟩
          have := rankM_mono b (show 196 * (h + 1) ≤ 196 * (q + 1) by omega)
          omega
        rw [decide_eq_true hs] at HC
        have HCx := Lib.hid HC
        clear HC hh ecast hc1 hs
        go_wp2_with (go_at_call 85; refine HCx.out.mono ?_; rintro e w2 ⟨rfl, hb3⟩)
        go_roundw
        case rel => exact ⟨i, h, rfl, by rw [HCC.out], hhi, by omega, HT, hx.trans hb3⟩
        case measure =>
          have := HCC.out
          simp [intOf]
          omega
      · have HT : Hid (GrpS b K (h + 1) j) := by
          obtain ⟨s1, s2, s3, s4⟩ := HS.out
          refine ⟨by omega, s2, fun q hq => ?_, s4⟩
          have := rankM_mono b (show 196 * (q + 1) ≤ 196 * (h + 1) by omega)
          omega
        rw [decide_eq_false hs] at HC
        have HCx := Lib.hid HC
        clear HC hh ecast hc1 hs
        go_wp2_with (go_at_call 85; refine HCx.out.mono ?_; rintro e w2 ⟨rfl, hb3⟩)
        go_roundw
        case rel => exact ⟨h + 1, j, by rw [HC1.out], rfl, by omega, hjn, HT, hx.trans hb3⟩
        case measure =>
          have := HC1.out
          simp [intOf]
          omega
    · obtain rfl : i = j := by omega
      go_wp2
      go_ret
      exact ⟨⟨i, rfl, ⟨hjn, HS.out.2.2.1, HS.out.2.2.2⟩, hjn⟩, hx⟩
theorem grp_le {b : Bool} {K g : Nat} (h : GrpM b K g) : rankM b (196 * g) ≤ K := by
  obtain ⟨h1, h2, h3⟩ := h
  cases g with
  | zero => exact Nat.zero_le _
  | succ g => have := h2 g (by omega); omega
theorem Nt.drew {W w : World} {k : Int} {b : Bool} (h : Nt W w k b) : Nt W w.drew k b := h.ext (Ext.drew (Ext.refl _))
theorem and_pred (u : Nat) (h : u < 268435456) (h0 : u ≠ 0) : bits .and .u64 (u : Int) ((u : Int) - 1) = ((u &&& (u - 1) : Nat) : Int) := by
  rw [show ((u : Int) - 1) = ((u - 1 : Nat) : Int) by omega]
  exact bits_and_u64_nat _ _ (by omega) (by omega)
set_option maxRecDepth 100000 in
set_option maxHeartbeats 4000000 in
theorem nth_at (N : Nat) (b : Bool) (W : World) (hT : Tab7 W) (hK : N < rankM b 11172) :
    Calls Tryz.prog 69 #[.int .i64 N, .bool b] W fun e w' => e = .returned (.int .i32 (kthZ b N)) ∧ Ext W w' := by
  have hK2 : N < 11173 := by have := rankM_le b 11172; omega
  have HT := Lib.hid hT
  have HKK := Lib.hid hK
  have hK3 : (N : Int) < 11173 := by omega
  have HN0 := Lib.hid (Nt.start W N b hT)
  obtain ⟨r, hr⟩ : ∃ r, kthZ b N = r := ⟨_, rfl⟩
  have HR := Lib.hid hr
  rw [hr]
  clear hT hK hr
  go_enter Tryz.func69, Tryz.ntmps69
  go_wp2_with (go_at_call 84; refine (search7 W _ N b (by omega) HN0.out).mono ?_; rintro e w1 ⟨⟨g, rfl, HG, hg⟩, hb1⟩; have HN1 := Lib.hid (HN0.out.ext hb1); obtain ⟨c0, c1, f0⟩ := HN1.out.cells)
  have HA := Lib.hid (fun w hT => ahead_at b g hg w hT)
  have HLE := Lib.hid (grp_le HG.out)
  obtain ⟨v, hv⟩ : ∃ v, rankM b (196 * g) = v := ⟨_, rfl⟩
  rw [hv] at HA HLE
  have HV := Lib.hid hv
  have hv1 : (v : Int) ≤ (N : Int) := by have := HLE.out; omega
  clear hv
  refine wp_region_still_tail 5 (by kernel_rfl) (by kernel_rfl) ?_
  simp only [List.take_succ_cons, List.take_zero, List.drop_succ_cons, List.drop_zero]
  iterate 3 still_step
  refine wpStill_step (fun K hK => ?_)
  go_simp
  refine ⟨_, (HA.out _ HN1.out.drew.tb).mono (fun e w' h => ⟨h.1, h.2.symm⟩), hK _ ?_⟩
  clear hK K
  still_step
  refine wpStill_nil ?_
  change wpList _ _ _ _ _ w1.drew
  have HN2 := Lib.hid HN1.out.drew
  have HP := Lib.hid (fun (q : Int) => HN2.out.put HT.out q)
  clear c0 c1 f0 hb1
  generalize w1.drew = w2 at HN2 HP ⊢
  obtain ⟨c0, c1, f0⟩ := HN2.out.cells
  clear HN2 HN1
  have hg2 : (g : Int) ≤ 56 := by omega
  have hb1 := (HP.out 0).cells.2.1
  go_wp2_with fail
  have HN3 := Lib.hid (HP.out ((N : Int) - v))
  clear c0 c1 f0
  have hkv : ((N : Int) - v) = ((N - v : Nat) : Int) := by omega
  rw [hkv] at HN3 ⊢
  have HE : Hid (rankM b (28 * (7 * g)) + (N - v) = N) := by
    show _ = _
    rw [show 28 * (7 * g) = 196 * g by omega, HV.out]
    have := HLE.out
    omega
  obtain ⟨k0, hk0⟩ : ∃ k0, k0 = N - v := ⟨_, rfl⟩
  rw [← hk0] at HN3 HE ⊢
  have HN3x := HN3.out
  generalize w2.setCell ⟨W.heap.size, 0, none⟩ (.int .i64 (k0 : Int)) = w3 at HN3x ⊢
  have HWD := Lib.hid (fun w => word_at b (7 * g) (by omega) w)
  have hg7 : (((7 * g : Nat)) : Int) = (g : Int) * 7 := by omega
  rw [hg7] at HWD
  have HSL := selW_lt b (7 * g)
  have hn7 : 7 * g < 399 := by omega
  have HG7 := Lib.hid hg7
  obtain ⟨n0, hn0⟩ : ∃ n0, n0 = 7 * g := ⟨_, rfl⟩
  rw [← hn0] at HE HWD HSL hn7 HG7
  clear HN3 hkv hk0 HP HV HLE hv1 HA HN0 hb1 hn0 hg7
  refine (HWD.out _).mono ?_
  rintro e w4 ⟨rfl, hb4⟩
  have hN4 := HN3x.ext hb4
  clear HN3x hb4
  go_wp2
  go_loopw [6, 7] (fun vn vu wr => ∃ n k : Nat, n < 399 ∧ vn = .int .i64 n ∧ vu = .int .u64 (selW b n) ∧ Nt W wr k b ∧ Hid (rankM b (28 * n) + k = N)) (fun vn _ _ => 399 - (intOf vn).toNat)
  case atStart => exact ⟨n0, k0, hn7, by rw [HG7.out], rfl, hN4, HE⟩
  case round =>
    obtain ⟨n, k, hn, rfl, rfl, hN, HM⟩ := hrel
    clear hN4 HE HSL hn7 HG7 HWD
    have hlt := selW_lt b n
    have HO := Lib.hid (fun w => ones_at (selW b n) hlt w)
    have HRN := Lib.hid (rank_next b n)
    have HX : Hid (selW b n = selW b n) := rfl
    have hk4 : k < 11173 := by have := HM.out; omega
    have hk5 : (k : Int) < 11173 := by omega
    have hn5 : (n : Int) < 399 := by omega
    have hp1 := pcl_le (selW b n) 28
    obtain ⟨x, hx⟩ : ∃ x, x = selW b n := ⟨_, rfl⟩
    rw [← hx] at HO HRN hlt hp1 ⊢
    have HXX := Lib.hid hx
    obtain ⟨p, hp⟩ : ∃ p, p = pcl x 28 := ⟨_, rfl⟩
    rw [← hp] at HO HRN hp1
    have HPP := Lib.hid hp
    have hp2 : (p : Int) ≤ 28 := by omega
    have hlt2 : (x : Int) < 268435456 := by omega
    clear hx hp HX
    obtain ⟨c0, c1, f0⟩ := hN.cells
    by_cases hpk : p ≤ k
    · have hpk2 : (p : Int) ≤ (k : Int) := by omega
      have hn6 : n + 1 < 399 := by
        by_cases e : n + 1 < 399
        · exact e
        · have h1 := HRN.out
          rw [show 28 * (n + 1) = 11172 by omega] at h1
          have := HKK.out
          have := HM.out
          omega
      have HM2 : Hid (rankM b (28 * (n + 1)) + (k - p) = N) := by
        show _ = _
        rw [HRN.out]
        have := HM.out
        omega
      go_wp2_with fail
      go_quiet (first | (go_at_call 88; refine (HO.out _).mono ?_; rintro e w' ⟨rfl, rfl⟩; exact ⟨rfl, _, rfl⟩))
      have hNq := Lib.hid (hN.ext ((Ext.refl wr).drewN nq))
      clear c0 c1 f0 hN
      generalize wr.drewN nq = wq at hNq ⊢
      obtain ⟨c0, c1, f0⟩ := hNq.out.cells
      go_wp2_with fail
      refine wp_region_still_tail 4 (by kernel_rfl) (by kernel_rfl) ?_
      simp only [List.take_succ_cons, List.take_zero, List.drop_succ_cons, List.drop_zero]
      iterate 2 still_step
      refine wpStill_step (fun K hK => ?_)
      go_simp
      refine ⟨_, (HO.out _).mono (fun e w' h => ⟨h.1, h.2.symm⟩), hK _ ?_⟩
      clear hK K
      still_step
      refine wpStill_nil ?_
      change wpList _ _ _ _ _ wq.drew
      have HP := Lib.hid (fun (q : Int) => hNq.out.drew.put HT.out q)
      have hNd := Lib.hid hNq.out.drew
      clear c0 c1 f0 hNq
      generalize wq.drew = w5 at HP hNd ⊢
      obtain ⟨c0, c1, f0⟩ := hNd.out.cells
      have hb1 := (HP.out 0).cells.2.1
      go_wp2_with fail
      have HN5 := Lib.hid (HP.out ((k : Int) - p))
      have hkp : ((k : Int) - p) = ((k - p : Nat) : Int) := by omega
      rw [hkp] at HN5 ⊢
      have HN5x := HN5.out
      clear c0 c1 f0 hb1 HN5 HP hNd
      generalize w5.setCell ⟨W.heap.size, 0, none⟩ (.int .i64 ((k - p : Nat) : Int)) = w6 at HN5x ⊢
      have HWD := Lib.hid (fun w => word_at b (n + 1) hn6 w)
      rw [show (((n + 1 : Nat)) : Int) = (n : Int) + 1 by omega] at HWD
      refine (HWD.out _).mono ?_
      rintro e w7 ⟨rfl, hb7⟩
      have hN7 := HN5x.ext hb7
      clear HN5x hb7
      go_wp2
      go_roundw
      case rel => exact ⟨n + 1, k - p, hn6, by go_num, rfl, hN7, HM2⟩
      case measure => simp [intOf]; omega
    · have hpk2 : ¬ (p : Int) ≤ (k : Int) := by omega
      have hk28 : (k : Int) ≤ 28 := by omega
      go_wp2_with fail
      go_quiet (first | (go_at_call 88; refine (HO.out _).mono ?_; rintro e w' ⟨rfl, rfl⟩; exact ⟨rfl, _, rfl⟩))
      have hNq := Lib.hid (hN.ext ((Ext.refl wr).drewN nq))
      clear c0 c1 f0 hN
      generalize wr.drewN nq = wq at hNq ⊢
      obtain ⟨c0, c1, f0⟩ := hNq.out.cells
      go_wp2_with fail
      go_loop [7, 34] (fun vu vi => ∃ t i : Nat, i ≤ k ∧ vu = .int .u64 (x / 2 ^ t * 2 ^ t : Nat) ∧ vi = .int .i64 i ∧ Hid (pcl x t = i)) (fun _ vi => k - (intOf vi).toNat)
      case atStart => exact ⟨0, 0, by omega, by rw [Nat.pow_zero, Nat.div_one, Nat.mul_one], rfl, rfl⟩
      case round =>
        obtain ⟨t, i, hik, rfl, rfl, HT2⟩ := hrel
        have hul : x / 2 ^ t * 2 ^ t < 268435456 := Nat.lt_of_le_of_lt (Nat.div_mul_le_self x _) hlt
        obtain ⟨s, h1, h2, h3, h4, h5, h6, h7⟩ := low_next x t hlt (by have := HT2.out; have := HPP.out; omega)
        by_cases hi : i < k
        · have hi2 : (i : Int) < (k : Int) := by omega
          have ha := and_pred _ hul h5
          rw [h6] at ha
          have HN : Hid (pcl x (s + 1) = i + 1) := by
            show _ = _
            rw [pcl, h3, h4, HT2.out]
          clear h1 h2 h3 h4 h6 h7 HT2
          generalize x / 2 ^ t * 2 ^ t = u at hul h5 ha
          have hu0 : 1 ≤ (u : Int) := by omega
          have hu1 : (u : Int) < 268435456 := by omega
          clear hul h5
          obtain ⟨y, hy⟩ : ∃ y, y = x / 2 ^ (s + 1) * 2 ^ (s + 1) := ⟨_, rfl⟩
          rw [← hy] at ha
          have HY := Lib.hid hy
          clear hy
          go_wp2
          go_round
          case rel => exact ⟨s + 1, i + 1, by omega, by rw [HY.out], by go_num, HN⟩
          case measure => simp [intOf]; omega
        · obtain rfl : i = k := by omega
          have HTZ := Lib.hid (fun w hT => tz_at _ hul h5 w hT)
          rw [h7] at HTZ
          have HF : Hid (r = 44032 + (n : Int) * 28 + (s : Int)) := by
            show _ = _
            rw [← HR.out]
            have h8 : selW b n / 2 ^ s % 2 = 1 := by rw [← HXX.out]; exact h3
            have h9 := kth_bit b n s hn h2 h8
            rw [← HXX.out, h4, HT2.out, HM.out] at h9
            rw [kthZ_some h9]
            omega
          generalize x / 2 ^ t * 2 ^ t = u at hul HTZ
          have hs2 : (s : Int) < 28 := by omega
          have hu1 : (u : Int) < 268435456 := by omega
          clear h1 h2 h3 h4 h5 h6 h7 hul HT2
          go_wp2_with (go_at_call 89; refine (HTZ.out _ hNq.out.tb).mono ?_; rintro e w8 ⟨rfl, rfl⟩)
          go_ret
          exact ⟨by rw [HF.out]; rfl, hNq.out.ex⟩
end Go.Proofs.YtmfafdgmggcoiaaGreatDoor
