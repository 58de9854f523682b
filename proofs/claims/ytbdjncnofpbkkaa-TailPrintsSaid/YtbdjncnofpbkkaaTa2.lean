/-
  Layer 12, the document (2): Check.
-/
import Derived.Test.YtbdjncnofpbkkaaTa1
import Derived.BigRegion
import Derived.Deep.RegionHeld3
namespace Go.Proofs.Ytbdjncnofpbkkaa
open Go Go.ChangeShapes Go.WideShapes Go.ChangeAt Go.RowKit
set_option linter.unusedSimpArgs false
set_option linter.unusedVariables false

theorem check_step (T : TailZ) (z : Int) (h0 : 0 ≤ z) (h5 : z < 5) : checkFrom T (5 - z).toNat z = if cutZ (T.tx z) ≠ T.tx z then (5, z) else if widthZ z T.track < (T.tx z).size then (4, z) else checkFrom T (5 - (z + 1)).toNat (z + 1) := by
  obtain ⟨n, hn⟩ : ∃ n, (5 - z).toNat = n + 1 := ⟨(4 - z).toNat, by omega⟩
  rw [hn, show (5 - (z + 1)).toNat = n by omega]
  rfl
theorem tx_cell (T : TailZ) (z : Int) (h0 : 0 ≤ z) (h5 : z < 5) : (refA T)[z.toNat]? = some (.string (T.tx z)) := by
  obtain rfl | rfl | rfl | rfl | rfl : z = 0 ∨ z = 1 ∨ z = 2 ∨ z = 3 ∨ z = 4 := by omega
  all_goals rfl
theorem cell_of2 {w : World} {b : Nat} {A : Array Value} {T : TypeId} (h : w.heap[b]? = some (.cells A T (0, 0))) (j : Nat) : w.cell? ⟨b, j, none⟩ = A[j]? := by
  simp [World.cell?, h]
set_option maxRecDepth 100000 in
set_option maxHeartbeats 2000000 in
theorem rcheck (T : TailZ) (w : World) (hs : ∀ z, (T.tx z).size ≤ 1000000) : Calls Try.prog 23 #[.agg (refA T)] w fun e w' => e = .returned (.tuple #[.int .i64 (checkZ T).1, .int .i64 (checkZ T).2]) ∧ Ext w w' := by
  have HS := Lib.hid (fun z h0 h5 => check_step T z h0 h5)
  have HB := Lib.hid (heap_alloc_new w (.cells (refA T) 36))
  have HX := Lib.hid ((Ext.refl w).alloc (.cells (refA T) 36))
  have HC := Lib.hid (fun z w => rcut (T.tx z) w (hs z))
  have HW := Lib.hid (fun z w => rwidth z T.track w)
  obtain ⟨R, hR⟩ : ∃ R, R = checkZ T := ⟨_, rfl⟩
  have H0 : Hid (checkFrom T (5 - (0 : Int)).toNat 0 = R) := hR.symm
  rw [← hR]
  clear hR
  unfold refA at HB HX ⊢
  go_enter Try.func23, Try.ntmps23
  go_wp2
  obtain ⟨b, hb⟩ : ∃ b, b = w.heap.size := ⟨_, rfl⟩
  obtain ⟨w0, hw0⟩ : ∃ w0, w0 = w.alloc (.cells #[.string T.t0, .string T.t1, .string T.t2, .string T.t3, .string T.t4, .int .i64 T.track, .int .i64 T.genre] 36) := ⟨_, rfl⟩
  rw [← hw0, ← hb] at HB
  rw [← hw0] at HX ⊢
  rw [← hb]
  have hlt : b < w0.heap.size := by rw [hw0, hb]; simp
  clear hw0 hb
  have HX0 : Hid (Ext w w0) := HX
  go_loopw [4] (fun i wr => ∃ z : Int, 0 ≤ z ∧ z ≤ 5 ∧ i = .int .i64 z ∧ Ext w0 wr ∧ Hid (checkFrom T (5 - z).toNat z = R)) (fun i _ => 5 - (intOf i).toNat)
  case atStart => exact ⟨0, by omega, by omega, rfl, Ext.refl _, H0⟩
  case round =>
    obtain ⟨z, hz0, hz5, rfl, hx, HR⟩ := hrel
    clear H0
    by_cases hz : z < 5
    · have hst := HS.out z hz0 hz
      rw [HR.out] at hst
      have HCell : Hid (∀ w', Ext w0 w' → w'.cell? ⟨b, z.toNat, none⟩ = some (.string (T.tx z)) ∧ w'.cell? ⟨b, 5, none⟩ = some (.int .i64 T.track)) := fun w' hx => by
        have hBk := (hx.block b hlt).trans HB.out
        rw [cell_of2 hBk, cell_of2 hBk]
        exact ⟨tx_cell T z hz0 hz, rfl⟩
      have HST := Lib.hid hst
      have HCc := Lib.hid (fun w => HC.out z w)
      have HWw := Lib.hid (fun w => HW.out z w)
      have hnz : ¬ z < 0 := by omega
      have hsx := hs z
      generalize T.tx z = x at HST HCell HCc hsx
      obtain ⟨hcell, hc5⟩ := HCell.out _ hx
      clear hst HS HR HB HC HW
      by_cases hcut : cutZ x = x
      · have HST1 : Hid (R = if widthZ z T.track < (x.size : Int) then (4, z) else checkFrom T (5 - (z + 1)).toNat (z + 1)) := by
          show _ = _
          rw [HST.out, if_neg (fun h => h hcut)]
        rw [hcut] at HCc
        clear HST hcut
        go_wp2
        go_region_with (go_at_call 39; refine (HCc.out _).mono ?_; rintro e w2 ⟨rfl, rfl⟩)
        all_goals
          have hx2 := hx.drew
          obtain ⟨hcell2, hc52⟩ := HCell.out _ hx2
          clear hcell hc5
          generalize wr.drew = wq at hx2 hcell2 hc52 ⊢
          by_cases hwd : widthZ z T.track < (x.size : Int)
          · have HR2 : Hid (R = (4, z)) := by show _ = _; rw [HST1.out, if_pos hwd]
            clear HST1
            go_wp2
            go_region_with (go_at_call 38; refine (HWw.out _).mono ?_; rintro e w3 ⟨rfl, rfl⟩)
            all_goals
              have hx3 := hx2.drew
              generalize wq.drew = wy at hx3 ⊢
              go_wp2
              go_ret2
              exact ⟨by first | (rw [HR2.out]; done) | (rw [HR2.out]; rfl), HX0.out.trans hx3⟩
          · have HR2 : Hid (checkFrom T (5 - (z + 1)).toNat (z + 1) = R) := by show _ = _; rw [HST1.out, if_neg hwd]
            clear HST1
            go_wp2
            go_region_with (go_at_call 38; refine (HWw.out _).mono ?_; rintro e w3 ⟨rfl, rfl⟩)
            all_goals
              have hx3 := hx2.drew
              generalize wq.drew = wy at hx3 ⊢
              go_wp2
              go_roundw
              case rel => exact ⟨z + 1, by omega, by omega, by first | rfl | go_num, hx3, HR2⟩
              case measure => simp [intOf]; omega
      · have HR2 : Hid (R = (5, z)) := by show _ = _; rw [HST.out, if_pos hcut]
        have gq := string_ne _ _ hcut
        clear HST hcut
        generalize cutZ x = y at HCc gq
        go_wp2
        go_region_with (go_at_call 39; refine (HCc.out _).mono ?_; rintro e w2 ⟨rfl, rfl⟩)
        all_goals
          have hx2 := hx.drew
          generalize wr.drew = wq at hx2 ⊢
          go_wp2
          go_ret2
          exact ⟨by first | (rw [HR2.out]; done) | (rw [HR2.out]; rfl), HX0.out.trans hx2⟩
    · have hze : z = 5 := by omega
      subst hze
      have HR2 : Hid (R = (0, 0)) := HR.out.symm
      clear HR HS HB HC HW
      go_wp2
      go_ret2
      exact ⟨by first | (rw [HR2.out]; done) | (rw [HR2.out]; rfl), HX0.out.trans hx⟩
end Go.Proofs.Ytbdjncnofpbkkaa
