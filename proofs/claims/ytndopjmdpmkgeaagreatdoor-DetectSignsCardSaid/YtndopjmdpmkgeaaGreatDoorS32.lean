/-
  What the proof of this claim leans on (S32).
-/
import Derived.Test.YtndopjmdpmkgeaaGreatDoorS21
import Derived.Test.YtndopjmdpmkgeaaGreatDoorS23
import Derived.Test.YtndopjmdpmkgeaaGreatDoorS29
import Derived.Test.YtndopjmdpmkgeaaGreatDoorS31
import Derived.Deep.RegionHeld3
namespace Go.Proofs.YtndopjmdpmkgeaaGreatDoor
open Go Go.ChangeShapes Go.WideShapes Go.ChangeAt Go.RowKit
set_option linter.unusedSimpArgs false
set_option linter.unusedVariables false

theorem pieces_block {w : World} {g : Nat} {l : List Pv} {T : TypeId} (h : w.heap[g]? = some (.cells (pvCells l).toArray T (0, 0))) (hl : l ≠ []) : IsPieces w (some ⟨g, 0, none⟩) l.length l.length l := by
  refine ⟨rfl, .inr ⟨g, 0, rfl, Nat.le_refl _, lt_of_block h, fun j p hj => ?_⟩⟩
  obtain ⟨a0, a1, a2, a3⟩ := pvCells_get l j p hj
  have e : ∀ o, w.cell? ⟨g, 0 + o, none⟩ = (pvCells l)[o]? := by
    intro o
    simp only [World.cell?, h]
    simp
  exact ⟨(e _).trans a0, (e _).trans a1, (e _).trans a2, (e _).trans a3⟩
set_option maxRecDepth 100000 in
set_option maxHeartbeats 1000000 in
theorem clists (w : World) : Calls Tryz.prog 182 #[] w fun e w' => ∃ g, e = .returned (.slice (some ⟨g, 0, none⟩) 3 3) ∧ IsPieces w' (some ⟨g, 0, none⟩) 3 3 lsV ∧ Ext w w' := by
  have HL := Lib.hid (fun (f : Int) (x : ByteArray) w => clist f x w)
  go_enter Tryz.func182, Tryz.ntmps182
  go_wp2_with (go_at_call 121; refine (HL.out _ _ _).mono ?_; first
    | (rintro e w1 ⟨rfl, hb1⟩; have hC' := hC.trans hb1; clear hC hb1; have hC := hC'; clear hC')
    | rintro e w1 ⟨rfl, hC⟩)
  go_ret
  refine ⟨_, rfl, pieces_block (T := 105) (l := lsV) ?_ (by decide), hC.trans ((Ext.refl _).alloc _)⟩
  refine (heap_alloc_new w1 _).trans ?_
  kernel_rfl
end Go.Proofs.YtndopjmdpmkgeaaGreatDoor

