/-
  What the proof of this claim leans on (S42).
-/
import Derived.Test.YtndopjmdpmkgeaaGreatDoorS29
import Derived.Test.YtndopjmdpmkgeaaGreatDoorCards
import Derived.Test.YtndopjmdpmkgeaaGreatDoorTie
import Derived.ChangeMaps
import Derived.LaidMore
import Derived.Lay
import Derived.Lib.LaidU8
import Derived.MakeChecks
import Derived.PinnedBridge
import Derived.SevenTiedAt
import Derived.Stop.Joined
namespace Go.Proofs.YtndopjmdpmkgeaaGreatDoor
open Go Go.ChangeShapes Go.WideShapes Go.ChangeAt Go.RowKit
set_option linter.unusedSimpArgs false
set_option linter.unusedVariables false
set_option maxRecDepth 100000

theorem bruijn_eq : (Rows.laid_math_bits_deBruijn64tab : DataW Unit) = Lib.tabData .u8 (Lib.deBruijn64tab.map fun (z : Nat) => (z : Int)) := by kernel_rfl
theorem ahead_eq : (Rows.laid_diacritic_wansung_ahead : DataW Unit) = Lib.tabData .i64 (aheadL.map fun (z : Nat) => (z : Int)) := by kernel_rfl
theorem tab_cells {n : String} {k : IntKind} {zs : List Nat} {g : Nat} {t e : TypeId} {len : Nat} {w : World} (hg : Tryz.prog.globalNamed n = some g) (ht : (Tryz.prog.globals[g]?).map (·.type) = some t)
    (hu : Tryz.prog.underlying t = some (.array len e)) (he : Tryz.prog.underlying e = some (.int k)) (hce : Tryz.prog.cellsOf e = 1) (hct : Tryz.prog.cellsOf t = len)
    (h : Lib.VarReads Tryz.prog w n (Lib.tabData k (zs.map fun (z : Nat) => (z : Int)))) (j : Nat) (hj : j < zs.length) : w.cell? ⟨g, j, none⟩ = some (.int k (zs.getD j 0 : Nat)) := by
  obtain ⟨g', t', cs, fuel, p, hg', hty, hvar, hd⟩ := h
  obtain rfl := Option.some.inj (hg.symm.trans hg')
  obtain rfl := Option.some.inj (ht.symm.trans hty)
  have hcs := Lib.cells_of_tab hu he hce hct hd
  have := World.var?_cell hg' hvar j
  rw [this, ← Array.getElem?_toList, hcs]
  simp [hj, List.getD]
theorem tab7_of {W : World} (h : laidMetH Tryz.prog Rows.detectScoresRow.laid W) : Tab7 W := by
  rw [MakeChecks.laidMetH_plain _ _ _ (by kernel_rfl)] at h
  have h1 := Lib.laidMet.reads h (n := "math/bits.deBruijn64tab") (d := Rows.laid_math_bits_deBruijn64tab) (by repeat (first | exact List.Mem.head _ | apply List.Mem.tail))
  have h2 := Lib.laidMet.reads h (n := "diacritic/wansung.ahead") (d := Rows.laid_diacritic_wansung_ahead) (by repeat (first | exact List.Mem.head _ | apply List.Mem.tail))
  rw [bruijn_eq] at h1
  rw [ahead_eq] at h2
  refine ⟨fun j hj => ?_, fun j hj => ?_⟩
  · rw [← ahead_rank j hj]
    exact tab_cells (t := 227) (len := 57) (by kernel_rfl) (by kernel_rfl) Tryz.underlying227 Tryz.underlying3 (by kernel_rfl) (by kernel_rfl) h2 j (by show j < 57; omega)
  · exact tab_cells (t := 240) (len := 64) (by kernel_rfl) (by kernel_rfl) Tryz.underlying240 Tryz.underlying5 (by kernel_rfl) (by kernel_rfl) h1 j hj
end Go.Proofs.YtndopjmdpmkgeaaGreatDoor

