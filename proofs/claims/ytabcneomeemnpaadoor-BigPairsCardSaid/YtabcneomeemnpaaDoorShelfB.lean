/-
  DERIVED: THE SHELF's CONTRACTS AT THIS DUMP, IN PLAIN WORDS (tools/lay-plain.mjs out of 'TrydShelfB.lean', which tools/lay-shelf.mjs wrote): THE SAME DECLARATIONS UNDER THE SAME NAMES: 'import', 'namespace', 'open', 'def', 'theorem' AND NOTHING ELSE: no command of the shelf's: FOR A HAND-IN. Each laying: the table of numbers ('.._ren') and one theorem, a field a fact of the dump's own or the kernel's comparison; each contract: ONE APPLICATION.
-/
import Derived.Shelf.SlGeneric
import Derived.Shelf.SlSortCmp.WholeK
import Derived.Shelf.SlSortCmp.NoneTotal
import Derived.Ground.SlsfProg
import Derived.Test.YtabcneomeemnpaaDoorProg
namespace Go.Proofs
open Go.Shelf
def Tryd.sortRow_ren : Go.Shelf.Ren := ⟨fun | 6 => 58 | 15 => 69 | 14 => 68 | 28 => 82 | 29 => 83 | 20 => 74 | 21 => 75 | 22 => 76 | 23 => 77 | 24 => 78 | 25 => 79 | 26 => 80 | 27 => 81 | 46 => 95 | 47 => 96 | 48 => 97 | 49 => 98 | 50 => 99 | 57 => 104 | n => n, fun | 22 => 77 | 24 => 97 | 25 => 104 | 3 => 3 | 39 => 42 | 0 => 0 | 53 => 85 | 55 => 58 | 4 => 4 | 46 => 117 | 45 => 116 | 50 => 55 | 5 => 5 | 9 => 9 | 66 => 135 | 70 => 139 | 76 => 144 | 77 => 33 | n => n, fun | n => n⟩
theorem Tryd.sortRow : Go.Proofs.SlLaysF0.n6 Tryd.prog Tryd.sortRow_ren := {
  mixed := by kernel_rfl
  f6 := ⟨Tryd.f58.name, by decide, Tryd.func58.trans (congrArg some (by kernel_rfl))⟩
  f14 := ⟨Tryd.f68.name, by decide, Tryd.func68.trans (congrArg some (by kernel_rfl))⟩
  f15 := Tryd.func69.trans (congrArg some (by kernel_rfl))
  f20 := ⟨Tryd.f74.name, by decide, Tryd.func74.trans (congrArg some (by kernel_rfl))⟩
  f21 := ⟨Tryd.f75.name, by decide, Tryd.func75.trans (congrArg some (by kernel_rfl))⟩
  f22 := ⟨Tryd.f76.name, by decide, Tryd.func76.trans (congrArg some (by kernel_rfl))⟩
  f23 := ⟨Tryd.f77.name, by decide, Tryd.func77.trans (congrArg some (by kernel_rfl))⟩
  f24 := ⟨Tryd.f78.name, by decide, Tryd.func78.trans (congrArg some (by kernel_rfl))⟩
  f25 := ⟨Tryd.f79.name, by decide, Tryd.func79.trans (congrArg some (by kernel_rfl))⟩
  f26 := ⟨Tryd.f80.name, by decide, Tryd.func80.trans (congrArg some (by kernel_rfl))⟩
  f27 := ⟨Tryd.f81.name, by decide, Tryd.func81.trans (congrArg some (by kernel_rfl))⟩
  f28 := Tryd.func82.trans (congrArg some (by kernel_rfl))
  f29 := Tryd.func83.trans (congrArg some (by kernel_rfl))
  f46 := ⟨Tryd.f95.name, by decide, Tryd.func95.trans (congrArg some (by kernel_rfl))⟩
  f47 := Tryd.func96.trans (congrArg some (by kernel_rfl))
  f48 := Tryd.func97.trans (congrArg some (by kernel_rfl))
  f49 := ⟨Tryd.f98.name, by decide, Tryd.func98.trans (congrArg some (by kernel_rfl))⟩
  f50 := ⟨Tryd.f99.name, by decide, Tryd.func99.trans (congrArg some (by kernel_rfl))⟩
  f57 := ⟨Tryd.f104.name, by decide, Tryd.func104.trans (congrArg some (by kernel_rfl))⟩
  t0 := Tryd.underlying0
  a0 := Tryd.isAgg0
  z0 := Tryd.sizeOf0
  v0 := Tryd.zeroValue0
  t3 := Tryd.underlying3
  a3 := Tryd.isAgg3
  z3 := Tryd.sizeOf3
  v3 := Tryd.zeroValue3
  t4 := Tryd.underlying4
  a4 := Tryd.isAgg4
  z4 := Tryd.sizeOf4
  v4 := Tryd.zeroValue4
  t5 := Tryd.underlying5
  a5 := Tryd.isAgg5
  z5 := Tryd.sizeOf5
  v5 := Tryd.zeroValue5
  t9 := Tryd.underlying9
  a9 := Tryd.isAgg9
  z9 := Tryd.sizeOf9
  v9 := Tryd.zeroValue9
  t22 := Tryd.underlying77
  a22 := Tryd.isAgg77
  z22 := Tryd.sizeOf77
  v22 := Tryd.zeroValue77
  t25 := Tryd.underlying104
  a25 := Tryd.isAgg104
  z25 := Tryd.sizeOf104
  v25 := Tryd.zeroValue104
  t39 := Tryd.underlying42
  a39 := Tryd.isAgg42
  z39 := Tryd.sizeOf42
  v39 := Tryd.zeroValue42
  t45 := Tryd.underlying116
  a45 := Tryd.isAgg116
  z45 := Tryd.sizeOf116
  v45 := Tryd.zeroValue116
  t46 := Tryd.underlying117
  a46 := Tryd.isAgg117
  z46 := Tryd.sizeOf117
  v46 := Tryd.zeroValue117
  t50 := Tryd.underlying55
  a50 := Tryd.isAgg55
  z50 := Tryd.sizeOf55
  v50 := Tryd.zeroValue55
  t53 := Tryd.underlying85
  a53 := Tryd.isAgg85
  z53 := Tryd.sizeOf85
  v53 := Tryd.zeroValue85
  t55 := Tryd.underlying58
  a55 := Tryd.isAgg58
  z55 := Tryd.sizeOf58
  v55 := Tryd.zeroValue58
  t66 := Tryd.underlying135
  a66 := Tryd.isAgg135
  z66 := Tryd.sizeOf135
  v66 := Tryd.zeroValue135
  t70 := Tryd.underlying139
  a70 := Tryd.isAgg139
  z70 := Tryd.sizeOf139
  v70 := Tryd.zeroValue139
  t76 := Tryd.underlying144
  a76 := Tryd.isAgg144
  z76 := Tryd.sizeOf144
  v76 := Tryd.zeroValue144
  t77 := Tryd.underlying33
  a77 := Tryd.isAgg33
  z77 := Tryd.sizeOf33
  v77 := Tryd.zeroValue33 }
open Go.RowKit Go.Lib Go.Sort in
/-- slices.SortFunc at no element. -/
theorem Tryd.sortRow_none (p : Option Addr) (cap : Nat) (fv : Value) (w : World) :
    Calls Tryd.prog 58 #[.slice p 0 cap, fv] w fun e w' => e = .returned (.tuple #[]) ∧ w' = w := AnyF.slices_SortFunc_none { Tryd.sortRow with } p cap fv w
end Go.Proofs
