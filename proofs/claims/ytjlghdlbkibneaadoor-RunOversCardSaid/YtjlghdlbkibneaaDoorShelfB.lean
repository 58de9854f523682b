/-
  DERIVED: THE SHELF's CONTRACTS AT THIS DUMP, IN PLAIN WORDS (tools/lay-plain.mjs out of 'TrydShelfB.lean', which tools/lay-shelf.mjs wrote): THE SAME DECLARATIONS UNDER THE SAME NAMES: 'import', 'namespace', 'open', 'def', 'theorem' AND NOTHING ELSE: no command of the shelf's: FOR A HAND-IN. Each laying: the table of numbers ('.._ren') and one theorem, a field a fact of the dump's own or the kernel's comparison; each contract: ONE APPLICATION.
-/
import Derived.Shelf.SlGeneric
import Derived.Shelf.SlSortCmp.WholeK
import Derived.Shelf.SlSortCmp.NoneTotal
import Derived.Ground.SlsfProg
import Derived.Test.YtjlghdlbkibneaaDoorProg
namespace Go.Proofs
open Go.Shelf
def Tryd.sortRow_ren : Go.Shelf.Ren := ⟨fun | 6 => 66 | 15 => 84 | 14 => 83 | 28 => 98 | 29 => 99 | 20 => 90 | 21 => 91 | 22 => 92 | 23 => 93 | 24 => 94 | 25 => 95 | 26 => 96 | 27 => 97 | 46 => 110 | 47 => 111 | 48 => 112 | 49 => 113 | 50 => 114 | 57 => 119 | n => n, fun | 22 => 25 | 24 => 90 | 25 => 111 | 3 => 3 | 39 => 124 | 0 => 0 | 53 => 125 | 55 => 136 | 4 => 4 | 46 => 129 | 45 => 128 | 50 => 43 | 5 => 5 | 9 => 9 | 66 => 148 | 70 => 152 | 76 => 157 | 77 => 158 | n => n, fun | n => n⟩
theorem Tryd.sortRow : Go.Proofs.SlLaysF0.n6 Tryd.prog Tryd.sortRow_ren := {
  mixed := by kernel_rfl
  f6 := ⟨Tryd.f66.name, by decide, Tryd.func66.trans (congrArg some (by kernel_rfl))⟩
  f14 := ⟨Tryd.f83.name, by decide, Tryd.func83.trans (congrArg some (by kernel_rfl))⟩
  f15 := Tryd.func84.trans (congrArg some (by kernel_rfl))
  f20 := ⟨Tryd.f90.name, by decide, Tryd.func90.trans (congrArg some (by kernel_rfl))⟩
  f21 := ⟨Tryd.f91.name, by decide, Tryd.func91.trans (congrArg some (by kernel_rfl))⟩
  f22 := ⟨Tryd.f92.name, by decide, Tryd.func92.trans (congrArg some (by kernel_rfl))⟩
  f23 := ⟨Tryd.f93.name, by decide, Tryd.func93.trans (congrArg some (by kernel_rfl))⟩
  f24 := ⟨Tryd.f94.name, by decide, Tryd.func94.trans (congrArg some (by kernel_rfl))⟩
  f25 := ⟨Tryd.f95.name, by decide, Tryd.func95.trans (congrArg some (by kernel_rfl))⟩
  f26 := ⟨Tryd.f96.name, by decide, Tryd.func96.trans (congrArg some (by kernel_rfl))⟩
  f27 := ⟨Tryd.f97.name, by decide, Tryd.func97.trans (congrArg some (by kernel_rfl))⟩
  f28 := Tryd.func98.trans (congrArg some (by kernel_rfl))
  f29 := Tryd.func99.trans (congrArg some (by kernel_rfl))
  f46 := ⟨Tryd.f110.name, by decide, Tryd.func110.trans (congrArg some (by kernel_rfl))⟩
  f47 := Tryd.func111.trans (congrArg some (by kernel_rfl))
  f48 := Tryd.func112.trans (congrArg some (by kernel_rfl))
  f49 := ⟨Tryd.f113.name, by decide, Tryd.func113.trans (congrArg some (by kernel_rfl))⟩
  f50 := ⟨Tryd.f114.name, by decide, Tryd.func114.trans (congrArg some (by kernel_rfl))⟩
  f57 := ⟨Tryd.f119.name, by decide, Tryd.func119.trans (congrArg some (by kernel_rfl))⟩
  t0 := Tryd.underlying0
  a0 := Tryd.isAgg0
  z0 := Tryd.sizeOf0
  v0 := Tryd.zeroValue0
  t3 := Tryd.underlying3
  a3 := Tryd.isAgg3
  z3 := Tryd.sizeOf3
  v3 := Tryd.zeroValue3
  t4 := Tryd.underlying4
  a4 := Tryd.isAgg4
  z4 := Tryd.sizeOf4
  v4 := Tryd.zeroValue4
  t5 := Tryd.underlying5
  a5 := Tryd.isAgg5
  z5 := Tryd.sizeOf5
  v5 := Tryd.zeroValue5
  t9 := Tryd.underlying9
  a9 := Tryd.isAgg9
  z9 := Tryd.sizeOf9
  v9 := Tryd.zeroValue9
  t22 := Tryd.underlying25
  a22 := Tryd.isAgg25
  z22 := Tryd.sizeOf25
  v22 := Tryd.zeroValue25
  t25 := Tryd.underlying111
  a25 := Tryd.isAgg111
  z25 := Tryd.sizeOf111
  v25 := Tryd.zeroValue111
  t39 := Tryd.underlying124
  a39 := Tryd.isAgg124
  z39 := Tryd.sizeOf124
  v39 := Tryd.zeroValue124
  t45 := Tryd.underlying128
  a45 := Tryd.isAgg128
  z45 := Tryd.sizeOf128
  v45 := Tryd.zeroValue128
  t46 := Tryd.underlying129
  a46 := Tryd.isAgg129
  z46 := Tryd.sizeOf129
  v46 := Tryd.zeroValue129
  t50 := Tryd.underlying43
  a50 := Tryd.isAgg43
  z50 := Tryd.sizeOf43
  v50 := Tryd.zeroValue43
  t53 := Tryd.underlying125
  a53 := Tryd.isAgg125
  z53 := Tryd.sizeOf125
  v53 := Tryd.zeroValue125
  t55 := Tryd.underlying136
  a55 := Tryd.isAgg136
  z55 := Tryd.sizeOf136
  v55 := Tryd.zeroValue136
  t66 := Tryd.underlying148
  a66 := Tryd.isAgg148
  z66 := Tryd.sizeOf148
  v66 := Tryd.zeroValue148
  t70 := Tryd.underlying152
  a70 := Tryd.isAgg152
  z70 := Tryd.sizeOf152
  v70 := Tryd.zeroValue152
  t76 := Tryd.underlying157
  a76 := Tryd.isAgg157
  z76 := Tryd.sizeOf157
  v76 := Tryd.zeroValue157
  t77 := Tryd.underlying158
  a77 := Tryd.isAgg158
  z77 := Tryd.sizeOf158
  v77 := Tryd.zeroValue158 }
open Go.RowKit Go.Lib Go.Sort in
/-- slices.SortFunc at no element. -/
theorem Tryd.sortRow_none (p : Option Addr) (cap : Nat) (fv : Value) (w : World) :
    Calls Tryd.prog 66 #[.slice p 0 cap, fv] w fun e w' => e = .returned (.tuple #[]) ∧ w' = w := AnyF.slices_SortFunc_none { Tryd.sortRow with } p cap fv w
end Go.Proofs
