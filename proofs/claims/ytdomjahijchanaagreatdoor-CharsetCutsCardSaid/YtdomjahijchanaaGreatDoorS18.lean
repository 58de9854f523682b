/-
  What the proof of this claim leans on (S18).
-/
import Derived.Test.YtdomjahijchanaaGreatDoorProg
import Derived.Ground.SlsfProg
import Derived.Shelf.SlGeneric
import Derived.Shelf.SlSortCmp.NoneTotal
import Derived.Shelf.SlSortCmp.WholeK
namespace Go.Proofs
open Go.Shelf
def Tryz.sortRow_ren : Go.Shelf.Ren := ⟨fun | 6 => 194 | 15 => 217 | 14 => 216 | 28 => 235 | 29 => 236 | 20 => 227 | 21 => 228 | 22 => 229 | 23 => 230 | 24 => 231 | 25 => 232 | 26 => 233 | 27 => 234 | 46 => 249 | 47 => 250 | 48 => 251 | 49 => 252 | 50 => 253 | 57 => 264 | n => n, fun | 22 => 48 | 24 => 176 | 25 => 205 | 3 => 3 | 39 => 98 | 0 => 0 | 53 => 178 | 55 => 144 | 4 => 4 | 46 => 227 | 45 => 226 | 50 => 100 | 5 => 5 | 9 => 9 | 66 => 241 | 70 => 245 | 76 => 255 | 77 => 103 | n => n, fun | n => n⟩
theorem Tryz.sortRow : Go.Proofs.SlLaysF0.n6 Tryz.prog Tryz.sortRow_ren := {
  mixed := by kernel_rfl
  f6 := ⟨Tryz.f194.name, by decide, Tryz.func194.trans (congrArg some (by kernel_rfl))⟩
  f14 := ⟨Tryz.f216.name, by decide, Tryz.func216.trans (congrArg some (by kernel_rfl))⟩
  f15 := Tryz.func217.trans (congrArg some (by kernel_rfl))
  f20 := ⟨Tryz.f227.name, by decide, Tryz.func227.trans (congrArg some (by kernel_rfl))⟩
  f21 := ⟨Tryz.f228.name, by decide, Tryz.func228.trans (congrArg some (by kernel_rfl))⟩
  f22 := ⟨Tryz.f229.name, by decide, Tryz.func229.trans (congrArg some (by kernel_rfl))⟩
  f23 := ⟨Tryz.f230.name, by decide, Tryz.func230.trans (congrArg some (by kernel_rfl))⟩
  f24 := ⟨Tryz.f231.name, by decide, Tryz.func231.trans (congrArg some (by kernel_rfl))⟩
  f25 := ⟨Tryz.f232.name, by decide, Tryz.func232.trans (congrArg some (by kernel_rfl))⟩
  f26 := ⟨Tryz.f233.name, by decide, Tryz.func233.trans (congrArg some (by kernel_rfl))⟩
  f27 := ⟨Tryz.f234.name, by decide, Tryz.func234.trans (congrArg some (by kernel_rfl))⟩
  f28 := Tryz.func235.trans (congrArg some (by kernel_rfl))
  f29 := Tryz.func236.trans (congrArg some (by kernel_rfl))
  f46 := ⟨Tryz.f249.name, by decide, Tryz.func249.trans (congrArg some (by kernel_rfl))⟩
  f47 := Tryz.func250.trans (congrArg some (by kernel_rfl))
  f48 := Tryz.func251.trans (congrArg some (by kernel_rfl))
  f49 := ⟨Tryz.f252.name, by decide, Tryz.func252.trans (congrArg some (by kernel_rfl))⟩
  f50 := ⟨Tryz.f253.name, by decide, Tryz.func253.trans (congrArg some (by kernel_rfl))⟩
  f57 := ⟨Tryz.f264.name, by decide, Tryz.func264.trans (congrArg some (by kernel_rfl))⟩
  t0 := Tryz.underlying0
  a0 := Tryz.isAgg0
  z0 := Tryz.sizeOf0
  v0 := Tryz.zeroValue0
  t3 := Tryz.underlying3
  a3 := Tryz.isAgg3
  z3 := Tryz.sizeOf3
  v3 := Tryz.zeroValue3
  t4 := Tryz.underlying4
  a4 := Tryz.isAgg4
  z4 := Tryz.sizeOf4
  v4 := Tryz.zeroValue4
  t5 := Tryz.underlying5
  a5 := Tryz.isAgg5
  z5 := Tryz.sizeOf5
  v5 := Tryz.zeroValue5
  t9 := Tryz.underlying9
  a9 := Tryz.isAgg9
  z9 := Tryz.sizeOf9
  v9 := Tryz.zeroValue9
  t22 := Tryz.underlying48
  a22 := Tryz.isAgg48
  z22 := Tryz.sizeOf48
  v22 := Tryz.zeroValue48
  t25 := Tryz.underlying205
  a25 := Tryz.isAgg205
  z25 := Tryz.sizeOf205
  v25 := Tryz.zeroValue205
  t39 := Tryz.underlying98
  a39 := Tryz.isAgg98
  z39 := Tryz.sizeOf98
  v39 := Tryz.zeroValue98
  t45 := Tryz.underlying226
  a45 := Tryz.isAgg226
  z45 := Tryz.sizeOf226
  v45 := Tryz.zeroValue226
  t46 := Tryz.underlying227
  a46 := Tryz.isAgg227
  z46 := Tryz.sizeOf227
  v46 := Tryz.zeroValue227
  t50 := Tryz.underlying100
  a50 := Tryz.isAgg100
  z50 := Tryz.sizeOf100
  v50 := Tryz.zeroValue100
  t53 := Tryz.underlying178
  a53 := Tryz.isAgg178
  z53 := Tryz.sizeOf178
  v53 := Tryz.zeroValue178
  t55 := Tryz.underlying144
  a55 := Tryz.isAgg144
  z55 := Tryz.sizeOf144
  v55 := Tryz.zeroValue144
  t66 := Tryz.underlying241
  a66 := Tryz.isAgg241
  z66 := Tryz.sizeOf241
  v66 := Tryz.zeroValue241
  t70 := Tryz.underlying245
  a70 := Tryz.isAgg245
  z70 := Tryz.sizeOf245
  v70 := Tryz.zeroValue245
  t76 := Tryz.underlying255
  a76 := Tryz.isAgg255
  z76 := Tryz.sizeOf255
  v76 := Tryz.zeroValue255
  t77 := Tryz.underlying103
  a77 := Tryz.isAgg103
  z77 := Tryz.sizeOf103
  v77 := Tryz.zeroValue103 }
open Go.RowKit Go.Lib Go.Sort in
/-- slices.SortFunc at no element. -/
theorem Tryz.sortRow_none (p : Option Addr) (cap : Nat) (fv : Value) (w : World) :
    Calls Tryz.prog 194 #[.slice p 0 cap, fv] w fun e w' => e = .returned (.tuple #[]) ∧ w' = w := AnyF.slices_SortFunc_none { Tryz.sortRow with } p cap fv w
end Go.Proofs

