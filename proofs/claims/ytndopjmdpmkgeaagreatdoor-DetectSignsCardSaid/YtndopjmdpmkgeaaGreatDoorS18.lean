/-
  What the proof of this claim leans on (S18).
-/
import Derived.Test.YtndopjmdpmkgeaaGreatDoorProg
import Derived.Ground.SlsfProg
import Derived.Shelf.SlGeneric
import Derived.Shelf.SlSortCmp.NoneTotal
import Derived.Shelf.SlSortCmp.WholeK
namespace Go.Proofs
open Go.Shelf
def Tryz.sortRow_ren : Go.Shelf.Ren := ⟨fun | 6 => 193 | 15 => 215 | 14 => 214 | 28 => 233 | 29 => 234 | 20 => 225 | 21 => 226 | 22 => 227 | 23 => 228 | 24 => 229 | 25 => 230 | 26 => 231 | 27 => 232 | 46 => 247 | 47 => 248 | 48 => 249 | 49 => 250 | 50 => 251 | 57 => 262 | n => n, fun | 22 => 72 | 24 => 189 | 25 => 212 | 3 => 3 | 39 => 120 | 0 => 0 | 53 => 191 | 55 => 159 | 4 => 4 | 46 => 233 | 45 => 232 | 50 => 23 | 5 => 5 | 9 => 9 | 66 => 247 | 70 => 251 | 76 => 261 | 77 => 38 | n => n, fun | n => n⟩
theorem Tryz.sortRow : Go.Proofs.SlLaysF0.n6 Tryz.prog Tryz.sortRow_ren := {
  mixed := by kernel_rfl
  f6 := ⟨Tryz.f193.name, by decide, Tryz.func193.trans (congrArg some (by kernel_rfl))⟩
  f14 := ⟨Tryz.f214.name, by decide, Tryz.func214.trans (congrArg some (by kernel_rfl))⟩
  f15 := Tryz.func215.trans (congrArg some (by kernel_rfl))
  f20 := ⟨Tryz.f225.name, by decide, Tryz.func225.trans (congrArg some (by kernel_rfl))⟩
  f21 := ⟨Tryz.f226.name, by decide, Tryz.func226.trans (congrArg some (by kernel_rfl))⟩
  f22 := ⟨Tryz.f227.name, by decide, Tryz.func227.trans (congrArg some (by kernel_rfl))⟩
  f23 := ⟨Tryz.f228.name, by decide, Tryz.func228.trans (congrArg some (by kernel_rfl))⟩
  f24 := ⟨Tryz.f229.name, by decide, Tryz.func229.trans (congrArg some (by kernel_rfl))⟩
  f25 := ⟨Tryz.f230.name, by decide, Tryz.func230.trans (congrArg some (by kernel_rfl))⟩
  f26 := ⟨Tryz.f231.name, by decide, Tryz.func231.trans (congrArg some (by kernel_rfl))⟩
  f27 := ⟨Tryz.f232.name, by decide, Tryz.func232.trans (congrArg some (by kernel_rfl))⟩
  f28 := Tryz.func233.trans (congrArg some (by kernel_rfl))
  f29 := Tryz.func234.trans (congrArg some (by kernel_rfl))
  f46 := ⟨Tryz.f247.name, by decide, Tryz.func247.trans (congrArg some (by kernel_rfl))⟩
  f47 := Tryz.func248.trans (congrArg some (by kernel_rfl))
  f48 := Tryz.func249.trans (congrArg some (by kernel_rfl))
  f49 := ⟨Tryz.f250.name, by decide, Tryz.func250.trans (congrArg some (by kernel_rfl))⟩
  f50 := ⟨Tryz.f251.name, by decide, Tryz.func251.trans (congrArg some (by kernel_rfl))⟩
  f57 := ⟨Tryz.f262.name, by decide, Tryz.func262.trans (congrArg some (by kernel_rfl))⟩
  t0 := Tryz.underlying0
  a0 := Tryz.isAgg0
  z0 := Tryz.sizeOf0
  v0 := Tryz.zeroValue0
  t3 := Tryz.underlying3
  a3 := Tryz.isAgg3
  z3 := Tryz.sizeOf3
  v3 := Tryz.zeroValue3
  t4 := Tryz.underlying4
  a4 := Tryz.isAgg4
  z4 := Tryz.sizeOf4
  v4 := Tryz.zeroValue4
  t5 := Tryz.underlying5
  a5 := Tryz.isAgg5
  z5 := Tryz.sizeOf5
  v5 := Tryz.zeroValue5
  t9 := Tryz.underlying9
  a9 := Tryz.isAgg9
  z9 := Tryz.sizeOf9
  v9 := Tryz.zeroValue9
  t22 := Tryz.underlying72
  a22 := Tryz.isAgg72
  z22 := Tryz.sizeOf72
  v22 := Tryz.zeroValue72
  t25 := Tryz.underlying212
  a25 := Tryz.isAgg212
  z25 := Tryz.sizeOf212
  v25 := Tryz.zeroValue212
  t39 := Tryz.underlying120
  a39 := Tryz.isAgg120
  z39 := Tryz.sizeOf120
  v39 := Tryz.zeroValue120
  t45 := Tryz.underlying232
  a45 := Tryz.isAgg232
  z45 := Tryz.sizeOf232
  v45 := Tryz.zeroValue232
  t46 := Tryz.underlying233
  a46 := Tryz.isAgg233
  z46 := Tryz.sizeOf233
  v46 := Tryz.zeroValue233
  t50 := Tryz.underlying23
  a50 := Tryz.isAgg23
  z50 := Tryz.sizeOf23
  v50 := Tryz.zeroValue23
  t53 := Tryz.underlying191
  a53 := Tryz.isAgg191
  z53 := Tryz.sizeOf191
  v53 := Tryz.zeroValue191
  t55 := Tryz.underlying159
  a55 := Tryz.isAgg159
  z55 := Tryz.sizeOf159
  v55 := Tryz.zeroValue159
  t66 := Tryz.underlying247
  a66 := Tryz.isAgg247
  z66 := Tryz.sizeOf247
  v66 := Tryz.zeroValue247
  t70 := Tryz.underlying251
  a70 := Tryz.isAgg251
  z70 := Tryz.sizeOf251
  v70 := Tryz.zeroValue251
  t76 := Tryz.underlying261
  a76 := Tryz.isAgg261
  z76 := Tryz.sizeOf261
  v76 := Tryz.zeroValue261
  t77 := Tryz.underlying38
  a77 := Tryz.isAgg38
  z77 := Tryz.sizeOf38
  v77 := Tryz.zeroValue38 }
open Go.RowKit Go.Lib Go.Sort in
/-- slices.SortFunc at no element. -/
theorem Tryz.sortRow_none (p : Option Addr) (cap : Nat) (fv : Value) (w : World) :
    Calls Tryz.prog 193 #[.slice p 0 cap, fv] w fun e w' => e = .returned (.tuple #[]) ∧ w' = w := AnyF.slices_SortFunc_none { Tryz.sortRow with } p cap fv w
end Go.Proofs

