/-
  Contracts of package single (3): bytes as a text.
-/
import Derived.Test.YtabcneomeemnpaaDoorSc2
import Derived.Deep.RegionWith
import Derived.StillTailTactics
namespace Go.Proofs.YtabcneomeemnpaaDoor
open Go Go.ChangeShapes Go.WideShapes Go.ChangeAt Go.RowKit
set_option linter.unusedSimpArgs false
set_option linter.unusedVariables false

theorem text_at5 {w0 w : World} {a : Option Addr} {cap : Nat} {zs : List Int} (h : IsRow w0 a zs.length cap zs) (hx : Ext w0 w) (hl : zs.length ≤ 1099511627776) (hs : allSigns zs = true) :
    Calls Tryd.prog 15 #[.slice a zs.length cap] w fun e w' => e = .returned (.tuple #[.string (txt zs), .bool true]) ∧ Ext w w' := by
  have := text_row h hx hl
  rwa [textOut_yes hs, hs] at this
theorem tabZ_c (c : Nat) (hc : c ≤ 3) : (List.range 256).map (fun n => signZ c n) = tabZ c := by
  have : c = 0 ∨ c = 1 ∨ c = 2 ∨ c = 3 := by omega
  rcases this with rfl | rfl | rfl | rfl
  · exact tabZ_0
  · exact tabZ_1
  · exact tabZ_2
  · exact tabZ_3
theorem tabP_eq (c : Nat) (hc : c ≤ 3) : tabP c = (List.range 256).map fun (n : Nat) => ((n : Int), signZ c n) := by
  unfold tabP pairsOf
  rw [← tabZ_c c hc]
  apply List.map_congr_left
  intro n hn
  have hn := List.mem_range.1 hn
  rw [List.getD_eq_getElem?_getD, List.getElem?_map, List.getElem?_range hn]
  rfl
theorem mem_tab (c n : Nat) (hc : c ≤ 3) (hn : n < 256) : ((n : Int), signZ c n) ∈ tabP c := by
  rw [tabP_eq c hc]
  exact List.mem_map.2 ⟨n, List.mem_range.2 hn, rfl⟩
theorem take_bytes (s : ByteArray) (k : Nat) (h : k < s.size) : s.data.toList.take (k + 1) = s.data.toList.take k ++ [s[k]] := by
  rw [List.take_succ_eq_append_getElem (by simpa using h)]; rfl
theorem decZ_snoc (c : Int) (s : ByteArray) (k : Nat) (h : k < s.size) : decZ c (s.data.toList.take (k + 1)) = decZ c (s.data.toList.take k) ++ [signZ c s[k].toNat] := by
  rw [take_bytes s k h]
  simp [decZ]
end Go.Proofs.YtabcneomeemnpaaDoor
