/-
  Contracts of package single (3): bytes as a text.
-/
import Derived.Test.YtjlghdlbkibneaaDoorSc2
import Derived.Deep.RegionWith
import Derived.StillTailTactics
namespace Go.Proofs.YtjlghdlbkibneaaDoor
open Go Go.ChangeShapes Go.WideShapes Go.ChangeAt Go.RowKit
set_option linter.unusedSimpArgs false
set_option linter.unusedVariables false

theorem text_at5 {w0 w : World} {a : Option Addr} {cap : Nat} {zs : List Int} (h : IsRow w0 a zs.length cap zs) (hx : Ext w0 w) (hl : zs.length ≤ 1099511627776) (hs : allSigns zs = true) :
    Calls Tryd.prog 55 #[.slice a zs.length cap] w fun e w' => e = .returned (.tuple #[.string (txt zs), .bool true]) ∧ Ext w w' := by
  have := text_row h hx hl
  rwa [textOut_yes hs, hs] at this
theorem tabZ_c (c : Nat) (hc : c ≤ 3) : (List.range 256).map (fun n => signZ c n) = tabZ c := by
  have : c = 0 ∨ c = 1 ∨ c = 2 ∨ c = 3 := by omega
  rcases this with rfl | rfl | rfl | rfl
  · exact tabZ_0
  · exact tabZ_1
  · exact tabZ_2
  · exact tabZ_3
theorem tabP_eq (c : Nat) (hc : c ≤ 3) : tabP c = (List.range 256).map fun (n : Nat) => ((n : Int), signZ c n) := by
  unfold tabP pairsOf
  rw [← tabZ_c c hc]
  apply List.map_congr_left
  intro n hn
  have hn := List.mem_range.1 hn
  rw [List.getD_eq_getElem?_getD, List.getElem?_map, List.getElem?_range hn]
  rfl
theorem mem_tab (c n : Nat) (hc : c ≤ 3) (hn : n < 256) : ((n : Int), signZ c n) ∈ tabP c := by
  rw [tabP_eq c hc]
  exact List.mem_map.2 ⟨n, List.mem_range.2 hn, rfl⟩
/-- Behind a world: a charset's three cells, a fault's two. -/
structure Dw (w0 w : World) (b : Nat) (x y z : Value) : Prop where
  ex : Ext w0 w
  lo : w0.heap.size ≤ b
  b0 : w.heap[b]? = some (.cells #[x, y, z] 56 (0, 0))
  b1 : w.heap[b + 1]? = some (.cells #[.int .i64 0, .int .i64 0] 30 (0, 0))
theorem Dw.ext {w0 w w' : World} {b : Nat} {x y z : Value} (h : Dw w0 w b x y z) (k : Ext w w') : Dw w0 w' b x y z := ⟨h.ex.trans k, h.lo, (k.block _ (lt_of_block h.b0)).trans h.b0, (k.block _ (lt_of_block h.b1)).trans h.b1⟩
theorem Dw.start (w : World) (x y z : Value) : Dw w ((w.alloc (.cells #[x, y, z] 56)).alloc (.cells #[.int .i64 0, .int .i64 0] 30)) w.heap.size x y z := by
  have h1 := heap_alloc_new w (.cells #[x, y, z] 56)
  have h2 := heap_alloc_new (w.alloc (.cells #[x, y, z] 56)) (.cells #[.int .i64 0, .int .i64 0] 30)
  have e : (w.alloc (.cells #[x, y, z] 56)).heap.size = w.heap.size + 1 := by simp
  rw [e] at h2
  have k := (Ext.refl (w.alloc (.cells #[x, y, z] 56))).alloc (.cells #[.int .i64 0, .int .i64 0] 30)
  exact ⟨((Ext.refl w).alloc _).alloc _, Nat.le_refl _, (k.block _ (lt_of_block h1)).trans h1, h2⟩
theorem take_bytes (s : ByteArray) (k : Nat) (h : k < s.size) : s.data.toList.take (k + 1) = s.data.toList.take k ++ [s[k]] := by
  rw [List.take_succ_eq_append_getElem (by simpa using h)]; rfl
theorem decZ_snoc (c : Int) (s : ByteArray) (k : Nat) (h : k < s.size) : decZ c (s.data.toList.take (k + 1)) = decZ c (s.data.toList.take k) ++ [signZ c s[k].toNat] := by
  rw [take_bytes s k h]
  simp [decZ]
set_option maxRecDepth 100000 in
set_option maxHeartbeats 2000000 in
theorem set_decode (v : Value) (c : Nat) (s : ByteArray) (w : World) (h : IsSet w v c (tabP c)) (hc : c ≤ 3) (hs : s.size ≤ 100000) :
    Calls Tryd.prog 30 #[v, .string s] w fun e w' => e = .returned (.tuple #[.string (txt (decZ c s.data.toList)), .agg #[.int .i64 0, .int .i64 0]]) ∧ Ext w w' := by
  obtain ⟨ta, n1, tc, tb, n2, td, rfl, htab⟩ := h
  have hD := Dw.start w (.slice ta n1 tc) (.slice tb n2 td) (.int .i64 c)
  have HF := Lib.hid (fun (n : Nat) (hn : n < 256) (w' : World) (k : Ext w w') => fwd_yes _ (tabP c) ((n : Int), signZ c n) w' (htab.ext k) (mem_tab c n hc hn))
  have hsg := decZ_signs c s.data.toList (by omega) (by omega)
  have HSG := Lib.hid hsg
  obtain ⟨i1, hj, hj0, hj1, hj2⟩ := info_parts_i32
  have HD := Lib.hid hD
  obtain ⟨wm, hmk, hown, hgm⟩ := make_runes s.size (by omega) ((w.alloc (.cells #[.slice ta n1 tc, .slice tb n2 td, .int .i64 c] 56)).alloc (.cells #[.int .i64 0, .int .i64 0] 30))
  have hxm := Below.grown (Ext.refl ((w.alloc (.cells #[.slice ta n1 tc, .slice tb n2 td, .int .i64 c] 56)).alloc (.cells #[.int .i64 0, .int .i64 0] 30))) hgm (Nat.le_refl _) (by rintro k ⟨⟩)
  replace hown := hown _ (Nat.le_refl _)
  have HO := Lib.hid hown
  have HXM := Lib.hid hxm
  clear htab hsg hD hgm hown hxm
  go_enter Tryd.func30, Tryd.ntmps30
  go_wp2
  clear hmk
  have hown := HO.out
  have hxm : Ext _ wm := HXM.out
  clear HO HXM
  generalize hw2 : (w.alloc (.cells #[.slice ta n1 tc, .slice tb n2 td, .int .i64 c] 56)).alloc (.cells #[.int .i64 0, .int .i64 0] 30) = w2 at HD hown hxm ⊢
  have hz : w.heap.size + 1 + 1 = w2.heap.size := by rw [← hw2]; simp
  rw [hz]
  clear hw2 hz
  go_loopw [6, 17] (fun v i wr => ∃ k : Nat, k ≤ s.size ∧ i = .int .i64 k ∧ wr.ownsRow w2.heap.size 21 1 v (decZ c (s.data.toList.take k)).length (runeCellsOf (decZ c (s.data.toList.take k))) ∧ Ext w2 wr) (fun _ i _ => s.size - (intOf i).toNat)
  case atStart => exact ⟨0, by omega, rfl, by simpa [decZ, runeCellsOf] using hown, hxm⟩
  case round =>
    obtain ⟨k, hk, rfl, ho, hx⟩ := hrel
    clear hown hxm
    have hle := hx.size
    have hl : (decZ c (s.data.toList.take k)).length ≤ k := by
      unfold decZ
      rw [List.length_map]
      exact List.length_take_le _ _
    by_cases hlt : k < s.size
    · have HSN := Lib.hid (decZ_snoc c s k hlt)
      have hD := HD.out.ext hx
      obtain ⟨⟨c0, c1, c2⟩, _⟩ := facts3 hD.b0
      have hn := (s[k]'hlt).toNat_lt
      have HFk : Hid (∀ (w' : World), Ext w w' → Calls Tryd.prog 19 #[.agg #[.slice ta n1 tc, .slice tb n2 td], .int .i64 (IntKind.i64.wrap ((s[k]'hlt).toNat : Int))] w' fun e w'' => e = .returned (.tuple #[.int .i32 (signZ c (s[k]'hlt).toNat), .bool true]) ∧ Ext w' w'') := fun w' k2 => by
        rw [IntWalk.i64_in _ (by omega)]
        exact HF.out (s[k]'hlt).toNat hn w' k2
      generalize signZ c (s[k]'hlt).toNat = p at HSN HFk
      have HX := Lib.hid hD.ex
      have hb0 : (0 : Int) ≤ ((s[k]'hlt).toNat : Int) := by omega
      have hb1 : ((s[k]'hlt).toNat : Int) < 256 := by omega
      clear hD hn
      go_wp2
      go_region_with (go_at_call 19; refine (HFk.out _ HX.out.drew).mono ?_; rintro e w3 ⟨rfl, hb3⟩; have ho3 := own_ext ho (Ext.drew (Ext.refl _) |>.trans hb3); have hx3 := hx.drew.trans hb3; have hle3 := hx3.size)
      all_goals
        go_wp2_with ((at_builtin; refine wpList_append_fresh _ rfl _ _ 65 rfl (w2.heap.size) 21 i1 (.int .i32 0) 1 4 Tryd.underlying65 hj hj0 hj1 hj2 rfl (by decide) _ _ _ rfl (ho3.alloc _) ⟨w3.heap.size, 0, none⟩ 1 1 [.int .i32 p] rfl rfl (cell_one_new _ _ _) (fun x hx => by simp at hx; subst hx; rfl) (by unfold maxLen; omega) (by omega) (by simp; omega) ?_; intro v5 w5 hown5 hgrow5 hfresh5; have hx5 := hx3.own ho3 (Nat.le_refl _) hgrow5; clear hgrow5 hfresh5))
        go_roundw
        case rel =>
          refine ⟨k + 1, by omega, by go_num, ?_, hx5⟩
          rw [HSN.out, List.length_append]
          unfold runeCellsOf at hown5 ⊢
          rw [List.map_append]
          exact hown5
        case measure => simp [intOf]; omega
    · have hkl : k = s.size := by omega
      subst hkl
      have hts : s.data.toList.take s.size = s.data.toList := List.take_of_length_le (Nat.le_refl _)
      rw [hts] at ho hl
      obtain ⟨a', cap', rfl, hrow⟩ := own_row ho
      have HR := Lib.hid hrow
      have hlz : (decZ c s.data.toList).length ≤ 100000 := by omega
      have HTX := Lib.hid (fun w' (k : Ext wr w') => text_at5 HR.out k (by omega) HSG.out)
      have HDr := Lib.hid (HD.out.ext hx)
      clear hts ho hrow hl
      go_wp2_with (go_at_call 55; refine (HTX.out _ (Ext.refl _)).mono ?_; rintro e w4 ⟨rfl, hb4⟩; have hD4 := HDr.out.ext hb4; obtain ⟨⟨c0, c1⟩, z0, z1⟩ := facts2 hD4.b1; have HD4 := Lib.hid hD4; clear hD4 hb4)
      obtain ⟨wf, hwf, hxf, hB, _, _⟩ := put2 HD4.out.b1 HD4.out.ex (Nat.le_succ_of_le HD4.out.lo) (.int .i64 0) (.int .i64 0)
      rw [← hwf]
      obtain ⟨⟨k0, k1⟩, _⟩ := facts2 hB
      clear hwf hB c0 c1 z0 z1
      refine bodyPost_ret (v := .tuple #[.string (txt (decZ c s.data.toList)), .agg #[.int .i64 0, .int .i64 0]]) (by simp [results, Tryd.results30, go_sem, k0, k1]) rfl ?_
      exact ⟨rfl, hxf⟩
end Go.Proofs.YtjlghdlbkibneaaDoor
