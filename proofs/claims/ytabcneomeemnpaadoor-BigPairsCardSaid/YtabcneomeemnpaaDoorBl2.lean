/-
  Layer 8, the code: all pairs.
-/
import Derived.Test.YtabcneomeemnpaaDoorBl1
namespace Go.Proofs.YtabcneomeemnpaaDoor
open Go Go.ChangeShapes Go.WideShapes Go.ChangeAt Go.RowKit
set_option linter.unusedSimpArgs false
set_option linter.unusedVariables false

set_option maxRecDepth 100000 in
set_option maxHeartbeats 1000000 in
theorem bpairs (a : Option Addr) (cap : Nat) (vs : List Pv) (r : List Pr) (W : World) (hT : Tabs W) (hp : IsPieces W a vs.length cap vs) (hm : Mid vs) (hr : madeP vs = (r, -1)) :
    Calls Tryd.prog 27 #[.slice a vs.length cap] W fun e w' => ∃ v, e = .returned v ∧ ∃ B, W.heap.size ≤ B ∧ w'.ownsRow B 41 2 v r.length (pairCells r) ∧ Ext W w' := by
  have HN : Hid (∀ w, Tabs w → Ext W w → Calls Tryd.prog 39 #[.slice a vs.length cap] w fun e w' => ∃ v, e = .returned (.tuple #[v, .agg #[.int .i64 0, .int .i64 0]]) ∧ IsTab w' v r ∧ Ext w w') := fun w hT x => by
    refine (new_any a cap vs w hT (hp.ext x) hm).mono ?_
    rintro e w' ⟨h1, h2⟩
    rw [hr] at h2
    rcases h2 with ⟨_, v, rfl, h3⟩ | ⟨h3, _⟩
    · exact ⟨v, rfl, h3, h1⟩
    · exact absurd (show (-1 : Int) < 0 by decide) h3
  have hC := KeepT.start hT
  clear hT hp hm hr
  go_enter Tryd.func27, Tryd.ntmps27
  go_wp2_with (first
    | (go_at_call 39; refine (HN.out _ hC.tb hC.ex).mono ?_; rintro e w2 ⟨v, rfl, ht, hb2⟩; obtain ⟨ta, n1, tc, tb, n2, td, rfl⟩ := ht.open; have hC' := ((hC.ext hb2).tab ht).four (.slice ta n1 tc) (.slice tb n2 td) 79 (.int .i64 0) (.int .i64 0) 82; clear hC hb2 ht; have hC := hC'; clear hC'; obtain ⟨c1, c2, c3, c4, _⟩ := hC.c)
    | (go_at_call 40; refine (table_pairs_own _ r _ hC.t.1).mono ?_; rintro e w3 ⟨v3, rfl, B, hB, ho, hb3⟩; have HO := Lib.hid ho; have hxf := hC.ex.trans hb3; have hle := hC.ex.size; clear hC ho hb3 c1 c2 c3 c4))
  go_ret
  exact ⟨_, rfl, B, by omega, HO.out, hxf⟩
theorem bpieces_block {w : World} {g : Nat} {l : List Pv} {T : TypeId} (h : w.heap[g]? = some (.cells (pvCells l).toArray T (0, 0))) (hl : l ≠ []) : IsPieces w (some ⟨g, 0, none⟩) l.length l.length l := by
  refine ⟨rfl, .inr ⟨g, 0, rfl, Nat.le_refl _, lt_of_block h, fun j p hj => ?_⟩⟩
  obtain ⟨a0, a1, a2, a3⟩ := pvCells_get l j p hj
  have e : ∀ o, w.cell? ⟨g, 0 + o, none⟩ = (pvCells l)[o]? := by
    intro o
    simp only [World.cell?, h]
    simp
  exact ⟨(e _).trans a0, (e _).trans a1, (e _).trans a2, (e _).trans a3⟩
theorem bpairs_bg (a : Option Addr) (w : World) (hT : Tabs w) (h : IsPieces w a 14 14 bgV) : Calls Tryd.prog 27 #[.slice a 14 14] w fun e w' => ∃ v, e = .returned v ∧ ∃ B, w.heap.size ≤ B ∧ w'.ownsRow B 41 2 v bigPairs.length (pairCells bigPairs) ∧ Ext w w' :=
  bpairs a 14 bgV bigPairs w hT h bg_mid bg_made
set_option maxRecDepth 100000 in
set_option maxHeartbeats 1000000 in
/-- All pairs of the charset. -/
theorem big_pairs (W : World) (hT : Tabs W) : Calls Tryd.prog 13 #[] W fun e w' => ∃ a cap, e = .returned (.slice a 610 cap) ∧ IsPairs w' a 610 cap bigPairs ∧ Ext W w' := by
  have HSP := Lib.hid (fun w => blists w)
  obtain ⟨V, hV⟩ : ∃ V, V = bgC := ⟨_, rfl⟩
  have HK0 : Hid (∀ w1, Ext W w1 → ∀ Z, Tabs ((w1.alloc (.cells Z 65)).setRow w1.heap.size V) ∧ IsPieces ((w1.alloc (.cells Z 65)).setRow w1.heap.size V) (some ⟨w1.heap.size, 0, none⟩) 14 14 bgV ∧ Ext W ((w1.alloc (.cells Z 65)).setRow w1.heap.size V)) := fun w1 x Z => by
    rw [hV]
    have hx2 := ext_row (x.alloc (.cells Z 65)) x.size bgC
    have hg2 := setRow_heap _ w1.heap.size _ bgC _ _ (heap_alloc_new w1 (.cells Z 65))
    exact ⟨hT.ext hx2, bpieces_block (T := 65) (l := bgV) hg2 (by decide), hx2⟩
  clear hT
  have HOne : Hid (V.all (·.oneCell') = true ∧ V.size = 56) := by
    rw [hV]
    exact ⟨bgC_one, bgC_size⟩
  have HInfo : Hid ((Tryd.prog.info? 65).map (·.size) = some V.size) := by
    rw [hV]
    exact bgC_info
  rw [← hV] at HSP
  clear hV
  have HW1 := Lib.hid bpairs_bg
  obtain ⟨L1, hL1⟩ : ∃ L, L = bigPairs := ⟨_, rfl⟩
  have hz1 : L1.length = 610 := by rw [hL1]; exact bigPairs_len
  rw [← hL1] at HW1 ⊢
  have HZ1 := Lib.hid hz1
  clear hL1 hz1
  go_enter Tryd.func13, Tryd.ntmps13
  go_wp2_with (first
    | (go_at_call 26; refine (HSP.out _).mono ?_; rintro e w1 ⟨rfl, hb1⟩; have HK := Lib.hid (HK0.out w1 hb1))
    | (refine wpList_store_row rfl _ _ _ rfl w1.heap.size _ V rfl rfl (heap_alloc_new w1 _) HInfo.out (by rw [HOne.out.2] <;> rfl) HOne.out.1 ?_)
    | (go_at_call 27; refine (HW1.out _ _ (HK.out _).1 (HK.out _).2.1).mono ?_; rintro e w4 ⟨v4, rfl, B4, hB4, ho4, hb4⟩; have hx4 := (HK.out _).2.2.trans hb4))
  rw [HZ1.out] at ho4
  obtain ⟨a7, c7, e7, hp7⟩ := own_rpairs ho4
  have HE := Lib.hid e7
  have HP7 := Lib.hid hp7
  clear ho4 hp7 e7
  go_ret
  exact ⟨_, _, HE.out ▸ rfl, HP7.out, hx4⟩
end Go.Proofs.YtabcneomeemnpaaDoor
