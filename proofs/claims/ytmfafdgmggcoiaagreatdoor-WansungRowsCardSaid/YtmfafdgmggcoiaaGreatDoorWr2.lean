/-
  Layer 7, the code: pairs of pieces; all signs of the rows, by their codes.
-/
import Derived.Test.YtmfafdgmggcoiaaGreatDoorWr1
import Derived.Test.YtmfafdgmggcoiaaGreatDoorWc6
import Derived.Test.YtmfafdgmggcoiaaGreatDoorTb19
import Derived.Test.YtmfafdgmggcoiaaGreatDoorTbH
import Derived.Deep.RegionHeld3
namespace Go.Proofs.YtmfafdgmggcoiaaGreatDoor
open Go Go.ChangeShapes Go.WideShapes Go.ChangeAt Go.RowKit
set_option linter.unusedSimpArgs false
set_option linter.unusedVariables false

set_option maxRecDepth 100000 in
set_option maxHeartbeats 1000000 in
theorem wpairs (a : Option Addr) (cap : Nat) (vs : List Pv) (r : List Pr) (W : World) (hT : Tabs W) (hp : IsPieces W a vs.length cap vs) (hm : Mid vs) (hr : madeP vs = (r, -1)) :
    Calls Tryz.prog 8 #[.slice a vs.length cap] W fun e w' => ∃ v, e = .returned v ∧ ∃ B, W.heap.size ≤ B ∧ w'.ownsRow B 26 2 v r.length (pairCells r) ∧ Ext W w' := by
  have HN : Hid (∀ w, Tabs w → Ext W w → Calls Tryz.prog 17 #[.slice a vs.length cap] w fun e w' => ∃ v, e = .returned (.tuple #[v, .agg #[.int .i64 0, .int .i64 0]]) ∧ IsTab w' v r ∧ Ext w w') := fun w hT x => by
    refine (new_any a cap vs w hT (hp.ext x) hm).mono ?_
    rintro e w' ⟨h1, h2⟩
    rw [hr] at h2
    rcases h2 with ⟨_, v, rfl, h3⟩ | ⟨h3, _⟩
    · exact ⟨v, rfl, h3, h1⟩
    · exact absurd (show (-1 : Int) < 0 by decide) h3
  have hC := KeepT.start hT
  clear hT hp hm hr
  go_enter Tryz.func8, Tryz.ntmps8
  go_wp2_with (first
    | (go_at_call 17; refine (HN.out _ hC.tb hC.ex).mono ?_; rintro e w2 ⟨v, rfl, ht, hb2⟩; obtain ⟨ta, n1, tc, tb, n2, td, rfl⟩ := ht.open; have hC' := ((hC.ext hb2).tab ht).four (.slice ta n1 tc) (.slice tb n2 td) 43 (.int .i64 0) (.int .i64 0) 46; clear hC hb2 ht; have hC := hC'; clear hC'; obtain ⟨c1, c2, c3, c4, _⟩ := hC.c)
    | (go_at_call 18; refine (table_pairs_own _ r _ hC.t.1).mono ?_; rintro e w3 ⟨v3, rfl, B, hB, ho, hb3⟩; have HO := Lib.hid ho; have hxf := hC.ex.trans hb3; have hle := hC.ex.size; clear hC ho hb3 c1 c2 c3 c4))
  go_ret
  exact ⟨_, rfl, B, by omega, HO.out, hxf⟩
theorem ls_mid : Mid lsV := ⟨by decide, by decide +kernel⟩
theorem sp_mid : Mid spV := ⟨by decide, by decide +kernel⟩
theorem pvC_eq : (pvCells spV).toArray = spC := by kernel_rfl
theorem pieces_block {w : World} {g : Nat} {l : List Pv} {T : TypeId} (h : w.heap[g]? = some (.cells (pvCells l).toArray T (0, 0))) (hl : l ≠ []) : IsPieces w (some ⟨g, 0, none⟩) l.length l.length l := by
  refine ⟨rfl, .inr ⟨g, 0, rfl, Nat.le_refl _, lt_of_block h, fun j p hj => ?_⟩⟩
  obtain ⟨a0, a1, a2, a3⟩ := pvCells_get l j p hj
  have e : ∀ o, w.cell? ⟨g, 0 + o, none⟩ = (pvCells l)[o]? := by
    intro o
    simp only [World.cell?, h]
    simp
  exact ⟨(e _).trans a0, (e _).trans a1, (e _).trans a2, (e _).trans a3⟩
set_option maxRecDepth 100000 in
set_option maxHeartbeats 1000000 in
theorem clists (w : World) : Calls Tryz.prog 9 #[] w fun e w' => ∃ g, e = .returned (.slice (some ⟨g, 0, none⟩) 3 3) ∧ IsPieces w' (some ⟨g, 0, none⟩) 3 3 lsV ∧ Ext w w' := by
  have HL := Lib.hid (fun (f : Int) (x : ByteArray) w => clist f x w)
  go_enter Tryz.func9, Tryz.ntmps9
  go_wp2_with (go_at_call 19; refine (HL.out _ _ _).mono ?_; first
    | (rintro e w1 ⟨rfl, hb1⟩; have hC' := hC.trans hb1; clear hC hb1; have hC := hC'; clear hC')
    | rintro e w1 ⟨rfl, hC⟩)
  go_ret
  refine ⟨_, rfl, pieces_block (T := 29) (l := lsV) ?_ (by decide), hC.trans ((Ext.refl _).alloc _)⟩
  refine (heap_alloc_new w1 _).trans ?_
  kernel_rfl
theorem pairs_news {w : World} {a : Option Addr} {n cap : Nat} {l : List Pr} (h : IsPairs w a n cap l) (hn : 1 ≤ n) : ∃ x off, a = some ⟨x, off, none⟩ ∧ x < w.heap.size ∧ ∀ j u, (pairCells l)[j]? = some u → w.cell? ((⟨x, off, none⟩ : Addr).add j) = some u := by
  obtain ⟨x, off, rfl, hx, hcell⟩ := pairs_at h hn
  refine ⟨x, off, rfl, hx, fun j u hj => ?_⟩
  have hjl : j < l.length * 2 := by
    have := (List.getElem?_eq_some_iff.1 hj).1
    rwa [pairCells_len] at this
  have hq : j / 2 < l.length := by omega
  obtain ⟨e1, e2⟩ := pairCells_get l (j / 2) l[j / 2] (List.getElem?_eq_getElem hq)
  obtain ⟨c1, c2⟩ := hcell (j / 2) _ (List.getElem?_eq_getElem hq)
  have ea : ∀ o, (⟨x, off, none⟩ : Addr).add o = ⟨x, off + o, none⟩ := fun o => by unfold Addr.add; split <;> simp_all
  rw [ea]
  have h3 : j % 2 = 0 ∨ j % 2 = 1 := by omega
  rcases h3 with h3 | h3
  · rw [show j / 2 * 2 = j by omega] at e1 c1
    rw [e1] at hj
    cases hj
    exact c1
  · rw [show j / 2 * 2 + 1 = j by omega] at e2
    rw [show off + j / 2 * 2 + 1 = off + j by omega] at c2
    rw [e2] at hj
    cases hj
    exact c2
theorem pairCells_cell {l : List Pr} : ∀ u ∈ pairCells l, u.oneCell' = true := by
  intro u hu
  unfold pairCells at hu
  obtain ⟨r, _, hr⟩ := List.mem_flatMap.1 hu
  simp at hr
  rcases hr with rfl | rfl <;> rfl
theorem run_append_pairs (w : World) (ty : TypeId) (base : Nat) (v : Value) (L : List Pr) (hown : w.ownsRow base 26 2 v L.length (pairCells L)) (ra : Option Addr) (c : Nat) (l : List Pr) (hrw : IsPairs w ra l.length c l) (h1 : 1 ≤ l.length) (hL : L.length ≤ 100000000) (hl : l.length ≤ 100000000) (hbase : base ≤ w.heap.size) :
    ∃ v' w', (Builtin.append_ #[22, 22] ty #[v, .slice ra l.length c]).run Tryz.prog w = .ok v' w' ∧ w'.ownsRow base 26 2 v' (L ++ l).length (pairCells (L ++ l)) ∧ w.grownBy w' v.ownBlock := by
  obtain ⟨i0, hi, hz0, hz1, hz2⟩ := info_parts_rpair
  obtain ⟨x, off, rfl, hx, hnews⟩ := pairs_news hrw h1
  obtain ⟨v', w', h1, h2, h3, _⟩ := run_append_own (P := Tryz.prog) w base 22 ty 26 i0 (.agg #[.int .i64 0, .int .i32 0]) 2 16 Tryz.underlying22 hi hz0 hz1 hz2 rfl (by decide) v L.length (pairCells L) hown ⟨x, off, none⟩ l.length c (pairCells l) (pairCells_len l) hnews pairCells_cell (by unfold maxLen; omega) (by omega) hbase
  exact ⟨v', w', h1, by rw [List.length_append, pairCells_app]; exact h2, h3⟩
theorem step_append_pairs (w : World) {ops : Array Oper} {o : Oper} {a : Act} {K : Act → World → Prop} {Q : Exit → Act → World → Prop} {E : Prop} (hgd : o.guard = none) (s x : Operand)
    (ho : o.op = .call { callee := .builtin .append, args := #[s, x], argTypes := #[22, 22] })
    (base : Nat) (v : Value) (L : List Pr) (hs : a.eval s = v) (hown : w.ownsRow base 26 2 v L.length (pairCells L)) (ra : Option Addr) (c : Nat) (l : List Pr) (hx : a.eval x = .slice ra l.length c) (hrw : IsPairs w ra l.length c l) (h1 : 1 ≤ l.length) (hL : L.length ≤ 100000000) (hl : l.length ≤ 100000000) (hbase : base ≤ w.heap.size)
    (h : ∀ v' w', w'.ownsRow base 26 2 v' (L ++ l).length (pairCells (L ++ l)) → w.grownBy w' v.ownBlock → K (a.put o.dst v') w') :
    if Region.wanted o (yielded ops a.tmps) = true then Oper.wp Tryz.prog o a w K Q else E := by
  have hw : Region.wanted o (yielded ops a.tmps) = true := by simp [Region.wanted, hgd]
  rw [if_pos hw]
  obtain ⟨v', w', hr, h2, h3⟩ := run_append_pairs w o.type base v L hown ra c l hrw h1 hL hl hbase
  unfold Oper.wp execOp
  simp only [ho, resolve, invoke, builtin, Sem.run_bind, Sem.run_pure, Result.andThen_ok, List.map_toArray, List.map_cons, List.map_nil, hs, hx, hr]
  exact h v' w' h2 h3
theorem pairs_ls (a : Option Addr) (w : World) (hT : Tabs w) (h : IsPieces w a 3 3 lsV) : Calls Tryz.prog 8 #[.slice a 3 3] w fun e w' => ∃ v, e = .returned v ∧ ∃ B, w.heap.size ≤ B ∧ w'.ownsRow B 26 2 v rowLs.length (pairCells rowLs) ∧ Ext w w' :=
  wpairs a 3 lsV rowLs w hT h ls_mid ls_made
theorem pairs_sp (a : Option Addr) (w : World) (hT : Tabs w) (h : IsPieces w a 19 19 spV) : Calls Tryz.prog 8 #[.slice a 19 19] w fun e w' => ∃ v, e = .returned v ∧ ∃ B, w.heap.size ≤ B ∧ w'.ownsRow B 26 2 v rowSp.length (pairCells rowSp) ∧ Ext w w' :=
  wpairs a 19 spV rowSp w hT h sp_mid sp_made
set_option maxRecDepth 100000 in
set_option maxHeartbeats 1000000 in
theorem wrows (W : World) (hT : Tabs W) : Calls Tryz.prog 4 #[] W fun e w' => ∃ a cap, e = .returned (.slice a 724 cap) ∧ IsPairs w' a 724 cap rowPairs ∧ Ext W w' := by
  have HT := Lib.hid hT
  have HSP := Lib.hid (fun w => cspans w)
  clear hT
  go_enter Tryz.func4, Tryz.ntmps4
  obtain ⟨V, hV⟩ : ∃ V, V = spC := ⟨_, rfl⟩
  have HV := Lib.hid hV
  rw [← hV] at HSP
  clear hV
  have hVs : V.size = 76 := by rw [HV.out]; rfl
  go_wp2_with (go_at_call 7; refine (HSP.out _).mono ?_; rintro e w1 ⟨rfl, hb1⟩)
  have hg := heap_alloc_new w1 (.cells Tryz.zeroCells30 30)
  have hx := hb1.alloc (.cells Tryz.zeroCells30 30)
  rw [put_spans _ w1.heap.size _ (by simp) hg _ (by rw [HV.out])]
  simp only [Result.andThen]
  rw [Oper.upon_skip]
  obtain ⟨g, hgg⟩ : ∃ g, g = w1.heap.size := ⟨_, rfl⟩
  have hgl : W.heap.size ≤ g := by rw [hgg]; exact hb1.size
  rw [← hgg] at hg ⊢
  generalize w1.alloc (.cells Tryz.zeroCells30 30) = wa at hg hx ⊢
  have hg2 := setRow_heap wa g _ spC _ _ hg
  have hx2 : Ext W (wa.setRow g spC) := ⟨hx.os, hx.tape, hx.output, by rw [size_setRow]; exact hx.size, fun k hk => (setRow_other wa g k spC (by omega)).trans (hx.block k hk)⟩
  generalize wa.setRow g spC = w2 at hg2 hx2 ⊢
  rw [← pvC_eq] at hg2
  have hP : IsPieces w2 (some ⟨g, 0, none⟩) 19 19 spV := pieces_block (T := 30) (l := spV) hg2 (by decide)
  have HPP := Lib.hid hP
  have HLS := Lib.hid (fun w => clists w)
  have HW1 := Lib.hid pairs_ls
  have HW2 := Lib.hid pairs_sp
  obtain ⟨L1, hL1⟩ : ∃ L, L = rowLs := ⟨_, rfl⟩
  obtain ⟨L2, hL2⟩ : ∃ L, L = rowSp := ⟨_, rfl⟩
  have hz1 : L1.length = 233 := by rw [hL1]; exact ls_len
  have hz2 : L2.length = 491 := by rw [hL2]; exact sp_len
  rw [← hL1] at HW1
  rw [← hL2] at HW2
  have HZ1 := Lib.hid hz1
  have HZ2 := Lib.hid hz2
  have HL1 := Lib.hid hL1
  have HL2 := Lib.hid hL2
  clear hg hx hb1 hP hg2 HSP HV hVs hL1 hL2 hgg hz1 hz2
  go_wp2_with fail
  have hxd := hx2.drew
  have hPd := HPP.out.ext ((Ext.refl w2).drew)
  refine wp_region_held_drew (S := (fun _ => True)) (by kernel_rfl) ?_ (fun hHeld => ?_)
  · (try dsimp only); try go_keep
  refine' wpAnyH_take (i := 2) (oi := { dst := some 6, op := _, type := _, pos := _, after := _, guard := _ }) (v := _) ?hixa2 (by kernel_rfl) ?hfxa2 ?hrxa2 ?hqxa2 ?hyxa2 ?hsxa2 ?restxa2
  case hixa2 => exact rfl
  case hfxa2 => kernel_rfl
  case hrxa2 => kernel_rfl
  case hqxa2 => exact fun _ _ _ h => h
  case hsxa2 => assumption
  case hyxa2 =>
    refine Or.inl ⟨by kernel_rfl, ?_⟩
    intro w hSw
    try dsimp only at hSw
    go_simp
    try with_reducible rfl
  try simp only [Act.put, List.setIfInBounds_toArray, List.set_cons_zero, List.set_cons_succ]
  refine wpAnyH_ready (rs := [0]) (by kernel_rfl) (by simp) ?_
  refine' AllReadyH.cons (o := _) ?hixa0 (fun K hK => ?hk0xa0) AllReadyH.nil
  case hixa0 => exact rfl
  go_simp
  go_at_call 9
  refine (HLS.out _).mono ?_
  rintro e w3 ⟨gl, rfl, hl3, hb3⟩
  have hx3 := hxd.trans hb3
  have HPA := Lib.hid (HW1.out _ _ (HT.out.ext hx3) hl3)
  have hP3 := hPd.ext hb3
  clear hl3 hxd hPd hb3
  try go_wp2_with fail
  refine hK.out _ _ ?hS0xa0 (fun hHeld => ?restxa0)
  case hS0xa0 => (try dsimp only); try go_keep
  clear hK K
  try simp only [Act.put, List.setIfInBounds_toArray, List.set_cons_zero, List.set_cons_succ]
  refine wpAnyH_ready (rs := [1]) (by kernel_rfl) (by simp) ?_
  refine' AllReadyH.cons (o := _) ?hixa1 (fun K hK => ?hk0xa1) AllReadyH.nil
  case hixa1 => exact rfl
  go_simp
  go_at_call 8
  refine HPA.out.mono ?_
  rintro e w4 ⟨v4, rfl, B4, hB4, ho4, hb4⟩
  have hx4 := hx3.trans hb4
  have HPB := Lib.hid (HW2.out _ _ (HT.out.ext hx4) (hP3.ext hb4))
  have hB4' := Nat.le_trans hx3.size hB4
  clear hP3 hb4 hx3 HPA
  try go_wp2_with fail
  refine hK.out _ _ ?hS0xa1 (fun hHeld => ?restxa1)
  case hS0xa1 => (try dsimp only); try go_keep
  clear hK K
  try simp only [Act.put, List.setIfInBounds_toArray, List.set_cons_zero, List.set_cons_succ]
  refine wpAnyH_ready (rs := [3]) (by kernel_rfl) (by simp) ?_
  refine' AllReadyH.cons (o := _) ?hixa3 (fun K hK => ?hk0xa3) AllReadyH.nil
  case hixa3 => exact rfl
  go_simp
  go_at_call 8
  refine HPB.out.mono ?_
  rintro e w5 ⟨v5, rfl, B5, hB5, ho5, hb5⟩
  have hx5 := hx4.trans hb5
  have ho4' := own_base (own_ext ho4 hb5) hB4'
  obtain ⟨a5, c5, rfl, hp5⟩ := own_rpairs ho5
  clear hb5 hx4 HPB ho4 ho5
  try go_wp2_with fail
  refine hK.out _ _ ?hS0xa3 (fun hHeld => ?restxa3)
  case hS0xa3 => (try dsimp only); try go_keep
  clear hK K
  try simp only [Act.put, List.setIfInBounds_toArray, List.set_cons_zero, List.set_cons_succ]
  refine wpAnyH_ready (rs := [4]) (by kernel_rfl) (by simp) ?_
  refine' AllReadyH.cons (o := _) ?hixa4 (fun K hK => ?hk0xa4) AllReadyH.nil
  case hixa4 => exact rfl
  refine step_append_pairs _ (by rfl) _ _ (by rfl) W.heap.size v4 L1 (by rfl) ho4' a5 c5 L2 (by rfl) hp5 (by have := HZ2.out; omega) (by have := HZ1.out; omega) (by have := HZ2.out; omega) hx5.size ?_
  intro v6 w6 ho6 hg6
  have hx6 := hx5.own_grown ho4' (Nat.le_refl _) hg6
  clear hp5 hg6 ho4'
  refine hK.out _ _ ?hS0xa4 (fun hHeld => ?restxa4)
  case hS0xa4 => (try dsimp only); try go_keep
  clear hK K
  try simp only [Act.put, List.setIfInBounds_toArray, List.set_cons_zero, List.set_cons_succ]
  refine' wpAnyH_take (i := 5) (oi := { dst := some 2, op := _, type := _, pos := _, after := _, guard := _ }) (v := _) ?hixa5 (by kernel_rfl) ?hfxa5 ?hrxa5 ?hqxa5 ?hyxa5 ?hsxa5 ?restxa5
  case hixa5 => exact rfl
  case hfxa5 => kernel_rfl
  case hrxa5 => kernel_rfl
  case hqxa5 => exact fun _ _ _ h => h
  case hsxa5 => assumption
  case hyxa5 =>
    refine Or.inl ⟨by kernel_rfl, ?_⟩
    intro w hSw
    try dsimp only at hSw
    go_simp
    try with_reducible rfl
  try simp only [Act.put, List.setIfInBounds_toArray, List.set_cons_zero, List.set_cons_succ]
  refine wpAnyH_done (by kernel_rfl) ?_ _
  have hn : (L1 ++ L2).length = 724 := by rw [List.length_append, HZ1.out, HZ2.out]
  rw [hn] at ho6
  obtain ⟨g6, c6, rfl⟩ : ∃ g6 c6, v6 = .slice (some ⟨g6, 0, none⟩) 724 c6 := by
    obtain ⟨_, ⟨h, h0⟩ | ⟨g6, cap, cur, e6, _⟩⟩ := ho6
    · omega
    · exact ⟨g6, cap, e6⟩
  have HS := Lib.hid (sortp_some g6 c6 724 W.heap.size (L1 ++ L2) _ ho6 (by omega))
  have HSS := Lib.hid (fun (ss : List Pr) (h : ss.Perm (L1 ++ L2)) (hs : ss.Pairwise fun x y => x.1 ≤ y.1) => rows_sorted ss (by rw [← HL1.out, ← HL2.out]; exact h) hs)
  have HO6 := Lib.hid ho6
  clear ho6 hn hHeld
  go_wp2_with (go_at_call 10; refine HS.out.mono ?_; rintro e w7 ⟨rfl, ss, hp, hs, ho7, hg7⟩)
  have hxf := hx6.own_grown HO6.out (Nat.le_refl _) hg7
  have hss := HSS.out ss hp hs
  subst hss
  obtain ⟨a7, c7, e7, hp7⟩ := own_rpairs ho7
  have HE := Lib.hid e7
  have HP7 := Lib.hid hp7
  clear hp hs ho7 hg7 hp7 e7
  go_ret
  exact ⟨_, _, HE.out ▸ rfl, HP7.out, hxf⟩
end Go.Proofs.YtmfafdgmggcoiaaGreatDoor
