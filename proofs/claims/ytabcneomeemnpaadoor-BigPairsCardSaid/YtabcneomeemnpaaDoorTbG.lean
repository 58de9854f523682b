/-
  What a table tells: how many codes; a code's sign; a sign's code; all pairs.
  A table over another one.
-/
import Derived.Test.YtabcneomeemnpaaDoorTb19
import Derived.Test.YtabcneomeemnpaaDoorPrr
import Derived.Test.YtabcneomeemnpaaDoorTbE
import Derived.Deep.AppendLies
import Derived.Deep.RegionLaw
namespace Go.Proofs.YtabcneomeemnpaaDoor
open Go Go.ChangeShapes Go.WideShapes Go.ChangeAt Go.RowKit
set_option linter.unusedSimpArgs false
set_option linter.unusedVariables false

theorem table_size (v : Value) (l : List Pr) (w : World) (h : IsTab w v l) :
    Calls Tryd.prog 51 #[v] w fun e w' => e = .returned (.int .i64 l.length) ∧ Ext w w' := by
  obtain ⟨a1, c1, a2, c2, F, G, rfl, h1, h2, rfl, h4, h5, h6, h7, h8, h9, h10⟩ := h
  have HT := Lib.hid (fun w' (k : Ext w w') => total_any a1 c1 F w' (h1.ext k) h4 (Nat.le_trans h9 (by decide)))
  clear h1 h2 h4 h5 h6 h7 h8 h9 h10
  go_enter Tryd.func51, Tryd.ntmps51
  go_wp2_with (go_at_call 61; refine (HT.out _ ((Ext.refl w).alloc _)).mono ?_; rintro e w1 ⟨rfl, hb1⟩)
  go_ret
  exact ⟨rfl, ((Ext.refl w).alloc _).trans hb1⟩
/-! ### All pairs -/
theorem keep_boxT (w : World) (x y : Value) (T : TypeId) : Keep w [(⟨w.heap.size, 0, none⟩, x), (⟨w.heap.size, 1, none⟩, y)] (w.alloc (.cells #[x, y] T)) := by
  obtain ⟨h1, h2, _⟩ := cells_two (heap_alloc_new w (.cells #[x, y] T))
  exact ⟨(Ext.refl w).alloc _, h1, h2, trivial⟩
/-- The first pairs of a row. -/
def firstR (rf rt : Int) (j : Nat) : List Pr := pairsN rf (fun (i : Nat) => rt + (i : Int)) j
theorem firstR_succ (rf rt : Int) (j : Nat) : firstR rf rt (j + 1) = firstR rf rt j ++ [(rf + (j : Int), rt + (j : Int))] := pairsN_succ _ _ _
set_option maxHeartbeats 4000000 in
set_option maxRecDepth 100000 in
theorem table_pairs_own (v : Value) (l : List Pr) (w : World) (h : IsTab w v l) :
    Calls Tryd.prog 40 #[v] w fun e w' => ∃ v' : Value, e = .returned v' ∧ ∃ B : Nat, w.heap.size ≤ B ∧ w'.ownsRow B 41 2 v' l.length (pairCells l) ∧ Ext w w' := by
  have hsz := fun w' (k : Ext w w') => table_size v l w' (h.ext k)
  obtain ⟨a1, c1, a2, c2, F, G, rfl, h1, h2, he, h4, h5, h6, h7, h8, h9, h10⟩ := h
  have HSZ := Lib.hid hsz
  have HE := Lib.hid he
  have HG := Lib.hid h4
  have HF := Lib.hid h8
  have HL : Hid (tot F = l.length) := by show (expL F).length = _; rw [he]
  obtain ⟨m, hm⟩ : ∃ m, m = l.length := ⟨_, rfl⟩
  have HM := Lib.hid hm
  rw [← hm] at HSZ h9 ⊢
  have hll : F.length ≤ 10000000 := by
    have := rows_le h4
    rw [he] at this
    omega
  have hk := keep_boxT w (.slice a1 F.length c1) (.slice a2 G.length c2) 79
  have HK := Lib.hid hk
  clear hsz h2 he h4 h5 h6 h7 h8 h10 hm hk
  go_enter Tryd.func40, Tryd.ntmps40
  go_wp2_with (go_at_call 51; refine (HSZ.out _ ((Ext.refl w).alloc _)).mono ?_; rintro e w1 ⟨rfl, hb1⟩; have hC := HK.out.ext hb1; obtain ⟨k0, k1, _⟩ := hC.2; obtain ⟨wm, hmk, hown, hgm⟩ := make_rpairs m (by omega) w1; have hx1 : Ext w1 wm := (Ext.refl w1).grown hgm (.inl rfl); obtain ⟨k2, k3, _⟩ := (hC.ext hx1).2)
  have ho0 := hown w1.heap.size (Nat.le_refl _)
  have HX1 := Lib.hid hC.1
  obtain ⟨i0, hi, hz0, hz1, hz2⟩ := info_parts_rpair
  clear hmk hown hgm k0 k1 k2 k3 hC hb1
  go_loopw [3, 13] (fun v i wr => ∃ (k : Nat) (ps : List Pr), k ≤ F.length ∧ i = .int .i64 k ∧ wr.ownsRow w1.heap.size 41 2 v ps.length (pairCells ps) ∧ Hid (ps = expL (F.take k)) ∧ Ext w1 wr) (fun _ i _ => F.length - (intOf i).toNat)
  case atStart => exact ⟨0, [], by omega, rfl, ho0, rfl, hx1⟩
  case round =>
    obtain ⟨k, ps, hk, rfl, ho, HP, hx⟩ := hrel
    clear ho0 hx1
    by_cases hlt : k < F.length
    · obtain ⟨x, off, r, rfl, hxl, hr, hcell⟩ := rws_at h1 hlt
      obtain ⟨c0, c1', c2'⟩ := hcell wr (HX1.out.trans hx)
      have hgr := HG.out r (List.mem_of_getElem? hr)
      have HTK := Lib.hid (expL_take hr)
      have htk := tot_take hr
      have htl := tot_take_le F (k + 1)
      have hfit : ∀ q ∈ expR r, 0 ≤ q.1 ∧ q.1 < 1048576 ∧ 0 ≤ q.2 ∧ q.2 ≤ 1114111 := fun q hq => HF.out q (by rw [← HE.out]; exact mem_expL.2 ⟨r, List.mem_of_getElem? hr, hq⟩)
      obtain ⟨rf, rt, rn⟩ := r
      unfold GoodR at hgr
      obtain ⟨g0, g1, g2, g3, g4⟩ := hgr
      simp only at c0 c1' c2' g0 g1 g2 g3 g4
      have ht1 : (tot [(⟨rf, rt, rn⟩ : Rw)] : Int) = rn := tot_one (r := ⟨rf, rt, rn⟩) (by show 0 ≤ rn; omega)
      have hzl : ps.length = tot (F.take k) := by rw [HP.out]; rfl
      have hl2 := HL.out
      have hl3 := HM.out
      obtain ⟨n, rfl⟩ : ∃ n : Nat, rn = (n : Int) := ⟨tot [⟨rf, rt, rn⟩], ht1.symm⟩
      have hzn : ps.length + n ≤ 10000000 := by omega
      clear hcell hr htk htl ht1 hzl hl2 hl3 hfit
      go_wp2
      have hxo := hx.alloc (.cells #[.int .i64 rf, .int .i64 rt, .int .i64 (n : Int)] 97)
      have hbox := heap_alloc_new wr (.cells #[.int .i64 rf, .int .i64 rt, .int .i64 (n : Int)] 97)
      have hoo := ho.alloc (.cells #[.int .i64 rf, .int .i64 rt, .int .i64 (n : Int)] 97)
      obtain ⟨b, hb⟩ : ∃ b, b = wr.heap.size := ⟨_, rfl⟩
      rw [← hb] at hbox ⊢
      generalize wr.alloc (.cells #[.int .i64 rf, .int .i64 rt, .int .i64 (n : Int)] 97) = wo at hxo hbox hoo ⊢
      clear ho hb c0 c1' c2' hx
      go_loopw [3, 19] (fun v i wr => ∃ (j : Nat), j ≤ n ∧ i = .int .i64 j ∧ wr.ownsRow w1.heap.size 41 2 v (ps.length + j) (pairCells (ps ++ firstR rf rt j)) ∧ Hid (wr.heap[b]? = some (.cells #[.int .i64 rf, .int .i64 rt, .int .i64 (n : Int)] 97 (0, 0))) ∧ Ext w1 wr) (fun _ i _ => n - (intOf i).toNat)
      case atStart => exact ⟨0, by omega, rfl, by simpa [firstR, pairsN] using hoo, hbox, hxo⟩
      case round =>
        obtain ⟨j, hjn, rfl, ho, HB, hxi⟩ := hrel
        clear hoo hbox hxo
        have hszi := hxi.size
        by_cases hlt2 : j < n
        · obtain ⟨d0, d1, d2⟩ := cells_three HB.out
          have hblt := lt_of_block HB.out
          go_wp2_with ((at_builtin; refine wpList_append_own _ rfl _ _ 37 rfl (w1.heap.size) 41 i0 (.agg #[.int .i64 0, .int .i32 0]) 2 16 Tryd.underlying37 hi hz0 hz1 hz2 rfl (by decide) _ _ _ rfl (ho.alloc _) ⟨wr.heap.size, 0, none⟩ 1 1 [.int .i64 (rf + (j : Int)), .int .i32 (rt + (j : Int))] rfl rfl (cell_two_new _ _ _ _) (fun x hx => by simp at hx; rcases hx with rfl | rfl <;> rfl) (by unfold maxLen; omega) (by omega) (by simp; omega) ?_; intro v5 w5 hown5 hgrow5 hnil5; clear hnil5; have hx5 := hxi.own ho (Nat.le_refl _) hgrow5; have HB5 := Lib.hid ((Only.of_grown (ho.alloc _) hgrow5).box ((Below.heap_alloc _ _ _ hblt).trans HB.out) (by decide)); clear hgrow5))
          go_roundw
          case rel =>
            refine ⟨j + 1, by omega, by go_num, ?_, HB5, hx5⟩
            rw [firstR_succ, ← List.append_assoc, pairCells_app, pairCells_one]
            exact hown5
          case measure => simp [intOf]; omega
        · have hjn2 : j = n := by omega
          subst hjn2
          have hzz : ps ++ firstR rf rt j = expL (F.take (k + 1)) := by
            rw [HTK.out, ← HP.out]
            congr 1
          have hlz : ps.length + j = (ps ++ firstR rf rt j).length := by
            rw [List.length_append]
            unfold firstR
            rw [pairsN_len]
          have HZZ := Lib.hid hzz
          rw [hlz] at ho
          clear hzz hlz
          go_wp2
          go_roundw
          case rel => exact ⟨k + 1, ps ++ firstR rf rt j, by omega, by go_num, ho, HZZ, hxi⟩
          case measure => simp [intOf]; omega
    · have hkl : k = F.length := by omega
      have hpe : ps = l := by have := HP.out; rw [hkl, List.take_length, HE.out] at this; exact this
      subst hpe
      have HM2 := HM.out
      subst HM2
      have HO := Lib.hid ho
      clear ho
      go_wp2
      go_ret
      exact ⟨_, rfl, _, HX1.out.size, HO.out, HX1.out.trans hx⟩
theorem table_pairs (v : Value) (l : List Pr) (w : World) (h : IsTab w v l) :
    Calls Tryd.prog 40 #[v] w fun e w' => ∃ a cap, e = .returned (.slice a l.length cap) ∧ IsPairs w' a l.length cap l ∧ Ext w w' := by
  refine (table_pairs_own v l w h).mono ?_
  rintro e w' ⟨v', rfl, B, _, ho, hx⟩
  obtain ⟨a', cap', rfl, hrow⟩ := own_rpairs ho
  exact ⟨a', cap', rfl, hrow, hx⟩
end Go.Proofs.YtabcneomeemnpaaDoor
namespace Go.Proofs.YtabcneomeemnpaaDoor
open Go Go.ChangeShapes Go.WideShapes Go.ChangeAt Go.RowKit
set_option linter.unusedSimpArgs false
set_option linter.unusedVariables false

section
variable {P : Program} (w : World)
theorem run_append_empty (t ty e : TypeId) (i : TypeInfo) (ht : P.underlying t = some (.slice e)) (hi : P.info? e = some i) (base size : Nat) (v : Value) (n : Nat) (xs : List Value) (hown : w.ownsRow base e size v n xs) (ra : Option Addr) (c : Nat) :
    (Builtin.append_ #[t, t] ty #[v, .slice ra 0 c]).run P w = .ok v w := by
  obtain ⟨_, ⟨rfl, rfl⟩ | ⟨g, cap, cur, rfl, hg, hh, hn, _⟩⟩ := hown
  · cases ra <;> simp [Builtin.append_, run_underlying ht, sizeOf, typeInfo, hi, Builtin.lenOf, Builtin.firstCells, loadCells, loadCellsFrom]
  · cases ra <;> simp [Builtin.append_, run_underlying ht, sizeOf, typeInfo, hi, Builtin.lenOf, Builtin.firstCells, loadCells, loadCellsFrom, hn, storeCells]
end
theorem run_append_rows (w : World) (ty : TypeId) (base : Nat) (v : Value) (L : List Rw) (hown : w.ownsRow base 97 3 v L.length (rowCells L)) (ra : Option Addr) (c : Nat) (l : List Rw) (hrw : IsRws w ra l.length c l) (hL : L.length ≤ 100000000) (hl : l.length ≤ 100000000) (hbase : base ≤ w.heap.size) :
    ∃ v' w', (Builtin.append_ #[77, 77] ty #[v, .slice ra l.length c]).run Tryd.prog w = .ok v' w' ∧ w'.ownsRow base 97 3 v' (L ++ l).length (rowCells (L ++ l)) ∧ w.grownBy w' v.ownBlock := by
  obtain ⟨i0, hi, hz0, hz1, hz2⟩ := info_parts_row
  by_cases h0 : l.length = 0
  · have hr := run_append_empty (P := Tryd.prog) w 77 ty 97 i0 Tryd.underlying77 hi base 3 v L.length (rowCells L) hown ra c
    obtain rfl := List.eq_nil_of_length_eq_zero h0
    exact ⟨v, w, hr, by rw [List.append_nil]; exact hown, rfl, rfl, rfl, Nat.le_refl _, fun _ _ _ => rfl⟩
  · obtain ⟨x, off, rfl, hx, hnews⟩ := rws_news hrw (by omega)
    obtain ⟨v', w', h1, h2, h3, _⟩ := run_append_own (P := Tryd.prog) w base 77 ty 97 i0 (.agg #[.int .i64 0, .int .i64 0, .int .i64 0]) 3 24 Tryd.underlying77 hi hz0 hz1 hz2 rfl (by decide) v L.length (rowCells L) hown ⟨x, off, none⟩ l.length c (rowCells l) (rowCells_len l) hnews rowCells_cell (by unfold maxLen; omega) (by omega) hbase
    exact ⟨v', w', h1, by rw [List.length_append, rowCells_app]; exact h2, h3⟩
theorem step_append_rows (w : World) {ops : Array Oper} {o : Oper} {a : Act} {K : Act → World → Prop} {Q : Exit → Act → World → Prop} {E : Prop} (hgd : o.guard = none) (s x : Operand)
    (ho : o.op = .call { callee := .builtin .append, args := #[s, x], argTypes := #[77, 77] })
    (base : Nat) (v : Value) (L : List Rw) (hs : a.eval s = v) (hown : w.ownsRow base 97 3 v L.length (rowCells L)) (ra : Option Addr) (c : Nat) (l : List Rw) (hx : a.eval x = .slice ra l.length c) (hrw : IsRws w ra l.length c l) (hL : L.length ≤ 100000000) (hl : l.length ≤ 100000000) (hbase : base ≤ w.heap.size)
    (h : ∀ v' w', w'.ownsRow base 97 3 v' (L ++ l).length (rowCells (L ++ l)) → w.grownBy w' v.ownBlock → K (a.put o.dst v') w') :
    if Region.wanted o (yielded ops a.tmps) = true then Oper.wp Tryd.prog o a w K Q else E := by
  have hw : Region.wanted o (yielded ops a.tmps) = true := by simp [Region.wanted, hgd]
  rw [if_pos hw]
  obtain ⟨v', w', hr, h2, h3⟩ := run_append_rows w o.type base v L hown ra c l hrw hL hl hbase
  unfold Oper.wp execOp
  simp only [ho, resolve, invoke, builtin, Sem.run_bind, Sem.run_pure, Result.andThen_ok, List.map_toArray, List.map_cons, List.map_nil, hs, hx, hr]
  exact h v' w' h2 h3
theorem over_rows {F H left : List Rw} {l m : List Pr} (hF : expL F = l) (hH : expL H = m) (gF : GoodL F) (gH : GoodL H) (rl : Rising l) (rm : Rising m) (gl : GoodL left) (hl : expL left = (expL H).filter (outB F)) : RowsOk (overP l m) (left ++ F) := by
  have ho := (rising_overP rl rm).2
  subst hF hH
  refine ⟨gl.app gF, ?_, fun q => ?_⟩
  · rw [expL_app, hl]
    refine once_app.2 ⟨rm.once.filter _, rl.once, fun p hp q hq e => ?_⟩
    have h1 := (List.mem_filter.1 hp).2
    exact (outB_has gF).1 h1 ⟨q, hq, e.symm⟩
  · rw [expL_app, List.mem_append, hl, List.mem_filter, ho q, outB_has gF]
    exact ⟨fun h => h.elim .inr .inl, fun h => h.elim .inr .inl⟩
theorem over_fit {l m : List Pr} (rl : Rising l) (rm : Rising m) (fl : Fit l) (fm : Fit m) : Fit (overP l m) := by
  intro q hq
  rcases ((rising_overP rl rm).2 q).1 hq with h | h
  · exact fl q h
  · exact fm q h.1
theorem over_from {l m : List Pr} (rl : Rising l) (rm : Rising m) (fl : From0 l) (fm : From0 m) : From0 (overP l m) := by
  intro q hq
  rcases ((rising_overP rl rm).2 q).1 hq with h | h
  · exact fl q h
  · exact fm q h.1
theorem over_len (l m : List Pr) : (overP l m).length ≤ l.length + m.length := overP_len l m l
theorem set_far2 (w : World) (b c : Nat) (hne : b ≠ c) (u v : Value) (o : Nat) : ((w.setCell ⟨b, 0, none⟩ u).setCell ⟨b, 1, none⟩ v).cell? ⟨c, o, none⟩ = w.cell? ⟨c, o, none⟩ := by
  rw [World.cell?_setCell_far _ _ _ _ hne, World.cell?_setCell_far _ _ _ _ hne]
theorem rising_args {l : List Pr} {R : List Rw} (h : RowsOk l R) : GoodL R ∧ Once (expL R) ∧ ∀ q, q ∈ expL R ↔ q ∈ l := h
theorem to_table {w : World} {a : Option Addr} {c : Nat} {out : List Rw} {l : List Pr} (hw : IsRws w a out.length c out) (hg : GoodL out) (he : expL out = l) (hr : Rising l) (hf : Fit l) (hl : l.length ≤ 10000000) :
    Calls Tryd.prog 49 #[.slice a out.length c] w fun e w' => ∃ v, e = .returned v ∧ IsTab w' v l ∧ Ext w w' := by
  subst he
  exact tableOf_any a c out w hw hg hr hf hl
end Go.Proofs.YtabcneomeemnpaaDoor
