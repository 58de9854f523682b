/-
  What a table tells: how many codes; a code's sign; a sign's code; all pairs.
  A table over another one.
-/
import Derived.Test.YtjlghdlbkibneaaDoorTb19
import Derived.Test.YtjlghdlbkibneaaDoorPrr
import Derived.Test.YtjlghdlbkibneaaDoorTbE
import Derived.Deep.AppendLies
import Derived.Deep.RegionLaw
namespace Go.Proofs.YtjlghdlbkibneaaDoor
open Go Go.ChangeShapes Go.WideShapes Go.ChangeAt Go.RowKit
set_option linter.unusedSimpArgs false
set_option linter.unusedVariables false

theorem table_size (v : Value) (l : List Pr) (w : World) (h : IsTab w v l) :
    Calls Tryd.prog 16 #[v] w fun e w' => e = .returned (.int .i64 l.length) ∧ Ext w w' := by
  obtain ⟨a1, c1, a2, c2, F, G, rfl, h1, h2, rfl, h4, h5, h6, h7, h8, h9, h10⟩ := h
  have HT := Lib.hid (fun w' (k : Ext w w') => total_any a1 c1 F w' (h1.ext k) h4 (Nat.le_trans h9 (by decide)))
  clear h1 h2 h4 h5 h6 h7 h8 h9 h10
  go_enter Tryd.func16, Tryd.ntmps16
  go_wp2_with (go_at_call 44; refine (HT.out _ ((Ext.refl w).alloc _)).mono ?_; rintro e w1 ⟨rfl, hb1⟩)
  go_ret
  exact ⟨rfl, ((Ext.refl w).alloc _).trans hb1⟩
theorem fwd_yes (v : Value) (l : List Pr) (q : Pr) (w : World) (h : IsTab w v l) (hq : q ∈ l) :
    Calls Tryd.prog 19 #[v, .int .i64 q.1] w fun e w' => e = .returned (.tuple #[.int .i32 q.2, .bool true]) ∧ Ext w w' := by
  obtain ⟨a1, c1, a2, c2, F, G, rfl, h1, h2, he, h4, h5, h6, h7, h8, h9, h10⟩ := h
  obtain ⟨k, r, hk, g1, g2, g3⟩ := tab_yes he h4 hq rfl
  have hfit := h8 q hq
  have hll : F.length ≤ 1000000000 := by
    have := rows_le h4
    rw [he] at this
    omega
  have hrr : RisingR F := (rising_expL h4).1 (by rw [he]; exact h7)
  have HT : Hid (∀ w', Ext w w' → Calls Tryd.prog 45 #[.slice a1 F.length c1, .int .i64 q.1] w' fun e w'' => e = .returned (.tuple #[.int .i64 q.2, .bool true]) ∧ Ext w' w'') := fun w' k2 => by
    have := find_yes a1 c1 F q.1 k r w' (h1.ext k2) h4 hrr hll hk g1 g2
    rwa [g3] at this
  obtain ⟨c, p⟩ := q
  obtain ⟨f1, f2, f3, f4⟩ := hfit
  simp only at f1 f2 f3 f4
  have HT : Hid (∀ w', Ext w w' → Calls Tryd.prog 45 #[.slice a1 F.length c1, .int .i64 c] w' fun e w'' => e = .returned (.tuple #[.int .i64 p, .bool true]) ∧ Ext w' w'') := HT
  show Calls Tryd.prog 19 #[.agg #[.slice a1 F.length c1, .slice a2 G.length c2], .int .i64 c] w fun e w' => e = .returned (.tuple #[.int .i32 p, .bool true]) ∧ Ext w w'
  clear h1 h2 he h4 h5 h6 h7 h8 h9 h10 hk g1 g2 g3 hq hrr hll
  go_enter Tryd.func19, Tryd.ntmps19
  go_wp2_with (go_at_call 45; refine (HT.out _ ((Ext.refl w).alloc _)).mono ?_; rintro e w1 ⟨rfl, hb1⟩)
  go_ret2
  exact ⟨rfl, ((Ext.refl w).alloc _).trans hb1⟩
theorem fwd_no (v : Value) (l : List Pr) (c : Int) (w : World) (h : IsTab w v l) (hn : ¬ has l c) :
    Calls Tryd.prog 19 #[v, .int .i64 c] w fun e w' => e = .returned (.tuple #[.int .i32 0, .bool false]) ∧ Ext w w' := by
  obtain ⟨a1, c1, a2, c2, F, G, rfl, h1, h2, he, h4, h5, h6, h7, h8, h9, h10⟩ := h
  have hll : F.length ≤ 1000000000 := by
    have := rows_le h4
    rw [he] at this
    omega
  have hrr : RisingR F := (rising_expL h4).1 (by rw [he]; exact h7)
  have HT := Lib.hid (fun w' (k2 : Ext w w') => find_no a1 c1 F c w' (h1.ext k2) h4 hrr hll (tab_no he h4 hn))
  clear h1 h2 he h4 h5 h6 h7 h8 h9 h10 hrr hll hn
  go_enter Tryd.func19, Tryd.ntmps19
  go_wp2_with (go_at_call 45; refine (HT.out _ ((Ext.refl w).alloc _)).mono ?_; rintro e w1 ⟨rfl, hb1⟩)
  go_ret2
  exact ⟨rfl, ((Ext.refl w).alloc _).trans hb1⟩
theorem rev_yes_any (v : Value) (l : List Pr) (p c : Int) (w : World) (h : IsTab w v l) (hf : From0 l) (hc : revP l p = c) (hp : ¬ c < 0) :
    Calls Tryd.prog 21 #[v, .int .i32 p] w fun e w' => e = .returned (.tuple #[.int .i64 c, .bool true]) ∧ Ext w w' := by
  obtain ⟨a1, c1, a2, c2, F, G, rfl, h1, h2, he, h4, h5, h6, h7, h8, h9, h10⟩ := h
  have hmem := rev_yes h6 h7 hf (p := p) (by rw [hc]; exact hp)
  rw [hc] at hmem
  have hfit := rev_fit h6 h8 _ hmem
  obtain ⟨k, r, hk, g1, g2, g3⟩ := tab_yes (l := expL G) rfl h5 hmem rfl
  have hll : G.length ≤ 1000000000 := by omega
  have hrr : RisingR G := (rising_expL h5).1 h6.1
  have HT : Hid (∀ w', Ext w w' → Calls Tryd.prog 45 #[.slice a2 G.length c2, .int .i64 p] w' fun e w'' => e = .returned (.tuple #[.int .i64 c, .bool true]) ∧ Ext w' w'') := fun w' k2 => by
    have := find_yes a2 c2 G p k r w' (h2.ext k2) h5 hrr hll hk g1 g2
    rwa [g3] at this
  simp only at hfit
  obtain ⟨f1, f2, f3, f4⟩ := hfit
  clear h1 h2 he h4 h5 h6 h7 h8 h9 h10 hk g1 g2 g3 hrr hll hmem hc hf
  go_enter Tryd.func21, Tryd.ntmps21
  go_wp2_with (go_at_call 45; refine (HT.out _ ((Ext.refl w).alloc _)).mono ?_; rintro e w1 ⟨rfl, hb1⟩)
  go_ret2
  exact ⟨rfl, ((Ext.refl w).alloc _).trans hb1⟩
theorem rev_no_any (v : Value) (l : List Pr) (p : Int) (w : World) (h : IsTab w v l) (hf : From0 l) (hc : revP l p < 0) (hp0 : -2147483648 ≤ p) (hp1 : p ≤ 2147483647) :
    Calls Tryd.prog 21 #[v, .int .i32 p] w fun e w' => e = .returned (.tuple #[.int .i64 0, .bool false]) ∧ Ext w w' := by
  obtain ⟨a1, c1, a2, c2, F, G, rfl, h1, h2, he, h4, h5, h6, h7, h8, h9, h10⟩ := h
  have hll : G.length ≤ 1000000000 := by omega
  have hrr : RisingR G := (rising_expL h5).1 h6.1
  have HT := Lib.hid (fun w' (k2 : Ext w w') => find_no a2 c2 G p w' (h2.ext k2) h5 hrr hll (tab_no (l := expL G) rfl h5 (rev_no h6 h7 hf hc)))
  clear h1 h2 he h4 h5 h6 h7 h8 h9 h10 hrr hll hf hc
  go_enter Tryd.func21, Tryd.ntmps21
  go_wp2_with (go_at_call 45; refine (HT.out _ ((Ext.refl w).alloc _)).mono ?_; rintro e w1 ⟨rfl, hb1⟩)
  go_ret2
  exact ⟨rfl, ((Ext.refl w).alloc _).trans hb1⟩
/-! ### All pairs -/
theorem keep_boxT (w : World) (x y : Value) (T : TypeId) : Keep w [(⟨w.heap.size, 0, none⟩, x), (⟨w.heap.size, 1, none⟩, y)] (w.alloc (.cells #[x, y] T)) := by
  obtain ⟨h1, h2, _⟩ := cells_two (heap_alloc_new w (.cells #[x, y] T))
  exact ⟨(Ext.refl w).alloc _, h1, h2, trivial⟩
/-- The first pairs of a row. -/
def firstR (rf rt : Int) (j : Nat) : List Pr := pairsN rf (fun (i : Nat) => rt + (i : Int)) j
theorem firstR_succ (rf rt : Int) (j : Nat) : firstR rf rt (j + 1) = firstR rf rt j ++ [(rf + (j : Int), rt + (j : Int))] := pairsN_succ _ _ _
set_option maxHeartbeats 4000000 in
set_option maxRecDepth 100000 in
theorem table_pairs (v : Value) (l : List Pr) (w : World) (h : IsTab w v l) :
    Calls Tryd.prog 26 #[v] w fun e w' => ∃ a cap, e = .returned (.slice a l.length cap) ∧ IsPairs w' a l.length cap l ∧ Ext w w' := by
  have hsz := fun w' (k : Ext w w') => table_size v l w' (h.ext k)
  obtain ⟨a1, c1, a2, c2, F, G, rfl, h1, h2, he, h4, h5, h6, h7, h8, h9, h10⟩ := h
  have HSZ := Lib.hid hsz
  have HE := Lib.hid he
  have HG := Lib.hid h4
  have HF := Lib.hid h8
  have HL : Hid (tot F = l.length) := by show (expL F).length = _; rw [he]
  obtain ⟨m, hm⟩ : ∃ m, m = l.length := ⟨_, rfl⟩
  have HM := Lib.hid hm
  rw [← hm] at HSZ h9 ⊢
  have hll : F.length ≤ 10000000 := by
    have := rows_le h4
    rw [he] at this
    omega
  have hk := keep_boxT w (.slice a1 F.length c1) (.slice a2 G.length c2) 27
  have HK := Lib.hid hk
  clear hsz h2 he h4 h5 h6 h7 h8 h10 hm hk
  go_enter Tryd.func26, Tryd.ntmps26
  go_wp2_with (go_at_call 16; refine (HSZ.out _ ((Ext.refl w).alloc _)).mono ?_; rintro e w1 ⟨rfl, hb1⟩; have hC := HK.out.ext hb1; obtain ⟨k0, k1, _⟩ := hC.2; obtain ⟨wm, hmk, hown, hgm⟩ := make_rpairs m (by omega) w1; have hx1 : Ext w1 wm := (Ext.refl w1).grown hgm (.inl rfl); obtain ⟨k2, k3, _⟩ := (hC.ext hx1).2)
  have ho0 := hown w1.heap.size (Nat.le_refl _)
  have HX1 := Lib.hid hC.1
  obtain ⟨i0, hi, hz0, hz1, hz2⟩ := info_parts_rpair
  clear hmk hown hgm k0 k1 k2 k3 hC hb1
  go_loopw [3, 13] (fun v i wr => ∃ (k : Nat) (ps : List Pr), k ≤ F.length ∧ i = .int .i64 k ∧ wr.ownsRow w1.heap.size 53 2 v ps.length (pairCells ps) ∧ Hid (ps = expL (F.take k)) ∧ Ext w1 wr) (fun _ i _ => F.length - (intOf i).toNat)
  case atStart => exact ⟨0, [], by omega, rfl, ho0, rfl, hx1⟩
  case round =>
    obtain ⟨k, ps, hk, rfl, ho, HP, hx⟩ := hrel
    clear ho0 hx1
    by_cases hlt : k < F.length
    · obtain ⟨x, off, r, rfl, hxl, hr, hcell⟩ := rws_at h1 hlt
      obtain ⟨c0, c1', c2'⟩ := hcell wr (HX1.out.trans hx)
      have hgr := HG.out r (List.mem_of_getElem? hr)
      have HTK := Lib.hid (expL_take hr)
      have htk := tot_take hr
      have htl := tot_take_le F (k + 1)
      have hfit : ∀ q ∈ expR r, 0 ≤ q.1 ∧ q.1 < 1048576 ∧ 0 ≤ q.2 ∧ q.2 ≤ 1114111 := fun q hq => HF.out q (by rw [← HE.out]; exact mem_expL.2 ⟨r, List.mem_of_getElem? hr, hq⟩)
      obtain ⟨rf, rt, rn⟩ := r
      unfold GoodR at hgr
      obtain ⟨g0, g1, g2, g3, g4⟩ := hgr
      simp only at c0 c1' c2' g0 g1 g2 g3 g4
      have ht1 : (tot [(⟨rf, rt, rn⟩ : Rw)] : Int) = rn := tot_one (r := ⟨rf, rt, rn⟩) (by show 0 ≤ rn; omega)
      have hzl : ps.length = tot (F.take k) := by rw [HP.out]; rfl
      have hl2 := HL.out
      have hl3 := HM.out
      obtain ⟨n, rfl⟩ : ∃ n : Nat, rn = (n : Int) := ⟨tot [⟨rf, rt, rn⟩], ht1.symm⟩
      have hzn : ps.length + n ≤ 10000000 := by omega
      clear hcell hr htk htl ht1 hzl hl2 hl3 hfit
      go_wp2
      have hxo := hx.alloc (.cells #[.int .i64 rf, .int .i64 rt, .int .i64 (n : Int)] 90)
      have hbox := heap_alloc_new wr (.cells #[.int .i64 rf, .int .i64 rt, .int .i64 (n : Int)] 90)
      have hoo := ho.alloc (.cells #[.int .i64 rf, .int .i64 rt, .int .i64 (n : Int)] 90)
      obtain ⟨b, hb⟩ : ∃ b, b = wr.heap.size := ⟨_, rfl⟩
      rw [← hb] at hbox ⊢
      generalize wr.alloc (.cells #[.int .i64 rf, .int .i64 rt, .int .i64 (n : Int)] 90) = wo at hxo hbox hoo ⊢
      clear ho hb c0 c1' c2' hx
      go_loopw [3, 19] (fun v i wr => ∃ (j : Nat), j ≤ n ∧ i = .int .i64 j ∧ wr.ownsRow w1.heap.size 53 2 v (ps.length + j) (pairCells (ps ++ firstR rf rt j)) ∧ Hid (wr.heap[b]? = some (.cells #[.int .i64 rf, .int .i64 rt, .int .i64 (n : Int)] 90 (0, 0))) ∧ Ext w1 wr) (fun _ i _ => n - (intOf i).toNat)
      case atStart => exact ⟨0, by omega, rfl, by simpa [firstR, pairsN] using hoo, hbox, hxo⟩
      case round =>
        obtain ⟨j, hjn, rfl, ho, HB, hxi⟩ := hrel
        clear hoo hbox hxo
        have hszi := hxi.size
        by_cases hlt2 : j < n
        · obtain ⟨d0, d1, d2⟩ := cells_three HB.out
          have hblt := lt_of_block HB.out
          go_wp2_with ((at_builtin; refine wpList_append_own _ rfl _ _ 51 rfl (w1.heap.size) 53 i0 (.agg #[.int .i64 0, .int .i32 0]) 2 16 Tryd.underlying51 hi hz0 hz1 hz2 rfl (by decide) _ _ _ rfl (ho.alloc _) ⟨wr.heap.size, 0, none⟩ 1 1 [.int .i64 (rf + (j : Int)), .int .i32 (rt + (j : Int))] rfl rfl (cell_two_new _ _ _ _) (fun x hx => by simp at hx; rcases hx with rfl | rfl <;> rfl) (by unfold maxLen; omega) (by omega) (by simp; omega) ?_; intro v5 w5 hown5 hgrow5 hnil5; clear hnil5; have hx5 := hxi.own ho (Nat.le_refl _) hgrow5; have HB5 := Lib.hid ((Only.of_grown (ho.alloc _) hgrow5).box ((Below.heap_alloc _ _ _ hblt).trans HB.out) (by decide)); clear hgrow5))
          go_roundw
          case rel =>
            refine ⟨j + 1, by omega, by go_num, ?_, HB5, hx5⟩
            rw [firstR_succ, ← List.append_assoc, pairCells_app, pairCells_one]
            exact hown5
          case measure => simp [intOf]; omega
        · have hjn2 : j = n := by omega
          subst hjn2
          have hzz : ps ++ firstR rf rt j = expL (F.take (k + 1)) := by
            rw [HTK.out, ← HP.out]
            congr 1
          have hlz : ps.length + j = (ps ++ firstR rf rt j).length := by
            rw [List.length_append]
            unfold firstR
            rw [pairsN_len]
          have HZZ := Lib.hid hzz
          rw [hlz] at ho
          clear hzz hlz
          go_wp2
          go_roundw
          case rel => exact ⟨k + 1, ps ++ firstR rf rt j, by omega, by go_num, ho, HZZ, hxi⟩
          case measure => simp [intOf]; omega
    · have hkl : k = F.length := by omega
      have hpe : ps = l := by have := HP.out; rw [hkl, List.take_length, HE.out] at this; exact this
      subst hpe
      obtain ⟨a', cap', rfl, hrow⟩ := own_rpairs ho
      have HM2 := HM.out
      subst HM2
      clear ho
      go_wp2
      go_ret
      exact ⟨a', cap', rfl, hrow, HX1.out.trans hx⟩
end Go.Proofs.YtjlghdlbkibneaaDoor
namespace Go.Proofs.YtjlghdlbkibneaaDoor
open Go Go.ChangeShapes Go.WideShapes Go.ChangeAt Go.RowKit
set_option linter.unusedSimpArgs false
set_option linter.unusedVariables false

section
variable {P : Program} (w : World)
theorem run_append_empty (t ty e : TypeId) (i : TypeInfo) (ht : P.underlying t = some (.slice e)) (hi : P.info? e = some i) (base size : Nat) (v : Value) (n : Nat) (xs : List Value) (hown : w.ownsRow base e size v n xs) (ra : Option Addr) (c : Nat) :
    (Builtin.append_ #[t, t] ty #[v, .slice ra 0 c]).run P w = .ok v w := by
  obtain ⟨_, ⟨rfl, rfl⟩ | ⟨g, cap, cur, rfl, hg, hh, hn, _⟩⟩ := hown
  · cases ra <;> simp [Builtin.append_, run_underlying ht, sizeOf, typeInfo, hi, Builtin.lenOf, Builtin.firstCells, loadCells, loadCellsFrom]
  · cases ra <;> simp [Builtin.append_, run_underlying ht, sizeOf, typeInfo, hi, Builtin.lenOf, Builtin.firstCells, loadCells, loadCellsFrom, hn, storeCells]
end
theorem run_append_rows (w : World) (ty : TypeId) (base : Nat) (v : Value) (L : List Rw) (hown : w.ownsRow base 90 3 v L.length (rowCells L)) (ra : Option Addr) (c : Nat) (l : List Rw) (hrw : IsRws w ra l.length c l) (hL : L.length ≤ 100000000) (hl : l.length ≤ 100000000) (hbase : base ≤ w.heap.size) :
    ∃ v' w', (Builtin.append_ #[25, 25] ty #[v, .slice ra l.length c]).run Tryd.prog w = .ok v' w' ∧ w'.ownsRow base 90 3 v' (L ++ l).length (rowCells (L ++ l)) ∧ w.grownBy w' v.ownBlock := by
  obtain ⟨i0, hi, hz0, hz1, hz2⟩ := info_parts_row
  by_cases h0 : l.length = 0
  · have hr := run_append_empty (P := Tryd.prog) w 25 ty 90 i0 Tryd.underlying25 hi base 3 v L.length (rowCells L) hown ra c
    obtain rfl := List.eq_nil_of_length_eq_zero h0
    exact ⟨v, w, hr, by rw [List.append_nil]; exact hown, rfl, rfl, rfl, Nat.le_refl _, fun _ _ _ => rfl⟩
  · obtain ⟨x, off, rfl, hx, hnews⟩ := rws_news hrw (by omega)
    obtain ⟨v', w', h1, h2, h3, _⟩ := run_append_own (P := Tryd.prog) w base 25 ty 90 i0 (.agg #[.int .i64 0, .int .i64 0, .int .i64 0]) 3 24 Tryd.underlying25 hi hz0 hz1 hz2 rfl (by decide) v L.length (rowCells L) hown ⟨x, off, none⟩ l.length c (rowCells l) (rowCells_len l) hnews rowCells_cell (by unfold maxLen; omega) (by omega) hbase
    exact ⟨v', w', h1, by rw [List.length_append, rowCells_app]; exact h2, h3⟩
theorem step_append_rows (w : World) {ops : Array Oper} {o : Oper} {a : Act} {K : Act → World → Prop} {Q : Exit → Act → World → Prop} {E : Prop} (hgd : o.guard = none) (s x : Operand)
    (ho : o.op = .call { callee := .builtin .append, args := #[s, x], argTypes := #[25, 25] })
    (base : Nat) (v : Value) (L : List Rw) (hs : a.eval s = v) (hown : w.ownsRow base 90 3 v L.length (rowCells L)) (ra : Option Addr) (c : Nat) (l : List Rw) (hx : a.eval x = .slice ra l.length c) (hrw : IsRws w ra l.length c l) (hL : L.length ≤ 100000000) (hl : l.length ≤ 100000000) (hbase : base ≤ w.heap.size)
    (h : ∀ v' w', w'.ownsRow base 90 3 v' (L ++ l).length (rowCells (L ++ l)) → w.grownBy w' v.ownBlock → K (a.put o.dst v') w') :
    if Region.wanted o (yielded ops a.tmps) = true then Oper.wp Tryd.prog o a w K Q else E := by
  have hw : Region.wanted o (yielded ops a.tmps) = true := by simp [Region.wanted, hgd]
  rw [if_pos hw]
  obtain ⟨v', w', hr, h2, h3⟩ := run_append_rows w o.type base v L hown ra c l hrw hL hl hbase
  unfold Oper.wp execOp
  simp only [ho, resolve, invoke, builtin, Sem.run_bind, Sem.run_pure, Result.andThen_ok, List.map_toArray, List.map_cons, List.map_nil, hs, hx, hr]
  exact h v' w' h2 h3
theorem over_rows {F H left : List Rw} {l m : List Pr} (hF : expL F = l) (hH : expL H = m) (gF : GoodL F) (gH : GoodL H) (rl : Rising l) (rm : Rising m) (gl : GoodL left) (hl : expL left = (expL H).filter (outB F)) : RowsOk (overP l m) (left ++ F) := by
  have ho := (rising_overP rl rm).2
  subst hF hH
  refine ⟨gl.app gF, ?_, fun q => ?_⟩
  · rw [expL_app, hl]
    refine once_app.2 ⟨rm.once.filter _, rl.once, fun p hp q hq e => ?_⟩
    have h1 := (List.mem_filter.1 hp).2
    exact (outB_has gF).1 h1 ⟨q, hq, e.symm⟩
  · rw [expL_app, List.mem_append, hl, List.mem_filter, ho q, outB_has gF]
    exact ⟨fun h => h.elim .inr .inl, fun h => h.elim .inr .inl⟩
theorem over_fit {l m : List Pr} (rl : Rising l) (rm : Rising m) (fl : Fit l) (fm : Fit m) : Fit (overP l m) := by
  intro q hq
  rcases ((rising_overP rl rm).2 q).1 hq with h | h
  · exact fl q h
  · exact fm q h.1
theorem over_from {l m : List Pr} (rl : Rising l) (rm : Rising m) (fl : From0 l) (fm : From0 m) : From0 (overP l m) := by
  intro q hq
  rcases ((rising_overP rl rm).2 q).1 hq with h | h
  · exact fl q h
  · exact fm q h.1
theorem over_len (l m : List Pr) : (overP l m).length ≤ l.length + m.length := overP_len l m l
theorem set_far2 (w : World) (b c : Nat) (hne : b ≠ c) (u v : Value) (o : Nat) : ((w.setCell ⟨b, 0, none⟩ u).setCell ⟨b, 1, none⟩ v).cell? ⟨c, o, none⟩ = w.cell? ⟨c, o, none⟩ := by
  rw [World.cell?_setCell_far _ _ _ _ hne, World.cell?_setCell_far _ _ _ _ hne]
theorem rising_args {l : List Pr} {R : List Rw} (h : RowsOk l R) : GoodL R ∧ Once (expL R) ∧ ∀ q, q ∈ expL R ↔ q ∈ l := h
theorem to_table {w : World} {a : Option Addr} {c : Nat} {out : List Rw} {l : List Pr} (hw : IsRws w a out.length c out) (hg : GoodL out) (he : expL out = l) (hr : Rising l) (hf : Fit l) (hl : l.length ≤ 10000000) :
    Calls Tryd.prog 40 #[.slice a out.length c] w fun e w' => ∃ v, e = .returned v ∧ IsTab w' v l ∧ Ext w w' := by
  subst he
  exact tableOf_any a c out w hw hg hr hf hl
set_option maxHeartbeats 4000000 in
set_option maxRecDepth 100000 in
theorem over_any (v u : Value) (l m : List Pr) (w : World) (h : IsTab w v l) (k : IsTab w u m) (hl : l.length ≤ 1000000) (hm : m.length ≤ 1000000) :
    Calls Tryd.prog 25 #[v, u] w fun e w' => ∃ v', e = .returned v' ∧ IsTab w' v' (overP l m) ∧ Ext w w' := by
  obtain ⟨a1, c1, a2, c2, F, G, rfl, x1, x2, x3, x4, x5, x6, x7, x8, x9, x10⟩ := h
  obtain ⟨b1, d1, b2, d2, H, K, rfl, y1, y2, y3, y4, y5, y6, y7, y8, y9, y10⟩ := k
  have hFl : F.length ≤ 1000000 := by have := rows_le x4; rw [x3] at this; omega
  have hHl : H.length ≤ 1000000 := by have := rows_le y4; rw [y3] at this; omega
  have rF : RisingR F := (rising_expL x4).1 (by rw [x3]; exact x7)
  have rH : RisingR H := (rising_expL y4).1 (by rw [y3]; exact y7)
  have HW : Hid (∀ w', Ext w w' → Calls Tryd.prog 47 #[.slice b1 H.length d1, .slice a1 F.length c1] w' fun e w'' => ∃ (v' : Value) (out : List Rw), e = .returned v' ∧ w''.ownsRow w'.heap.size 90 3 v' out.length (rowCells out) ∧ out.length ≤ 1000000 ∧ Hid (RowsOk (overP l m) (out ++ F)) ∧ Ext w' w'') := fun w' kk => by
    refine (without_any b1 d1 H a1 c1 F w' (y1.ext kk) (x1.ext kk) y4 x4 rH rF (by unfold tot; rw [y3]; omega) (by omega)).mono ?_
    rintro e w2 ⟨v', out, rfl, z1, z2, z3, z4⟩
    have hol : out.length ≤ 1000000 := by
      have h5 := rows_le z2
      rw [z3, y3] at h5
      have h6 := List.length_filter_le (outB F) m
      omega
    exact ⟨v', out, rfl, z1, hol, over_rows x3 y3 x4 y4 x7 y7 z2 z3, z4⟩
  have HRI := Lib.hid (rising_overP x7 y7).1
  have HFI := Lib.hid (over_fit x7 y7 x8 y8)
  have HOL := Lib.hid (over_len l m)
  have HX1 := Lib.hid x1
  clear x2 x3 x4 x5 x6 x7 x8 x9 x10 y1 y2 y3 y4 y5 y6 y7 y8 y9 y10 rF rH
  go_enter Tryd.func25, Tryd.ntmps25
  go_wp2
  have hkT := (Ext.refl w).alloc (.cells #[.slice a1 F.length c1, .slice a2 G.length c2] 27)
  have hkO := (Ext.refl (w.alloc (.cells #[.slice a1 F.length c1, .slice a2 G.length c2] 27))).alloc (.cells #[.slice b1 H.length d1, .slice b2 K.length d2] 27)
  have hkR := (Ext.refl ((w.alloc (.cells #[.slice a1 F.length c1, .slice a2 G.length c2] 27)).alloc (.cells #[.slice b1 H.length d1, .slice b2 K.length d2] 27))).alloc (.cells #[.slice none 0 0, .slice none 0 0] 27)
  have hb1 := heap_alloc_new w (.cells #[.slice a1 F.length c1, .slice a2 G.length c2] 27)
  have hb2 := heap_alloc_new (w.alloc (.cells #[.slice a1 F.length c1, .slice a2 G.length c2] 27)) (.cells #[.slice b1 H.length d1, .slice b2 K.length d2] 27)
  have hb3 := heap_alloc_new ((w.alloc (.cells #[.slice a1 F.length c1, .slice a2 G.length c2] 27)).alloc (.cells #[.slice b1 H.length d1, .slice b2 K.length d2] 27)) (.cells #[.slice none 0 0, .slice none 0 0] 27)
  have hh1 := ((hkO.trans hkR).block _ (lt_of_block hb1)).trans hb1
  have hh2 := (hkR.block _ (lt_of_block hb2)).trans hb2
  have hxw := (hkT.trans hkO).trans hkR
  obtain ⟨bt, hbt⟩ : ∃ bt, bt = w.heap.size := ⟨_, rfl⟩
  have hs1 : (w.alloc (.cells #[.slice a1 F.length c1, .slice a2 G.length c2] 27)).heap.size = bt + 1 := by rw [hbt]; simp
  have hs2 : ((w.alloc (.cells #[.slice a1 F.length c1, .slice a2 G.length c2] 27)).alloc (.cells #[.slice b1 H.length d1, .slice b2 K.length d2] 27)).heap.size = bt + 1 + 1 := by rw [hbt]; simp
  rw [hs1] at hh2
  rw [hs2] at hb3
  rw [← hbt] at hh1 ⊢
  have hwbt : w.heap.size ≤ bt := by omega
  generalize ((w.alloc (.cells #[.slice a1 F.length c1, .slice a2 G.length c2] 27)).alloc (.cells #[.slice b1 H.length d1, .slice b2 K.length d2] 27)).alloc (.cells #[.slice none 0 0, .slice none 0 0] 27) = w0 at hh1 hh2 hb3 hxw ⊢
  have HB2 := Lib.hid hh2
  have HB3 := Lib.hid hb3
  have hC0 : Keep w [(⟨bt, 0, none⟩, .slice a1 F.length c1), (⟨bt + 1, 0, none⟩, .slice b1 H.length d1)] w0 := ⟨hxw, (cells_two hh1).1, (cells_two hh2).1, trivial⟩
  have HC0 := Lib.hid hC0
  have hx0 := Ext.refl w0
  have hC := hC0.ext (Ext.drew (Ext.refl _))
  have hx := hx0.drew
  clear hC0 hx0 hkT hkO hkR hb1 hb2 hb3 hh1 hh2 hs1 hs2 hbt hxw
  obtain ⟨q0, q1, _⟩ := hC.2
  refine wp_region_held_drew (S := (fun W' => W'.cell? ⟨bt, 0, none⟩ = some (.slice a1 F.length c1) ∧ W'.cell? ⟨bt + 1, 0, none⟩ = some (.slice b1 H.length d1))) (by kernel_rfl) ?_ (fun hHeld => ?_)
  · (try dsimp only); go_keep
  refine' wpAnyH_take (i := 0) (oi := { dst := some 5, op := _, type := _, pos := _, after := _, guard := _ }) (v := _) ?hixa0 (by kernel_rfl) ?hfxa0 ?hrxa0 ?hqxa0 ?hyxa0 ?hsxa0 ?restxa0
  case hixa0 => exact rfl
  case hfxa0 => kernel_rfl
  case hrxa0 => kernel_rfl
  case hqxa0 => exact fun _ _ _ h => h
  case hsxa0 => assumption
  case hyxa0 =>
    refine Or.inl ⟨by kernel_rfl, ?_⟩
    intro w hSw
    try dsimp only at hSw
    go_simp
    try with_reducible rfl
  try simp only [Act.put, List.setIfInBounds_toArray, List.set_cons_zero, List.set_cons_succ]
  refine' wpAnyH_take (i := 1) (oi := { dst := some 6, op := _, type := _, pos := _, after := _, guard := _ }) (v := _) ?hixa1 (by kernel_rfl) ?hfxa1 ?hrxa1 ?hqxa1 ?hyxa1 ?hsxa1 ?restxa1
  case hixa1 => exact rfl
  case hfxa1 => kernel_rfl
  case hrxa1 => kernel_rfl
  case hqxa1 => exact fun _ _ _ h => h
  case hsxa1 => assumption
  case hyxa1 =>
    refine Or.inl ⟨by kernel_rfl, ?_⟩
    intro w hSw
    try dsimp only at hSw
    go_simp
    try with_reducible rfl
  try simp only [Act.put, List.setIfInBounds_toArray, List.set_cons_zero, List.set_cons_succ]
  refine' wpAnyH_take (i := 2) (oi := { dst := some 7, op := _, type := _, pos := _, after := _, guard := _ }) (v := _) ?hixa2 (by kernel_rfl) ?hfxa2 ?hrxa2 ?hqxa2 ?hyxa2 ?hsxa2 ?restxa2
  case hixa2 => exact rfl
  case hfxa2 => kernel_rfl
  case hrxa2 => kernel_rfl
  case hqxa2 => exact fun _ _ _ h => h
  case hsxa2 => assumption
  case hyxa2 =>
    refine Or.inl ⟨by kernel_rfl, ?_⟩
    intro w hSw
    try dsimp only at hSw
    go_simp
    try with_reducible rfl
  try simp only [Act.put, List.setIfInBounds_toArray, List.set_cons_zero, List.set_cons_succ]
  refine' wpAnyH_take (i := 3) (oi := { dst := some 8, op := _, type := _, pos := _, after := _, guard := _ }) (v := _) ?hixa3 (by kernel_rfl) ?hfxa3 ?hrxa3 ?hqxa3 ?hyxa3 ?hsxa3 ?restxa3
  case hixa3 => exact rfl
  case hfxa3 => kernel_rfl
  case hrxa3 => kernel_rfl
  case hqxa3 => exact fun _ _ _ h => h
  case hsxa3 => assumption
  case hyxa3 =>
    refine Or.inl ⟨by kernel_rfl, ?_⟩
    intro w hSw
    try dsimp only at hSw
    go_simp
    try with_reducible rfl
  try simp only [Act.put, List.setIfInBounds_toArray, List.set_cons_zero, List.set_cons_succ]
  refine' wpAnyH_take (i := 5) (oi := { dst := some 10, op := _, type := _, pos := _, after := _, guard := _ }) (v := _) ?hixa5 (by kernel_rfl) ?hfxa5 ?hrxa5 ?hqxa5 ?hyxa5 ?hsxa5 ?restxa5
  case hixa5 => exact rfl
  case hfxa5 => kernel_rfl
  case hrxa5 => kernel_rfl
  case hqxa5 => exact fun _ _ _ h => h
  case hsxa5 => assumption
  case hyxa5 =>
    refine Or.inl ⟨by kernel_rfl, ?_⟩
    intro w hSw
    try dsimp only at hSw
    go_simp
    try with_reducible rfl
  try simp only [Act.put, List.setIfInBounds_toArray, List.set_cons_zero, List.set_cons_succ]
  refine' wpAnyH_take (i := 6) (oi := { dst := some 11, op := _, type := _, pos := _, after := _, guard := _ }) (v := _) ?hixa6 (by kernel_rfl) ?hfxa6 ?hrxa6 ?hqxa6 ?hyxa6 ?hsxa6 ?restxa6
  case hixa6 => exact rfl
  case hfxa6 => kernel_rfl
  case hrxa6 => kernel_rfl
  case hqxa6 => exact fun _ _ _ h => h
  case hsxa6 => assumption
  case hyxa6 =>
    refine Or.inl ⟨by kernel_rfl, ?_⟩
    intro w hSw
    try dsimp only at hSw
    go_simp
    try with_reducible rfl
  try simp only [Act.put, List.setIfInBounds_toArray, List.set_cons_zero, List.set_cons_succ]
  refine wpAnyH_ready (rs := [4]) (by kernel_rfl) (by simp) ?_
  refine' AllReadyH.cons (o := _) ?hixa4 (fun K hK => ?hk0xa4) AllReadyH.nil
  case hixa4 => exact rfl
  go_simp
  go_at_call 47
  refine (HW.out _ hC.1).mono ?_
  rintro e w2 ⟨v2, out2, rfl, ho2, hol2, HR2, hb2⟩
  have hC2 := hC.ext hb2
  have hx2 := hx.trans hb2
  have hsz2 := hb2.size
  clear hC q0 q1
  obtain ⟨q0, q1, _⟩ := hC2.2
  try go_wp2_with fail
  refine hK.out _ _ ?hS0xa4 (fun hHeld => ?restxa4)
  case hS0xa4 => (try dsimp only); go_keep
  clear hK K
  try simp only [Act.put, List.setIfInBounds_toArray, List.set_cons_zero, List.set_cons_succ]
  refine wpAnyH_ready (rs := [7]) (by kernel_rfl) (by simp) ?_
  refine' AllReadyH.cons (o := _) ?hixa7 (fun K hK => ?hk0xa7) AllReadyH.nil
  case hixa7 => exact rfl
  refine step_append_rows _ (by rfl) _ _ (by rfl) _ v2 out2 (by rfl) ho2 a1 c1 F (by rfl) (HX1.out.ext hC2.1) (by omega) (by omega) hsz2 ?_
  intro v3 w3 ho3 hg3
  have hx3 := hx2.own_grown ho2 (Nat.le_refl _) hg3
  have hC3 := HC0.out.ext hx3
  have HO3 := Lib.hid ho3
  have HRS := rising_args HR2.out
  have HRI3 := Lib.hid (rising_any v3 _ (out2 ++ F) (overP l m) w3 ho3 (by rw [List.length_append]; omega) HRS.1 HRS.2.1 HRI.out HRS.2.2)
  clear q0 q1 hC2 ho2 hg3 hsz2 ho3 HRS
  obtain ⟨q0, q1, _⟩ := hC3.2
  refine hK.out _ _ ?hS0xa7 (fun hHeld => ?restxa7)
  case hS0xa7 => (try dsimp only); go_keep
  clear hK K
  try simp only [Act.put, List.setIfInBounds_toArray, List.set_cons_zero, List.set_cons_succ]
  refine wpAnyH_ready (rs := [8]) (by kernel_rfl) (by simp) ?_
  refine' AllReadyH.cons (o := _) ?hixa8 (fun K hK => ?hk0xa8) AllReadyH.nil
  case hixa8 => exact rfl
  go_simp
  go_at_call 41
  refine HRI3.out.mono ?_
  rintro e w4 ⟨v4, out4, rfl, ho4, he4, hg4, hgr4⟩
  have hx4 := hx3.own_grown HO3.out (Nat.le_refl _) hgr4
  have hC4 := HC0.out.ext hx4
  obtain ⟨a4, c4, rfl, hw4⟩ := own_rws ho4
  have HTO : Hid (Calls Tryd.prog 40 #[.slice a4 out4.length c4] w4 fun e w' => ∃ v, e = .returned v ∧ IsTab w' v (overP l m) ∧ Ext w4 w') := to_table hw4 hg4 he4 HRI.out HFI.out (Nat.le_trans HOL.out (by omega))
  clear q0 q1 hC3 he4 hg4 hgr4 ho4 hw4 HO3 HRI3
  obtain ⟨q0, q1, _⟩ := hC4.2
  try go_wp2_with fail
  refine hK.out _ _ ?hS0xa8 (fun hHeld => ?restxa8)
  case hS0xa8 => (try dsimp only); go_keep
  clear hK K
  try simp only [Act.put, List.setIfInBounds_toArray, List.set_cons_zero, List.set_cons_succ]
  refine wpAnyH_ready (rs := [9]) (by kernel_rfl) (by simp) ?_
  refine' AllReadyH.cons (o := _) ?hixa9 (fun K hK => ?hk0xa9) AllReadyH.nil
  case hixa9 => exact rfl
  go_simp
  go_at_call 40
  refine HTO.out.mono ?_
  rintro e w5 ⟨v5, rfl, htab, hb5⟩
  obtain ⟨ta, tc, tb, td, TF, TG, rfl, tr⟩ := htab
  have HTR := Lib.hid tr
  have hx5 := hx4.trans hb5
  have hC5 := HC0.out.ext hx5
  have hF2 := (hx5.block _ (lt_of_block HB2.out)).trans HB2.out
  have hF3 := (hx5.block _ (lt_of_block HB3.out)).trans HB3.out
  obtain ⟨t0, t1, t2, t3⟩ := cells_two hF3
  clear q0 q1 hC4 tr hb5
  obtain ⟨q0, q1, _⟩ := hC5.2
  have q2 := (set_far2 w5 (bt + 1 + 1) bt (by omega) (.slice ta TF.length tc) (.slice tb TG.length td) 0).trans q0
  have q3 := (set_far2 w5 (bt + 1 + 1) (bt + 1) (by omega) (.slice ta TF.length tc) (.slice tb TG.length td) 0).trans q1
  try go_wp2_with fail
  refine hK.out _ _ ?hS0xa9 (fun hHeld => ?restxa9)
  case hS0xa9 => (try dsimp only); go_keep
  clear hK K
  try simp only [Act.put, List.setIfInBounds_toArray, List.set_cons_zero, List.set_cons_succ]
  refine wpAnyH_ready (rs := [10]) (by kernel_rfl) (by simp) ?_
  refine' AllReadyH.cons (o := _) ?hixa10 (fun K hK => ?hk0xa10) AllReadyH.nil
  case hixa10 => exact rfl
  go_simp
  refine hK.out _ _ ?hS0xa10 (fun hHeld => ?restxa10)
  case hS0xa10 => (try dsimp only); go_keep
  clear hK K
  try simp only [Act.put, List.setIfInBounds_toArray, List.set_cons_zero, List.set_cons_succ]
  refine wpAnyH_done (by kernel_rfl) ?_ _
  obtain ⟨y1, y2, y3⟩ := HTR.out
  have hfin := set_two hF3 (.slice ta TF.length tc) (.slice tb TG.length td)
  have hxf : Ext w ((w5.setCell ⟨bt + 1 + 1, 0, none⟩ (.slice ta TF.length tc)).setCell ⟨bt + 1 + 1, 1, none⟩ (.slice tb TG.length td)) := Ext.setCell (Ext.setCell hC5.1 (p := ⟨bt + 1 + 1, 0, none⟩) (by show w.heap.size ≤ bt + 1 + 1; omega) _) (p := ⟨bt + 1 + 1, 1, none⟩) (by show w.heap.size ≤ bt + 1 + 1; omega) _
  have hoth : ∀ k, k ≠ bt + 1 → k ≠ bt + 1 + 1 → ((w5.setCell ⟨bt + 1 + 1, 0, none⟩ (.slice ta TF.length tc)).setCell ⟨bt + 1 + 1, 1, none⟩ (.slice tb TG.length td)).heap[k]? = w5.heap[k]? := fun k _ h4 => by
    rw [heap_setCell_other _ _ _ _ h4, heap_setCell_other _ _ _ _ h4]
  have hss : ((w5.setCell ⟨bt + 1 + 1, 0, none⟩ (.slice ta TF.length tc)).setCell ⟨bt + 1 + 1, 1, none⟩ (.slice tb TG.length td)).heap.size = w5.heap.size := by simp [World.setCell]
  have hz1 := rws_move y1 hF2 hF3 (Nat.le_of_eq hss.symm) hoth
  have hz2 := rws_move y2 hF2 hF3 (Nat.le_of_eq hss.symm) hoth
  go_wp2
  generalize (w5.setCell ⟨bt + 1 + 1, 0, none⟩ (.slice ta TF.length tc)).setCell ⟨bt + 1 + 1, 1, none⟩ (.slice tb TG.length td) = wf at hfin hxf hz1 hz2 ⊢
  obtain ⟨k0, k1, _, _⟩ := cells_two hfin
  refine bodyPost_ret (v := .agg #[.slice ta TF.length tc, .slice tb TG.length td]) (by simp [results, Tryd.results25, go_sem, k0, k1]) rfl ?_
  exact ⟨_, rfl, ⟨ta, tc, tb, td, TF, TG, rfl, hz1, hz2, y3⟩, hxf⟩
end Go.Proofs.YtjlghdlbkibneaaDoor
