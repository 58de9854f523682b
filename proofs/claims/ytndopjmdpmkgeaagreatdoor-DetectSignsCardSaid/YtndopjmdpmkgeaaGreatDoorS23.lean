/-
  What the proof of this claim leans on (S23).
-/
import Derived.Test.YtndopjmdpmkgeaaGreatDoorS1
import Derived.Test.YtndopjmdpmkgeaaGreatDoorS15
import Derived.Test.YtndopjmdpmkgeaaGreatDoorS21
import Derived.Test.YtndopjmdpmkgeaaGreatDoorS22
import Derived.Deep.AppendLies
import Derived.Deep.RegionLaw
namespace Go.Proofs.YtndopjmdpmkgeaaGreatDoor
open Go Go.ChangeShapes Go.WideShapes Go.ChangeAt Go.RowKit
set_option linter.unusedSimpArgs false
set_option linter.unusedVariables false

theorem table_size (v : Value) (l : List Pr) (w : World) (h : IsTab w v l) :
    Calls Tryz.prog 136 #[v] w fun e w' => e = .returned (.int .i64 l.length) ∧ Ext w w' := by
  obtain ⟨a1, c1, a2, c2, F, G, rfl, h1, h2, rfl, h4, h5, h6, h7, h8, h9, h10⟩ := h
  have HT := Lib.hid (fun w' (k : Ext w w') => total_any a1 c1 F w' (h1.ext k) h4 (Nat.le_trans h9 (by decide)))
  clear h1 h2 h4 h5 h6 h7 h8 h9 h10
  go_enter Tryz.func136, Tryz.ntmps136
  go_wp2_with (go_at_call 171; refine (HT.out _ ((Ext.refl w).alloc _)).mono ?_; rintro e w1 ⟨rfl, hb1⟩)
  go_ret
  exact ⟨rfl, ((Ext.refl w).alloc _).trans hb1⟩
theorem fwd_yes (v : Value) (l : List Pr) (q : Pr) (w : World) (h : IsTab w v l) (hq : q ∈ l) :
    Calls Tryz.prog 75 #[v, .int .i64 q.1] w fun e w' => e = .returned (.tuple #[.int .i32 q.2, .bool true]) ∧ Ext w w' := by
  obtain ⟨a1, c1, a2, c2, F, G, rfl, h1, h2, he, h4, h5, h6, h7, h8, h9, h10⟩ := h
  obtain ⟨k, r, hk, g1, g2, g3⟩ := tab_yes he h4 hq rfl
  have hfit := h8 q hq
  have hll : F.length ≤ 1000000000 := by
    have := rows_le h4
    rw [he] at this
    omega
  have hrr : RisingR F := (rising_expL h4).1 (by rw [he]; exact h7)
  have HT : Hid (∀ w', Ext w w' → Calls Tryz.prog 123 #[.slice a1 F.length c1, .int .i64 q.1] w' fun e w'' => e = .returned (.tuple #[.int .i64 q.2, .bool true]) ∧ Ext w' w'') := fun w' k2 => by
    have := find_yes a1 c1 F q.1 k r w' (h1.ext k2) h4 hrr hll hk g1 g2
    rwa [g3] at this
  obtain ⟨c, p⟩ := q
  obtain ⟨f1, f2, f3, f4⟩ := hfit
  simp only at f1 f2 f3 f4
  have HT : Hid (∀ w', Ext w w' → Calls Tryz.prog 123 #[.slice a1 F.length c1, .int .i64 c] w' fun e w'' => e = .returned (.tuple #[.int .i64 p, .bool true]) ∧ Ext w' w'') := HT
  show Calls Tryz.prog 75 #[.agg #[.slice a1 F.length c1, .slice a2 G.length c2], .int .i64 c] w fun e w' => e = .returned (.tuple #[.int .i32 p, .bool true]) ∧ Ext w w'
  clear h1 h2 he h4 h5 h6 h7 h8 h9 h10 hk g1 g2 g3 hq hrr hll
  go_enter Tryz.func75, Tryz.ntmps75
  go_wp2_with (go_at_call 123; refine (HT.out _ ((Ext.refl w).alloc _)).mono ?_; rintro e w1 ⟨rfl, hb1⟩)
  go_ret2
  exact ⟨rfl, ((Ext.refl w).alloc _).trans hb1⟩
theorem rev_yes_any (v : Value) (l : List Pr) (p c : Int) (w : World) (h : IsTab w v l) (hf : From0 l) (hc : revP l p = c) (hp : ¬ c < 0) :
    Calls Tryz.prog 135 #[v, .int .i32 p] w fun e w' => e = .returned (.tuple #[.int .i64 c, .bool true]) ∧ Ext w w' := by
  obtain ⟨a1, c1, a2, c2, F, G, rfl, h1, h2, he, h4, h5, h6, h7, h8, h9, h10⟩ := h
  have hmem := rev_yes h6 h7 hf (p := p) (by rw [hc]; exact hp)
  rw [hc] at hmem
  have hfit := rev_fit h6 h8 _ hmem
  obtain ⟨k, r, hk, g1, g2, g3⟩ := tab_yes (l := expL G) rfl h5 hmem rfl
  have hll : G.length ≤ 1000000000 := by omega
  have hrr : RisingR G := (rising_expL h5).1 h6.1
  have HT : Hid (∀ w', Ext w w' → Calls Tryz.prog 123 #[.slice a2 G.length c2, .int .i64 p] w' fun e w'' => e = .returned (.tuple #[.int .i64 c, .bool true]) ∧ Ext w' w'') := fun w' k2 => by
    have := find_yes a2 c2 G p k r w' (h2.ext k2) h5 hrr hll hk g1 g2
    rwa [g3] at this
  simp only at hfit
  obtain ⟨f1, f2, f3, f4⟩ := hfit
  clear h1 h2 he h4 h5 h6 h7 h8 h9 h10 hk g1 g2 g3 hrr hll hmem hc hf
  go_enter Tryz.func135, Tryz.ntmps135
  go_wp2_with (go_at_call 123; refine (HT.out _ ((Ext.refl w).alloc _)).mono ?_; rintro e w1 ⟨rfl, hb1⟩)
  go_ret2
  exact ⟨rfl, ((Ext.refl w).alloc _).trans hb1⟩
theorem rev_no_any (v : Value) (l : List Pr) (p : Int) (w : World) (h : IsTab w v l) (hf : From0 l) (hc : revP l p < 0) (hp0 : -2147483648 ≤ p) (hp1 : p ≤ 2147483647) :
    Calls Tryz.prog 135 #[v, .int .i32 p] w fun e w' => e = .returned (.tuple #[.int .i64 0, .bool false]) ∧ Ext w w' := by
  obtain ⟨a1, c1, a2, c2, F, G, rfl, h1, h2, he, h4, h5, h6, h7, h8, h9, h10⟩ := h
  have hll : G.length ≤ 1000000000 := by omega
  have hrr : RisingR G := (rising_expL h5).1 h6.1
  have HT := Lib.hid (fun w' (k2 : Ext w w') => find_no a2 c2 G p w' (h2.ext k2) h5 hrr hll (tab_no (l := expL G) rfl h5 (rev_no h6 h7 hf hc)))
  clear h1 h2 he h4 h5 h6 h7 h8 h9 h10 hrr hll hf hc
  go_enter Tryz.func135, Tryz.ntmps135
  go_wp2_with (go_at_call 123; refine (HT.out _ ((Ext.refl w).alloc _)).mono ?_; rintro e w1 ⟨rfl, hb1⟩)
  go_ret2
  exact ⟨rfl, ((Ext.refl w).alloc _).trans hb1⟩
end Go.Proofs.YtndopjmdpmkgeaaGreatDoor
namespace Go.Proofs.YtndopjmdpmkgeaaGreatDoor
open Go Go.ChangeShapes Go.WideShapes Go.ChangeAt Go.RowKit
set_option linter.unusedSimpArgs false
set_option linter.unusedVariables false

section
variable {P : Program} (w : World)
theorem run_append_empty (t ty e : TypeId) (i : TypeInfo) (ht : P.underlying t = some (.slice e)) (hi : P.info? e = some i) (base size : Nat) (v : Value) (n : Nat) (xs : List Value) (hown : w.ownsRow base e size v n xs) (ra : Option Addr) (c : Nat) :
    (Builtin.append_ #[t, t] ty #[v, .slice ra 0 c]).run P w = .ok v w := by
  obtain ⟨_, ⟨rfl, rfl⟩ | ⟨g, cap, cur, rfl, hg, hh, hn, _⟩⟩ := hown
  · cases ra <;> simp [Builtin.append_, run_underlying ht, sizeOf, typeInfo, hi, Builtin.lenOf, Builtin.firstCells, loadCells, loadCellsFrom]
  · cases ra <;> simp [Builtin.append_, run_underlying ht, sizeOf, typeInfo, hi, Builtin.lenOf, Builtin.firstCells, loadCells, loadCellsFrom, hn, storeCells]
end
theorem run_append_rows (w : World) (ty : TypeId) (base : Nat) (v : Value) (L : List Rw) (hown : w.ownsRow base 189 3 v L.length (rowCells L)) (ra : Option Addr) (c : Nat) (l : List Rw) (hrw : IsRws w ra l.length c l) (hL : L.length ≤ 100000000) (hl : l.length ≤ 100000000) (hbase : base ≤ w.heap.size) :
    ∃ v' w', (Builtin.append_ #[72, 72] ty #[v, .slice ra l.length c]).run Tryz.prog w = .ok v' w' ∧ w'.ownsRow base 189 3 v' (L ++ l).length (rowCells (L ++ l)) ∧ w.grownBy w' v.ownBlock := by
  obtain ⟨i0, hi, hz0, hz1, hz2⟩ := info_parts_row
  by_cases h0 : l.length = 0
  · have hr := run_append_empty (P := Tryz.prog) w 72 ty 189 i0 Tryz.underlying72 hi base 3 v L.length (rowCells L) hown ra c
    obtain rfl := List.eq_nil_of_length_eq_zero h0
    exact ⟨v, w, hr, by rw [List.append_nil]; exact hown, rfl, rfl, rfl, Nat.le_refl _, fun _ _ _ => rfl⟩
  · obtain ⟨x, off, rfl, hx, hnews⟩ := rws_news hrw (by omega)
    obtain ⟨v', w', h1, h2, h3, _⟩ := run_append_own (P := Tryz.prog) w base 72 ty 189 i0 (.agg #[.int .i64 0, .int .i64 0, .int .i64 0]) 3 24 Tryz.underlying72 hi hz0 hz1 hz2 rfl (by decide) v L.length (rowCells L) hown ⟨x, off, none⟩ l.length c (rowCells l) (rowCells_len l) hnews rowCells_cell (by unfold maxLen; omega) (by omega) hbase
    exact ⟨v', w', h1, by rw [List.length_append, rowCells_app]; exact h2, h3⟩
theorem step_append_rows (w : World) {ops : Array Oper} {o : Oper} {a : Act} {K : Act → World → Prop} {Q : Exit → Act → World → Prop} {E : Prop} (hgd : o.guard = none) (s x : Operand)
    (ho : o.op = .call { callee := .builtin .append, args := #[s, x], argTypes := #[72, 72] })
    (base : Nat) (v : Value) (L : List Rw) (hs : a.eval s = v) (hown : w.ownsRow base 189 3 v L.length (rowCells L)) (ra : Option Addr) (c : Nat) (l : List Rw) (hx : a.eval x = .slice ra l.length c) (hrw : IsRws w ra l.length c l) (hL : L.length ≤ 100000000) (hl : l.length ≤ 100000000) (hbase : base ≤ w.heap.size)
    (h : ∀ v' w', w'.ownsRow base 189 3 v' (L ++ l).length (rowCells (L ++ l)) → w.grownBy w' v.ownBlock → K (a.put o.dst v') w') :
    if Region.wanted o (yielded ops a.tmps) = true then Oper.wp Tryz.prog o a w K Q else E := by
  have hw : Region.wanted o (yielded ops a.tmps) = true := by simp [Region.wanted, hgd]
  rw [if_pos hw]
  obtain ⟨v', w', hr, h2, h3⟩ := run_append_rows w o.type base v L hown ra c l hrw hL hl hbase
  unfold Oper.wp execOp
  simp only [ho, resolve, invoke, builtin, Sem.run_bind, Sem.run_pure, Result.andThen_ok, List.map_toArray, List.map_cons, List.map_nil, hs, hx, hr]
  exact h v' w' h2 h3
theorem over_rows {F H left : List Rw} {l m : List Pr} (hF : expL F = l) (hH : expL H = m) (gF : GoodL F) (gH : GoodL H) (rl : Rising l) (rm : Rising m) (gl : GoodL left) (hl : expL left = (expL H).filter (outB F)) : RowsOk (overP l m) (left ++ F) := by
  have ho := (rising_overP rl rm).2
  subst hF hH
  refine ⟨gl.app gF, ?_, fun q => ?_⟩
  · rw [expL_app, hl]
    refine once_app.2 ⟨rm.once.filter _, rl.once, fun p hp q hq e => ?_⟩
    have h1 := (List.mem_filter.1 hp).2
    exact (outB_has gF).1 h1 ⟨q, hq, e.symm⟩
  · rw [expL_app, List.mem_append, hl, List.mem_filter, ho q, outB_has gF]
    exact ⟨fun h => h.elim .inr .inl, fun h => h.elim .inr .inl⟩
theorem over_fit {l m : List Pr} (rl : Rising l) (rm : Rising m) (fl : Fit l) (fm : Fit m) : Fit (overP l m) := by
  intro q hq
  rcases ((rising_overP rl rm).2 q).1 hq with h | h
  · exact fl q h
  · exact fm q h.1
theorem over_len (l m : List Pr) : (overP l m).length ≤ l.length + m.length := overP_len l m l
theorem set_far2 (w : World) (b c : Nat) (hne : b ≠ c) (u v : Value) (o : Nat) : ((w.setCell ⟨b, 0, none⟩ u).setCell ⟨b, 1, none⟩ v).cell? ⟨c, o, none⟩ = w.cell? ⟨c, o, none⟩ := by
  rw [World.cell?_setCell_far _ _ _ _ hne, World.cell?_setCell_far _ _ _ _ hne]
theorem rising_args {l : List Pr} {R : List Rw} (h : RowsOk l R) : GoodL R ∧ Once (expL R) ∧ ∀ q, q ∈ expL R ↔ q ∈ l := h
theorem to_table {w : World} {a : Option Addr} {c : Nat} {out : List Rw} {l : List Pr} (hw : IsRws w a out.length c out) (hg : GoodL out) (he : expL out = l) (hr : Rising l) (hf : Fit l) (hl : l.length ≤ 10000000) :
    Calls Tryz.prog 160 #[.slice a out.length c] w fun e w' => ∃ v, e = .returned v ∧ IsTab w' v l ∧ Ext w w' := by
  subst he
  exact tableOf_any a c out w hw hg hr hf hl
set_option maxHeartbeats 4000000 in
set_option maxRecDepth 100000 in
theorem over_any (v u : Value) (l m : List Pr) (w : World) (h : IsTab w v l) (k : IsTab w u m) (hl : l.length ≤ 1000000) (hm : m.length ≤ 1000000) :
    Calls Tryz.prog 122 #[v, u] w fun e w' => ∃ v', e = .returned v' ∧ IsTab w' v' (overP l m) ∧ Ext w w' := by
  obtain ⟨a1, c1, a2, c2, F, G, rfl, x1, x2, x3, x4, x5, x6, x7, x8, x9, x10⟩ := h
  obtain ⟨b1, d1, b2, d2, H, K, rfl, y1, y2, y3, y4, y5, y6, y7, y8, y9, y10⟩ := k
  have hFl : F.length ≤ 1000000 := by have := rows_le x4; rw [x3] at this; omega
  have hHl : H.length ≤ 1000000 := by have := rows_le y4; rw [y3] at this; omega
  have rF : RisingR F := (rising_expL x4).1 (by rw [x3]; exact x7)
  have rH : RisingR H := (rising_expL y4).1 (by rw [y3]; exact y7)
  have HW : Hid (∀ w', Ext w w' → Calls Tryz.prog 162 #[.slice b1 H.length d1, .slice a1 F.length c1] w' fun e w'' => ∃ (v' : Value) (out : List Rw), e = .returned v' ∧ w''.ownsRow w'.heap.size 189 3 v' out.length (rowCells out) ∧ out.length ≤ 1000000 ∧ Hid (RowsOk (overP l m) (out ++ F)) ∧ Ext w' w'') := fun w' kk => by
    refine (without_any b1 d1 H a1 c1 F w' (y1.ext kk) (x1.ext kk) y4 x4 rH rF (by unfold tot; rw [y3]; omega) (by omega)).mono ?_
    rintro e w2 ⟨v', out, rfl, z1, z2, z3, z4⟩
    have hol : out.length ≤ 1000000 := by
      have h5 := rows_le z2
      rw [z3, y3] at h5
      have h6 := List.length_filter_le (outB F) m
      omega
    exact ⟨v', out, rfl, z1, hol, over_rows x3 y3 x4 y4 x7 y7 z2 z3, z4⟩
  have HRI := Lib.hid (rising_overP x7 y7).1
  have HFI := Lib.hid (over_fit x7 y7 x8 y8)
  have HOL := Lib.hid (over_len l m)
  have HX1 := Lib.hid x1
  clear x2 x3 x4 x5 x6 x7 x8 x9 x10 y1 y2 y3 y4 y5 y6 y7 y8 y9 y10 rF rH
  go_enter Tryz.func122, Tryz.ntmps122
  go_wp2
  have hkT := (Ext.refl w).alloc (.cells #[.slice a1 F.length c1, .slice a2 G.length c2] 74)
  have hkO := (Ext.refl (w.alloc (.cells #[.slice a1 F.length c1, .slice a2 G.length c2] 74))).alloc (.cells #[.slice b1 H.length d1, .slice b2 K.length d2] 74)
  have hkR := (Ext.refl ((w.alloc (.cells #[.slice a1 F.length c1, .slice a2 G.length c2] 74)).alloc (.cells #[.slice b1 H.length d1, .slice b2 K.length d2] 74))).alloc (.cells #[.slice none 0 0, .slice none 0 0] 74)
  have hb1 := heap_alloc_new w (.cells #[.slice a1 F.length c1, .slice a2 G.length c2] 74)
  have hb2 := heap_alloc_new (w.alloc (.cells #[.slice a1 F.length c1, .slice a2 G.length c2] 74)) (.cells #[.slice b1 H.length d1, .slice b2 K.length d2] 74)
  have hb3 := heap_alloc_new ((w.alloc (.cells #[.slice a1 F.length c1, .slice a2 G.length c2] 74)).alloc (.cells #[.slice b1 H.length d1, .slice b2 K.length d2] 74)) (.cells #[.slice none 0 0, .slice none 0 0] 74)
  have hh1 := ((hkO.trans hkR).block _ (lt_of_block hb1)).trans hb1
  have hh2 := (hkR.block _ (lt_of_block hb2)).trans hb2
  have hxw := (hkT.trans hkO).trans hkR
  obtain ⟨bt, hbt⟩ : ∃ bt, bt = w.heap.size := ⟨_, rfl⟩
  have hs1 : (w.alloc (.cells #[.slice a1 F.length c1, .slice a2 G.length c2] 74)).heap.size = bt + 1 := by rw [hbt]; simp
  have hs2 : ((w.alloc (.cells #[.slice a1 F.length c1, .slice a2 G.length c2] 74)).alloc (.cells #[.slice b1 H.length d1, .slice b2 K.length d2] 74)).heap.size = bt + 1 + 1 := by rw [hbt]; simp
  rw [hs1] at hh2
  rw [hs2] at hb3
  rw [← hbt] at hh1 ⊢
  have hwbt : w.heap.size ≤ bt := by omega
  generalize ((w.alloc (.cells #[.slice a1 F.length c1, .slice a2 G.length c2] 74)).alloc (.cells #[.slice b1 H.length d1, .slice b2 K.length d2] 74)).alloc (.cells #[.slice none 0 0, .slice none 0 0] 74) = w0 at hh1 hh2 hb3 hxw ⊢
  have HB2 := Lib.hid hh2
  have HB3 := Lib.hid hb3
  have hC0 : Keep w [(⟨bt, 0, none⟩, .slice a1 F.length c1), (⟨bt + 1, 0, none⟩, .slice b1 H.length d1)] w0 := ⟨hxw, (cells_two hh1).1, (cells_two hh2).1, trivial⟩
  have HC0 := Lib.hid hC0
  have hx0 := Ext.refl w0
  have hC := hC0.ext (Ext.drew (Ext.refl _))
  have hx := hx0.drew
  clear hC0 hx0 hkT hkO hkR hb1 hb2 hb3 hh1 hh2 hs1 hs2 hbt hxw
  obtain ⟨q0, q1, _⟩ := hC.2
  refine wp_region_held_drew (S := (fun W' => W'.cell? ⟨bt, 0, none⟩ = some (.slice a1 F.length c1) ∧ W'.cell? ⟨bt + 1, 0, none⟩ = some (.slice b1 H.length d1))) (by kernel_rfl) ?_ (fun hHeld => ?_)
  · (try dsimp only); go_keep
  refine' wpAnyH_take (i := 0) (oi := { dst := some 5, op := _, type := _, pos := _, after := _, guard := _ }) (v := _) ?hixa0 (by kernel_rfl) ?hfxa0 ?hrxa0 ?hqxa0 ?hyxa0 ?hsxa0 ?restxa0
  case hixa0 => exact rfl
  case hfxa0 => kernel_rfl
  case hrxa0 => kernel_rfl
  case hqxa0 => exact fun _ _ _ h => h
  case hsxa0 => assumption
  case hyxa0 =>
    refine Or.inl ⟨by kernel_rfl, ?_⟩
    intro w hSw
    try dsimp only at hSw
    go_simp
    try with_reducible rfl
  try simp only [Act.put, List.setIfInBounds_toArray, List.set_cons_zero, List.set_cons_succ]
  refine' wpAnyH_take (i := 1) (oi := { dst := some 6, op := _, type := _, pos := _, after := _, guard := _ }) (v := _) ?hixa1 (by kernel_rfl) ?hfxa1 ?hrxa1 ?hqxa1 ?hyxa1 ?hsxa1 ?restxa1
  case hixa1 => exact rfl
  case hfxa1 => kernel_rfl
  case hrxa1 => kernel_rfl
  case hqxa1 => exact fun _ _ _ h => h
  case hsxa1 => assumption
  case hyxa1 =>
    refine Or.inl ⟨by kernel_rfl, ?_⟩
    intro w hSw
    try dsimp only at hSw
    go_simp
    try with_reducible rfl
  try simp only [Act.put, List.setIfInBounds_toArray, List.set_cons_zero, List.set_cons_succ]
  refine' wpAnyH_take (i := 2) (oi := { dst := some 7, op := _, type := _, pos := _, after := _, guard := _ }) (v := _) ?hixa2 (by kernel_rfl) ?hfxa2 ?hrxa2 ?hqxa2 ?hyxa2 ?hsxa2 ?restxa2
  case hixa2 => exact rfl
  case hfxa2 => kernel_rfl
  case hrxa2 => kernel_rfl
  case hqxa2 => exact fun _ _ _ h => h
  case hsxa2 => assumption
  case hyxa2 =>
    refine Or.inl ⟨by kernel_rfl, ?_⟩
    intro w hSw
    try dsimp only at hSw
    go_simp
    try with_reducible rfl
  try simp only [Act.put, List.setIfInBounds_toArray, List.set_cons_zero, List.set_cons_succ]
  refine' wpAnyH_take (i := 3) (oi := { dst := some 8, op := _, type := _, pos := _, after := _, guard := _ }) (v := _) ?hixa3 (by kernel_rfl) ?hfxa3 ?hrxa3 ?hqxa3 ?hyxa3 ?hsxa3 ?restxa3
  case hixa3 => exact rfl
  case hfxa3 => kernel_rfl
  case hrxa3 => kernel_rfl
  case hqxa3 => exact fun _ _ _ h => h
  case hsxa3 => assumption
  case hyxa3 =>
    refine Or.inl ⟨by kernel_rfl, ?_⟩
    intro w hSw
    try dsimp only at hSw
    go_simp
    try with_reducible rfl
  try simp only [Act.put, List.setIfInBounds_toArray, List.set_cons_zero, List.set_cons_succ]
  refine' wpAnyH_take (i := 5) (oi := { dst := some 10, op := _, type := _, pos := _, after := _, guard := _ }) (v := _) ?hixa5 (by kernel_rfl) ?hfxa5 ?hrxa5 ?hqxa5 ?hyxa5 ?hsxa5 ?restxa5
  case hixa5 => exact rfl
  case hfxa5 => kernel_rfl
  case hrxa5 => kernel_rfl
  case hqxa5 => exact fun _ _ _ h => h
  case hsxa5 => assumption
  case hyxa5 =>
    refine Or.inl ⟨by kernel_rfl, ?_⟩
    intro w hSw
    try dsimp only at hSw
    go_simp
    try with_reducible rfl
  try simp only [Act.put, List.setIfInBounds_toArray, List.set_cons_zero, List.set_cons_succ]
  refine' wpAnyH_take (i := 6) (oi := { dst := some 11, op := _, type := _, pos := _, after := _, guard := _ }) (v := _) ?hixa6 (by kernel_rfl) ?hfxa6 ?hrxa6 ?hqxa6 ?hyxa6 ?hsxa6 ?restxa6
  case hixa6 => exact rfl
  case hfxa6 => kernel_rfl
  case hrxa6 => kernel_rfl
  case hqxa6 => exact fun _ _ _ h => h
  case hsxa6 => assumption
  case hyxa6 =>
    refine Or.inl ⟨by kernel_rfl, ?_⟩
    intro w hSw
    try dsimp only at hSw
    go_simp
    try with_reducible rfl
  try simp only [Act.put, List.setIfInBounds_toArray, List.set_cons_zero, List.set_cons_succ]
  refine wpAnyH_ready (rs := [4]) (by kernel_rfl) (by simp) ?_
  refine' AllReadyH.cons (o := _) ?hixa4 (fun K hK => ?hk0xa4) AllReadyH.nil
  case hixa4 => exact rfl
  go_simp
  go_at_call 162
  refine (HW.out _ hC.1).mono ?_
  rintro e w2 ⟨v2, out2, rfl, ho2, hol2, HR2, hb2⟩
  have hC2 := hC.ext hb2
  have hx2 := hx.trans hb2
  have hsz2 := hb2.size
  clear hC q0 q1
  obtain ⟨q0, q1, _⟩ := hC2.2
  try go_wp2_with fail
  refine hK.out _ _ ?hS0xa4 (fun hHeld => ?restxa4)
  case hS0xa4 => (try dsimp only); go_keep
  clear hK K
  try simp only [Act.put, List.setIfInBounds_toArray, List.set_cons_zero, List.set_cons_succ]
  refine wpAnyH_ready (rs := [7]) (by kernel_rfl) (by simp) ?_
  refine' AllReadyH.cons (o := _) ?hixa7 (fun K hK => ?hk0xa7) AllReadyH.nil
  case hixa7 => exact rfl
  refine step_append_rows _ (by rfl) _ _ (by rfl) _ v2 out2 (by rfl) ho2 a1 c1 F (by rfl) (HX1.out.ext hC2.1) (by omega) (by omega) hsz2 ?_
  intro v3 w3 ho3 hg3
  have hx3 := hx2.own_grown ho2 (Nat.le_refl _) hg3
  have hC3 := HC0.out.ext hx3
  have HO3 := Lib.hid ho3
  have HRS := rising_args HR2.out
  have HRI3 := Lib.hid (rising_any v3 _ (out2 ++ F) (overP l m) w3 ho3 (by rw [List.length_append]; omega) HRS.1 HRS.2.1 HRI.out HRS.2.2)
  clear q0 q1 hC2 ho2 hg3 hsz2 ho3 HRS
  obtain ⟨q0, q1, _⟩ := hC3.2
  refine hK.out _ _ ?hS0xa7 (fun hHeld => ?restxa7)
  case hS0xa7 => (try dsimp only); go_keep
  clear hK K
  try simp only [Act.put, List.setIfInBounds_toArray, List.set_cons_zero, List.set_cons_succ]
  refine wpAnyH_ready (rs := [8]) (by kernel_rfl) (by simp) ?_
  refine' AllReadyH.cons (o := _) ?hixa8 (fun K hK => ?hk0xa8) AllReadyH.nil
  case hixa8 => exact rfl
  go_simp
  go_at_call 161
  refine HRI3.out.mono ?_
  rintro e w4 ⟨v4, out4, rfl, ho4, he4, hg4, hgr4⟩
  have hx4 := hx3.own_grown HO3.out (Nat.le_refl _) hgr4
  have hC4 := HC0.out.ext hx4
  obtain ⟨a4, c4, rfl, hw4⟩ := own_rws ho4
  have HTO : Hid (Calls Tryz.prog 160 #[.slice a4 out4.length c4] w4 fun e w' => ∃ v, e = .returned v ∧ IsTab w' v (overP l m) ∧ Ext w4 w') := to_table hw4 hg4 he4 HRI.out HFI.out (Nat.le_trans HOL.out (by omega))
  clear q0 q1 hC3 he4 hg4 hgr4 ho4 hw4 HO3 HRI3
  obtain ⟨q0, q1, _⟩ := hC4.2
  try go_wp2_with fail
  refine hK.out _ _ ?hS0xa8 (fun hHeld => ?restxa8)
  case hS0xa8 => (try dsimp only); go_keep
  clear hK K
  try simp only [Act.put, List.setIfInBounds_toArray, List.set_cons_zero, List.set_cons_succ]
  refine wpAnyH_ready (rs := [9]) (by kernel_rfl) (by simp) ?_
  refine' AllReadyH.cons (o := _) ?hixa9 (fun K hK => ?hk0xa9) AllReadyH.nil
  case hixa9 => exact rfl
  go_simp
  go_at_call 160
  refine HTO.out.mono ?_
  rintro e w5 ⟨v5, rfl, htab, hb5⟩
  obtain ⟨ta, tc, tb, td, TF, TG, rfl, tr⟩ := htab
  have HTR := Lib.hid tr
  have hx5 := hx4.trans hb5
  have hC5 := HC0.out.ext hx5
  have hF2 := (hx5.block _ (lt_of_block HB2.out)).trans HB2.out
  have hF3 := (hx5.block _ (lt_of_block HB3.out)).trans HB3.out
  obtain ⟨t0, t1, t2, t3⟩ := cells_two hF3
  clear q0 q1 hC4 tr hb5
  obtain ⟨q0, q1, _⟩ := hC5.2
  have q2 := (set_far2 w5 (bt + 1 + 1) bt (by omega) (.slice ta TF.length tc) (.slice tb TG.length td) 0).trans q0
  have q3 := (set_far2 w5 (bt + 1 + 1) (bt + 1) (by omega) (.slice ta TF.length tc) (.slice tb TG.length td) 0).trans q1
  try go_wp2_with fail
  refine hK.out _ _ ?hS0xa9 (fun hHeld => ?restxa9)
  case hS0xa9 => (try dsimp only); go_keep
  clear hK K
  try simp only [Act.put, List.setIfInBounds_toArray, List.set_cons_zero, List.set_cons_succ]
  refine wpAnyH_ready (rs := [10]) (by kernel_rfl) (by simp) ?_
  refine' AllReadyH.cons (o := _) ?hixa10 (fun K hK => ?hk0xa10) AllReadyH.nil
  case hixa10 => exact rfl
  go_simp
  refine hK.out _ _ ?hS0xa10 (fun hHeld => ?restxa10)
  case hS0xa10 => (try dsimp only); go_keep
  clear hK K
  try simp only [Act.put, List.setIfInBounds_toArray, List.set_cons_zero, List.set_cons_succ]
  refine wpAnyH_done (by kernel_rfl) ?_ _
  obtain ⟨y1, y2, y3⟩ := HTR.out
  have hfin := set_two hF3 (.slice ta TF.length tc) (.slice tb TG.length td)
  have hxf : Ext w ((w5.setCell ⟨bt + 1 + 1, 0, none⟩ (.slice ta TF.length tc)).setCell ⟨bt + 1 + 1, 1, none⟩ (.slice tb TG.length td)) := Ext.setCell (Ext.setCell hC5.1 (p := ⟨bt + 1 + 1, 0, none⟩) (by show w.heap.size ≤ bt + 1 + 1; omega) _) (p := ⟨bt + 1 + 1, 1, none⟩) (by show w.heap.size ≤ bt + 1 + 1; omega) _
  have hoth : ∀ k, k ≠ bt + 1 → k ≠ bt + 1 + 1 → ((w5.setCell ⟨bt + 1 + 1, 0, none⟩ (.slice ta TF.length tc)).setCell ⟨bt + 1 + 1, 1, none⟩ (.slice tb TG.length td)).heap[k]? = w5.heap[k]? := fun k _ h4 => by
    rw [heap_setCell_other _ _ _ _ h4, heap_setCell_other _ _ _ _ h4]
  have hss : ((w5.setCell ⟨bt + 1 + 1, 0, none⟩ (.slice ta TF.length tc)).setCell ⟨bt + 1 + 1, 1, none⟩ (.slice tb TG.length td)).heap.size = w5.heap.size := by simp [World.setCell]
  have hz1 := rws_move y1 hF2 hF3 (Nat.le_of_eq hss.symm) hoth
  have hz2 := rws_move y2 hF2 hF3 (Nat.le_of_eq hss.symm) hoth
  go_wp2
  generalize (w5.setCell ⟨bt + 1 + 1, 0, none⟩ (.slice ta TF.length tc)).setCell ⟨bt + 1 + 1, 1, none⟩ (.slice tb TG.length td) = wf at hfin hxf hz1 hz2 ⊢
  obtain ⟨k0, k1, _, _⟩ := cells_two hfin
  refine bodyPost_ret (v := .agg #[.slice ta TF.length tc, .slice tb TG.length td]) (by simp [results, Tryz.results122, go_sem, k0, k1]) rfl ?_
  exact ⟨_, rfl, ⟨ta, tc, tb, td, TF, TG, rfl, hz1, hz2, y3⟩, hxf⟩
end Go.Proofs.YtndopjmdpmkgeaaGreatDoor

namespace Go.Proofs.YtndopjmdpmkgeaaGreatDoor
open Go Go.ChangeShapes Go.WideShapes Go.ChangeAt Go.RowKit
set_option linter.unusedSimpArgs false
set_option linter.unusedVariables false

/-- A world that came of another one, in which some cells hold what they hold, and some values are tables. -/
def TabsC (w : World) : List (Value × List Pr) → Prop
  | [] => True
  | p :: ts => IsTab w p.1 p.2 ∧ TabsC w ts
theorem TabsC.ext {w w' : World} (k : Ext w w') : ∀ {ts : List (Value × List Pr)}, TabsC w ts → TabsC w' ts
  | [], _ => trivial
  | _ :: _, h => ⟨h.1.ext k, TabsC.ext k h.2⟩
structure KeepT (W : World) (cs : List (Addr × Value)) (ts : List (Value × List Pr)) (w : World) : Prop where
  ex : Ext W w
  tb : Tabs w
  c : KeepC w cs
  t : TabsC w ts
theorem KeepT.start {w : World} (hT : Tabs w) : KeepT w [] [] w := ⟨Ext.refl _, hT, trivial, trivial⟩
theorem KeepT.ext {W w w' : World} {cs : List (Addr × Value)} {ts : List (Value × List Pr)} (h : KeepT W cs ts w) (k : Ext w w') : KeepT W cs ts w' := ⟨h.ex.trans k, h.tb.ext k, h.c.ext k, h.t.ext k⟩
theorem KeepT.tab {W w : World} {cs : List (Addr × Value)} {ts : List (Value × List Pr)} (h : KeepT W cs ts w) {v : Value} {l : List Pr} (ht : IsTab w v l) : KeepT W cs ((v, l) :: ts) w := ⟨h.ex, h.tb, h.c, ht, h.t⟩
theorem KeepT.two {W w : World} {cs : List (Addr × Value)} {ts : List (Value × List Pr)} (h : KeepT W cs ts w) (x y : Value) (T : TypeId) : KeepT W ((⟨w.heap.size, 0, none⟩, x) :: (⟨w.heap.size, 1, none⟩, y) :: cs) ts (w.alloc (.cells #[x, y] T)) := by
  obtain ⟨h1, h2, _⟩ := cells_two (heap_alloc_new w (.cells #[x, y] T))
  have k := h.ext ((Ext.refl w).alloc (.cells #[x, y] T))
  exact ⟨k.ex, k.tb, ⟨h1, h2, k.c⟩, k.t⟩
theorem KeepT.four {W w : World} {cs : List (Addr × Value)} {ts : List (Value × List Pr)} (h : KeepT W cs ts w) (x y : Value) (T : TypeId) (u v : Value) (U : TypeId) : KeepT W ((⟨w.heap.size + 1, 0, none⟩, u) :: (⟨w.heap.size + 1, 1, none⟩, v) :: (⟨w.heap.size, 0, none⟩, x) :: (⟨w.heap.size, 1, none⟩, y) :: cs) ts ((w.alloc (.cells #[x, y] T)).alloc (.cells #[u, v] U)) := by
  have := (h.two x y T).two u v U
  have e : (w.alloc (.cells #[x, y] T)).heap.size = w.heap.size + 1 := by simp
  rw [e] at this
  exact this
theorem seq_any (f t n : Int) (w : World) : Calls Tryz.prog 71 #[.int .i64 f, .int .i32 t, .int .i64 n] w fun e w' => e = .returned (.agg #[.int .i64 f, .int .i32 t, .int .i64 n, .string ⟨#[]⟩]) ∧ Ext w w' := by
  go_enter Tryz.func71, Tryz.ntmps71
  go_wp2
  refine bodyPost_ret (v := .agg #[.int .i64 f, .int .i32 t, .int .i64 n, .string ⟨#[]⟩]) (by simp [results, Tryz.results71, go_sem]) rfl ?_
  exact ⟨rfl, (by repeat (first | exact Ext.refl _ | refine Ext.alloc ?_ _ | refine Ext.setCell ?_ (Nat.le_refl _) _))⟩
theorem list_any (f : Int) (x : ByteArray) (w : World) : Calls Tryz.prog 121 #[.int .i64 f, .string x] w fun e w' => e = .returned (.agg #[.int .i64 f, .int .i32 0, .int .i64 0, .string x]) ∧ Ext w w' := by
  go_enter Tryz.func121, Tryz.ntmps121
  go_wp2
  refine bodyPost_ret (v := .agg #[.int .i64 f, .int .i32 0, .int .i64 0, .string x]) (by simp [results, Tryz.results121, go_sem]) rfl ?_
  exact ⟨rfl, (by repeat (first | exact Ext.refl _ | refine Ext.alloc ?_ _ | refine Ext.setCell ?_ (Nat.le_refl _) _))⟩
def pvCells (l : List Pv) : List Value := l.flatMap fun p => [.int .i64 p.f, .int .i32 p.t, .int .i64 p.c, .string p.x]
theorem pvCells_get : ∀ (l : List Pv) (j : Nat) (p : Pv), l[j]? = some p → (pvCells l)[j * 4]? = some (.int .i64 p.f) ∧ (pvCells l)[j * 4 + 1]? = some (.int .i32 p.t) ∧ (pvCells l)[j * 4 + 2]? = some (.int .i64 p.c) ∧ (pvCells l)[j * 4 + 3]? = some (.string p.x)
  | [], _, _, h => by simp at h
  | q :: l, 0, p, h => by
    simp at h
    subst h
    exact ⟨rfl, rfl, rfl, rfl⟩
  | q :: l, j + 1, p, h => by
    have ih := pvCells_get l j p (by simpa using h)
    have e : (j + 1) * 4 = j * 4 + 1 + 1 + 1 + 1 := by omega
    rw [e]
    exact ih
/-- Pieces that are made at once. -/
theorem pieces_made (w : World) (l : List Pv) (T : TypeId) : IsPieces (w.alloc (.cells (pvCells l).toArray T)) (some ⟨w.heap.size, 0, none⟩) l.length l.length l := by
  have h := heap_alloc_new w (.cells (pvCells l).toArray T)
  refine ⟨rfl, .inr ⟨w.heap.size, 0, rfl, Nat.le_refl _, by simp, fun j p hj => ?_⟩⟩
  obtain ⟨a0, a1, a2, a3⟩ := pvCells_get l j p hj
  have e : ∀ o, (w.alloc (.cells (pvCells l).toArray T)).cell? ⟨w.heap.size, 0 + o, none⟩ = (pvCells l)[o]? := by
    intro o
    simp only [World.cell?, h]
    simp
  exact ⟨(e _).trans a0, (e _).trans a1, (e _).trans a2, (e _).trans a3⟩
/-- A table of pieces that are made at once. -/
theorem new_made (l : List Pv) (T : TypeId) (r : List Pr) (w : World) (hT : Tabs w) (hm : Mid l) (hr : madeP l = (r, -1)) :
    Calls Tryz.prog 119 #[.slice (some ⟨w.heap.size, 0, none⟩) l.length l.length] (w.alloc (.cells (pvCells l).toArray T)) fun e w' => ∃ v, e = .returned (.tuple #[v, .agg #[.int .i64 0, .int .i64 0]]) ∧ IsTab w' v r ∧ Ext w w' := by
  have k := (Ext.refl w).alloc (.cells (pvCells l).toArray T)
  refine (new_any _ _ l _ (hT.ext k) (pieces_made w l T) hm).mono ?_
  rintro e w' ⟨h1, h2⟩
  rw [hr] at h2
  rcases h2 with ⟨_, v, rfl, h3⟩ | ⟨h3, _⟩
  · exact ⟨v, rfl, h3, k.trans h1⟩
  · exact absurd (show (-1 : Int) < 0 by decide) h3
theorem IsTab.open {w : World} {v : Value} {l : List Pr} (h : IsTab w v l) : ∃ (ta : Option Addr) (n1 tc : Nat) (tb : Option Addr) (n2 td : Nat), v = .agg #[.slice ta n1 tc, .slice tb n2 td] := by
  obtain ⟨a1, c1, a2, c2, F, G, rfl, _⟩ := h
  exact ⟨a1, _, c1, a2, _, c2, rfl⟩
def exT : List Pv := [⟨0, 65, 3, ⟨#[]⟩⟩, ⟨10, 0, 0, ⟨#[120, 121]⟩⟩]
def exU : List Pv := [⟨1, 65, 1, ⟨#[]⟩⟩]
def exTl : List Pr := [(0, 65), (1, 66), (2, 67), (10, 120), (11, 121)]
def exUl : List Pr := [(1, 65)]
def exVl : List Pr := [(0, 65), (1, 65), (2, 67), (10, 120), (11, 121)]
theorem exT_made : madeP exT = (exTl, -1) := by decide +kernel
theorem exU_made : madeP exU = (exUl, -1) := by decide +kernel
theorem exV_over : overP exUl exTl = exVl := by decide +kernel
theorem exT_mid : Mid exT := ⟨by decide, by decide⟩
theorem exU_mid : Mid exU := ⟨by decide, by decide⟩
theorem exV_from : From0 exVl := by unfold From0 exVl; decide
theorem ex_newT (w : World) (hT : Tabs w) : Calls Tryz.prog 119 #[.slice (some ⟨w.heap.size, 0, none⟩) 2 2] (w.alloc (.cells #[.int .i64 0, .int .i32 65, .int .i64 3, .string ⟨#[]⟩, .int .i64 10, .int .i32 0, .int .i64 0, .string ⟨#[120, 121]⟩] 105)) fun e w' => ∃ v, e = .returned (.tuple #[v, .agg #[.int .i64 0, .int .i64 0]]) ∧ IsTab w' v exTl ∧ Ext w w' :=
  new_made exT 105 exTl w hT exT_mid exT_made
theorem ex_newU (w : World) (hT : Tabs w) : Calls Tryz.prog 119 #[.slice (some ⟨w.heap.size, 0, none⟩) 1 1] (w.alloc (.cells #[.int .i64 1, .int .i32 65, .int .i64 1, .string ⟨#[]⟩] 105)) fun e w' => ∃ v, e = .returned (.tuple #[v, .agg #[.int .i64 0, .int .i64 0]]) ∧ IsTab w' v exUl ∧ Ext w w' :=
  new_made exU 105 exUl w hT exU_mid exU_made
theorem ex_over (v u : Value) (w : World) (h : IsTab w v exUl) (k : IsTab w u exTl) : Calls Tryz.prog 122 #[v, u] w fun e w' => ∃ v', e = .returned v' ∧ IsTab w' v' exVl ∧ Ext w w' := by
  have := over_any v u exUl exTl w h k (by decide) (by decide)
  rwa [exV_over] at this
theorem ex_revA (v : Value) (w : World) (h : IsTab w v exVl) : Calls Tryz.prog 135 #[v, .int .i32 65] w fun e w' => e = .returned (.tuple #[.int .i64 0, .bool true]) ∧ Ext w w' :=
  rev_yes_any v exVl 65 0 w h exV_from (by decide) (by decide)
theorem ex_revB (v : Value) (w : World) (h : IsTab w v exVl) : Calls Tryz.prog 135 #[v, .int .i32 66] w fun e w' => e = .returned (.tuple #[.int .i64 0, .bool false]) ∧ Ext w w' :=
  rev_no_any v exVl 66 w h exV_from (by decide) (by decide) (by decide)
theorem ex_fwd (v : Value) (w : World) (h : IsTab w v exVl) : Calls Tryz.prog 75 #[v, .int .i64 11] w fun e w' => e = .returned (.tuple #[.int .i32 121, .bool true]) ∧ Ext w w' :=
  fwd_yes v exVl (11, 121) w h (by decide)
theorem ex_size (v : Value) (w : World) (h : IsTab w v exTl) : Calls Tryz.prog 136 #[v] w fun e w' => e = .returned (.int .i64 5) ∧ Ext w w' :=
  table_size v exTl w h
set_option maxRecDepth 100000 in
set_option maxHeartbeats 4000000 in
theorem awake4_any (w : World) (hT : Tabs w) : Calls Tryz.prog 106 #[] w fun e w' => e = .returned (.bool true) ∧ Ext w w' := by
  have hC := KeepT.start hT
  have HN1 := Lib.hid (fun w hT => ex_newT w hT)
  have HN2 := Lib.hid (fun w hT => ex_newU w hT)
  have HR1 := Lib.hid (fun v w h => ex_revA v w h)
  have HR2 := Lib.hid (fun v w h => ex_revB v w h)
  clear hT
  go_enter Tryz.func106, Tryz.ntmps106
  go_wp2_with (first
    | (go_at_call 71; refine (seq_any _ _ _ _).mono ?_; rintro e w1 ⟨rfl, hb1⟩; have hC' := hC.ext hb1; clear hC hb1; have hC := hC'; clear hC')
    | (go_at_call 121; refine (list_any _ _ _).mono ?_; rintro e w2 ⟨rfl, hb2⟩; have hC' := hC.ext hb2; clear hC hb2; have hC := hC'; clear hC')
    | (go_at_call 119; refine (HN1.out _ hC.tb).mono ?_; rintro e w3 ⟨v3, rfl, ht3, hb3⟩; obtain ⟨ta, n1, tc, tb, n2, td, rfl⟩ := ht3.open; have hC' := ((hC.ext hb3).tab ht3).four (.slice ta n1 tc) (.slice tb n2 td) 74 (.int .i64 0) (.int .i64 0) 54; clear hC hb3 ht3 HN1; have hC := hC'; clear hC')
    | (go_at_call 119; refine (HN2.out _ hC.tb).mono ?_; rintro e w4 ⟨v4, rfl, ht4, hb4⟩; obtain ⟨ua, m1, uc, ub, m2, ud, rfl⟩ := ht4.open; have hC' := ((hC.ext hb4).tab ht4).four (.slice ua m1 uc) (.slice ub m2 ud) 74 (.int .i64 0) (.int .i64 0) 54; clear hC hb4 ht4; have hC := hC'; clear hC'; obtain ⟨c1, c2, c3, c4, c5, c6, c7, c8, _⟩ := hC.c)
    | (go_at_call 122; refine (ex_over _ _ _ hC.t.1 hC.t.2.1).mono ?_; rintro e w5 ⟨v5, rfl, ht5, hb5⟩; obtain ⟨xa, l1, xc, xb, l2, xd, rfl⟩ := ht5.open; have hC' := ((hC.ext hb5).tab ht5).two (.slice xa l1 xc) (.slice xb l2 xd) 74; clear hC hb5 ht5 c1 c2 c3 c4 c5 c6 c7 c8; have hC := hC'; clear hC'; obtain ⟨d1, d2, c1, c2, c3, c4, c5, c6, c7, c8, _⟩ := hC.c)
    | (go_at_call 135; refine (HR1.out _ _ hC.t.1).mono ?_; rintro e w6 ⟨rfl, hb6⟩; have hC' := hC.ext hb6; clear hC hb6 HR1 d1 d2 c1 c2 c3 c4 c5 c6 c7 c8; have hC := hC'; clear hC'; obtain ⟨d1, d2, c1, c2, c3, c4, c5, c6, c7, c8, _⟩ := hC.c)
    | (go_at_call 135; refine (HR2.out _ _ hC.t.1).mono ?_; rintro e w7 ⟨rfl, hb7⟩; have hC' := hC.ext hb7; clear hC hb7 d1 d2 c1 c2 c3 c4 c5 c6 c7 c8; have hC := hC'; clear hC'; obtain ⟨d1, d2, c1, c2, c3, c4, c5, c6, c7, c8, _⟩ := hC.c)
    | (go_at_call 75; refine (ex_fwd _ _ hC.t.1).mono ?_; rintro e w8 ⟨rfl, hb8⟩; have hC' := hC.ext hb8; clear hC hb8 d1 d2 c1 c2 c3 c4 c5 c6 c7 c8; have hC := hC'; clear hC'; obtain ⟨d1, d2, c1, c2, c3, c4, c5, c6, c7, c8, _⟩ := hC.c)
    | (go_at_call 136; refine (ex_size _ _ hC.t.2.2.1).mono ?_; rintro e w9 ⟨rfl, hb9⟩; have hC' := hC.ext hb9; clear hC hb9 d1 d2 c1 c2 c3 c4 c5 c6 c7 c8; have hC := hC'; clear hC'; obtain ⟨d1, d2, c1, c2, c3, c4, c5, c6, c7, c8, _⟩ := hC.c)
    | (go_at_call 24; refine (bad_no _ _ _ (by decide)).mono ?_; rintro e wx ⟨rfl, hbx⟩; have hC' := hC.ext hbx; clear hC hbx d1 d2 c1 c2 c3 c4 c5 c6 c7 c8; have hC := hC'; clear hC'; obtain ⟨d1, d2, c1, c2, c3, c4, c5, c6, c7, c8, _⟩ := hC.c))
  go_ret
  exact ⟨rfl, hC.ex⟩
end Go.Proofs.YtndopjmdpmkgeaaGreatDoor
namespace Go.Proofs.YtndopjmdpmkgeaaGreatDoor
open Go Go.ChangeShapes Go.WideShapes Go.ChangeAt Go.RowKit
set_option linter.unusedSimpArgs false
set_option linter.unusedVariables false

theorem rws_move1 {w wf : World} {a : Option Addr} {n cap b : Nat} {l : List Rw} {x y : Value} {T : TypeId} (h : IsRws w a n cap l) (h1 : w.heap[b]? = some (.cells #[x, y] T (0, 0))) (hs : w.heap.size ≤ wf.heap.size) (hk : ∀ k, k ≠ b → wf.heap[k]? = w.heap[k]?) : IsRws wf a n cap l := by
  obtain ⟨h3, h4 | ⟨g, off, rfl, hc, hg, hcell⟩⟩ := h
  · exact ⟨h3, .inl h4⟩
  · by_cases hn : n = 0
    · exact ⟨h3, .inl hn⟩
    · have e : l[0]? = some l[0] := List.getElem?_eq_getElem (by omega)
      have h5 := (hcell 0 _ e).2.2
      have g1 : g ≠ b := by
        rintro rfl
        simp [World.cell?, h1] at h5
      refine ⟨h3, .inr ⟨g, off, rfl, hc, by omega, fun j r hj => ?_⟩⟩
      obtain ⟨a0, a1, a2⟩ := hcell j r hj
      exact ⟨(World.cell?_of_block (hk g g1)).trans a0, (World.cell?_of_block (hk g g1)).trans a1, (World.cell?_of_block (hk g g1)).trans a2⟩
theorem IsTab.move {w wf : World} {v : Value} {l : List Pr} {b : Nat} {x y : Value} {T : TypeId} (h : IsTab w v l) (h1 : w.heap[b]? = some (.cells #[x, y] T (0, 0))) (hs : w.heap.size ≤ wf.heap.size) (hk : ∀ k, k ≠ b → wf.heap[k]? = w.heap[k]?) : IsTab wf v l := by
  obtain ⟨a1, c1, a2, c2, F, G, rfl, y1, y2, r⟩ := h
  exact ⟨a1, c1, a2, c2, F, G, rfl, rws_move1 y1 h1 hs hk, rws_move1 y2 h1 hs hk, r⟩
/-- The pairs of a table that is made of pieces, if they may be. -/
def tabL (vs : List Pv) : List Pr := (madeP vs).1
theorem madeGo_neg : ∀ (vs : List Pv) (cur : List Pr) (i : Nat), ¬ (madeGo cur i vs).2 < 0 → (madeGo cur i vs).1 = []
  | [], cur, i, h => absurd (show (-1 : Int) < 0 by decide) h
  | v :: vs, cur, i, h => by
    cases hp : pieceP v.f v.t v.c v.x with
    | none => rw [madeGo_none hp]
    | some more =>
      cases hj : joinP cur more with
      | none => rw [madeGo_no hp hj]
      | some all2 =>
        rw [madeGo_some hp hj] at h ⊢
        exact madeGo_neg vs all2 (i + 1) h
theorem tab_nil (w : World) : IsTab w (.agg #[.slice none 0 0, .slice none 0 0]) [] :=
  ⟨none, 0, none, 0, [], [], rfl, IsRws.none _ _ _, IsRws.none _ _ _, rfl, GoodL.nil, GoodL.nil, ⟨Rising.nil, fun p c => by simp [expL]⟩, Rising.nil, fun q hq => by simp at hq, by simp, by simp⟩
/-- New, in whatever way: a table, and a fault. -/
theorem new_tab (a : Option Addr) (cap : Nat) (vs : List Pv) (w : World) (hT : Tabs w) (h : IsPieces w a vs.length cap vs) (hm : Mid vs) :
    Calls Tryz.prog 119 #[.slice a vs.length cap] w fun e w' => ∃ (v : Value) (er pl : Int), e = .returned (.tuple #[v, .agg #[.int .i64 er, .int .i64 pl]]) ∧ IsTab w' v (tabL vs) ∧ (((madeP vs).2 < 0 ∧ er = 0 ∧ pl = 0) ∨ (¬ (madeP vs).2 < 0 ∧ er = 5 ∧ pl = (madeP vs).2)) ∧ Ext w w' := by
  refine (new_any a cap vs w hT h hm).mono ?_
  rintro e w' ⟨hx, ⟨h1, v, rfl, h2⟩ | ⟨h1, rfl⟩⟩
  · exact ⟨v, 0, 0, rfl, h2, .inl ⟨h1, rfl, rfl⟩, hx⟩
  · refine ⟨_, 5, (madeP vs).2, rfl, ?_, .inr ⟨h1, rfl, rfl⟩, hx⟩
    have : tabL vs = [] := madeGo_neg vs [] 0 h1
    rw [this]
    exact tab_nil w'
end Go.Proofs.YtndopjmdpmkgeaaGreatDoor

namespace Go.Proofs.YtndopjmdpmkgeaaGreatDoor
open Go Go.ChangeShapes Go.WideShapes Go.ChangeAt Go.RowKit
set_option linter.unusedSimpArgs false
set_option linter.unusedVariables false

set_option maxHeartbeats 1000000 in
theorem sgtable_any (a : Option Addr) (cap : Nat) (vs : List Pv) (w : World) (hT : Tabs w) (h : IsPieces w a vs.length cap vs) (hm : Mid vs) :
    Calls Tryz.prog 70 #[.slice a vs.length cap] w fun e w' => ∃ v, e = .returned v ∧ IsTab w' v (tabL vs) ∧ Ext w w' := by
  have hb0 := heap_alloc_new w (.cells #[.slice none 0 0, .slice none 0 0] 74)
  have hx0 := (Ext.refl w).alloc (.cells #[.slice none 0 0, .slice none 0 0] 74)
  have HN := Lib.hid (new_tab a cap vs _ (hT.ext hx0) (h.ext hx0) hm)
  have HB0 := Lib.hid hb0
  clear hT h hm hb0
  go_enter Tryz.func70, Tryz.ntmps70
  go_wp2_with (go_at_call 119; refine HN.out.mono ?_; rintro e w1 ⟨v, er, pl, rfl, ht, hep, hb1⟩; obtain ⟨ta, n1, tc, tb, n2, td, rfl⟩ := ht.open; have HTB := Lib.hid ht; have hx1 := hx0.trans hb1; have HF1 := Lib.hid ((hb1.block _ (lt_of_block HB0.out)).trans HB0.out); have hxa := ((Ext.refl w1).alloc (.cells #[.slice ta n1 tc, .slice tb n2 td] 74)).alloc (.cells #[.int .i64 er, .int .i64 pl] 54); obtain ⟨t0, t1, t2, t3⟩ := cells_two ((hxa.block _ (lt_of_block HF1.out)).trans HF1.out); clear ht hep hb1)
  have hB2 := (hxa.block _ (lt_of_block HF1.out)).trans HF1.out
  have htb := HTB.out.ext hxa
  have hx2 := hx1.trans hxa
  generalize (w1.alloc (.cells #[.slice ta n1 tc, .slice tb n2 td] 74)).alloc (.cells #[.int .i64 er, .int .i64 pl] 54) = wq at hB2 htb hx2 ⊢
  have hfin := set_two hB2 (.slice ta n1 tc) (.slice tb n2 td)
  have hmv := htb.move hB2 (wf := (wq.setCell ⟨w.heap.size, 0, none⟩ (.slice ta n1 tc)).setCell ⟨w.heap.size, 1, none⟩ (.slice tb n2 td)) (by simp [World.setCell]) (fun k h4 => by rw [heap_setCell_other _ _ _ _ h4, heap_setCell_other _ _ _ _ h4])
  have hxf : Ext w ((wq.setCell ⟨w.heap.size, 0, none⟩ (.slice ta n1 tc)).setCell ⟨w.heap.size, 1, none⟩ (.slice tb n2 td)) := Ext.setCell (Ext.setCell hx2 (Nat.le_refl _) _) (Nat.le_refl _) _
  generalize (wq.setCell ⟨w.heap.size, 0, none⟩ (.slice ta n1 tc)).setCell ⟨w.heap.size, 1, none⟩ (.slice tb n2 td) = wf at hfin hmv hxf ⊢
  obtain ⟨k0, k1, _, _⟩ := cells_two hfin
  refine bodyPost_ret (v := .agg #[.slice ta n1 tc, .slice tb n2 td]) (by simp [results, Tryz.results70, go_sem, k0, k1]) rfl ?_
  exact ⟨_, rfl, hmv, hxf⟩
theorem table_made (l : List Pv) (T : TypeId) (r : List Pr) (w : World) (hT : Tabs w) (hm : Mid l) (hr : madeP l = (r, -1)) :
    Calls Tryz.prog 70 #[.slice (some ⟨w.heap.size, 0, none⟩) l.length l.length] (w.alloc (.cells (pvCells l).toArray T)) fun e w' => ∃ v, e = .returned v ∧ IsTab w' v r ∧ Ext w w' := by
  have k := (Ext.refl w).alloc (.cells (pvCells l).toArray T)
  refine (sgtable_any _ _ l _ (hT.ext k) (pieces_made w l T) hm).mono ?_
  rintro e w' ⟨v, rfl, h1, h2⟩
  have e1 : tabL l = r := congrArg Prod.fst hr
  rw [e1] at h1
  exact ⟨v, rfl, h1, k.trans h2⟩
/-- A list of signs whose text is told otherwise. -/
theorem list_to (f : Int) (x y : ByteArray) (w : World) (h : x = y) : Calls Tryz.prog 121 #[.int .i64 f, .string x] w fun e w' => e = .returned (.agg #[.int .i64 f, .int .i32 0, .int .i64 0, .string y]) ∧ Ext w w' := by
  subst h
  exact list_any f x w
theorem plain_any (w : World) : Calls Tryz.prog 120 #[] w fun e w' => e = .returned (.agg #[.int .i64 0, .int .i32 0, .int .i64 128, .string ⟨#[]⟩]) ∧ Ext w w' := by
  have HB0 := Lib.hid (heap_alloc_new w (.cells #[.int .i64 0, .int .i32 0, .int .i64 0, .string ⟨#[]⟩] 105))
  go_enter Tryz.func120, Tryz.ntmps120
  go_wp2_with (go_at_call 71; refine (seq_any _ _ _ _).mono ?_; rintro e w1 ⟨rfl, hb1⟩; have HB := Lib.hid ((hb1.block _ (by simp)).trans HB0.out); have hx1 := ((Ext.refl w).alloc _).trans hb1; obtain ⟨⟨c0, c1, c2, c3⟩, z0, z1, z2, z3⟩ := facts4 HB.out; clear hb1)
  obtain ⟨wf, hwf, hx, hB, _, _⟩ := put4 HB.out hx1 (Nat.le_refl _) (.int .i64 0) (.int .i32 0) (.int .i64 128) (.string ⟨#[]⟩)
  rw [← hwf]
  obtain ⟨⟨k0, k1, k2, k3⟩, _⟩ := facts4 hB
  clear hwf hB c0 c1 c2 c3 z0 z1 z2 z3
  refine bodyPost_ret (v := .agg #[.int .i64 0, .int .i32 0, .int .i64 128, .string ⟨#[]⟩]) (by simp [results, Tryz.results120, go_sem, k0, k1, k2, k3]) rfl ?_
  exact ⟨rfl, hx⟩
/-- A table that a call has made: it came of the world, and is a table of these pairs. -/
def TabOut (w : World) (l : List Pr) (e : Ending) (w' : World) : Prop := ∃ v, e = .returned v ∧ IsTab w' v l ∧ Ext w w'
set_option maxRecDepth 100000 in
set_option maxHeartbeats 1000000 in
theorem koi8r_any (w : World) (hT : Tabs w) : Calls Tryz.prog 72 #[] w (TabOut w (tabP 1)) := by
  have hB0 := heap_alloc_new w (.cells #[.slice none 0 0, .slice none 0 0] 74)
  have hx0 := (Ext.refl w).alloc (.cells #[.slice none 0 0, .slice none 0 0] 74)
  have HTM : Hid (∀ w : World, Tabs w → Calls Tryz.prog 70 #[.slice (some ⟨w.heap.size, 0, none⟩) 2 2] (w.alloc (.cells #[.int .i64 0, .int .i32 0, .int .i64 128, .string ⟨#[]⟩, .int .i64 128, .int .i32 0, .int .i64 0, .string koiS] 105)) fun e w' => ∃ v, e = .returned v ∧ IsTab w' v (tabP 1) ∧ Ext w w') := fun w hT => table_made koiP 105 (tabP 1) w hT ⟨by decide, by decide +kernel⟩ koi_made
  have HB0 := Lib.hid hB0
  have HT := Lib.hid (hT.ext hx0)
  clear hB0 hT
  go_enter Tryz.func72, Tryz.ntmps72
  go_wp2_with (first
    | (go_at_call 120; refine (plain_any _).mono ?_; rintro e w1 ⟨rfl, hb1⟩)
    | (go_at_call 121; refine (list_to _ _ koiS _ (by decide +kernel)).mono ?_; rintro e w2 ⟨rfl, hb2⟩)
    | (go_at_call 70; refine (HTM.out _ ((HT.out.ext hb1).ext hb2)).mono ?_; rintro e w3 ⟨v, rfl, ht, hb3⟩; obtain ⟨ta, n1, tc, tb, n2, td, rfl⟩ := ht.open; have hbb := (hb1.trans hb2).trans hb3; have HTB := Lib.hid ht; have HB := Lib.hid ((hbb.block _ (by simp)).trans HB0.out); have hx1 := hx0.trans hbb; obtain ⟨⟨c0, c1⟩, z0, z1⟩ := facts2 HB.out; clear ht hb1 hb2 hb3 hbb))
  obtain ⟨wf, hwf, hx, hB, hs, hk⟩ := put2 HB.out hx1 (Nat.le_refl _) (.slice ta n1 tc) (.slice tb n2 td)
  rw [← hwf]
  obtain ⟨⟨k0, k1⟩, _⟩ := facts2 hB
  have ht := HTB.out.move HB.out hs hk
  clear hwf hB c0 c1 z0 z1 hs hk
  refine bodyPost_ret (v := .agg #[.slice ta n1 tc, .slice tb n2 td]) (by simp [results, Tryz.results72, go_sem, k0, k1]) rfl ?_
  exact ⟨_, rfl, ht, hx⟩
set_option maxRecDepth 100000 in
set_option maxHeartbeats 1000000 in
theorem cp866_any (w : World) (hT : Tabs w) : Calls Tryz.prog 74 #[] w (TabOut w (tabP 3)) := by
  have hB0 := heap_alloc_new w (.cells #[.slice none 0 0, .slice none 0 0] 74)
  have hx0 := (Ext.refl w).alloc (.cells #[.slice none 0 0, .slice none 0 0] 74)
  have HTM : Hid (∀ w : World, Tabs w → Calls Tryz.prog 70 #[.slice (some ⟨w.heap.size, 0, none⟩) 5 5] (w.alloc (.cells #[.int .i64 0, .int .i32 0, .int .i64 128, .string ⟨#[]⟩, .int .i64 128, .int .i32 1040, .int .i64 48, .string ⟨#[]⟩, .int .i64 176, .int .i32 0, .int .i64 0, .string lineS, .int .i64 224, .int .i32 1088, .int .i64 16, .string ⟨#[]⟩, .int .i64 240, .int .i32 0, .int .i64 0, .string signS] 105)) fun e w' => ∃ v, e = .returned v ∧ IsTab w' v (tabP 3) ∧ Ext w w') := fun w hT => table_made cpP 105 (tabP 3) w hT ⟨by decide, by decide +kernel⟩ cp_made
  have HB0 := Lib.hid hB0
  have HX := Lib.hid hx0
  have HT := Lib.hid hT
  clear hB0 hT hx0
  go_enter Tryz.func74, Tryz.ntmps74
  go_wp2_with (first
    | (go_at_call 120; refine (plain_any _).mono ?_; rintro e w1 ⟨rfl, hb1⟩; have hx := HX.out.trans hb1; have hB := (hb1.block _ (by simp)).trans HB0.out; clear hb1)
    | (go_at_call 121; refine (list_to _ _ lineS _ (by decide +kernel)).mono ?_; rintro e w1 ⟨rfl, hb1⟩; have hx' := hx.trans hb1; have hB' := (hb1.block _ (lt_of_block hB)).trans hB; clear hx hB hb1; have hx := hx'; have hB := hB'; clear hx' hB')
    | (go_at_call 121; refine (list_to _ _ signS _ (by decide +kernel)).mono ?_; rintro e w1 ⟨rfl, hb1⟩; have hx' := hx.trans hb1; have hB' := (hb1.block _ (lt_of_block hB)).trans hB; clear hx hB hb1; have hx := hx'; have hB := hB'; clear hx' hB')
    | (go_at_call 71; refine (seq_any _ _ _ _).mono ?_; rintro e w1 ⟨rfl, hb1⟩; have hx' := hx.trans hb1; have hB' := (hb1.block _ (lt_of_block hB)).trans hB; clear hx hB hb1; have hx := hx'; have hB := hB'; clear hx' hB')
    | (go_at_call 70; refine (HTM.out _ (HT.out.ext hx)).mono ?_; rintro e w3 ⟨v, rfl, ht, hb3⟩; obtain ⟨ta, n1, tc, tb, n2, td, rfl⟩ := ht.open; have HTB := Lib.hid ht; have HB := Lib.hid ((hb3.block _ (lt_of_block hB)).trans hB); have hx1 := hx.trans hb3; obtain ⟨⟨c0, c1⟩, z0, z1⟩ := facts2 HB.out; clear ht hb3 hx hB))
  obtain ⟨wf, hwf, hx, hB, hs, hk⟩ := put2 HB.out hx1 (Nat.le_refl _) (.slice ta n1 tc) (.slice tb n2 td)
  rw [← hwf]
  obtain ⟨⟨k0, k1⟩, _⟩ := facts2 hB
  have ht := HTB.out.move HB.out hs hk
  clear hwf hB c0 c1 z0 z1 hs hk
  refine bodyPost_ret (v := .agg #[.slice ta n1 tc, .slice tb n2 td]) (by simp [results, Tryz.results74, go_sem, k0, k1]) rfl ?_
  exact ⟨_, rfl, ht, hx⟩
set_option maxRecDepth 100000 in
set_option maxHeartbeats 1000000 in
theorem koi8u_any (w : World) (hT : Tabs w) : Calls Tryz.prog 73 #[] w (TabOut w (tabP 2)) := by
  have hB0 := heap_alloc_new w (.cells #[.slice none 0 0, .slice none 0 0] 74)
  have hx0 := (Ext.refl w).alloc (.cells #[.slice none 0 0, .slice none 0 0] 74)
  have HTM : Hid (∀ w : World, Tabs w → Calls Tryz.prog 70 #[.slice (some ⟨w.heap.size, 0, none⟩) 6 6] (w.alloc (.cells #[.int .i64 164, .int .i32 0, .int .i64 0, .string ⟨#[209, 148]⟩, .int .i64 166, .int .i32 0, .int .i64 0, .string ⟨#[209, 150, 209, 151]⟩, .int .i64 173, .int .i32 0, .int .i64 0, .string ⟨#[210, 145]⟩, .int .i64 180, .int .i32 0, .int .i64 0, .string ⟨#[208, 132]⟩, .int .i64 182, .int .i32 0, .int .i64 0, .string ⟨#[208, 134, 208, 135]⟩, .int .i64 189, .int .i32 0, .int .i64 0, .string ⟨#[210, 144]⟩] 105)) fun e w' => ∃ v, e = .returned v ∧ IsTab w' v letL5 ∧ Ext w w') := fun w hT => table_made letP5 105 letL5 w hT ⟨by decide, by decide +kernel⟩ let_made
  have HOV : Hid (∀ (v u : Value) (w : World), IsTab w v letL5 → IsTab w u (tabP 1) → Calls Tryz.prog 122 #[v, u] w fun e w' => ∃ v', e = .returned v' ∧ IsTab w' v' (tabP 2) ∧ Ext w w') := fun v u w h k => by
    have := over_any v u letL5 (tabP 1) w h k (by decide) (by decide +kernel)
    rwa [koiu_over] at this
  have HB0 := Lib.hid hB0
  have HX := Lib.hid hx0
  have HT := Lib.hid hT
  have hx := Ext.refl (w.alloc (.cells #[.slice none 0 0, .slice none 0 0] 74))
  clear hB0 hT hx0
  go_enter Tryz.func73, Tryz.ntmps73
  go_wp2_with (first
    | (go_at_call 121; refine (list_any _ _ _).mono ?_; rintro e w1 ⟨rfl, hb1⟩; have hx' := hx.trans hb1; clear hx hb1; have hx := hx'; clear hx')
    | (go_at_call 70; refine (HTM.out _ (HT.out.ext (HX.out.trans hx))).mono ?_; rintro e w3 ⟨v, rfl, ht, hb3⟩; obtain ⟨ta, n1, tc, tb, n2, td, rfl⟩ := ht.open; have hx' := hx.trans hb3; clear hx hb3; have hx := hx'; clear hx'))
  have hb := heap_alloc_new w3 (.cells #[.slice ta n1 tc, .slice tb n2 td] 74)
  have hxa := (Ext.refl w3).alloc (.cells #[.slice ta n1 tc, .slice tb n2 td] 74)
  have HBL := Lib.hid hb
  have HXA := Lib.hid (hxa.drew)
  have HTB := Lib.hid ht
  have HX3 := Lib.hid hx
  clear hb hxa ht hx
  go_region_with (first
    | (go_at_call 72; refine (koi8r_any _ (HT.out.ext ((HX.out.trans HX3.out).trans HXA.out))).mono ?_; rintro e w4 ⟨v4, rfl, ht4, hb4⟩; obtain ⟨ua, m1, uc, ub, m2, ud, rfl⟩ := ht4.open; have hl := (hb4.block _ (by simp [World.drew])).trans HBL.out; obtain ⟨⟨d0, d1⟩, _⟩ := facts2 hl; have HB4 := Lib.hid hb4; have HT4 := Lib.hid ht4; clear ht4 hb4 hl)
    | (go_at_call 122; refine (HOV.out _ _ _ (HTB.out.ext (HXA.out.trans HB4.out)) HT4.out).mono ?_; rintro e w5 ⟨v5, rfl, ht5, hb5⟩; obtain ⟨xa, l1, xc, xb, l2, xd, rfl⟩ := ht5.open; have hbb := ((HX3.out.trans HXA.out).trans HB4.out).trans hb5; have HTF := Lib.hid ht5; have HB := Lib.hid ((hbb.block _ (by simp)).trans HB0.out); have hx1 := HX.out.trans hbb; obtain ⟨⟨c0, c1⟩, z0, z1⟩ := facts2 HB.out; clear ht5 hb5 hbb d0 d1))
  all_goals
    go_wp2
    obtain ⟨wf, hwf, hx, hB, hs, hk⟩ := put2 HB.out hx1 (Nat.le_refl _) (.slice xa l1 xc) (.slice xb l2 xd)
    rw [← hwf]
    obtain ⟨⟨k0, k1⟩, _⟩ := facts2 hB
    have ht := HTF.out.move HB.out hs hk
    clear hwf hB c0 c1 z0 z1 hs hk
    refine bodyPost_ret (v := .agg #[.slice xa l1 xc, .slice xb l2 xd]) (by simp [results, Tryz.results73, go_sem, k0, k1]) rfl ?_
    exact ⟨_, rfl, ht, hx⟩
end Go.Proofs.YtndopjmdpmkgeaaGreatDoor

namespace Go.Proofs.YtndopjmdpmkgeaaGreatDoor
open Go Go.ChangeShapes Go.WideShapes Go.ChangeAt Go.RowKit
set_option linter.unusedSimpArgs false
set_option linter.unusedVariables false

/-- A value is a charset: a table of these pairs, a number. -/
def IsSet (w : World) (v : Value) (c : Int) (l : List Pr) : Prop := ∃ (ta : Option Addr) (n1 tc : Nat) (tb : Option Addr) (n2 td : Nat), v = .agg #[.slice ta n1 tc, .slice tb n2 td, .int .i64 c] ∧ IsTab w (.agg #[.slice ta n1 tc, .slice tb n2 td]) l
theorem IsSet.ext {w w' : World} {v : Value} {c : Int} {l : List Pr} (h : IsSet w v c l) (k : Ext w w') : IsSet w' v c l := by
  obtain ⟨ta, n1, tc, tb, n2, td, rfl, h2⟩ := h
  exact ⟨ta, n1, tc, tb, n2, td, rfl, h2.ext k⟩
def SetOut (w : World) (c : Int) (l : List Pr) (e : Ending) (w' : World) : Prop := ∃ v, e = .returned (.tuple #[v, .bool true]) ∧ IsSet w' v c l ∧ Ext w w'
/-- Two blocks: a charset's three cells, a table's two. -/
structure Two (w0 w : World) (b : Nat) : Prop where
  ex : Ext w0 w
  lo : w0.heap.size ≤ b
  b0 : w.heap[b]? = some (.cells #[.slice none 0 0, .slice none 0 0, .int .i64 0] 76 (0, 0))
  b1 : w.heap[b + 1]? = some (.cells #[.slice none 0 0, .slice none 0 0] 74 (0, 0))
theorem Two.ext {w0 w w' : World} {b : Nat} (h : Two w0 w b) (k : Ext w w') : Two w0 w' b := ⟨h.ex.trans k, h.lo, (k.block _ (lt_of_block h.b0)).trans h.b0, (k.block _ (lt_of_block h.b1)).trans h.b1⟩
theorem Two.start (w : World) : Two w ((w.alloc (.cells #[.slice none 0 0, .slice none 0 0, .int .i64 0] 76)).alloc (.cells #[.slice none 0 0, .slice none 0 0] 74)) w.heap.size := by
  have h1 := heap_alloc_new w (.cells #[.slice none 0 0, .slice none 0 0, .int .i64 0] 76)
  have h2 := heap_alloc_new (w.alloc (.cells #[.slice none 0 0, .slice none 0 0, .int .i64 0] 76)) (.cells #[.slice none 0 0, .slice none 0 0] 74)
  have e : (w.alloc (.cells #[.slice none 0 0, .slice none 0 0, .int .i64 0] 76)).heap.size = w.heap.size + 1 := by simp
  rw [e] at h2
  have k := (Ext.refl (w.alloc (.cells #[.slice none 0 0, .slice none 0 0, .int .i64 0] 76))).alloc (.cells #[.slice none 0 0, .slice none 0 0] 74)
  exact ⟨((Ext.refl w).alloc _).alloc _, Nat.le_refl _, (k.block _ (lt_of_block h1)).trans h1, h2⟩
theorem rws_move3 {w wf : World} {a : Option Addr} {n cap b : Nat} {l : List Rw} {s1 s2 : Option Addr} {p1 p2 q1 q2 : Nat} {z : Value} {T : TypeId} (h : IsRws w a n cap l) (h1 : w.heap[b]? = some (.cells #[.slice s1 p1 p2, .slice s2 q1 q2, z] T (0, 0))) (hs : w.heap.size ≤ wf.heap.size) (hk : ∀ k, k ≠ b → wf.heap[k]? = w.heap[k]?) : IsRws wf a n cap l := by
  obtain ⟨h3, h4 | ⟨g, off, rfl, hc, hg, hcell⟩⟩ := h
  · exact ⟨h3, .inl h4⟩
  · by_cases hn : n = 0
    · exact ⟨h3, .inl hn⟩
    · have e : l[0]? = some l[0] := List.getElem?_eq_getElem (by omega)
      have h5 := hcell 0 _ e
      have g1 : g ≠ b := by
        rintro rfl
        simp only [World.cell?, h1] at h5
        obtain ⟨y1, y2, y3⟩ := h5
        have : off = 0 ∨ off = 1 ∨ 2 ≤ off := by omega
        rcases this with rfl | rfl | h6
        · simp at y1
        · simp at y1
        · have : (#[Value.slice s1 p1 p2, Value.slice s2 q1 q2, z] : Array Value)[off + 0 * 3 + 2]? = none := Array.getElem?_eq_none (by simp; omega)
          rw [this] at y3
          cases y3
      refine ⟨h3, .inr ⟨g, off, rfl, hc, by omega, fun j r hj => ?_⟩⟩
      obtain ⟨a0, a1, a2⟩ := hcell j r hj
      exact ⟨(World.cell?_of_block (hk g g1)).trans a0, (World.cell?_of_block (hk g g1)).trans a1, (World.cell?_of_block (hk g g1)).trans a2⟩
theorem IsTab.move3 {w wf : World} {v : Value} {l : List Pr} {b : Nat} {s1 s2 : Option Addr} {p1 p2 q1 q2 : Nat} {z : Value} {T : TypeId} (h : IsTab w v l) (h1 : w.heap[b]? = some (.cells #[.slice s1 p1 p2, .slice s2 q1 q2, z] T (0, 0))) (hs : w.heap.size ≤ wf.heap.size) (hk : ∀ k, k ≠ b → wf.heap[k]? = w.heap[k]?) : IsTab wf v l := by
  obtain ⟨a1, c1, a2, c2, F, G, rfl, y1, y2, r⟩ := h
  exact ⟨a1, c1, a2, c2, F, G, rfl, rws_move3 y1 h1 hs hk, rws_move3 y2 h1 hs hk, r⟩
theorem of_end {w0 w : World} {b : Nat} {ta tb : Option Addr} {n1 tc n2 td : Nat} {l : List Pr} (hS : Two w0 w b) (ht : IsTab w (.agg #[.slice ta n1 tc, .slice tb n2 td]) l) (c : Int) :
    ∃ wf, wf = ((((w.setCell ⟨b + 1, 0, none⟩ (.slice ta n1 tc)).setCell ⟨b + 1, 1, none⟩ (.slice tb n2 td)).setCell ⟨b, 0, none⟩ (.slice ta n1 tc)).setCell ⟨b, 1, none⟩ (.slice tb n2 td)).setCell ⟨b, 2, none⟩ (.int .i64 c) ∧ Ext w0 wf ∧
      (wf.cell? ⟨b, 0, none⟩ = some (.slice ta n1 tc) ∧ wf.cell? ⟨b, 1, none⟩ = some (.slice tb n2 td) ∧ wf.cell? ⟨b, 2, none⟩ = some (.int .i64 c)) ∧ IsTab wf (.agg #[.slice ta n1 tc, .slice tb n2 td]) l := by
  obtain ⟨wq, rfl, hx, hB, hs, hk⟩ := put2 hS.b1 hS.ex (Nat.le_succ_of_le hS.lo) (.slice ta n1 tc) (.slice tb n2 td)
  have ht1 := ht.move hS.b1 hs hk
  have hb0 := (hk b (by omega)).trans hS.b0
  obtain ⟨wf, rfl, hx2, hB2, hs2, hk2⟩ := put3 hb0 hx hS.lo (.slice ta n1 tc) (.slice tb n2 td) (.int .i64 c)
  exact ⟨_, rfl, hx2, (facts3 hB2).1, ht1.move3 hb0 hs2 hk2⟩
set_option maxRecDepth 100000 in
set_option maxHeartbeats 2000000 in
theorem of_koi (w : World) (hT : Tabs w) : Calls Tryz.prog 41 #[.int .i64 1] w (SetOut w 1 (tabP 1)) := by
  have hS := Two.start w
  have HT := Lib.hid hT
  clear hT
  go_enter Tryz.func41, Tryz.ntmps41
  go_wp2_with (go_at_call 72; refine (koi8r_any _ (HT.out.ext hS.ex)).mono ?_; rintro e w1 ⟨v, rfl, ht, hb⟩; obtain ⟨ta, n1, tc, tb, n2, td, rfl⟩ := ht.open; have hS1 := hS.ext hb; obtain ⟨⟨c0, c1⟩, z0, z1⟩ := facts2 hS1.b1; obtain ⟨⟨d0, d1, d2⟩, y0, y1, y2⟩ := facts3 hS1.b0; have HTB := Lib.hid ht; have HS := Lib.hid hS1; clear hS1 hS ht hb)
  obtain ⟨wf, hwf, hx, ⟨k0, k1, k2⟩, ht⟩ := of_end HS.out HTB.out 1
  rw [← hwf]
  clear hwf c0 c1 z0 z1 d0 d1 d2 y0 y1 y2
  refine bodyPost_ret (v := .tuple #[.agg #[.slice ta n1 tc, .slice tb n2 td, .int .i64 1], .bool true]) (by simp [results, Tryz.results41, go_sem, k0, k1, k2]) rfl ?_
  exact ⟨_, rfl, ⟨ta, n1, tc, tb, n2, td, rfl, ht⟩, hx⟩
set_option maxRecDepth 100000 in
set_option maxHeartbeats 2000000 in
theorem of_koiu (w : World) (hT : Tabs w) : Calls Tryz.prog 41 #[.int .i64 2] w (SetOut w 2 (tabP 2)) := by
  have hS := Two.start w
  have HT := Lib.hid hT
  clear hT
  go_enter Tryz.func41, Tryz.ntmps41
  go_wp2_with (go_at_call 73; refine (koi8u_any _ (HT.out.ext hS.ex)).mono ?_; rintro e w1 ⟨v, rfl, ht, hb⟩; obtain ⟨ta, n1, tc, tb, n2, td, rfl⟩ := ht.open; have hS1 := hS.ext hb; obtain ⟨⟨c0, c1⟩, z0, z1⟩ := facts2 hS1.b1; obtain ⟨⟨d0, d1, d2⟩, y0, y1, y2⟩ := facts3 hS1.b0; have HTB := Lib.hid ht; have HS := Lib.hid hS1; clear hS1 hS ht hb)
  obtain ⟨wf, hwf, hx, ⟨k0, k1, k2⟩, ht⟩ := of_end HS.out HTB.out 2
  rw [← hwf]
  clear hwf c0 c1 z0 z1 d0 d1 d2 y0 y1 y2
  refine bodyPost_ret (v := .tuple #[.agg #[.slice ta n1 tc, .slice tb n2 td, .int .i64 2], .bool true]) (by simp [results, Tryz.results41, go_sem, k0, k1, k2]) rfl ?_
  exact ⟨_, rfl, ⟨ta, n1, tc, tb, n2, td, rfl, ht⟩, hx⟩
set_option maxRecDepth 100000 in
set_option maxHeartbeats 2000000 in
theorem of_cp (w : World) (hT : Tabs w) : Calls Tryz.prog 41 #[.int .i64 3] w (SetOut w 3 (tabP 3)) := by
  have hS := Two.start w
  have HT := Lib.hid hT
  clear hT
  go_enter Tryz.func41, Tryz.ntmps41
  go_wp2_with (go_at_call 74; refine (cp866_any _ (HT.out.ext hS.ex)).mono ?_; rintro e w1 ⟨v, rfl, ht, hb⟩; obtain ⟨ta, n1, tc, tb, n2, td, rfl⟩ := ht.open; have hS1 := hS.ext hb; obtain ⟨⟨c0, c1⟩, z0, z1⟩ := facts2 hS1.b1; obtain ⟨⟨d0, d1, d2⟩, y0, y1, y2⟩ := facts3 hS1.b0; have HTB := Lib.hid ht; have HS := Lib.hid hS1; clear hS1 hS ht hb)
  obtain ⟨wf, hwf, hx, ⟨k0, k1, k2⟩, ht⟩ := of_end HS.out HTB.out 3
  rw [← hwf]
  clear hwf c0 c1 z0 z1 d0 d1 d2 y0 y1 y2
  refine bodyPost_ret (v := .tuple #[.agg #[.slice ta n1 tc, .slice tb n2 td, .int .i64 3], .bool true]) (by simp [results, Tryz.results41, go_sem, k0, k1, k2]) rfl ?_
  exact ⟨_, rfl, ⟨ta, n1, tc, tb, n2, td, rfl, ht⟩, hx⟩
set_option maxRecDepth 100000 in
set_option maxHeartbeats 2000000 in
theorem of_lat (w : World) (hT : Tabs w) : Calls Tryz.prog 41 #[.int .i64 0] w (SetOut w 0 (tabP 0)) := by
  have hS := Two.start w
  have HT := Lib.hid hT
  have HTM : Hid (∀ w : World, Tabs w → Calls Tryz.prog 70 #[.slice (some ⟨w.heap.size, 0, none⟩) 1 1] (w.alloc (.cells #[.int .i64 0, .int .i32 0, .int .i64 256, .string ⟨#[]⟩] 105)) fun e w' => ∃ v, e = .returned v ∧ IsTab w' v (tabP 0) ∧ Ext w w') := fun w hT => table_made latP 105 (tabP 0) w hT ⟨by decide, by decide +kernel⟩ lat_made
  clear hT
  go_enter Tryz.func41, Tryz.ntmps41
  go_wp2_with (first
    | (go_at_call 71; refine (seq_any _ _ _ _).mono ?_; rintro e w1 ⟨rfl, hb1⟩; have hS' := hS.ext hb1; clear hS hb1; have hS := hS'; clear hS')
    | (go_at_call 70; refine (HTM.out _ (HT.out.ext hS.ex)).mono ?_; rintro e w2 ⟨v, rfl, ht, hb⟩; obtain ⟨ta, n1, tc, tb, n2, td, rfl⟩ := ht.open; have hS1 := hS.ext hb; obtain ⟨⟨c0, c1⟩, z0, z1⟩ := facts2 hS1.b1; obtain ⟨⟨d0, d1, d2⟩, y0, y1, y2⟩ := facts3 hS1.b0; have HTB := Lib.hid ht; have HS := Lib.hid hS1; clear hS1 hS ht hb))
  obtain ⟨wf, hwf, hx, ⟨k0, k1, k2⟩, ht⟩ := of_end HS.out HTB.out 0
  rw [← hwf]
  clear hwf c0 c1 z0 z1 d0 d1 d2 y0 y1 y2
  refine bodyPost_ret (v := .tuple #[.agg #[.slice ta n1 tc, .slice tb n2 td, .int .i64 0], .bool true]) (by simp [results, Tryz.results41, go_sem, k0, k1, k2]) rfl ?_
  exact ⟨_, rfl, ⟨ta, n1, tc, tb, n2, td, rfl, ht⟩, hx⟩
theorem of_yes (c : Nat) (w : World) (hT : Tabs w) (h : c ≤ 3) : Calls Tryz.prog 41 #[.int .i64 c] w (SetOut w c (tabP c)) := by
  have : c = 0 ∨ c = 1 ∨ c = 2 ∨ c = 3 := by omega
  rcases this with rfl | rfl | rfl | rfl
  · exact of_lat w hT
  · exact of_koi w hT
  · exact of_koiu w hT
  · exact of_cp w hT
end Go.Proofs.YtndopjmdpmkgeaaGreatDoor

