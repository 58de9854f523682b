/-
  What a table tells: how many codes; a code's sign; a sign's code; all pairs.
-/
import Derived.Test.YtealeedbkjiabaaDoorTb19
namespace Go.Proofs.YtealeedbkjiabaaDoor
open Go Go.ChangeShapes Go.WideShapes Go.ChangeAt Go.RowKit
set_option linter.unusedSimpArgs false
set_option linter.unusedVariables false

theorem table_size (v : Value) (l : List Pr) (w : World) (h : IsTab w v l) :
    Calls Tryd.prog 16 #[v] w fun e w' => e = .returned (.int .i64 l.length) ∧ Ext w w' := by
  obtain ⟨a1, c1, a2, c2, F, G, rfl, h1, h2, rfl, h4, h5, h6, h7, h8, h9, h10⟩ := h
  have HT := Lib.hid (fun w' (k : Ext w w') => total_any a1 c1 F w' (h1.ext k) h4 (Nat.le_trans h9 (by decide)))
  clear h1 h2 h4 h5 h6 h7 h8 h9 h10
  go_enter Tryd.func16, Tryd.ntmps16
  go_wp2_with (go_at_call 44; refine (HT.out _ ((Ext.refl w).alloc _)).mono ?_; rintro e w1 ⟨rfl, hb1⟩)
  go_ret
  exact ⟨rfl, ((Ext.refl w).alloc _).trans hb1⟩
theorem fwd_yes (v : Value) (l : List Pr) (q : Pr) (w : World) (h : IsTab w v l) (hq : q ∈ l) :
    Calls Tryd.prog 19 #[v, .int .i64 q.1] w fun e w' => e = .returned (.tuple #[.int .i32 q.2, .bool true]) ∧ Ext w w' := by
  obtain ⟨a1, c1, a2, c2, F, G, rfl, h1, h2, he, h4, h5, h6, h7, h8, h9, h10⟩ := h
  obtain ⟨k, r, hk, g1, g2, g3⟩ := tab_yes he h4 hq rfl
  have hfit := h8 q hq
  have hll : F.length ≤ 1000000000 := by
    have := rows_le h4
    rw [he] at this
    omega
  have hrr : RisingR F := (rising_expL h4).1 (by rw [he]; exact h7)
  have HT : Hid (∀ w', Ext w w' → Calls Tryd.prog 45 #[.slice a1 F.length c1, .int .i64 q.1] w' fun e w'' => e = .returned (.tuple #[.int .i64 q.2, .bool true]) ∧ Ext w' w'') := fun w' k2 => by
    have := find_yes a1 c1 F q.1 k r w' (h1.ext k2) h4 hrr hll hk g1 g2
    rwa [g3] at this
  obtain ⟨c, p⟩ := q
  obtain ⟨f1, f2, f3, f4⟩ := hfit
  simp only at f1 f2 f3 f4
  have HT : Hid (∀ w', Ext w w' → Calls Tryd.prog 45 #[.slice a1 F.length c1, .int .i64 c] w' fun e w'' => e = .returned (.tuple #[.int .i64 p, .bool true]) ∧ Ext w' w'') := HT
  show Calls Tryd.prog 19 #[.agg #[.slice a1 F.length c1, .slice a2 G.length c2], .int .i64 c] w fun e w' => e = .returned (.tuple #[.int .i32 p, .bool true]) ∧ Ext w w'
  clear h1 h2 he h4 h5 h6 h7 h8 h9 h10 hk g1 g2 g3 hq hrr hll
  go_enter Tryd.func19, Tryd.ntmps19
  go_wp2_with (go_at_call 45; refine (HT.out _ ((Ext.refl w).alloc _)).mono ?_; rintro e w1 ⟨rfl, hb1⟩)
  go_ret2
  exact ⟨rfl, ((Ext.refl w).alloc _).trans hb1⟩
theorem fwd_no (v : Value) (l : List Pr) (c : Int) (w : World) (h : IsTab w v l) (hn : ¬ has l c) :
    Calls Tryd.prog 19 #[v, .int .i64 c] w fun e w' => e = .returned (.tuple #[.int .i32 0, .bool false]) ∧ Ext w w' := by
  obtain ⟨a1, c1, a2, c2, F, G, rfl, h1, h2, he, h4, h5, h6, h7, h8, h9, h10⟩ := h
  have hll : F.length ≤ 1000000000 := by
    have := rows_le h4
    rw [he] at this
    omega
  have hrr : RisingR F := (rising_expL h4).1 (by rw [he]; exact h7)
  have HT := Lib.hid (fun w' (k2 : Ext w w') => find_no a1 c1 F c w' (h1.ext k2) h4 hrr hll (tab_no he h4 hn))
  clear h1 h2 he h4 h5 h6 h7 h8 h9 h10 hrr hll hn
  go_enter Tryd.func19, Tryd.ntmps19
  go_wp2_with (go_at_call 45; refine (HT.out _ ((Ext.refl w).alloc _)).mono ?_; rintro e w1 ⟨rfl, hb1⟩)
  go_ret2
  exact ⟨rfl, ((Ext.refl w).alloc _).trans hb1⟩
theorem rev_yes_any (v : Value) (l : List Pr) (p c : Int) (w : World) (h : IsTab w v l) (hf : From0 l) (hc : revP l p = c) (hp : ¬ c < 0) :
    Calls Tryd.prog 21 #[v, .int .i32 p] w fun e w' => e = .returned (.tuple #[.int .i64 c, .bool true]) ∧ Ext w w' := by
  obtain ⟨a1, c1, a2, c2, F, G, rfl, h1, h2, he, h4, h5, h6, h7, h8, h9, h10⟩ := h
  have hmem := rev_yes h6 h7 hf (p := p) (by rw [hc]; exact hp)
  rw [hc] at hmem
  have hfit := rev_fit h6 h8 _ hmem
  obtain ⟨k, r, hk, g1, g2, g3⟩ := tab_yes (l := expL G) rfl h5 hmem rfl
  have hll : G.length ≤ 1000000000 := by omega
  have hrr : RisingR G := (rising_expL h5).1 h6.1
  have HT : Hid (∀ w', Ext w w' → Calls Tryd.prog 45 #[.slice a2 G.length c2, .int .i64 p] w' fun e w'' => e = .returned (.tuple #[.int .i64 c, .bool true]) ∧ Ext w' w'') := fun w' k2 => by
    have := find_yes a2 c2 G p k r w' (h2.ext k2) h5 hrr hll hk g1 g2
    rwa [g3] at this
  simp only at hfit
  obtain ⟨f1, f2, f3, f4⟩ := hfit
  clear h1 h2 he h4 h5 h6 h7 h8 h9 h10 hk g1 g2 g3 hrr hll hmem hc hf
  go_enter Tryd.func21, Tryd.ntmps21
  go_wp2_with (go_at_call 45; refine (HT.out _ ((Ext.refl w).alloc _)).mono ?_; rintro e w1 ⟨rfl, hb1⟩)
  go_ret2
  exact ⟨rfl, ((Ext.refl w).alloc _).trans hb1⟩
theorem rev_no_any (v : Value) (l : List Pr) (p : Int) (w : World) (h : IsTab w v l) (hf : From0 l) (hc : revP l p < 0) (hp0 : -2147483648 ≤ p) (hp1 : p ≤ 2147483647) :
    Calls Tryd.prog 21 #[v, .int .i32 p] w fun e w' => e = .returned (.tuple #[.int .i64 0, .bool false]) ∧ Ext w w' := by
  obtain ⟨a1, c1, a2, c2, F, G, rfl, h1, h2, he, h4, h5, h6, h7, h8, h9, h10⟩ := h
  have hll : G.length ≤ 1000000000 := by omega
  have hrr : RisingR G := (rising_expL h5).1 h6.1
  have HT := Lib.hid (fun w' (k2 : Ext w w') => find_no a2 c2 G p w' (h2.ext k2) h5 hrr hll (tab_no (l := expL G) rfl h5 (rev_no h6 h7 hf hc)))
  clear h1 h2 he h4 h5 h6 h7 h8 h9 h10 hrr hll hf hc
  go_enter Tryd.func21, Tryd.ntmps21
  go_wp2_with (go_at_call 45; refine (HT.out _ ((Ext.refl w).alloc _)).mono ?_; rintro e w1 ⟨rfl, hb1⟩)
  go_ret2
  exact ⟨rfl, ((Ext.refl w).alloc _).trans hb1⟩
/-! ### All pairs -/
theorem keep_boxT (w : World) (x y : Value) (T : TypeId) : Keep w [(⟨w.heap.size, 0, none⟩, x), (⟨w.heap.size, 1, none⟩, y)] (w.alloc (.cells #[x, y] T)) := by
  obtain ⟨h1, h2, _⟩ := cells_two (heap_alloc_new w (.cells #[x, y] T))
  exact ⟨(Ext.refl w).alloc _, h1, h2, trivial⟩
theorem info_rpair : (Tryd.prog.info? 53).map (fun i => (i.zero, i.size, i.bytes)) = some (some (.agg #[.int .i64 0, .int .i32 0]), 2, 16) := by kernel_rfl
theorem info_parts_rpair : ∃ i, Tryd.prog.info? 53 = some i ∧ i.zero = some (.agg #[.int .i64 0, .int .i32 0]) ∧ i.size = 2 ∧ i.bytes = 16 := by
  obtain ⟨i, hi, h2⟩ := Option.map_eq_some_iff.1 info_rpair
  obtain ⟨h3, h4⟩ := Prod.mk.inj h2
  obtain ⟨h5, h6⟩ := Prod.mk.inj h4
  exact ⟨i, hi, h3, h5, h6⟩
theorem make_rpairs (k : Nat) (hk : k ≤ 1000000000) (w : World) : ∃ w', (Instr.makeSlice 51 (.int .i64 0) (.int .i64 (k : Int))).run Tryd.prog w = .ok (.slice (some ⟨w.heap.size, 0, none⟩) 0 k) w' ∧
    (∀ B, B ≤ w.heap.size → w'.ownsRow B 53 2 (.slice (some ⟨w.heap.size, 0, none⟩) 0 k) 0 []) ∧ w.grownBy w' none := by
  obtain ⟨i, hi, h3, h5, h6⟩ := info_parts_rpair
  obtain ⟨w', h7, h8, h9⟩ := run_make_own (P := Tryd.prog) (w := w) w.heap.size 51 53 i (.agg #[.int .i64 0, .int .i32 0]) 2 Tryd.underlying51 hi h3 h5 .i64 .i64 k (by rw [h6]; omega) (by simp [maxLen]; omega) (Nat.le_refl _)
  exact ⟨w', h7, fun B hB => own_base h8 hB, h9⟩
theorem own_rpairs {w : World} {B : Nat} {v : Value} {n : Nat} {l : List Pr} (h : w.ownsRow B 53 2 v n (pairCells l)) : ∃ a cap, v = .slice a n cap ∧ IsPairs w a n cap l := by
  obtain ⟨hl, ⟨rfl, rfl⟩ | ⟨g, cap, cur, rfl, hg, hh, hn, hm, hs, ht⟩⟩ := h
  · rw [pairCells_len] at hl
    exact ⟨none, 0, rfl, by omega, .inl rfl⟩
  · rw [pairCells_len] at hl
    have hbl : l.length = n := by omega
    refine ⟨some ⟨g, 0, none⟩, cap, rfl, hbl, .inr ⟨g, 0, rfl, hn, lt_of_block hh, fun j z hj => ?_⟩⟩
    have hjl : j < l.length := (List.getElem?_eq_some_iff.1 hj).1
    obtain ⟨e1, e3⟩ := pairCells_get l j z hj
    rw [← ht, List.getElem?_take, if_pos (by omega)] at e1 e3
    have e2 : ∀ o, w.cell? ⟨g, 0 + o, none⟩ = cur.toList[o]? := by intro o; simp [World.cell?, hh]
    exact ⟨(e2 (j * 2)).trans e1, (e2 (j * 2 + 1)).trans e3⟩
/-- The first pairs of a row. -/
def firstR (rf rt : Int) (j : Nat) : List Pr := pairsN rf (fun (i : Nat) => rt + (i : Int)) j
theorem firstR_succ (rf rt : Int) (j : Nat) : firstR rf rt (j + 1) = firstR rf rt j ++ [(rf + (j : Int), rt + (j : Int))] := pairsN_succ _ _ _
set_option maxHeartbeats 4000000 in
set_option maxRecDepth 100000 in
theorem table_pairs (v : Value) (l : List Pr) (w : World) (h : IsTab w v l) :
    Calls Tryd.prog 26 #[v] w fun e w' => ∃ a cap, e = .returned (.slice a l.length cap) ∧ IsPairs w' a l.length cap l ∧ Ext w w' := by
  have hsz := fun w' (k : Ext w w') => table_size v l w' (h.ext k)
  obtain ⟨a1, c1, a2, c2, F, G, rfl, h1, h2, he, h4, h5, h6, h7, h8, h9, h10⟩ := h
  have HSZ := Lib.hid hsz
  have HE := Lib.hid he
  have HG := Lib.hid h4
  have HF := Lib.hid h8
  have HL : Hid (tot F = l.length) := by show (expL F).length = _; rw [he]
  obtain ⟨m, hm⟩ : ∃ m, m = l.length := ⟨_, rfl⟩
  have HM := Lib.hid hm
  rw [← hm] at HSZ h9 ⊢
  have hll : F.length ≤ 10000000 := by
    have := rows_le h4
    rw [he] at this
    omega
  have hk := keep_boxT w (.slice a1 F.length c1) (.slice a2 G.length c2) 27
  have HK := Lib.hid hk
  clear hsz h2 he h4 h5 h6 h7 h8 h10 hm hk
  go_enter Tryd.func26, Tryd.ntmps26
  go_wp2_with (go_at_call 16; refine (HSZ.out _ ((Ext.refl w).alloc _)).mono ?_; rintro e w1 ⟨rfl, hb1⟩; have hC := HK.out.ext hb1; obtain ⟨k0, k1, _⟩ := hC.2; obtain ⟨wm, hmk, hown, hgm⟩ := make_rpairs m (by omega) w1; have hx1 : Ext w1 wm := (Ext.refl w1).grown hgm (.inl rfl); obtain ⟨k2, k3, _⟩ := (hC.ext hx1).2)
  have ho0 := hown w1.heap.size (Nat.le_refl _)
  have HX1 := Lib.hid hC.1
  obtain ⟨i0, hi, hz0, hz1, hz2⟩ := info_parts_rpair
  clear hmk hown hgm k0 k1 k2 k3 hC hb1
  go_loopw [3, 13] (fun v i wr => ∃ (k : Nat) (ps : List Pr), k ≤ F.length ∧ i = .int .i64 k ∧ wr.ownsRow w1.heap.size 53 2 v ps.length (pairCells ps) ∧ Hid (ps = expL (F.take k)) ∧ Ext w1 wr) (fun _ i _ => F.length - (intOf i).toNat)
  case atStart => exact ⟨0, [], by omega, rfl, ho0, rfl, hx1⟩
  case round =>
    obtain ⟨k, ps, hk, rfl, ho, HP, hx⟩ := hrel
    clear ho0 hx1
    by_cases hlt : k < F.length
    · obtain ⟨x, off, r, rfl, hxl, hr, hcell⟩ := rws_at h1 hlt
      obtain ⟨c0, c1', c2'⟩ := hcell wr (HX1.out.trans hx)
      have hgr := HG.out r (List.mem_of_getElem? hr)
      have HTK := Lib.hid (expL_take hr)
      have htk := tot_take hr
      have htl := tot_take_le F (k + 1)
      have hfit : ∀ q ∈ expR r, 0 ≤ q.1 ∧ q.1 < 1048576 ∧ 0 ≤ q.2 ∧ q.2 ≤ 1114111 := fun q hq => HF.out q (by rw [← HE.out]; exact mem_expL.2 ⟨r, List.mem_of_getElem? hr, hq⟩)
      obtain ⟨rf, rt, rn⟩ := r
      unfold GoodR at hgr
      obtain ⟨g0, g1, g2, g3, g4⟩ := hgr
      simp only at c0 c1' c2' g0 g1 g2 g3 g4
      have ht1 : (tot [(⟨rf, rt, rn⟩ : Rw)] : Int) = rn := tot_one (r := ⟨rf, rt, rn⟩) (by show 0 ≤ rn; omega)
      have hzl : ps.length = tot (F.take k) := by rw [HP.out]; rfl
      have hl2 := HL.out
      have hl3 := HM.out
      obtain ⟨n, rfl⟩ : ∃ n : Nat, rn = (n : Int) := ⟨tot [⟨rf, rt, rn⟩], ht1.symm⟩
      have hzn : ps.length + n ≤ 10000000 := by omega
      clear hcell hr htk htl ht1 hzl hl2 hl3 hfit
      go_wp2
      have hxo := hx.alloc (.cells #[.int .i64 rf, .int .i64 rt, .int .i64 (n : Int)] 90)
      have hbox := heap_alloc_new wr (.cells #[.int .i64 rf, .int .i64 rt, .int .i64 (n : Int)] 90)
      have hoo := ho.alloc (.cells #[.int .i64 rf, .int .i64 rt, .int .i64 (n : Int)] 90)
      obtain ⟨b, hb⟩ : ∃ b, b = wr.heap.size := ⟨_, rfl⟩
      rw [← hb] at hbox ⊢
      generalize wr.alloc (.cells #[.int .i64 rf, .int .i64 rt, .int .i64 (n : Int)] 90) = wo at hxo hbox hoo ⊢
      clear ho hb c0 c1' c2' hx
      go_loopw [3, 19] (fun v i wr => ∃ (j : Nat), j ≤ n ∧ i = .int .i64 j ∧ wr.ownsRow w1.heap.size 53 2 v (ps.length + j) (pairCells (ps ++ firstR rf rt j)) ∧ Hid (wr.heap[b]? = some (.cells #[.int .i64 rf, .int .i64 rt, .int .i64 (n : Int)] 90 (0, 0))) ∧ Ext w1 wr) (fun _ i _ => n - (intOf i).toNat)
      case atStart => exact ⟨0, by omega, rfl, by simpa [firstR, pairsN] using hoo, hbox, hxo⟩
      case round =>
        obtain ⟨j, hjn, rfl, ho, HB, hxi⟩ := hrel
        clear hoo hbox hxo
        have hszi := hxi.size
        by_cases hlt2 : j < n
        · obtain ⟨d0, d1, d2⟩ := cells_three HB.out
          have hblt := lt_of_block HB.out
          go_wp2_with ((at_builtin; refine wpList_append_own _ rfl _ _ 51 rfl (w1.heap.size) 53 i0 (.agg #[.int .i64 0, .int .i32 0]) 2 16 Tryd.underlying51 hi hz0 hz1 hz2 rfl (by decide) _ _ _ rfl (ho.alloc _) ⟨wr.heap.size, 0, none⟩ 1 1 [.int .i64 (rf + (j : Int)), .int .i32 (rt + (j : Int))] rfl rfl (cell_two_new _ _ _ _) (fun x hx => by simp at hx; rcases hx with rfl | rfl <;> rfl) (by unfold maxLen; omega) (by omega) (by simp; omega) ?_; intro v5 w5 hown5 hgrow5 hnil5; clear hnil5; have hx5 := hxi.own ho (Nat.le_refl _) hgrow5; have HB5 := Lib.hid ((Only.of_grown (ho.alloc _) hgrow5).box ((Below.heap_alloc _ _ _ hblt).trans HB.out) (by decide)); clear hgrow5))
          go_roundw
          case rel =>
            refine ⟨j + 1, by omega, by go_num, ?_, HB5, hx5⟩
            rw [firstR_succ, ← List.append_assoc, pairCells_app, pairCells_one]
            exact hown5
          case measure => simp [intOf]; omega
        · have hjn2 : j = n := by omega
          subst hjn2
          have hzz : ps ++ firstR rf rt j = expL (F.take (k + 1)) := by
            rw [HTK.out, ← HP.out]
            congr 1
          have hlz : ps.length + j = (ps ++ firstR rf rt j).length := by
            rw [List.length_append]
            unfold firstR
            rw [pairsN_len]
          have HZZ := Lib.hid hzz
          rw [hlz] at ho
          clear hzz hlz
          go_wp2
          go_roundw
          case rel => exact ⟨k + 1, ps ++ firstR rf rt j, by omega, by go_num, ho, HZZ, hxi⟩
          case measure => simp [intOf]; omega
    · have hkl : k = F.length := by omega
      have hpe : ps = l := by have := HP.out; rw [hkl, List.take_length, HE.out] at this; exact this
      subst hpe
      obtain ⟨a', cap', rfl, hrow⟩ := own_rpairs ho
      have HM2 := HM.out
      subst HM2
      clear ho
      go_wp2
      go_ret
      exact ⟨a', cap', rfl, hrow, HX1.out.trans hx⟩
end Go.Proofs.YtealeedbkjiabaaDoor
