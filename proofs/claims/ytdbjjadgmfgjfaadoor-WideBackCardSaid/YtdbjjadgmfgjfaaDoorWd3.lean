/-
  Contracts of package wide (3): all signs that a reader has left, as a text.
-/
import Derived.Test.YtdbjjadgmfgjfaaDoorWd2
import Derived.Test.YtdbjjadgmfgjfaaDoorPt8
import Derived.Test.YtdbjjadgmfgjfaaDoorPtPts
namespace Go.Proofs.YtdbjjadgmfgjfaaDoor
open Go Go.ChangeShapes Go.WideShapes Go.ChangeAt Go.RowKit
set_option linter.unusedSimpArgs false
set_option linter.unusedVariables false

theorem own_mod {w w' : World} {B : Nat} {e : TypeId} {size : Nat} {v : Value} {n : Nat} {xs : List Value} {b : Nat} (h : w.ownsRow B e size v n xs) (k : Mod b w w') (hb : b < B) : w'.ownsRow B e size v n xs :=
  h.kept (row := some b) k (by
    cases hv : v.ownBlock with
    | none => exact .inl rfl
    | some g =>
      refine .inr ?_
      have := (h.lt g hv).1
      intro e
      obtain rfl : g = b := by simpa using e
      omega)
theorem Mod.own {b : Nat} {W w w' : World} {o : Obj} {B : Nat} {e : TypeId} {size : Nat} {v : Value} {n : Nat} {xs : List Value} (h : Mod b W w) (hown : w.ownsRow B e size v n xs) (hB : W.heap.size ≤ B) (hg : (w.alloc o).grownBy w' v.ownBlock) : Mod b W w' := by
  have h1 := h.alloc o
  refine ⟨hg.os.trans h1.os, hg.tape.trans h1.tape, hg.output.trans h1.output, Nat.le_trans h1.size hg.size, fun i hi hn => ?_⟩
  rw [hg.block i (Nat.lt_of_lt_of_le hi h1.size) (fun e => by
    have := (hown.lt i e.symm).1
    omega)]
  exact h1.block i hi hn
theorem block_own {w w' : World} {o : Obj} {B : Nat} {e : TypeId} {size : Nat} {v : Value} {n : Nat} {xs : List Value} {k : Nat} {x : Obj} (hown : w.ownsRow B e size v n xs) (hg : (w.alloc o).grownBy w' v.ownBlock) (hk : w.heap[k]? = some x) (hB : k < B) : w'.heap[k]? = some x := by
  have hlt := lt_of_block hk
  rw [hg.block k (by simp; omega) (fun e => by
    have := (hown.lt k e.symm).1
    omega), Below.heap_alloc _ _ _ hlt]
  exact hk
theorem Rdr.block {w w' : World} {b : Nat} {t : ByteArray} {r : Nat} {ba er pl : Int} (h : Rdr w b t r ba er pl) (k : w'.heap[b]? = w.heap[b]?) : Rdr w' b t r ba er pl :=
  ⟨k.trans h.here, h.le, h.small, h.lo, h.hi⟩
theorem Mod.set {b : Nat} {W w : World} (h : Mod b W w) {a : Addr} (ha : W.heap.size ≤ a.block) (u : Value) : Mod b W (w.setCell a u) :=
  ⟨h.os, h.tape, h.output, by simpa [World.setCell] using h.size, fun i hi hn => (Below.heap_setCell w a u i (by omega)).trans (h.block i hi hn)⟩
/-- What a reader without a fault has left, and one; 0, where it has one. -/
def rdLeft (w : World) (b : Nat) (t : ByteArray) : Nat := if intOf ((w.cell? ⟨b, 3, none⟩).getD (.bool false)) = 0 then t.size + 1 - (intOf ((w.cell? ⟨b, 1, none⟩).getD (.bool false))).toNat else 0
theorem Rdr.left_is {w : World} {b : Nat} {t : ByteArray} {r : Nat} {ba er pl : Int} (h : Rdr w b t r ba er pl) : rdLeft w b t = if er = 0 then t.size + 1 - r else 0 := by
  obtain ⟨c0, c1, c2, c3, c4⟩ := h.cells
  unfold rdLeft
  rw [c1, c3]
  show (if er = 0 then t.size + 1 - (r : Int).toNat else 0) = _
  rw [Int.toNat_natCast]
/-- How far a text is read as signs: those that are read, and what is left; or where there is none. -/
def DecTo (big : Bool) (t : ByteArray) (zs : List Int) (a0 : Int) (r : Nat) (er pl : Int) (dn : List Int) : Prop :=
  (er = 0 ∧ dn.length ≤ r ∧ dn ++ (wdAt big t r).1 = zs ∧ (wdAt big t r).2 = a0) ∨ (er = 2 ∧ pl = a0 ∧ 0 ≤ a0)
theorem DecTo.step {big : Bool} {t : ByteArray} {zs : List Int} {a0 : Int} {r : Nat} {dn : List Int} {p : Int} {r' : Nat} {er pl' : Int} (h1 : dn.length ≤ r) (h2 : dn ++ (wdAt big t r).1 = zs) (h3 : (wdAt big t r).2 = a0) (k : SignTo big t r p r' er pl') : DecTo big t zs a0 r' er pl' (dn ++ [p]) := by
  rcases k with ⟨rfl, k1, k2⟩ | ⟨rfl, rfl, k2⟩
  · rw [k2] at h2 h3
    exact .inl ⟨rfl, by simp; omega, by simpa using h2, h3⟩
  · rw [k2] at h3
    exact .inr ⟨rfl, h3, by rw [← h3]; exact Int.natCast_nonneg r⟩
theorem SignTo.less {big : Bool} {t : ByteArray} {r : Nat} {p : Int} {r' : Nat} {er pl' : Int} (k : SignTo big t r p r' er pl') (hr' : r' ≤ t.size) (hr : r < t.size) : (if er = 0 then t.size + 1 - r' else 0) < t.size + 1 - r := by
  rcases k with ⟨rfl, k1, k2⟩ | ⟨rfl, k1, k2⟩
  · rw [if_pos rfl]; omega
  · rw [if_neg (by decide)]; omega
/-- The text of what a reader has left; none, where there is a place without a sign. -/
def wtxt (zs : List Int) (a : Int) : ByteArray := if a < 0 then txt zs else ⟨#[]⟩
theorem text_at {w0 w : World} {a : Option Addr} {cap : Nat} {zs : List Int} (h : IsRow w0 a zs.length cap zs) (hx : Ext w0 w) (hl : zs.length ≤ 1099511627776) (hs : allSigns zs = true) :
    Calls Tryd.prog 34 #[.slice a zs.length cap] w fun e w' => e = .returned (.tuple #[.string (txt zs), .bool true]) ∧ Ext w w' := by
  have := text_row h hx hl
  rwa [textOut_yes hs, hs] at this
set_option maxRecDepth 100000 in
set_option maxHeartbeats 2000000 in
theorem decode_rd (big : Bool) (w : World) (b : Nat) (t : ByteArray) (r : Nat) (pl : Int) (H : Rdr w b t r 0 0 pl) (zs : List Int) (a0 : Int) (hz : (wdAt big t r).1 = zs) (ha : (wdAt big t r).2 = a0) :
    Calls Tryd.prog 19 #[.pointer (some ⟨b, 0, none⟩), .bool big] w fun e w' => e = .returned (.tuple #[.string (wtxt zs a0), .agg #[.int .i64 (fNum a0), .int .i64 (fPlace a0)]]) ∧ Mod b w w' := by
  have hsm := H.small
  have hle := H.le
  have hbl := H.lt
  have hd0 : DecTo big t zs a0 r 0 pl [] := .inl ⟨rfl, by simp, by simpa using hz, ha⟩
  have hsg : allSigns zs = true := by rw [← hz]; exact wd_signs big _ _ _ (Nat.le_refl _)
  have hzl : zs.length ≤ t.size := by
    have h1 := wd_len big _ r (t.data.toList.drop r) (Nat.le_refl _)
    have h2 : (wd big r (t.data.toList.drop r)).1 = zs := hz
    rw [h2, List.length_drop] at h1
    have h3 : t.data.toList.length = t.size := rfl
    omega
  have HD := Lib.hid hd0
  have HSG := Lib.hid hsg
  clear hd0 hsg hz ha
  obtain ⟨i0, hi, hz0, hz1, hz2⟩ := info_parts_i32
  have hq : ((t.size : Int) - r) / 2 = (((t.size - r) / 2 : Nat) : Int) := by omega
  obtain ⟨k, hk⟩ : ∃ k, (t.size - r) / 2 = k := ⟨_, rfl⟩
  rw [hk] at hq
  have hkl : k ≤ 1099511627776 := by omega
  clear hk
  have HK : Hid (∀ w : World, ∃ w', (Instr.makeSlice 32 (.int .i64 0) (.int .i64 (((t.size : Int) - r) / 2))).run Tryd.prog w = .ok (.slice (some ⟨w.heap.size, 0, none⟩) 0 k) w' ∧
    (∀ B, B ≤ w.heap.size → w'.ownsRow B 21 1 (.slice (some ⟨w.heap.size, 0, none⟩) 0 k) 0 []) ∧ w.grownBy w' none) := by rw [hq]; exact fun w => make_runes k hkl w
  clear hq
  go_enter Tryd.func19, Tryd.ntmps19
  go_wp2_with (first | (go_at_call 31; refine (left_ok _ _ _ _ _ _ (H.ext ((Ext.refl w).alloc _))).mono ?_; rintro e w1 ⟨rfl, hb1⟩; have H1 := (H.ext ((Ext.refl w).alloc _)).ext hb1; have hF := (hb1.block w.heap.size (by simp)).trans (heap_alloc_new w (.cells #[.int .i64 0, .int .i64 0] 25)); have hx1 := Mod.of (b := b) (((Ext.refl w).alloc _).trans hb1); have hs1 := hb1.size; clear H hb1; obtain ⟨wm, hmk, hown, hgm⟩ := HK.out w1))
  have hs1 : w.heap.size + 1 ≤ w1.heap.size := by simpa using hs1
  have hown := hown (w.heap.size + 1) hs1
  have hxm : Ext w1 wm := Below.grown (Ext.refl w1) hgm (Nat.le_refl _) (by rintro k ⟨⟩)
  have hF2 := (hxm.block _ (lt_of_block hF)).trans hF
  have H2 := H1.ext hxm
  have hx2 := hx1.trans (Mod.of hxm)
  clear hgm hmk hF H1 hx1 hxm hs1
  go_loopw [6] (fun v wr => ∃ (r : Nat) (er pl : Int) (dn : List Int), Rdr wr b t r 0 er pl ∧ Mod b w wr ∧ wr.heap[w.heap.size]? = some (.cells #[.int .i64 0, .int .i64 0] 25 (0, 0)) ∧ wr.ownsRow (w.heap.size + 1) 21 1 v dn.length (runeCellsOf dn) ∧ Hid (DecTo big t zs a0 r er pl dn)) (fun _ wr => rdLeft wr b t)
  case atStart => exact ⟨r, 0, pl, [], H2, hx2, hF2, hown, HD⟩
  case round =>
    obtain ⟨q, er, pl2, dn, HR, hx, hF, ho, HE⟩ := hrel
    clear hx2 hF2 H2 HD hown
    have hq := HR.le
    have hsx := hx.size
    rcases HE.out with ⟨rfl, e1, e2, e3⟩ | ⟨rfl, e1, e2⟩
    · clear HE
      have E2 := Lib.hid e2
      have E3 := Lib.hid e3
      clear e2 e3
      by_cases hlt : q < t.size
      · have hg : 0 < (t.size : Int) - q := by omega
        have hms := HR.left_is
        rw [if_pos rfl] at hms
        have HMS := Lib.hid hms
        clear hms
        go_wp2_with (first
          | (go_at_call 31; refine (left_ok _ _ _ _ _ _ HR).mono ?_; rintro e w1 ⟨rfl, hb1⟩; have HR1 := HR.ext hb1; have hx1 := hx.trans (Mod.of hb1); have hF1 := (hb1.block _ (lt_of_block hF)).trans hF; have ho1 := own_ext ho hb1; clear HR hx hF ho hb1)
          | (go_at_call 32; refine (sign_any big _ b t q pl2 HR1 hlt).mono ?_; rintro e w2 ⟨p, r', er', pl', rfl, H2, hm2, HS⟩; have ho2 := own_mod ho1 hm2 (by omega); have hF2 := (hm2.block _ (lt_of_block hF1) (by simp; omega)).trans hF1; have hx2 := hx1.trans hm2; have hs2 := hx2.size; clear HR1 hx1 hF1 ho1 hm2)
          | (at_builtin; refine wpList_append_own _ rfl _ _ 32 rfl (w.heap.size + 1) 21 i0 (.int .i32 0) 1 4 Tryd.underlying32 hi hz0 hz1 hz2 rfl (by decide) _ _ _ rfl (ho2.alloc _) ⟨w2.heap.size, 0, none⟩ 1 1 [.int .i32 p] rfl rfl (cell_one_new _ _ _) (fun x hx => by simp at hx; subst hx; rfl) (by unfold maxLen; omega) (by omega) (by simp; omega) ?_; intro v' w3 hown' hgrow3 hnil3; clear hnil3))
        have H3 : Rdr w3 b t r' 0 er' pl' := ⟨block_own ho2 hgrow3 H2.here (by omega), H2.le, H2.small, H2.lo, H2.hi⟩
        have hx3 := hx2.own ho2 (by omega) hgrow3
        have hF3 := block_own ho2 hgrow3 hF2 (by omega)
        have hle3 := H2.le
        clear hx2 hF2 hgrow3 ho2 H2
        go_roundw
        case rel =>
          refine ⟨r', er', pl', dn ++ [p], H3, hx3, hF3, ?_, DecTo.step e1 E2.out E3.out HS.out⟩
          have e : runeCellsOf (dn ++ [p]) = runeCellsOf dn ++ [.int .i32 p] := by simp [runeCellsOf]
          rw [e, List.length_append]
          exact hown'
        case measure =>
          rw [H3.left_is, HMS.out]
          exact HS.out.less hle3 hlt
      · have hqs : q = t.size := by omega
        have hg : ¬ 0 < (t.size : Int) - q := by omega
        have hwe : wdAt big t q = ([], -1) := by
          unfold wdAt
          rw [List.drop_eq_nil_of_le (by have e2 : t.data.toList.length = t.size := rfl; omega), wd_nil]
        have hzd : dn = zs := by have := E2.out; rw [hwe, List.append_nil] at this; exact this
        have ha1 : a0 = -1 := by have := E3.out; rw [hwe] at this; exact this.symm
        clear hwe hqs E2 E3
        subst hzd
        subst ha1
        obtain ⟨a, cap, rfl, hrow⟩ := own_row ho
        clear ho
        obtain ⟨f, hf⟩ : ∃ f, f = w.heap.size := ⟨_, rfl⟩
        have hlf : w.heap.size ≤ f := by omega
        have hbf : b ≠ f := by omega
        rw [← hf] at hF ⊢
        clear hf
        go_wp2_with (first
          | (go_at_call 31; refine (left_ok _ _ _ _ _ _ HR).mono ?_; rintro e w1 ⟨rfl, hb1⟩; have HR1 := HR.ext hb1; have hx1 := hx.trans (Mod.of hb1); have hF1 := (hb1.block _ (lt_of_block hF)).trans hF; have hr1 := hrow.ext hb1; clear HR hx hF hrow hb1)
          | (go_at_call 33; refine (fault_at _ _ _ _ _ _ _ HR1).mono ?_; rintro e w2 ⟨rfl, hb2⟩; have hx2 := (hx1.trans (Mod.of hb2)).alloc (.cells #[.int .i64 0, .int .i64 pl2] 25); have hb2 := hb2.alloc (.cells #[.int .i64 0, .int .i64 pl2] 25); have hF2 := (hb2.block _ (lt_of_block hF1)).trans hF1; have hr2 := hr1.ext hb2; clear HR1 hx1 hF1 hr1 hb2)
          | (go_at_call 12; refine (bad_no _ _ _ (by decide)).mono ?_; rintro e w3 ⟨rfl, hb3⟩; have hx3 := hx2.trans (Mod.of hb3); have hF3 := (hb3.block _ (lt_of_block hF2)).trans hF2; have hr3 := hr2.ext hb3; clear hx2 hF2 hr2 hb3)
          | (go_at_call 34; refine (text_at hr3 (Ext.refl _) (by omega) HSG.out).mono ?_; rintro e w4 ⟨rfl, hb4⟩; have hx4 := hx3.trans (Mod.of hb4); have hF4 := (hb4.block _ (lt_of_block hF3)).trans hF3; have hc0 : w4.cell? ⟨f, 0, none⟩ = some (.int .i64 0) := (by simp [World.cell?, hF4]); have hc1 : w4.cell? ⟨f, 1, none⟩ = some (.int .i64 0) := (by simp [World.cell?, hF4]); have hf0 : w4.frozen? ⟨f, 0, none⟩ = false := (by simp [World.frozen?, hF4]); have hf1 : w4.frozen? ⟨f, 1, none⟩ = false := (by simp [World.frozen?, hF4]); clear hx3 hF3 hr3 hb4))
        have hfin := set_two hF4 (.int .i64 0) (.int .i64 0)
        have hxf : Mod b w ((w4.setCell ⟨f, 0, none⟩ (.int .i64 0)).setCell ⟨f, 1, none⟩ (.int .i64 0)) := Mod.set (Mod.set hx4 hlf _) hlf _
        generalize (w4.setCell ⟨f, 0, none⟩ (.int .i64 0)).setCell ⟨f, 1, none⟩ (.int .i64 0) = wf at hfin hxf ⊢
        have k0 : wf.cell? ⟨f, 0, none⟩ = some (.int .i64 0) := by simp [World.cell?, hfin]
        have k1 : wf.cell? ⟨f, 1, none⟩ = some (.int .i64 0) := by simp [World.cell?, hfin]
        refine bodyPost_ret (v := .tuple #[.string (txt dn), .agg #[.int .i64 0, .int .i64 0]]) (by simp [results, Tryd.results19, go_sem, k0, k1]) rfl ?_
        exact ⟨rfl, hxf⟩
    · obtain ⟨f, hf⟩ : ∃ f, f = w.heap.size := ⟨_, rfl⟩
      have hlf : w.heap.size ≤ f := by omega
      have hbf : b ≠ f := by omega
      have hna : ¬ a0 < 0 := by omega
      have HW : Hid (wtxt zs a0 = ⟨#[]⟩) := if_neg hna
      have HFN := Lib.hid (fNum_yes hna)
      have HFP := Lib.hid (fPlace_yes hna)
      clear ho HE
      rw [← hf] at hF ⊢
      clear hf
      subst e1
      go_wp2_with (first
        | (go_at_call 31; refine (left_bad _ _ _ _ _ _ _ HR (by decide)).mono ?_; rintro e w1 ⟨rfl, hb1⟩; have HR1 := HR.ext hb1; have hx1 := hx.trans (Mod.of hb1); have hF1 := (hb1.block _ (lt_of_block hF)).trans hF; clear HR hx hF hb1)
        | (go_at_call 33; refine (fault_at _ _ _ _ _ _ _ HR1).mono ?_; rintro e w2 ⟨rfl, hb2⟩; have hx2 := (hx1.trans (Mod.of hb2)).alloc (.cells #[.int .i64 2, .int .i64 pl2] 25); have hG2 : (w2.alloc (.cells #[.int .i64 2, .int .i64 pl2] 25)).heap[w2.heap.size]? = some (.cells #[.int .i64 2, .int .i64 pl2] 25 (0, 0)) := heap_alloc_new w2 _; have hgf : w2.heap.size ≠ f := (by have h4 := lt_of_block hF1; have h5 := hb2.size; omega); have hb2 := hb2.alloc (.cells #[.int .i64 2, .int .i64 pl2] 25); have hF2 := (hb2.block _ (lt_of_block hF1)).trans hF1; clear HR1 hx1 hF1 hb2)
        | (go_at_call 12; refine (bad_yes _ _ _ (by decide)).mono ?_; rintro e w3 ⟨rfl, hb3⟩; have hx3 := hx2.trans (Mod.of hb3); have hF3 := (hb3.block _ (lt_of_block hF2)).trans hF2; have hG3 := (hb3.block _ (lt_of_block hG2)).trans hG2; clear hx2 hF2 hG2 hb3))
      obtain ⟨c, hc⟩ : ∃ c, c = w2.heap.size := ⟨_, rfl⟩
      rw [← hc] at hG3 hgf ⊢
      clear hc
      have f0 : w3.cell? ⟨c, 0, none⟩ = some (.int .i64 2) := by simp [World.cell?, hG3]
      have f1 : w3.cell? ⟨c, 1, none⟩ = some (.int .i64 pl2) := by simp [World.cell?, hG3]
      have r0 : w3.cell? ⟨f, 0, none⟩ = some (.int .i64 0) := by simp [World.cell?, hF3]
      have r1 : w3.cell? ⟨f, 1, none⟩ = some (.int .i64 0) := by simp [World.cell?, hF3]
      have z0 : w3.frozen? ⟨f, 0, none⟩ = false := by simp [World.frozen?, hF3]
      have z1 : w3.frozen? ⟨f, 1, none⟩ = false := by simp [World.frozen?, hF3]
      have hfc : f ≠ c := fun e => hgf e.symm
      clear hG3
      go_region
      all_goals go_wp2
      have hfin := set_two hF3 (.int .i64 2) (.int .i64 pl2)
      have hxf : Mod b w ((w3.setCell ⟨f, 0, none⟩ (.int .i64 2)).setCell ⟨f, 1, none⟩ (.int .i64 pl2)) := Mod.set (Mod.set hx3 hlf _) hlf _
      generalize (w3.setCell ⟨f, 0, none⟩ (.int .i64 2)).setCell ⟨f, 1, none⟩ (.int .i64 pl2) = wf at hfin hxf ⊢
      have k0 : wf.drew.cell? ⟨f, 0, none⟩ = some (.int .i64 2) := by show wf.cell? _ = _; simp [World.cell?, hfin]
      have k1 : wf.drew.cell? ⟨f, 1, none⟩ = some (.int .i64 pl2) := by show wf.cell? _ = _; simp [World.cell?, hfin]
      refine bodyPost_ret (v := .tuple #[.string ⟨#[]⟩, .agg #[.int .i64 2, .int .i64 pl2]]) (by simp [results, Tryd.results19, go_sem, k0, k1]) rfl ?_
      exact ⟨by rw [HW.out, HFN.out, HFP.out], hxf.drew⟩
end Go.Proofs.YtdbjjadgmfgjfaaDoor
