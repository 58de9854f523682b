/-
  Contracts of package wide (6): a text as units.
-/
import Derived.Test.YtdbjjadgmfgjfaaDoorWd5
import Derived.Test.YtdbjjadgmfgjfaaDoorStr
import Derived.Laws.Bits64b
import Derived.Laws.BitsAllLaws
namespace Go.Proofs.YtdbjjadgmfgjfaaDoor
open Go Go.ChangeShapes Go.WideShapes Go.ChangeAt Go.RowKit
set_option linter.unusedSimpArgs false
set_option linter.unusedVariables false

/-- A text's units, as texts. -/
def uTxts (big : Bool) (zs : List Int) : List ByteArray := (zs.flatMap unitsOf).map (uTxt big)
theorem uTxts_app (big : Bool) (a b : List Int) : uTxts big (a ++ b) = uTxts big a ++ uTxts big b := by simp [uTxts]
theorem uTxts_lo (big : Bool) (p : Int) (h : p < 65536) : uTxts big [p] = [uTxt big p.toNat] := by simp [uTxts, unitsOf_lo h]
theorem uTxts_hi (big : Bool) (p : Int) (h : ¬ p < 65536) : uTxts big [p] = [uTxt big (hiOf p), uTxt big (loOf p)] := by simp [uTxts, unitsOf_hi h]
theorem flat_uTxts (big : Bool) (zs : List Int) : (flat (uTxts big zs)).data.toList = we big zs := by
  rw [flat_list]
  unfold uTxts we ubs
  rw [List.map_map, List.flatMap_def]
  rfl
/-- A text in units. -/
def weTxt (big : Bool) (zs : List Int) : ByteArray := ⟨(we big zs).toArray⟩
theorem flat_weTxt (big : Bool) (zs : List Int) : flat (uTxts big zs) = weTxt big zs := by
  apply bytes_inj
  rw [flat_uTxts]
  rfl
theorem uTxts_len (big : Bool) (zs : List Int) : (uTxts big zs).length ≤ 2 * zs.length := by
  induction zs with
  | nil => simp [uTxts]
  | cons p l ih =>
    have h := unitsOf_len p
    rw [show p :: l = [p] ++ l from rfl, uTxts_app, List.length_append, List.length_append]
    have : (uTxts big [p]).length = (unitsOf p).length := by simp [uTxts]
    simp only [List.length_cons, List.length_nil]
    omega
theorem weTxt_size (big : Bool) (zs : List Int) : (weTxt big zs).size ≤ 4 * zs.length := we_len_le big zs
theorem bits_and_i32_nat (a b : Nat) (ha : a < 2147483648) (hb : b < 2147483648) : bits .and .i32 (a : Int) (b : Int) = ((a &&& b : Nat) : Int) := by
  have hx : a &&& b < 2 ^ 31 := Nat.and_lt_two_pow _ (by omega)
  have h1 : (BitVec.ofInt 32 (a : Int)).toNat = a := by
    rw [BitVec.ofInt_natCast, BitVec.toNat_ofNat]; exact Nat.mod_eq_of_lt (by omega)
  have h2 : (BitVec.ofInt 32 (b : Int)).toNat = b := by
    rw [BitVec.ofInt_natCast, BitVec.toNat_ofNat]; exact Nat.mod_eq_of_lt (by omega)
  show IntKind.i32.wrap ((BitVec.ofInt 32 (a : Int) &&& BitVec.ofInt 32 (b : Int)).toNat : Int) = _
  rw [BitVec.toNat_and, h1, h2]
  exact IntWalk.i32_in _ (by omega)
theorem bits_and_1023 (x : Int) (h0 : 0 ≤ x) (h1 : x < 2147483648) : bits .and .i32 x 1023 = x % 1024 := by
  obtain ⟨n, rfl⟩ := Int.eq_ofNat_of_zero_le h0
  have h := bits_and_i32_nat n 1023 (by omega) (by decide)
  have e : n &&& 1023 = n % 1024 := Nat.and_two_pow_sub_one_eq_mod n 10
  rw [e] at h
  exact h.trans (by omega)
set_option maxRecDepth 100000 in
set_option maxHeartbeats 1000000 in
theorem encode_bad (s : ByteArray) (big : Bool) (a : Int) (w : World) (hT : Tabs w) (hs : s.size ≤ 1099511627776) (hb : badS s = a) (ha : ¬ a < 0) :
    Calls Tryd.prog 11 #[.string s, .bool big] w fun e w' => e = .returned (.tuple #[.string ⟨#[]⟩, .agg #[.int .i64 2, .int .i64 a]]) ∧ Ext w w' := by
  have HP := Lib.hid (fun w hT => points_bad s a w hT hs hb ha)
  have hF0 : (w.alloc (.cells #[.int .i64 0, .int .i64 0] 25)).heap[w.heap.size]? = some (.cells #[.int .i64 0, .int .i64 0] 25 (0, 0)) := heap_alloc_new w _
  have hx0 := (Ext.refl w).alloc (.cells #[.int .i64 0, .int .i64 0] 25)
  have HT := Lib.hid (hT.ext hx0)
  have HF0 := Lib.hid hF0
  clear hT hF0 hb
  go_enter Tryd.func11, Tryd.ntmps11
  go_wp2_with (first
    | (go_at_call 23; refine (HP.out _ HT.out).mono ?_; rintro e w1 ⟨rfl, hb1⟩; have hx1 := hx0.trans hb1; have HF1 := Lib.hid ((hb1.block _ (lt_of_block HF0.out)).trans HF0.out); clear hx0 HF0 hb1)
    | (go_at_call 12; refine (bad_yes _ _ _ (by decide)).mono ?_; rintro e w2 ⟨rfl, hb2⟩))
  have hl1 := lt_of_block HF1.out
  have hb3 := ((Ext.refl w1).alloc (.cells #[.int .i64 2, .int .i64 a] 25)).trans hb2
  have hx2 := hx1.trans hb3
  have hR := (hb3.block _ hl1).trans HF1.out
  have hF : w2.heap[w1.heap.size]? = some (.cells #[.int .i64 2, .int .i64 a] 25 (0, 0)) := (hb2.block w1.heap.size (by simp)).trans (heap_alloc_new w1 _)
  obtain ⟨c, hc⟩ : ∃ c, c = w1.heap.size := ⟨_, rfl⟩
  obtain ⟨f, hf⟩ : ∃ f, f = w.heap.size := ⟨_, rfl⟩
  have hfc : f ≠ c := by omega
  have hlf : w.heap.size ≤ f := by omega
  rw [← hc] at hF ⊢
  rw [← hf] at hR ⊢
  clear hc hf hl1 hb3 hb2 hx1
  obtain ⟨f0, f1, _, _⟩ := fault_cells hF
  obtain ⟨r0, r1, z0, z1⟩ := fault_cells hR
  clear hF
  go_region
  all_goals go_wp2
  have hfin := set_two hR (.int .i64 2) (.int .i64 a)
  have hxf : Ext w ((w2.setCell ⟨f, 0, none⟩ (.int .i64 2)).setCell ⟨f, 1, none⟩ (.int .i64 a)) := Ext.setCell (Ext.setCell hx2 hlf _) hlf _
  generalize (w2.setCell ⟨f, 0, none⟩ (.int .i64 2)).setCell ⟨f, 1, none⟩ (.int .i64 a) = wf at hfin hxf ⊢
  have k0 : wf.drew.cell? ⟨f, 0, none⟩ = some (.int .i64 2) := by show wf.cell? _ = _; simp [World.cell?, hfin]
  have k1 : wf.drew.cell? ⟨f, 1, none⟩ = some (.int .i64 a) := by show wf.cell? _ = _; simp [World.cell?, hfin]
  refine bodyPost_ret (v := .tuple #[.string ⟨#[]⟩, .agg #[.int .i64 2, .int .i64 a]]) (by simp [results, Tryd.results11, go_sem, k0, k1]) rfl ?_
  exact ⟨rfl, hxf.drew⟩
theorem row_cell {w : World} {a : Option Addr} {n cap : Nat} {zs : List Int} (h : IsRow w a n cap zs) {k : Nat} (hk : k < n) : ∃ x off, a = some ⟨x, off, none⟩ ∧ x < w.heap.size ∧ ∃ p, zs[k]? = some p ∧ w.cell? ⟨x, off + k, none⟩ = some (.int .i32 p) := by
  obtain ⟨h1, h2⟩ := h
  rcases h2 with h2 | ⟨x, off, rfl, hc, hcell⟩
  · omega
  · have hkl : k < zs.length := by omega
    have e : zs[k]? = some zs[k] := by simp [hkl]
    exact ⟨x, off, rfl, World.block_lt_of_cell? w _ (hcell k _ e), _, e, hcell k _ e⟩
set_option maxRecDepth 100000 in
set_option maxHeartbeats 2000000 in
theorem encode_ok (s : ByteArray) (big : Bool) (zs : List Int) (w : World) (hT : Tabs w) (hzl : zs.length ≤ 1099511627776) (hsg : allSigns zs = true)
    (P : ∀ w, Tabs w → Calls Tryd.prog 23 #[.string s] w fun e w' => ∃ a cap, e = .returned (.tuple #[.slice a zs.length cap, .agg #[.int .i64 0, .int .i64 0]]) ∧ IsRow w' a zs.length cap zs ∧ Ext w w') :
    Calls Tryd.prog 11 #[.string s, .bool big] w fun e w' => e = .returned (.tuple #[.string (weTxt big zs), .agg #[.int .i64 0, .int .i64 0]]) ∧ Ext w w' := by
  have HP := Lib.hid P
  have HSG := Lib.hid hsg
  have hF0 : (w.alloc (.cells #[.int .i64 0, .int .i64 0] 25)).heap[w.heap.size]? = some (.cells #[.int .i64 0, .int .i64 0] 25 (0, 0)) := heap_alloc_new w _
  have hx0 := (Ext.refl w).alloc (.cells #[.int .i64 0, .int .i64 0] 25)
  have HT := Lib.hid (hT.ext hx0)
  have HF0 := Lib.hid hF0
  obtain ⟨i0, hi, hz0, hz1, hz2⟩ := info_parts_str
  clear hT hF0 P hsg
  go_enter Tryd.func11, Tryd.ntmps11
  go_wp2_with (first
    | (go_at_call 23; refine (HP.out _ HT.out).mono ?_; rintro e w1 ⟨a, cap, rfl, hr1, hb1⟩; have hx1 := (hx0.trans hb1).alloc (.cells #[.int .i64 0, .int .i64 0] 25); have HF1 := Lib.hid ((((Ext.refl w1).alloc (.cells #[.int .i64 0, .int .i64 0] 25)).block _ (lt_of_block ((hb1.block _ (lt_of_block HF0.out)).trans HF0.out))).trans ((hb1.block _ (lt_of_block HF0.out)).trans HF0.out)); have hr1 := hr1.ext ((Ext.refl w1).alloc (.cells #[.int .i64 0, .int .i64 0] 25)); clear hx0 HF0 hb1)
    | (go_at_call 12; refine (bad_no _ _ _ (by decide)).mono ?_; rintro e w2 ⟨rfl, hb2⟩; have hx2 := hx1.trans hb2; have HF2 := Lib.hid ((hb2.block _ (lt_of_block HF1.out)).trans HF1.out); have hr2 := hr1.ext hb2; obtain ⟨wm, hmk, hown, hgm⟩ := make_texts zs.length (by omega) w2; clear hx1 HF1 hr1 hb2))
  have hxm : Ext w2 wm := Below.grown (Ext.refl w2) hgm (Nat.le_refl _) (by rintro k ⟨⟩)
  have hown := hown w2.heap.size (Nat.le_refl _)
  clear hgm hmk
  go_loopw [8, 24] (fun v i wr => ∃ (k : Nat), k ≤ zs.length ∧ i = .int .i64 k ∧ Ext w2 wr ∧ wr.ownsRow w2.heap.size 9 1 v (uTxts big (zs.take k)).length (textCells (uTxts big (zs.take k)))) (fun _ i _ => zs.length - (intOf i).toNat)
  case atStart => exact ⟨0, by omega, rfl, hxm, hown⟩
  case round =>
    obtain ⟨k, hk, rfl, hx, ho⟩ := hrel
    clear hxm hown
    have hul := uTxts_len big (zs.take k)
    rw [List.length_take] at hul
    have hle := hx.size
    by_cases hlt : k < zs.length
    · obtain ⟨x, off, rfl, hxl, p, hp, hc⟩ := row_cell hr2 hlt
      have hc0 := (World.cell?_of_block (w := w2) (hx.block x hxl)).trans hc
      have hps : isSign p = true := by
        have h1 := HSG.out
        unfold allSigns at h1
        rw [List.all_eq_true] at h1
        exact h1 _ (List.mem_of_getElem? hp)
      have htk : zs.take (k + 1) = zs.take k ++ [p] := by rw [List.take_add_one, hp]; rfl
      have hpb := (isSign_iff p).1 hps
      have hp0 : 0 ≤ p := by omega
      have hp1 : p ≤ 1114111 := by omega
      have HTK := Lib.hid htk
      clear htk hps hc hpb hp
      by_cases hlo : p < 65536
      · go_wp2_with (first
          | (go_at_call 24; refine (asbytes_int _ big _ hp0 hlo).mono ?_; rintro e w3 ⟨rfl, hb3⟩; have ho3 := own_ext ho hb3; have hx3 := hx.trans hb3; have hle3 := hx3.size; clear ho hx hb3)
          | (at_builtin; refine wpList_append_own _ rfl _ _ 48 rfl w2.heap.size 9 i0 (.string ⟨#[]⟩) 1 16 Tryd.underlying48 hi hz0 hz1 hz2 rfl (by decide) _ _ _ rfl (ho3.alloc _) ⟨w3.heap.size, 0, none⟩ 1 1 [.string (uTxt big p.toNat)] rfl rfl (cell_one_new _ _ _) (fun x hx => by simp at hx; subst hx; rfl) (by unfold maxLen; omega) (by omega) (by simp; omega) ?_; intro v' w4 hown4 hgrow4 hnil4; clear hnil4; have hx4 := hx3.own ho3 (Nat.le_refl _) hgrow4; clear hgrow4))
        go_roundw
        case rel =>
          refine ⟨k + 1, by omega, by go_num, hx4, ?_⟩
          rw [HTK.out, uTxts_app, uTxts_lo _ _ hlo, textCells_app, List.length_append]
          exact hown4
        case measure => simp [intOf]; omega
      · have ha := bits_and_1023 (p - 65536) (by omega) (by omega)
        have HH : Hid ((55296 + (p - 65536) / 1024).toNat = hiOf p) := by show _ = _; unfold hiOf; omega
        have HL : Hid ((56320 + (p - 65536) % 1024).toNat = loOf p) := by show _ = _; unfold loOf; omega
        go_wp2_with (first
          | (go_at_call 24; refine (asbytes_int _ big _ (by omega) (by omega)).mono ?_; rintro e w3 ⟨rfl, hb3⟩; have ho3 := own_ext ho hb3; have hx3 := hx.trans hb3; have hle3 := hx3.size; clear ho hx hb3; have ho := ho3; have hx := hx3; clear ho3 hx3)
          | (at_builtin; refine wpList_append_own _ rfl _ _ 48 rfl w2.heap.size 9 i0 (.string ⟨#[]⟩) 1 16 Tryd.underlying48 hi hz0 hz1 hz2 rfl (by decide) _ _ _ rfl (ho.alloc _) ⟨w3.heap.size, 0, none⟩ 2 2 [.string (uTxt big (55296 + (p - 65536) / 1024).toNat), .string (uTxt big (56320 + (p - 65536) % 1024).toNat)] rfl rfl (cell_two_new _ _ _ _) (fun x hx => by simp at hx; rcases hx with rfl | rfl <;> rfl) (by unfold maxLen; omega) (by omega) (by simp; omega) ?_; intro v' w4 hown4 hgrow4 hnil4; clear hnil4; have hx4 := hx.own ho (Nat.le_refl _) hgrow4; clear hgrow4))
        rw [HH.out, HL.out] at hown4
        go_roundw
        case rel =>
          refine ⟨k + 1, by omega, by go_num, hx4, ?_⟩
          rw [HTK.out, uTxts_app, uTxts_hi _ p (by omega), textCells_app, List.length_append]
          exact hown4
        case measure => simp [intOf]; omega
    · have hkl : k = zs.length := by omega
      subst hkl
      rw [List.take_length] at ho hul
      obtain ⟨a2, cap2, rfl, hrow⟩ := own_texts ho
      have HJ := Lib.hid (fun (w : World) (h : IsTexts w a2 (uTxts big zs).length cap2 (uTxts big zs)) => ojoin_row h (by omega) (by rw [flat_weTxt]; have := weTxt_size big zs; omega))
      rw [flat_weTxt] at HJ
      generalize uTxts big zs = us at HJ hrow hul
      have hF3 := Lib.hid ((hx.block _ (lt_of_block HF2.out)).trans HF2.out)
      clear ho
      go_wp2_with (go_at_call 25; refine (HJ.out _ hrow).mono ?_; rintro e w3 ⟨rfl, hb3⟩; have hx3 := (hx2.trans hx).trans hb3; have hF4 := (hb3.block _ (lt_of_block hF3.out)).trans hF3.out; obtain ⟨c0, c1, g0, g1⟩ := fault_cells hF4)
      have hfin := set_two hF4 (.int .i64 0) (.int .i64 0)
      have hxf : Ext w ((w3.setCell ⟨w.heap.size, 0, none⟩ (.int .i64 0)).setCell ⟨w.heap.size, 1, none⟩ (.int .i64 0)) := Ext.setCell (Ext.setCell hx3 (Nat.le_refl _) _) (Nat.le_refl _) _
      generalize (w3.setCell ⟨w.heap.size, 0, none⟩ (.int .i64 0)).setCell ⟨w.heap.size, 1, none⟩ (.int .i64 0) = wf at hfin hxf ⊢
      obtain ⟨k0, k1, _, _⟩ := fault_cells hfin
      refine bodyPost_ret (v := .tuple #[.string (weTxt big zs), .agg #[.int .i64 0, .int .i64 0]]) (by simp [results, Tryd.results11, go_sem, k0, k1]) rfl ?_
      exact ⟨rfl, hxf⟩
end Go.Proofs.YtdbjjadgmfgjfaaDoor
