/-
  Contracts of package single (4): a text as bytes.
-/
import Derived.Test.YtjlghdlbkibneaaDoorSc3
namespace Go.Proofs.YtjlghdlbkibneaaDoor
open Go Go.ChangeShapes Go.WideShapes Go.ChangeAt Go.RowKit
set_option linter.unusedSimpArgs false
set_option linter.unusedVariables false

/-- The place of the first sign that has no code, that of the first sign being a; -1: all have. -/
def badG (g : Int → Int) : Nat → List Int → Int
  | _, [] => -1
  | a, p :: l => if g p < 0 then (a : Int) else badG g (a + (Lib.encodeRune p).length) l
def encG (g : Int → Int) (l : List Int) : List UInt8 := l.map fun p => (g p).toNat.toUInt8
theorem badG_z (c : Int) : ∀ (l : List Int) (a : Nat), badG (byteZ c) a l = badZ c a l
  | [], _ => rfl
  | p :: l, a => by rw [badG, badZ, badG_z c l]
theorem encG_snoc (g : Int → Int) (zs : List Int) (k : Nat) (p : Int) (h : zs[k]? = some p) : encG g (zs.take (k + 1)) = encG g (zs.take k) ++ [(g p).toNat.toUInt8] := by
  rw [List.take_add_one, h]
  simp [encG]
theorem txt_list (zs : List Int) : (txt zs).data.toList = encs zs := rfl
theorem txt_bad (zs : List Int) (h : allSigns zs = true) : badS (txt zs) < 0 := by
  unfold badS
  rw [txt_list]
  have := badL_encs zs 0 [] h
  rw [List.append_nil, badL_nil] at this
  rw [this]
  decide
theorem txt_sgn (zs : List Int) (h : allSigns zs = true) : sgn (txt zs) = zs := runesL_encs zs h
theorem txt_len (zs : List Int) : (txt zs).size = (encs zs).length := rfl
/-- Where a text's sign stands, and what is read there. -/
theorem txt_at (zs : List Int) (h : allSigns zs = true) (k : Nat) (p : Int) (hp : zs[k]? = some p) :
    (encs (zs.take k)).length < (txt zs).size ∧ Utf8.decode (txt zs) (encs (zs.take k)).length = (p.toNat, (Lib.encodeRune p).length) ∧ (p.toNat : Int) = p ∧ isSign p = true ∧ (encs (zs.take (k + 1))).length = (encs (zs.take k)).length + (Lib.encodeRune p).length ∧ 1 ≤ (Lib.encodeRune p).length := by
  have hsp : isSign p = true := by
    unfold allSigns at h
    rw [List.all_eq_true] at h
    exact h _ (List.mem_of_getElem? hp)
  have hpb := (isSign_iff p).1 hsp
  have e0 : zs = zs.take k ++ p :: zs.drop (k + 1) := by
    have := drop_int hp
    rw [← this, List.take_append_drop]
  have e1 : encs zs = encs (zs.take k) ++ (Lib.encodeRune p ++ encs (zs.drop (k + 1))) := by
    conv => lhs; rw [e0]
    rw [encs_app, encs_cons]
  have e2 : (txt zs).data.toList.drop (encs (zs.take k)).length = Lib.encodeRune p ++ encs (zs.drop (k + 1)) := by
    rw [txt_list, e1, List.drop_left]
  have e3 := dec_enc p hsp (encs (zs.drop (k + 1)))
  rw [← e2, Lib.decodeL_drop] at e3
  have hw : 1 ≤ (Lib.encodeRune p).length := by
    have := decode_pos (txt zs) (encs (zs.take k)).length
    rw [e3] at this
    exact this
  refine ⟨?_, e3, by omega, hsp, ?_, hw⟩
  · rw [txt_len, e1, List.length_append, List.length_append]
    omega
  · rw [List.take_add_one, hp, encs_app]
    simp [encs_one]
def EncOut (w : World) (g : Int → Int) (zs : List Int) (e : Ending) (w' : World) : Prop :=
  ((badG g 0 zs < 0 ∧ e = .returned (.tuple #[.string ⟨(encG g zs).toArray⟩, .agg #[.int .i64 0, .int .i64 0]])) ∨ (¬ badG g 0 zs < 0 ∧ e = .returned (.tuple #[.string ⟨#[]⟩, .agg #[.int .i64 6, .int .i64 (badG g 0 zs)]]))) ∧ Ext w w'
theorem make_row8 (k : Nat) (hk : k ≤ 281474976710656) (w : World) : ∃ w', (Instr.makeSlice 98 (.int .i64 0) (.int .i64 (k : Int))).run Tryd.prog w = .ok (.slice (some ⟨w.heap.size, 0, none⟩) 0 k) w' ∧
    (∀ B, B ≤ w.heap.size → w'.ownsRow B 5 1 (.slice (some ⟨w.heap.size, 0, none⟩) 0 k) 0 []) ∧ w.grownBy w' none := by
  obtain ⟨w', h1, h2, h3⟩ := make_row k hk w
  exact ⟨w', h1, fun B hB => own_base h2 hB, h3⟩
theorem info_parts_u8 : ∃ i, Tryd.prog.info? 5 = some i ∧ i.zero = some (.int .u8 0) ∧ i.size = 1 ∧ i.bytes = 1 := by
  obtain ⟨i, hi, h2⟩ := Option.map_eq_some_iff.1 info_u8
  obtain ⟨h3, h4⟩ := Prod.mk.inj h2
  obtain ⟨h5, h6⟩ := Prod.mk.inj h4
  exact ⟨i, hi, h3, h5, h6⟩
theorem byteCells_app (a b : List UInt8) : Lib.byteCells (a ++ b) = Lib.byteCells a ++ Lib.byteCells b := by simp [Lib.byteCells]
set_option maxRecDepth 100000 in
set_option maxHeartbeats 4000000 in
theorem set_encode (v : Value) (c : Int) (l : List Pr) (zs : List Int) (w : World) (hT : Tabs w) (h : IsSet w v c l) (hf : From0 l) (hb : ∀ p, revP l p < 256) (hsg : allSigns zs = true) (hzl : zs.length ≤ 100000) :
    Calls Tryd.prog 31 #[v, .string (txt zs)] w (EncOut w (revP l) zs) := by
  obtain ⟨ta, n1, tc, tb, n2, td, rfl, htab⟩ := h
  have hD := Dw.start w (.slice ta n1 tc) (.slice tb n2 td) (.int .i64 c)
  have HRY := Lib.hid (fun (p : Int) (hp : ¬ revP l p < 0) (w' : World) (k : Ext w w') => rev_yes_any _ l p (revP l p) w' (htab.ext k) hf rfl hp)
  have HRN := Lib.hid (fun (p : Int) (hp : revP l p < 0) (h0 : -2147483648 ≤ p) (h1 : p ≤ 2147483647) (w' : World) (k : Ext w w') => rev_no_any _ l p w' (htab.ext k) hf hp h0 h1)
  have HB := Lib.hid hb
  have HAT := Lib.hid (fun (k : Nat) (p : Int) (hp : zs[k]? = some p) => txt_at zs hsg k p hp)
  have hsz : (txt zs).size ≤ 400000 := by
    have := encs_le zs
    rw [txt_len]
    omega
  have HSZ : Hid ((txt zs).size = (encs zs).length) := txt_len zs
  have HCK := Lib.hid (fun w hT => check_no (txt zs) w hT (by omega) (txt_bad zs hsg))
  have HCN : Hid (∀ w, Tabs w → Calls Tryd.prog 57 #[.string (txt zs)] w fun e w' => e = .returned (.int .i64 zs.length) ∧ Ext w w') := fun w hT => by
    have := count_ok (txt zs) w hT (by omega) (txt_bad zs hsg)
    rwa [txt_sgn zs hsg] at this
  obtain ⟨s, hs⟩ : ∃ s, s = txt zs := ⟨_, rfl⟩
  rw [← hs] at HAT HSZ HCK HCN hsz ⊢
  obtain ⟨g, hg⟩ : ∃ g, g = revP l := ⟨_, rfl⟩
  rw [← hg] at HRY HRN HB ⊢
  have HD := Lib.hid hD
  have HT := Lib.hid hT
  clear hT htab hD hf hb hsg hs hg
  go_enter Tryd.func31, Tryd.ntmps31
  go_wp2_with (first
    | (go_at_call 56; refine (HCK.out _ (HT.out.ext HD.out.ex)).mono ?_; rintro e w1 ⟨rfl, hb1⟩; have HD1 := Lib.hid ((HD.out.ext hb1).ext ((Ext.refl w1).alloc (.cells #[.int .i64 0, .int .i64 0] 30))); clear hb1 HD)
    | (go_at_call 17; refine (bad_no _ _ _ (by decide)).mono ?_; rintro e w2 ⟨rfl, hb2⟩; have HD2 := Lib.hid (HD1.out.ext hb2); clear hb2 HD1)
    | (go_at_call 57; refine (HCN.out _ (HT.out.ext HD2.out.ex)).mono ?_; rintro e w3 ⟨rfl, hb3⟩; have HD3 := Lib.hid (HD2.out.ext hb3); obtain ⟨wm, hmk, hown, hgm⟩ := make_row8 zs.length (by omega) w3; clear hb3 HD2))
  have hxm : Ext w3 wm := Below.grown (Ext.refl w3) hgm (Nat.le_refl _) (by rintro k ⟨⟩)
  have hit0 := World.iter_heap wm s 0
  have hx0 := hxm.alloc (.stringIter s 0)
  have ho0 := (hown w3.heap.size (Nat.le_refl _)).alloc (.stringIter s 0)
  have hsm := hxm.size
  obtain ⟨k, hk⟩ : ∃ k, k = wm.heap.size := ⟨_, rfl⟩
  have hkl : w3.heap.size ≤ k := by omega
  rw [← hk] at hit0 ⊢
  obtain ⟨i0, hi, hz0, hz1, hz2⟩ := info_parts_u8
  clear hown hgm hmk hxm hsm
  go_loopw [7] (fun v wr => ∃ j : Nat, j ≤ zs.length ∧ wr.heap[k]? = some (.stringIter s (encs (zs.take j)).length) ∧ Ext w3 wr ∧ Hid (badG g 0 zs = badG g (encs (zs.take j)).length (zs.drop j)) ∧ wr.ownsRow w3.heap.size 5 1 v (encG g (zs.take j)).length (Lib.byteCells (encG g (zs.take j)))) (fun _ wr => s.size - wr.iterPos k)
  case atStart => exact ⟨0, by omega, hit0, hx0, rfl, ho0⟩
  case round =>
    obtain ⟨j, hj, hit, hx, HBD, ho⟩ := hrel
    clear hit0 hx0 ho0 hk
    have hpos0 := iterPos_of hit
    have hel : (encG g (zs.take j)).length ≤ 100000 := by
      unfold encG
      rw [List.length_map]
      have := List.length_take_le j zs
      omega
    have hle := hx.size
    by_cases hlt : j < zs.length
    · have hpj : zs[j]? = some zs[j] := List.getElem?_eq_getElem hlt
      obtain ⟨p, hpz⟩ : ∃ p, p = zs[j] := ⟨_, rfl⟩
      rw [← hpz] at hpj
      obtain ⟨a1, a2, a3, a4, a5, a6⟩ := HAT.out j p hpj
      have hpb := (isSign_iff p).1 a4
      have p0 : 0 ≤ p := by omega
      have p1 : p ≤ 1114111 := by omega
      have HEN := Lib.hid (encG_snoc g zs j p hpj)
      have HDI := Lib.hid (drop_int hpj)
      have HA5 := Lib.hid a5
      obtain ⟨pos, hpos⟩ : ∃ pos, pos = (encs (zs.take j)).length := ⟨_, rfl⟩
      rw [← hpos] at HBD a1 a2 hit hpos0
      have HPOS := Lib.hid hpos
      have hnx : ∀ ty, (Instr.next (.pointer (some ⟨k, 0, none⟩)) true ty).run Tryd.prog wr = _ := fun ty => Lib.run_next_any_at wr k s pos ty hit a1
      simp only [a2, a3] at hnx
      have hit2 := Lib.iterAt_heap wr k s pos (pos + (Lib.encodeRune p).length) hit
      have hx2 : Ext w3 (wr.iterAt k s (pos + (Lib.encodeRune p).length)) := Lib.below_iterAt hx (k := k) hkl s (pos + (Lib.encodeRune p).length)
      have ho2 := own_iterAt ho hit (pos + (Lib.encodeRune p).length)
      obtain ⟨q, hq⟩ : ∃ q, q = (Lib.encodeRune p).length := ⟨_, rfl⟩
      rw [← hq] at hnx hit2 hx2 ho2 a6
      have HQ := Lib.hid hq
      obtain ⟨W1, hW1⟩ : ∃ W1, W1 = wr.iterAt k s (pos + q) := ⟨_, rfl⟩
      rw [← hW1] at hnx hit2 hx2 ho2
      have hBlt := lt_of_block hit2
      have hD1 := HD3.out.ext hx2
      obtain ⟨⟨c0, c1, c2⟩, _⟩ := facts3 hD1.b0
      have HDW := Lib.hid hD1
      have hpi : (pos : Int) ≤ 400000 := by omega
      clear hW1 hit hx ho hle hpz hpj a2 a3 a4 a5 hpb hpos hq hD1
      by_cases hgp : g p < 0
      · have HR := Lib.hid (fun (w' : World) (k2 : Ext w w') => HRN.out p hgp (by omega) (by omega) w' k2)
        have HF : Hid (badG g 0 zs = (pos : Int)) := by
          show _ = _
          rw [HBD.out, HDI.out, badG, if_pos hgp]
        clear hgp
        go_wp2_with (go_at_call 21; refine (HR.out _ HDW.out.ex).mono ?_; rintro e w4 ⟨rfl, hb4⟩; have hD4 := HDW.out.ext hb4; obtain ⟨⟨d0, d1⟩, z0, z1⟩ := facts2 hD4.b1; have HD4 := Lib.hid hD4; clear hD4 hb4)
        obtain ⟨wf, hwf, hxf, hB, _, _⟩ := put2 HD4.out.b1 HD4.out.ex (Nat.le_succ_of_le HD4.out.lo) (.int .i64 6) (.int .i64 pos)
        rw [← hwf]
        obtain ⟨⟨k0, k1⟩, _⟩ := facts2 hB
        clear hwf hB d0 d1 z0 z1
        refine bodyPost_ret (v := .tuple #[.string ⟨#[]⟩, .agg #[.int .i64 6, .int .i64 pos]]) (by simp [results, Tryd.results31, go_sem, k0, k1]) rfl ?_
        exact ⟨.inr ⟨by rw [HF.out]; omega, by rw [HF.out]⟩, hxf⟩
      · have HR := Lib.hid (fun (w' : World) (k2 : Ext w w') => HRY.out p (by omega) w' k2)
        have hg1 := HB.out p
        have hg0 : 0 ≤ g p := by omega
        have HF : Hid (badG g 0 zs = badG g (pos + q) (zs.drop (j + 1))) := by
          show _ = _
          rw [HBD.out, HDI.out, badG, if_neg hgp, HQ.out]
        have HGB : Hid ((((g p).toNat.toUInt8).toNat : Int) = g p) := by
          show _ = _
          simp
          omega
        generalize g p = gp at HR hg1 hg0 HGB HEN
        clear hgp
        go_wp2_with (first
          | (go_at_call 21; refine (HR.out _ HDW.out.ex).mono ?_; rintro e w4 ⟨rfl, hb4⟩; have hit4 := (hb4.block k hBlt).trans hit2; have ho4 := own_ext ho2 hb4; have hx4 := hx2.trans hb4; have hle4 := hx4.size; have hBlt4 := lt_of_block hit4; have hne4 := own_ne_iter ho4 hit4; clear hit2 ho2 hx2 hb4)
          | (at_builtin; refine wpList_append_own _ rfl _ _ 98 rfl w3.heap.size 5 i0 (.int .u8 0) 1 1 Tryd.underlying98 hi hz0 hz1 hz2 rfl (by decide) _ _ _ rfl (ho4.alloc _) ⟨w4.heap.size, 0, none⟩ 1 1 [.int .u8 gp] rfl rfl (cell_one_new _ _ _) (fun x hx => by simp at hx; subst hx; rfl) (by unfold maxLen; omega) (by omega) (by simp; omega) ?_; intro v' w5 hown' hgrow5 hnil5
             have hit5 : w5.heap[k]? = some (.stringIter s (pos + q)) := by
               rw [hgrow5.block k (by simp; omega) hne4, Below.heap_alloc _ _ _ hBlt4]; exact hit4
             have hx5 : Ext w3 w5 := hx4.own ho4 (Nat.le_refl _) hgrow5
             clear hgrow5 hnil5))
        go_roundw
        case rel =>
          have e1 : (encs (zs.take (j + 1))).length = pos + q := by rw [HA5.out, ← HPOS.out, ← HQ.out]
          refine ⟨j + 1, by omega, by rw [e1]; exact hit5, hx5, ?_, ?_⟩
          · show _ = _
            rw [e1]
            exact HF.out
          · rw [HEN.out, byteCells_app, List.length_append]
            have e2 : Lib.byteCells [gp.toNat.toUInt8] = [.int .u8 gp] := by
              show [Value.int .u8 ((gp.toNat.toUInt8).toNat : Int)] = _
              rw [HGB.out]
            rw [e2]
            exact hown'
        case measure =>
          rw [iterPos_of hit5, hpos0]
          omega
    · have hjl : j = zs.length := by omega
      subst hjl
      rw [List.take_length] at hit ho hel
      have hbd := HBD.out
      rw [List.take_length, List.drop_length, badG] at hbd
      have HF := Lib.hid hbd
      have hnp : ¬ (encs zs).length < s.size := by have := HSZ.out; omega
      have hnx : ∀ ty, (Instr.next (.pointer (some ⟨k, 0, none⟩)) true ty).run Tryd.prog wr = _ := fun ty => Lib.run_next_end_at wr k s _ ty hit hnp
      have hst := own_string ho
      have hD1 := HD3.out.ext hx
      obtain ⟨⟨d0, d1⟩, z0, z1⟩ := facts2 hD1.b1
      have HD4 := Lib.hid hD1
      clear hbd hit ho hD1 hx hpos0
      go_wp2
      obtain ⟨wf, hwf, hxf, hB, _, _⟩ := put2 HD4.out.b1 HD4.out.ex (Nat.le_succ_of_le HD4.out.lo) (.int .i64 0) (.int .i64 0)
      rw [← hwf]
      obtain ⟨⟨k0, k1⟩, _⟩ := facts2 hB
      clear hwf hB d0 d1 z0 z1
      refine bodyPost_ret (v := .tuple #[.string ⟨(encG g zs).toArray⟩, .agg #[.int .i64 0, .int .i64 0]]) (by simp [results, Tryd.results31, go_sem, k0, k1]) rfl ?_
      exact ⟨.inl ⟨by rw [HF.out]; decide, rfl⟩, hxf⟩
end Go.Proofs.YtjlghdlbkibneaaDoor
