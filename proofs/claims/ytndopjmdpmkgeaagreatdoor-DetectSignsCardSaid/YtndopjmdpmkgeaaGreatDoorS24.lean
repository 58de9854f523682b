/-
  What the proof of this claim leans on (S24).
-/
import Derived.Test.YtndopjmdpmkgeaaGreatDoorS23
import Derived.Deep.RegionWith
import Derived.StillTailTactics
namespace Go.Proofs.YtndopjmdpmkgeaaGreatDoor
open Go Go.ChangeShapes Go.WideShapes Go.ChangeAt Go.RowKit
set_option linter.unusedSimpArgs false
set_option linter.unusedVariables false

theorem text_at5 {w0 w : World} {a : Option Addr} {cap : Nat} {zs : List Int} (h : IsRow w0 a zs.length cap zs) (hx : Ext w0 w) (hl : zs.length ≤ 1099511627776) (hs : allSigns zs = true) :
    Calls Tryz.prog 76 #[.slice a zs.length cap] w fun e w' => e = .returned (.tuple #[.string (txt zs), .bool true]) ∧ Ext w w' := by
  have := text_row h hx hl
  rwa [textOut_yes hs, hs] at this
theorem tabZ_c (c : Nat) (hc : c ≤ 3) : (List.range 256).map (fun n => signZ c n) = tabZ c := by
  have : c = 0 ∨ c = 1 ∨ c = 2 ∨ c = 3 := by omega
  rcases this with rfl | rfl | rfl | rfl
  · exact tabZ_0
  · exact tabZ_1
  · exact tabZ_2
  · exact tabZ_3
theorem tabP_eq (c : Nat) (hc : c ≤ 3) : tabP c = (List.range 256).map fun (n : Nat) => ((n : Int), signZ c n) := by
  unfold tabP pairsOf
  rw [← tabZ_c c hc]
  apply List.map_congr_left
  intro n hn
  have hn := List.mem_range.1 hn
  rw [List.getD_eq_getElem?_getD, List.getElem?_map, List.getElem?_range hn]
  rfl
theorem mem_tab (c n : Nat) (hc : c ≤ 3) (hn : n < 256) : ((n : Int), signZ c n) ∈ tabP c := by
  rw [tabP_eq c hc]
  exact List.mem_map.2 ⟨n, List.mem_range.2 hn, rfl⟩
/-- Behind a world: a charset's three cells, a fault's two. -/
structure Dw (w0 w : World) (b : Nat) (x y z : Value) : Prop where
  ex : Ext w0 w
  lo : w0.heap.size ≤ b
  b0 : w.heap[b]? = some (.cells #[x, y, z] 76 (0, 0))
  b1 : w.heap[b + 1]? = some (.cells #[.int .i64 0, .int .i64 0] 54 (0, 0))
theorem Dw.ext {w0 w w' : World} {b : Nat} {x y z : Value} (h : Dw w0 w b x y z) (k : Ext w w') : Dw w0 w' b x y z := ⟨h.ex.trans k, h.lo, (k.block _ (lt_of_block h.b0)).trans h.b0, (k.block _ (lt_of_block h.b1)).trans h.b1⟩
theorem Dw.start (w : World) (x y z : Value) : Dw w ((w.alloc (.cells #[x, y, z] 76)).alloc (.cells #[.int .i64 0, .int .i64 0] 54)) w.heap.size x y z := by
  have h1 := heap_alloc_new w (.cells #[x, y, z] 76)
  have h2 := heap_alloc_new (w.alloc (.cells #[x, y, z] 76)) (.cells #[.int .i64 0, .int .i64 0] 54)
  have e : (w.alloc (.cells #[x, y, z] 76)).heap.size = w.heap.size + 1 := by simp
  rw [e] at h2
  have k := (Ext.refl (w.alloc (.cells #[x, y, z] 76))).alloc (.cells #[.int .i64 0, .int .i64 0] 54)
  exact ⟨((Ext.refl w).alloc _).alloc _, Nat.le_refl _, (k.block _ (lt_of_block h1)).trans h1, h2⟩
theorem take_bytes (s : ByteArray) (k : Nat) (h : k < s.size) : s.data.toList.take (k + 1) = s.data.toList.take k ++ [s[k]] := by
  rw [List.take_succ_eq_append_getElem (by simpa using h)]; rfl
theorem decZ_snoc (c : Int) (s : ByteArray) (k : Nat) (h : k < s.size) : decZ c (s.data.toList.take (k + 1)) = decZ c (s.data.toList.take k) ++ [signZ c s[k].toNat] := by
  rw [take_bytes s k h]
  simp [decZ]
set_option maxRecDepth 100000 in
set_option maxHeartbeats 2000000 in
theorem set_decode (v : Value) (c : Nat) (s : ByteArray) (w : World) (h : IsSet w v c (tabP c)) (hc : c ≤ 3) (hs : s.size ≤ 100000) :
    Calls Tryz.prog 42 #[v, .string s] w fun e w' => e = .returned (.tuple #[.string (txt (decZ c s.data.toList)), .agg #[.int .i64 0, .int .i64 0]]) ∧ Ext w w' := by
  obtain ⟨ta, n1, tc, tb, n2, td, rfl, htab⟩ := h
  have hD := Dw.start w (.slice ta n1 tc) (.slice tb n2 td) (.int .i64 c)
  have HF := Lib.hid (fun (n : Nat) (hn : n < 256) (w' : World) (k : Ext w w') => fwd_yes _ (tabP c) ((n : Int), signZ c n) w' (htab.ext k) (mem_tab c n hc hn))
  have hsg := decZ_signs c s.data.toList (by omega) (by omega)
  have HSG := Lib.hid hsg
  obtain ⟨i1, hj, hj0, hj1, hj2⟩ := info_parts_i32
  have HD := Lib.hid hD
  obtain ⟨wm, hmk, hown, hgm⟩ := make_runes s.size (by omega) ((w.alloc (.cells #[.slice ta n1 tc, .slice tb n2 td, .int .i64 c] 76)).alloc (.cells #[.int .i64 0, .int .i64 0] 54))
  have hxm := Below.grown (Ext.refl ((w.alloc (.cells #[.slice ta n1 tc, .slice tb n2 td, .int .i64 c] 76)).alloc (.cells #[.int .i64 0, .int .i64 0] 54))) hgm (Nat.le_refl _) (by rintro k ⟨⟩)
  replace hown := hown _ (Nat.le_refl _)
  have HO := Lib.hid hown
  have HXM := Lib.hid hxm
  clear htab hsg hD hgm hown hxm
  go_enter Tryz.func42, Tryz.ntmps42
  go_wp2
  clear hmk
  have hown := HO.out
  have hxm : Ext _ wm := HXM.out
  clear HO HXM
  generalize hw2 : (w.alloc (.cells #[.slice ta n1 tc, .slice tb n2 td, .int .i64 c] 76)).alloc (.cells #[.int .i64 0, .int .i64 0] 54) = w2 at HD hown hxm ⊢
  have hz : w.heap.size + 1 + 1 = w2.heap.size := by rw [← hw2]; simp
  rw [hz]
  clear hw2 hz
  go_loopw [6, 17] (fun v i wr => ∃ k : Nat, k ≤ s.size ∧ i = .int .i64 k ∧ wr.ownsRow w2.heap.size 21 1 v (decZ c (s.data.toList.take k)).length (runeCellsOf (decZ c (s.data.toList.take k))) ∧ Ext w2 wr) (fun _ i _ => s.size - (intOf i).toNat)
  case atStart => exact ⟨0, by omega, rfl, by simpa [decZ, runeCellsOf] using hown, hxm⟩
  case round =>
    obtain ⟨k, hk, rfl, ho, hx⟩ := hrel
    clear hown hxm
    have hle := hx.size
    have hl : (decZ c (s.data.toList.take k)).length ≤ k := by
      unfold decZ
      rw [List.length_map]
      exact List.length_take_le _ _
    by_cases hlt : k < s.size
    · have HSN := Lib.hid (decZ_snoc c s k hlt)
      have hD := HD.out.ext hx
      obtain ⟨⟨c0, c1, c2⟩, _⟩ := facts3 hD.b0
      have hn := (s[k]'hlt).toNat_lt
      have HFk : Hid (∀ (w' : World), Ext w w' → Calls Tryz.prog 75 #[.agg #[.slice ta n1 tc, .slice tb n2 td], .int .i64 (IntKind.i64.wrap ((s[k]'hlt).toNat : Int))] w' fun e w'' => e = .returned (.tuple #[.int .i32 (signZ c (s[k]'hlt).toNat), .bool true]) ∧ Ext w' w'') := fun w' k2 => by
        rw [IntWalk.i64_in _ (by omega)]
        exact HF.out (s[k]'hlt).toNat hn w' k2
      generalize signZ c (s[k]'hlt).toNat = p at HSN HFk
      have HX := Lib.hid hD.ex
      have hb0 : (0 : Int) ≤ ((s[k]'hlt).toNat : Int) := by omega
      have hb1 : ((s[k]'hlt).toNat : Int) < 256 := by omega
      clear hD hn
      go_wp2
      go_region_with (go_at_call 75; refine (HFk.out _ HX.out.drew).mono ?_; rintro e w3 ⟨rfl, hb3⟩; have ho3 := own_ext ho (Ext.drew (Ext.refl _) |>.trans hb3); have hx3 := hx.drew.trans hb3; have hle3 := hx3.size)
      all_goals
        go_wp2_with ((at_builtin; refine wpList_append_fresh _ rfl _ _ 58 rfl (w2.heap.size) 21 i1 (.int .i32 0) 1 4 Tryz.underlying58 hj hj0 hj1 hj2 rfl (by decide) _ _ _ rfl (ho3.alloc _) ⟨w3.heap.size, 0, none⟩ 1 1 [.int .i32 p] rfl rfl (cell_one_new _ _ _) (fun x hx => by simp at hx; subst hx; rfl) (by unfold maxLen; omega) (by omega) (by simp; omega) ?_; intro v5 w5 hown5 hgrow5 hfresh5; have hx5 := hx3.own ho3 (Nat.le_refl _) hgrow5; clear hgrow5 hfresh5))
        go_roundw
        case rel =>
          refine ⟨k + 1, by omega, by go_num, ?_, hx5⟩
          rw [HSN.out, List.length_append]
          unfold runeCellsOf at hown5 ⊢
          rw [List.map_append]
          exact hown5
        case measure => simp [intOf]; omega
    · have hkl : k = s.size := by omega
      subst hkl
      have hts : s.data.toList.take s.size = s.data.toList := List.take_of_length_le (Nat.le_refl _)
      rw [hts] at ho hl
      obtain ⟨a', cap', rfl, hrow⟩ := own_row ho
      have HR := Lib.hid hrow
      have hlz : (decZ c s.data.toList).length ≤ 100000 := by omega
      have HTX := Lib.hid (fun w' (k : Ext wr w') => text_at5 HR.out k (by omega) HSG.out)
      have HDr := Lib.hid (HD.out.ext hx)
      clear hts ho hrow hl
      go_wp2_with (go_at_call 76; refine (HTX.out _ (Ext.refl _)).mono ?_; rintro e w4 ⟨rfl, hb4⟩; have hD4 := HDr.out.ext hb4; obtain ⟨⟨c0, c1⟩, z0, z1⟩ := facts2 hD4.b1; have HD4 := Lib.hid hD4; clear hD4 hb4)
      obtain ⟨wf, hwf, hxf, hB, _, _⟩ := put2 HD4.out.b1 HD4.out.ex (Nat.le_succ_of_le HD4.out.lo) (.int .i64 0) (.int .i64 0)
      rw [← hwf]
      obtain ⟨⟨k0, k1⟩, _⟩ := facts2 hB
      clear hwf hB c0 c1 z0 z1
      refine bodyPost_ret (v := .tuple #[.string (txt (decZ c s.data.toList)), .agg #[.int .i64 0, .int .i64 0]]) (by simp [results, Tryz.results42, go_sem, k0, k1]) rfl ?_
      exact ⟨rfl, hxf⟩
end Go.Proofs.YtndopjmdpmkgeaaGreatDoor

namespace Go.Proofs.YtndopjmdpmkgeaaGreatDoor
open Go Go.ChangeShapes Go.WideShapes Go.ChangeAt Go.RowKit
set_option linter.unusedSimpArgs false
set_option linter.unusedVariables false

/-- The place of the first sign that has no code, that of the first sign being a; -1: all have. -/
def badG (g : Int → Int) : Nat → List Int → Int
  | _, [] => -1
  | a, p :: l => if g p < 0 then (a : Int) else badG g (a + (Lib.encodeRune p).length) l
def encG (g : Int → Int) (l : List Int) : List UInt8 := l.map fun p => (g p).toNat.toUInt8
theorem badG_z (c : Int) : ∀ (l : List Int) (a : Nat), badG (byteZ c) a l = badZ c a l
  | [], _ => rfl
  | p :: l, a => by rw [badG, badZ, badG_z c l]
theorem encG_snoc (g : Int → Int) (zs : List Int) (k : Nat) (p : Int) (h : zs[k]? = some p) : encG g (zs.take (k + 1)) = encG g (zs.take k) ++ [(g p).toNat.toUInt8] := by
  rw [List.take_add_one, h]
  simp [encG]
theorem txt_list (zs : List Int) : (txt zs).data.toList = encs zs := rfl
theorem txt_bad (zs : List Int) (h : allSigns zs = true) : badS (txt zs) < 0 := by
  unfold badS
  rw [txt_list]
  have := badL_encs zs 0 [] h
  rw [List.append_nil, badL_nil] at this
  rw [this]
  decide
theorem txt_sgn (zs : List Int) (h : allSigns zs = true) : sgn (txt zs) = zs := runesL_encs zs h
theorem txt_len (zs : List Int) : (txt zs).size = (encs zs).length := rfl
/-- Where a text's sign stands, and what is read there. -/
theorem txt_at (zs : List Int) (h : allSigns zs = true) (k : Nat) (p : Int) (hp : zs[k]? = some p) :
    (encs (zs.take k)).length < (txt zs).size ∧ Utf8.decode (txt zs) (encs (zs.take k)).length = (p.toNat, (Lib.encodeRune p).length) ∧ (p.toNat : Int) = p ∧ isSign p = true ∧ (encs (zs.take (k + 1))).length = (encs (zs.take k)).length + (Lib.encodeRune p).length ∧ 1 ≤ (Lib.encodeRune p).length := by
  have hsp : isSign p = true := by
    unfold allSigns at h
    rw [List.all_eq_true] at h
    exact h _ (List.mem_of_getElem? hp)
  have hpb := (isSign_iff p).1 hsp
  have e0 : zs = zs.take k ++ p :: zs.drop (k + 1) := by
    have := drop_int hp
    rw [← this, List.take_append_drop]
  have e1 : encs zs = encs (zs.take k) ++ (Lib.encodeRune p ++ encs (zs.drop (k + 1))) := by
    conv => lhs; rw [e0]
    rw [encs_app, encs_cons]
  have e2 : (txt zs).data.toList.drop (encs (zs.take k)).length = Lib.encodeRune p ++ encs (zs.drop (k + 1)) := by
    rw [txt_list, e1, List.drop_left]
  have e3 := dec_enc p hsp (encs (zs.drop (k + 1)))
  rw [← e2, Lib.decodeL_drop] at e3
  have hw : 1 ≤ (Lib.encodeRune p).length := by
    have := decode_pos (txt zs) (encs (zs.take k)).length
    rw [e3] at this
    exact this
  refine ⟨?_, e3, by omega, hsp, ?_, hw⟩
  · rw [txt_len, e1, List.length_append, List.length_append]
    omega
  · rw [List.take_add_one, hp, encs_app]
    simp [encs_one]
def EncOut (w : World) (g : Int → Int) (zs : List Int) (e : Ending) (w' : World) : Prop :=
  ((badG g 0 zs < 0 ∧ e = .returned (.tuple #[.string ⟨(encG g zs).toArray⟩, .agg #[.int .i64 0, .int .i64 0]])) ∨ (¬ badG g 0 zs < 0 ∧ e = .returned (.tuple #[.string ⟨#[]⟩, .agg #[.int .i64 6, .int .i64 (badG g 0 zs)]]))) ∧ Ext w w'
theorem make_row8 (k : Nat) (hk : k ≤ 281474976710656) (w : World) : ∃ w', (Instr.makeSlice 96 (.int .i64 0) (.int .i64 (k : Int))).run Tryz.prog w = .ok (.slice (some ⟨w.heap.size, 0, none⟩) 0 k) w' ∧
    (∀ B, B ≤ w.heap.size → w'.ownsRow B 5 1 (.slice (some ⟨w.heap.size, 0, none⟩) 0 k) 0 []) ∧ w.grownBy w' none := by
  obtain ⟨w', h1, h2, h3⟩ := make_row k hk w
  exact ⟨w', h1, fun B hB => own_base h2 hB, h3⟩
theorem info_parts_u8 : ∃ i, Tryz.prog.info? 5 = some i ∧ i.zero = some (.int .u8 0) ∧ i.size = 1 ∧ i.bytes = 1 := by
  obtain ⟨i, hi, h2⟩ := Option.map_eq_some_iff.1 info_u8
  obtain ⟨h3, h4⟩ := Prod.mk.inj h2
  obtain ⟨h5, h6⟩ := Prod.mk.inj h4
  exact ⟨i, hi, h3, h5, h6⟩
theorem byteCells_app (a b : List UInt8) : Lib.byteCells (a ++ b) = Lib.byteCells a ++ Lib.byteCells b := by simp [Lib.byteCells]
set_option maxRecDepth 100000 in
set_option maxHeartbeats 4000000 in
theorem set_encode (v : Value) (c : Int) (l : List Pr) (zs : List Int) (w : World) (hT : Tabs w) (h : IsSet w v c l) (hf : From0 l) (hb : ∀ p, revP l p < 256) (hsg : allSigns zs = true) (hzl : zs.length ≤ 100000) :
    Calls Tryz.prog 105 #[v, .string (txt zs)] w (EncOut w (revP l) zs) := by
  obtain ⟨ta, n1, tc, tb, n2, td, rfl, htab⟩ := h
  have hD := Dw.start w (.slice ta n1 tc) (.slice tb n2 td) (.int .i64 c)
  have HRY := Lib.hid (fun (p : Int) (hp : ¬ revP l p < 0) (w' : World) (k : Ext w w') => rev_yes_any _ l p (revP l p) w' (htab.ext k) hf rfl hp)
  have HRN := Lib.hid (fun (p : Int) (hp : revP l p < 0) (h0 : -2147483648 ≤ p) (h1 : p ≤ 2147483647) (w' : World) (k : Ext w w') => rev_no_any _ l p w' (htab.ext k) hf hp h0 h1)
  have HB := Lib.hid hb
  have HAT := Lib.hid (fun (k : Nat) (p : Int) (hp : zs[k]? = some p) => txt_at zs hsg k p hp)
  have hsz : (txt zs).size ≤ 400000 := by
    have := encs_le zs
    rw [txt_len]
    omega
  have HSZ : Hid ((txt zs).size = (encs zs).length) := txt_len zs
  have HCK := Lib.hid (fun w hT => check_no (txt zs) w hT (by omega) (txt_bad zs hsg))
  have HCN : Hid (∀ w, Tabs w → Calls Tryz.prog 134 #[.string (txt zs)] w fun e w' => e = .returned (.int .i64 zs.length) ∧ Ext w w') := fun w hT => by
    have := count_ok (txt zs) w hT (by omega) (txt_bad zs hsg)
    rwa [txt_sgn zs hsg] at this
  obtain ⟨s, hs⟩ : ∃ s, s = txt zs := ⟨_, rfl⟩
  rw [← hs] at HAT HSZ HCK HCN hsz ⊢
  obtain ⟨g, hg⟩ : ∃ g, g = revP l := ⟨_, rfl⟩
  rw [← hg] at HRY HRN HB ⊢
  have HD := Lib.hid hD
  have HT := Lib.hid hT
  clear hT htab hD hf hb hsg hs hg
  go_enter Tryz.func105, Tryz.ntmps105
  go_wp2_with (first
    | (go_at_call 66; refine (HCK.out _ (HT.out.ext HD.out.ex)).mono ?_; rintro e w1 ⟨rfl, hb1⟩; have HD1 := Lib.hid ((HD.out.ext hb1).ext ((Ext.refl w1).alloc (.cells #[.int .i64 0, .int .i64 0] 54))); clear hb1 HD)
    | (go_at_call 24; refine (bad_no _ _ _ (by decide)).mono ?_; rintro e w2 ⟨rfl, hb2⟩; have HD2 := Lib.hid (HD1.out.ext hb2); clear hb2 HD1)
    | (go_at_call 134; refine (HCN.out _ (HT.out.ext HD2.out.ex)).mono ?_; rintro e w3 ⟨rfl, hb3⟩; have HD3 := Lib.hid (HD2.out.ext hb3); obtain ⟨wm, hmk, hown, hgm⟩ := make_row8 zs.length (by omega) w3; clear hb3 HD2))
  have hxm : Ext w3 wm := Below.grown (Ext.refl w3) hgm (Nat.le_refl _) (by rintro k ⟨⟩)
  have hit0 := World.iter_heap wm s 0
  have hx0 := hxm.alloc (.stringIter s 0)
  have ho0 := (hown w3.heap.size (Nat.le_refl _)).alloc (.stringIter s 0)
  have hsm := hxm.size
  obtain ⟨k, hk⟩ : ∃ k, k = wm.heap.size := ⟨_, rfl⟩
  have hkl : w3.heap.size ≤ k := by omega
  rw [← hk] at hit0 ⊢
  obtain ⟨i0, hi, hz0, hz1, hz2⟩ := info_parts_u8
  clear hown hgm hmk hxm hsm
  go_loopw [7] (fun v wr => ∃ j : Nat, j ≤ zs.length ∧ wr.heap[k]? = some (.stringIter s (encs (zs.take j)).length) ∧ Ext w3 wr ∧ Hid (badG g 0 zs = badG g (encs (zs.take j)).length (zs.drop j)) ∧ wr.ownsRow w3.heap.size 5 1 v (encG g (zs.take j)).length (Lib.byteCells (encG g (zs.take j)))) (fun _ wr => s.size - wr.iterPos k)
  case atStart => exact ⟨0, by omega, hit0, hx0, rfl, ho0⟩
  case round =>
    obtain ⟨j, hj, hit, hx, HBD, ho⟩ := hrel
    clear hit0 hx0 ho0 hk
    have hpos0 := iterPos_of hit
    have hel : (encG g (zs.take j)).length ≤ 100000 := by
      unfold encG
      rw [List.length_map]
      have := List.length_take_le j zs
      omega
    have hle := hx.size
    by_cases hlt : j < zs.length
    · have hpj : zs[j]? = some zs[j] := List.getElem?_eq_getElem hlt
      obtain ⟨p, hpz⟩ : ∃ p, p = zs[j] := ⟨_, rfl⟩
      rw [← hpz] at hpj
      obtain ⟨a1, a2, a3, a4, a5, a6⟩ := HAT.out j p hpj
      have hpb := (isSign_iff p).1 a4
      have p0 : 0 ≤ p := by omega
      have p1 : p ≤ 1114111 := by omega
      have HEN := Lib.hid (encG_snoc g zs j p hpj)
      have HDI := Lib.hid (drop_int hpj)
      have HA5 := Lib.hid a5
      obtain ⟨pos, hpos⟩ : ∃ pos, pos = (encs (zs.take j)).length := ⟨_, rfl⟩
      rw [← hpos] at HBD a1 a2 hit hpos0
      have HPOS := Lib.hid hpos
      have hnx : ∀ ty, (Instr.next (.pointer (some ⟨k, 0, none⟩)) true ty).run Tryz.prog wr = _ := fun ty => Lib.run_next_any_at wr k s pos ty hit a1
      simp only [a2, a3] at hnx
      have hit2 := Lib.iterAt_heap wr k s pos (pos + (Lib.encodeRune p).length) hit
      have hx2 : Ext w3 (wr.iterAt k s (pos + (Lib.encodeRune p).length)) := Lib.below_iterAt hx (k := k) hkl s (pos + (Lib.encodeRune p).length)
      have ho2 := own_iterAt ho hit (pos + (Lib.encodeRune p).length)
      obtain ⟨q, hq⟩ : ∃ q, q = (Lib.encodeRune p).length := ⟨_, rfl⟩
      rw [← hq] at hnx hit2 hx2 ho2 a6
      have HQ := Lib.hid hq
      obtain ⟨W1, hW1⟩ : ∃ W1, W1 = wr.iterAt k s (pos + q) := ⟨_, rfl⟩
      rw [← hW1] at hnx hit2 hx2 ho2
      have hBlt := lt_of_block hit2
      have hD1 := HD3.out.ext hx2
      obtain ⟨⟨c0, c1, c2⟩, _⟩ := facts3 hD1.b0
      have HDW := Lib.hid hD1
      have hpi : (pos : Int) ≤ 400000 := by omega
      clear hW1 hit hx ho hle hpz hpj a2 a3 a4 a5 hpb hpos hq hD1
      by_cases hgp : g p < 0
      · have HR := Lib.hid (fun (w' : World) (k2 : Ext w w') => HRN.out p hgp (by omega) (by omega) w' k2)
        have HF : Hid (badG g 0 zs = (pos : Int)) := by
          show _ = _
          rw [HBD.out, HDI.out, badG, if_pos hgp]
        clear hgp
        go_wp2_with (go_at_call 135; refine (HR.out _ HDW.out.ex).mono ?_; rintro e w4 ⟨rfl, hb4⟩; have hD4 := HDW.out.ext hb4; obtain ⟨⟨d0, d1⟩, z0, z1⟩ := facts2 hD4.b1; have HD4 := Lib.hid hD4; clear hD4 hb4)
        obtain ⟨wf, hwf, hxf, hB, _, _⟩ := put2 HD4.out.b1 HD4.out.ex (Nat.le_succ_of_le HD4.out.lo) (.int .i64 6) (.int .i64 pos)
        rw [← hwf]
        obtain ⟨⟨k0, k1⟩, _⟩ := facts2 hB
        clear hwf hB d0 d1 z0 z1
        refine bodyPost_ret (v := .tuple #[.string ⟨#[]⟩, .agg #[.int .i64 6, .int .i64 pos]]) (by simp [results, Tryz.results105, go_sem, k0, k1]) rfl ?_
        exact ⟨.inr ⟨by rw [HF.out]; omega, by rw [HF.out]⟩, hxf⟩
      · have HR := Lib.hid (fun (w' : World) (k2 : Ext w w') => HRY.out p (by omega) w' k2)
        have hg1 := HB.out p
        have hg0 : 0 ≤ g p := by omega
        have HF : Hid (badG g 0 zs = badG g (pos + q) (zs.drop (j + 1))) := by
          show _ = _
          rw [HBD.out, HDI.out, badG, if_neg hgp, HQ.out]
        have HGB : Hid ((((g p).toNat.toUInt8).toNat : Int) = g p) := by
          show _ = _
          simp
          omega
        generalize g p = gp at HR hg1 hg0 HGB HEN
        clear hgp
        go_wp2_with (first
          | (go_at_call 135; refine (HR.out _ HDW.out.ex).mono ?_; rintro e w4 ⟨rfl, hb4⟩; have hit4 := (hb4.block k hBlt).trans hit2; have ho4 := own_ext ho2 hb4; have hx4 := hx2.trans hb4; have hle4 := hx4.size; have hBlt4 := lt_of_block hit4; have hne4 := own_ne_iter ho4 hit4; clear hit2 ho2 hx2 hb4)
          | (at_builtin; refine wpList_append_own _ rfl _ _ 96 rfl w3.heap.size 5 i0 (.int .u8 0) 1 1 Tryz.underlying96 hi hz0 hz1 hz2 rfl (by decide) _ _ _ rfl (ho4.alloc _) ⟨w4.heap.size, 0, none⟩ 1 1 [.int .u8 gp] rfl rfl (cell_one_new _ _ _) (fun x hx => by simp at hx; subst hx; rfl) (by unfold maxLen; omega) (by omega) (by simp; omega) ?_; intro v' w5 hown' hgrow5 hnil5
             have hit5 : w5.heap[k]? = some (.stringIter s (pos + q)) := by
               rw [hgrow5.block k (by simp; omega) hne4, Below.heap_alloc _ _ _ hBlt4]; exact hit4
             have hx5 : Ext w3 w5 := hx4.own ho4 (Nat.le_refl _) hgrow5
             clear hgrow5 hnil5))
        go_roundw
        case rel =>
          have e1 : (encs (zs.take (j + 1))).length = pos + q := by rw [HA5.out, ← HPOS.out, ← HQ.out]
          refine ⟨j + 1, by omega, by rw [e1]; exact hit5, hx5, ?_, ?_⟩
          · show _ = _
            rw [e1]
            exact HF.out
          · rw [HEN.out, byteCells_app, List.length_append]
            have e2 : Lib.byteCells [gp.toNat.toUInt8] = [.int .u8 gp] := by
              show [Value.int .u8 ((gp.toNat.toUInt8).toNat : Int)] = _
              rw [HGB.out]
            rw [e2]
            exact hown'
        case measure =>
          rw [iterPos_of hit5, hpos0]
          omega
    · have hjl : j = zs.length := by omega
      subst hjl
      rw [List.take_length] at hit ho hel
      have hbd := HBD.out
      rw [List.take_length, List.drop_length, badG] at hbd
      have HF := Lib.hid hbd
      have hnp : ¬ (encs zs).length < s.size := by have := HSZ.out; omega
      have hnx : ∀ ty, (Instr.next (.pointer (some ⟨k, 0, none⟩)) true ty).run Tryz.prog wr = _ := fun ty => Lib.run_next_end_at wr k s _ ty hit hnp
      have hst := own_string ho
      have hD1 := HD3.out.ext hx
      obtain ⟨⟨d0, d1⟩, z0, z1⟩ := facts2 hD1.b1
      have HD4 := Lib.hid hD1
      clear hbd hit ho hD1 hx hpos0
      go_wp2
      obtain ⟨wf, hwf, hxf, hB, _, _⟩ := put2 HD4.out.b1 HD4.out.ex (Nat.le_succ_of_le HD4.out.lo) (.int .i64 0) (.int .i64 0)
      rw [← hwf]
      obtain ⟨⟨k0, k1⟩, _⟩ := facts2 hB
      clear hwf hB d0 d1 z0 z1
      refine bodyPost_ret (v := .tuple #[.string ⟨(encG g zs).toArray⟩, .agg #[.int .i64 0, .int .i64 0]]) (by simp [results, Tryz.results105, go_sem, k0, k1]) rfl ?_
      exact ⟨.inl ⟨by rw [HF.out]; decide, rfl⟩, hxf⟩
end Go.Proofs.YtndopjmdpmkgeaaGreatDoor

namespace Go.Proofs.YtndopjmdpmkgeaaGreatDoor
open Go Go.ChangeShapes Go.WideShapes Go.ChangeAt Go.RowKit
set_option linter.unusedSimpArgs false
set_option linter.unusedVariables false

theorem rising_tab (c : Nat) (hc : c ≤ 3) : Rising (tabP c) := by
  rw [tabP_eq c hc]
  unfold Rising
  rw [List.pairwise_map]
  refine List.Pairwise.imp ?_ (List.pairwise_lt_range (n := 256))
  intro a b h
  show (a : Int) < (b : Int)
  omega
theorem tab_mem (c : Nat) (hc : c ≤ 3) (q : Pr) (h : q ∈ tabP c) : ∃ n : Nat, n < 256 ∧ q = ((n : Int), signZ c n) := by
  rw [tabP_eq c hc] at h
  obtain ⟨n, hn, rfl⟩ := List.mem_map.1 h
  exact ⟨n, List.mem_range.1 hn, rfl⟩
theorem from_tab (c : Nat) (hc : c ≤ 3) : From0 (tabP c) := by
  intro q hq
  obtain ⟨n, hn, rfl⟩ := tab_mem c hc q hq
  exact ⟨by show (0 : Int) ≤ (n : Int); omega, sign_sign c n (by omega) (by omega) hn⟩
theorem rev_tab (c : Nat) (hc : c ≤ 3) (p : Int) : revP (tabP c) p = byteZ c p := by
  rcases revP_iff (rising_tab c hc) (from_tab c hc) p with ⟨h1, h2⟩ | ⟨h1, h2, h3⟩
  · have e1 : revP (tabP c) p = -1 := revP_no p _ (fun i q hq => h2 q (List.mem_of_getElem? hq))
    have e2 : byteZ c p = -1 := byteGo_no c p 256 0 (fun i hi => by
      rw [Nat.zero_add]
      exact h2 _ (mem_tab c i hc hi))
    rw [e1, e2]
  · obtain ⟨n, hn, e⟩ := tab_mem c hc _ h2
    have e1 : revP (tabP c) p = (n : Int) := congrArg Prod.fst e
    have e2 : p = signZ c n := congrArg Prod.snd e
    have e3 : byteZ c p = ((0 + n : Nat) : Int) := byteGo_at c p 256 0 n hn (fun i hi => by
      rw [Nat.zero_add]
      intro e4
      have := h3 _ (mem_tab c i hc (by omega)) e4
      rw [e1] at this
      have : (n : Int) ≤ (i : Int) := this
      omega) (by rw [Nat.zero_add]; exact e2.symm)
    rw [e1, e3, Nat.zero_add]
theorem rev_tab_fun (c : Nat) (hc : c ≤ 3) : revP (tabP c) = byteZ c := funext fun p => rev_tab c hc p
theorem rev_bd (c : Nat) (hc : c ≤ 3) (p : Int) : revP (tabP c) p < 256 := by
  rw [rev_tab c hc]
  have := byteZ_bd c p
  omega
end Go.Proofs.YtndopjmdpmkgeaaGreatDoor

namespace Go.Proofs.YtndopjmdpmkgeaaGreatDoor
open Go Go.ChangeShapes Go.WideShapes Go.ChangeAt Go.RowKit
set_option linter.unusedSimpArgs false
set_option linter.unusedVariables false

theorem setOf (c : Int) {w : World} {ta tb : Option Addr} {n1 tc n2 td : Nat} {l : List Pr} (h : IsTab w (.agg #[.slice ta n1 tc, .slice tb n2 td]) l) : IsSet w (.agg #[.slice ta n1 tc, .slice tb n2 td, .int .i64 c]) c l := ⟨ta, n1, tc, tb, n2, td, rfl, h⟩
theorem KeepT.three {W w : World} {cs : List (Addr × Value)} {ts : List (Value × List Pr)} (h : KeepT W cs ts w) (x y z : Value) (T : TypeId) : KeepT W ((⟨w.heap.size, 0, none⟩, x) :: (⟨w.heap.size, 1, none⟩, y) :: (⟨w.heap.size, 2, none⟩, z) :: cs) ts (w.alloc (.cells #[x, y, z] T)) := by
  obtain ⟨⟨h1, h2, h3⟩, _⟩ := facts3 (heap_alloc_new w (.cells #[x, y, z] T))
  have k := h.ext ((Ext.refl w).alloc (.cells #[x, y, z] T))
  exact ⟨k.ex, k.tb, ⟨h1, h2, h3, k.c⟩, k.t⟩
theorem enc_no (v : Value) (c : Nat) (hc : c ≤ 3) (zs : List Int) (a : Int) (w : World) (hT : Tabs w) (h : IsSet w v c (tabP c)) (hsg : allSigns zs = true) (hzl : zs.length ≤ 100000) (hb : badZ c 0 zs = a) (ha : ¬ a < 0) :
    Calls Tryz.prog 105 #[v, .string (txt zs)] w fun e w' => e = .returned (.tuple #[.string ⟨#[]⟩, .agg #[.int .i64 6, .int .i64 a]]) ∧ Ext w w' := by
  have h2 := set_encode v c (tabP c) zs w hT h (from_tab c hc) (rev_bd c hc) hsg hzl
  rw [rev_tab_fun c hc] at h2
  refine h2.mono ?_
  rintro e w' ⟨⟨h3, _⟩ | ⟨_, rfl⟩, hx⟩
  · rw [badG_z, hb] at h3
    exact absurd h3 ha
  · rw [badG_z, hb]
    exact ⟨rfl, hx⟩
theorem ex_dec5 (v : Value) (w : World) (h : IsSet w v 1 (tabP 1)) : Calls Tryz.prog 42 #[v, .string ⟨#[193, 194]⟩] w fun e w' => e = .returned (.tuple #[.string ⟨#[208, 176, 208, 177]⟩, .agg #[.int .i64 0, .int .i64 0]]) ∧ Ext w w' := by
  have h2 := set_decode v 1 ⟨#[193, 194]⟩ w h (by decide) (by decide)
  have e : txt (decZ (1 : Nat) (⟨#[193, 194]⟩ : ByteArray).data.toList) = ⟨#[208, 176, 208, 177]⟩ := by decide +kernel
  rw [e] at h2
  exact h2
theorem ex_enc5 (v : Value) (w : World) (hT : Tabs w) (h : IsSet w v 0 (tabP 0)) : Calls Tryz.prog 105 #[v, .string ⟨#[208, 132]⟩] w fun e w' => e = .returned (.tuple #[.string ⟨#[]⟩, .agg #[.int .i64 6, .int .i64 0]]) ∧ Ext w w' := by
  have h2 := enc_no v 0 (by decide) [1028] 0 w hT h (by decide +kernel) (by decide) (by decide +kernel) (by decide)
  have e : txt [1028] = ⟨#[208, 132]⟩ := by decide +kernel
  rw [e] at h2
  exact h2
set_option maxRecDepth 100000 in
set_option maxHeartbeats 4000000 in
theorem awake5_any (w : World) (hT : Tabs w) : Calls Tryz.prog 61 #[] w fun e w' => e = .returned (.bool true) ∧ Ext w w' := by
  have hC := KeepT.start hT
  have K1 := Lib.hid trivial
  have K2 := Lib.hid trivial
  have K3 := Lib.hid trivial
  have K4 := Lib.hid trivial
  clear hT
  go_enter Tryz.func61, Tryz.ntmps61
  go_wp2_with (first
    | (go_at_call 41; clear K1; refine (of_koi _ hC.tb).mono ?_; rintro e w1 ⟨va, rfl, ⟨aa, an, ac, ab, am, ad, rfl, ht⟩, hb⟩; have hC' := ((hC.ext hb).tab ht).three (.slice aa an ac) (.slice ab am ad) (.int .i64 1) 76; clear hC hb ht ; have hC := hC'; clear hC'; obtain ⟨a0, a1, a2, _⟩ := hC.c)
    | (go_at_call 42; clear K2; refine (ex_dec5 _ _ (setOf 1 hC.t.1)).mono ?_; rintro e w2 ⟨rfl, hb⟩; have hC' := (hC.ext hb).two (.int .i64 0) (.int .i64 0) 54; clear hC hb a0 a1 a2; have hC := hC'; clear hC'; obtain ⟨f0, f1, a0, a1, a2, _⟩ := hC.c)
    | (go_at_call 41; clear K3; refine (of_lat _ hC.tb).mono ?_; rintro e w3 ⟨vb, rfl, ⟨ba, bn, bc, bb, bm, bd, rfl, ht⟩, hb⟩; have hC' := ((hC.ext hb).tab ht).three (.slice ba bn bc) (.slice bb bm bd) (.int .i64 0) 76; clear hC hb ht f0 f1 a0 a1 a2; have hC := hC'; clear hC'; obtain ⟨b0, b1, b2, f0, f1, a0, a1, a2, _⟩ := hC.c)
    | (go_at_call 105; clear K4; refine (ex_enc5 _ _ hC.tb (setOf 0 hC.t.1)).mono ?_; rintro e w4 ⟨rfl, hb⟩; have hC' := (hC.ext hb).two (.int .i64 6) (.int .i64 0) 54; clear hC hb b0 b1 b2 f0 f1 a0 a1 a2; have hC := hC'; clear hC'; obtain ⟨g0, g1, b0, b1, b2, f0, f1, a0, a1, a2, _⟩ := hC.c)
    | (go_at_call 60; refine (awake02 _ hC.tb).mono ?_; rintro e w5 ⟨rfl, hb⟩; have hC' := hC.ext hb; clear hC hb g0 g1 b0 b1 b2 f0 f1 a0 a1 a2; have hC := hC'; clear hC'; obtain ⟨g0, g1, b0, b1, b2, f0, f1, a0, a1, a2, _⟩ := hC.c)
    | (go_at_call 106; refine (awake4_any _ hC.tb).mono ?_; rintro e w6 ⟨rfl, hb⟩; have hC' := hC.ext hb; clear hC hb g0 g1 b0 b1 b2 f0 f1 a0 a1 a2; have hC := hC'; clear hC'; obtain ⟨g0, g1, b0, b1, b2, f0, f1, a0, a1, a2, _⟩ := hC.c)
    | (go_at_call 24; refine (bad_no _ _ _ (by decide)).mono ?_; rintro e w7 ⟨rfl, hb⟩; have hC' := hC.ext hb; clear hC hb g0 g1 b0 b1 b2 f0 f1 a0 a1 a2; have hC := hC'; clear hC'; obtain ⟨g0, g1, b0, b1, b2, f0, f1, a0, a1, a2, _⟩ := hC.c))
  go_ret
  exact ⟨rfl, hC.ex⟩
end Go.Proofs.YtndopjmdpmkgeaaGreatDoor

