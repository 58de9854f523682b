/-
  What the proof of this claim leans on (S3).
-/
import Derived.Test.YtndopjmdpmkgeaaGreatDoorS1
import Derived.Test.YtndopjmdpmkgeaaGreatDoorS2
import Derived.Test.YtndopjmdpmkgeaaGreatDoorCards
import Derived.Test.YtndopjmdpmkgeaaGreatDoorTie
import Derived.Below
import Derived.BigQuiet
import Derived.Deep.QuietTactic
import Derived.LaidMore
import Derived.Laws.AppendOwn
import Derived.Laws.BytesArg
import Derived.Laws.MakeOwn
import Derived.Laws.StructEq
import Derived.Lay
import Derived.Lib.Hide
import Derived.Lib.LaidU8T
import Derived.Lib.MapLaws
import Derived.Lib.OthersKept
import Derived.Lib.RuneBytes
import Derived.Lib.RuneCount
import Derived.Lib.TrimUEq
import Derived.Lib.ValidLaws
import Derived.OpenShut
import Derived.Outline
import Derived.PinnedBridge
import Derived.ProofKit
import Derived.SevenTiedAt
import Derived.ShutString
import Derived.Stop.Joined
import Derived.WalkKit
import Derived.WalkLawsBesides
import Derived.WalkSmall
import Derived.WalkSpells
namespace Go.Proofs.YtndopjmdpmkgeaaGreatDoor
open Go Go.ChangeShapes Go.WideShapes Go.ChangeAt Go.RowKit
set_option linter.unusedSimpArgs false
set_option linter.unusedVariables false

/-- Is it a sign's number? -/
def isSign (p : Int) : Bool := decide (0 ≤ p ∧ p < 55296) || decide (57343 < p ∧ p ≤ 1114111)
theorem isSign_iff (p : Int) : isSign p = true ↔ (0 ≤ p ∧ p < 55296) ∨ (57343 < p ∧ p ≤ 1114111) := by simp [isSign]
theorem isSign_no (p : Int) : isSign p = false ↔ ¬ ((0 ≤ p ∧ p < 55296) ∨ (57343 < p ∧ p ≤ 1114111)) := by rw [← isSign_iff]; simp

theorem scalar_any (p : Int) (w : World) : Calls Tryz.prog 124 #[.int .i32 p] w fun e w' => e = .returned (.bool (isSign p)) ∧ w = w' := by
  by_cases h0 : 0 ≤ p
  · by_cases h1 : p < 55296
    · have e : isSign p = true := (isSign_iff p).2 (.inl ⟨h0, h1⟩)
      rw [e]
      go_enter Tryz.func124, Tryz.ntmps124
      go_wp2
      go_ret
      exact ⟨by first | rfl | simp_all, rfl⟩
    · by_cases h2 : 57343 < p
      · by_cases h3 : p ≤ 1114111
        · have e : isSign p = true := (isSign_iff p).2 (.inr ⟨h2, h3⟩)
          rw [e]
          go_enter Tryz.func124, Tryz.ntmps124
          go_wp2
          go_ret
          exact ⟨by first | rfl | simp_all, rfl⟩
        · have e : isSign p = false := (isSign_no p).2 (by omega)
          rw [e]
          go_enter Tryz.func124, Tryz.ntmps124
          go_wp2
          go_ret
          exact ⟨by first | rfl | simp_all, rfl⟩
      · have e : isSign p = false := (isSign_no p).2 (by omega)
        rw [e]
        go_enter Tryz.func124, Tryz.ntmps124
        go_wp2
        go_ret
        exact ⟨by first | rfl | simp_all, rfl⟩
  · have e : isSign p = false := (isSign_no p).2 (by omega)
    have h2 : ¬ 57343 < p := by omega
    rw [e]
    go_enter Tryz.func124, Tryz.ntmps124
    go_wp2
    go_ret
    exact ⟨by first | rfl | simp_all, rfl⟩
theorem rscalar_any (p : Int) (w : World) : Calls Tryz.prog 83 #[.int .i32 p] w fun e w' => e = .returned (.bool (isSign p)) ∧ w = w' := by
  by_cases h0 : 0 ≤ p
  · by_cases h3 : p ≤ 1114111
    · by_cases h1 : p < 55296
      · have e : isSign p = true := (isSign_iff p).2 (.inl ⟨h0, h1⟩)
        rw [e]
        go_enter Tryz.func83, Tryz.ntmps83
        go_wp2
        go_ret
        exact ⟨by first | rfl | simp_all, rfl⟩
      · by_cases h2 : 57343 < p
        · have e : isSign p = true := (isSign_iff p).2 (.inr ⟨h2, h3⟩)
          rw [e]
          go_enter Tryz.func83, Tryz.ntmps83
          go_wp2
          go_ret
          exact ⟨by first | rfl | simp_all, rfl⟩
        · have e : isSign p = false := (isSign_no p).2 (by omega)
          rw [e]
          go_enter Tryz.func83, Tryz.ntmps83
          go_wp2
          go_ret
          exact ⟨by first | rfl | simp_all, rfl⟩
    · have e : isSign p = false := (isSign_no p).2 (by omega)
      rw [e]
      go_enter Tryz.func83, Tryz.ntmps83
      go_wp2
      go_ret
      exact ⟨by first | rfl | simp_all, rfl⟩
  · have e : isSign p = false := (isSign_no p).2 (by omega)
    rw [e]
    go_enter Tryz.func83, Tryz.ntmps83
    go_wp2
    go_ret
    exact ⟨by first | rfl | simp_all, rfl⟩
theorem bad_yes (er pl : Int) (w : World) (h : (er != 0) = true) : Calls Tryz.prog 24 #[.agg #[.int .i64 er, .int .i64 pl]] w fun e w' => e = .returned (.bool true) ∧ Ext w w' := by
  go_enter Tryz.func24, Tryz.ntmps24
  go_wp2
  go_ret
  exact ⟨by simp_all, (by repeat (first | exact Ext.refl _ | apply Ext.drew | refine Ext.alloc ?_ _))⟩
theorem bad_no (er pl : Int) (w : World) (h : (er != 0) = false) : Calls Tryz.prog 24 #[.agg #[.int .i64 er, .int .i64 pl]] w fun e w' => e = .returned (.bool false) ∧ Ext w w' := by
  go_enter Tryz.func24, Tryz.ntmps24
  go_wp2
  go_ret
  exact ⟨by simp_all, (by repeat (first | exact Ext.refl _ | apply Ext.drew | refine Ext.alloc ?_ _))⟩

/-- Signs' bytes, one sign behind the other. -/
def encs (l : List Int) : List UInt8 := l.flatMap Lib.encodeRune
theorem encs_one (p : Int) : encs [p] = Lib.encodeRune p := by simp [encs]
theorem encs_app (a b : List Int) : encs (a ++ b) = encs a ++ encs b := by simp [encs]
theorem encs_cons (p : Int) (l : List Int) : encs (p :: l) = Lib.encodeRune p ++ encs l := by simp [encs]
theorem enc_le (p : Int) : (Lib.encodeRune p).length ≤ 4 := by
  have := (Lib.runeCells_le p).2
  rwa [Lib.runeCells_length] at this
theorem encs_le : ∀ l : List Int, (encs l).length ≤ 4 * l.length
  | [] => by simp [encs]
  | p :: l => by
    have h := encs_le l
    have h2 := enc_le p
    rw [encs_cons, List.length_append, List.length_cons]
    omega
theorem info_u8 : (Tryz.prog.info? 5).map (fun i => (i.zero, i.size, i.bytes)) = some (some (.int .u8 0), 1, 1) := by kernel_rfl
theorem make_row (k : Nat) (hk : k ≤ 281474976710656) (w : World) : ∃ w', (Instr.makeSlice 96 (.int .i64 0) (.int .i64 (k : Int))).run Tryz.prog w = .ok (.slice (some ⟨w.heap.size, 0, none⟩) 0 k) w' ∧
    w'.ownsRow w.heap.size 5 1 (.slice (some ⟨w.heap.size, 0, none⟩) 0 k) 0 [] ∧ w.grownBy w' none := by
  obtain ⟨i, hi, h2⟩ := Option.map_eq_some_iff.1 info_u8
  obtain ⟨h3, h4⟩ := Prod.mk.inj h2
  obtain ⟨h5, h6⟩ := Prod.mk.inj h4
  exact run_make_own (P := Tryz.prog) (w := w) w.heap.size 96 5 i (.int .u8 0) 1 Tryz.underlying96 hi h3 h5 .i64 .i64 k (by rw [h6]; omega) (by simp [maxLen]; omega) (Nat.le_refl _)
theorem nums_bytes (bs : List UInt8) : strOfNums (bs.map fun b => (b.toNat : Int)) = ⟨bs.toArray⟩ := by
  unfold strOfNums
  congr 2
  rw [List.map_map]
  conv => rhs; rw [← List.map_id bs]
  apply List.map_congr_left
  intro x _
  simp
theorem own_string {w : World} {B : Nat} {v : Value} {n : Nat} {bs : List UInt8} (h : w.ownsRow B 5 1 v n (Lib.byteCells bs)) : (convert 96 9 v).run Tryz.prog w = .ok (.string ⟨bs.toArray⟩) w := by
  obtain ⟨hl, ⟨rfl, rfl⟩ | ⟨g, cap, cur, rfl, hg, hh, hn, hm, hs, ht⟩⟩ := h
  · have e : bs = [] := by simpa [Lib.byteCells] using hl
    subst e
    exact run_convert_bytes_nil w 96 5 Tryz.underlying96 Tryz.underlying5 0 0 9 Tryz.underlying9
  · have hbl : bs.length = n := by simpa [Lib.byteCells] using hl
    have hr := run_convert_bytes_arg w 96 5 Tryz.underlying96 Tryz.underlying5 g 0 n cap (bs.map fun b => (b.toNat : Int)) (by simpa using hbl) (fun i hi => by
      have hi2 : i < bs.length := by omega
      have e1 : (Lib.byteCells bs)[i]? = some (.int .u8 (bs[i].toNat : Int)) := by simp [Lib.byteCells, hi2]
      rw [← ht, List.getElem?_take, if_pos (by omega)] at e1
      have e2 : w.cell? ⟨g, 0 + i, none⟩ = cur.toList[i]? := by simp [World.cell?, hh]
      rw [e2, e1]
      simp [List.getD, hi2]) 9 Tryz.underlying9
    rw [hr, nums_bytes]
end Go.Proofs.YtndopjmdpmkgeaaGreatDoor
namespace Go.Proofs.YtndopjmdpmkgeaaGreatDoor
open Go Go.ChangeShapes Go.WideShapes Go.ChangeAt Go.RowKit
set_option linter.unusedSimpArgs false
set_option linter.unusedVariables false

theorem append_rune {B : Nat} {v : Value} {n : Nat} {bs : List UInt8} {p : Int} {w : World} (hp : isSign p = true) (hown : w.ownsRow B 5 1 v n (Lib.byteCells bs)) (hlen : n + 4 ≤ 140737488355328) (hB : B ≤ w.heap.size) :
    Calls Tryz.prog 125 #[v, .int .i32 p] w fun e w' => ∃ v', e = .returned v' ∧ w'.ownsRow B 5 1 v' (n + (Lib.encodeRune p).length) (Lib.byteCells (bs ++ Lib.encodeRune p)) ∧ ∃ o, (w.alloc o).grownBy w' v.ownBlock := by
  have h := (isSign_iff p).1 hp
  have hk := Tryz.utf8_AppendRune_plain B v n (Lib.byteCells bs) p (by omega) (by omega) w hown hlen hB
  rw [Lib.runeCells_length, ← Lib.byteCells_encodeRune, ← Lib.byteCells_append] at hk
  exact hk

/-- Are all signs' numbers? -/
def allSigns (zs : List Int) : Bool := zs.all isSign
/-- What the text of some numbers is. -/
def textOut (zs : List Int) : ByteArray := if allSigns zs then ⟨(encs zs).toArray⟩ else ⟨#[]⟩
theorem textOut_yes {zs : List Int} (h : allSigns zs = true) : textOut zs = ⟨(encs zs).toArray⟩ := by unfold textOut; rw [if_pos h]
theorem textOut_no {zs : List Int} (h : allSigns zs = false) : textOut zs = ⟨#[]⟩ := by unfold textOut; rw [if_neg (by rw [h]; decide)]
set_option maxRecDepth 100000 in
set_option maxHeartbeats 1000000 in
theorem text_in (x off cap : Nat) (zs : List Int) (w : World) (hc : ∀ (j : Nat) z, zs[j]? = some z → w.cell? ⟨x, off + j, none⟩ = some (.int .i32 z)) (h1 : 1 ≤ zs.length) (hl : zs.length ≤ 1099511627776) (hcap : zs.length ≤ cap) :
    Calls Tryz.prog 76 #[.slice (some ⟨x, off, none⟩) zs.length cap] w fun e w' => e = .returned (.tuple #[.string (textOut zs), .bool (allSigns zs)]) ∧ Ext w w' := by
  have hxl : x < w.heap.size := World.block_lt_of_cell? w _ (hc 0 (zs[0]) (by simp))
  have HC := Lib.hid hc
  clear hc
  obtain ⟨wm, hmk, hown, hgm⟩ := make_row zs.length (by omega) w
  have hxm : Ext w wm := Below.grown (Ext.refl w) hgm (Nat.le_refl _) (by rintro k ⟨⟩)
  generalize hv0 : (Value.slice (some ⟨w.heap.size, 0, none⟩) 0 zs.length) = v0 at hmk hown
  clear hv0 hgm
  go_enter Tryz.func76, Tryz.ntmps76
  go_wp2
  go_loopw [4, 12] (fun b i wr => ∃ (k n : Nat), k ≤ zs.length ∧ i = .int .i64 k ∧ Ext w wr ∧ Hid ((zs.take k).all isSign = true) ∧ Hid (n ≤ 4 * k) ∧ wr.ownsRow w.heap.size 5 1 b n (Lib.byteCells (encs (zs.take k)))) (fun _ i _ => zs.length - (intOf i).toNat)
  case atStart => exact ⟨0, 0, by omega, rfl, hxm, rfl, Nat.le_refl _, hown⟩
  case round =>
    obtain ⟨k, n, hk, rfl, hx, HA, HN, ho⟩ := hrel
    clear hxm hown
    by_cases hlt : k < zs.length
    · have hc0 := (World.cell?_of_block (w := w) (hx.block x hxl)).trans (HC.out k zs[k] (by simp [hlt]))
      have htk : zs.take (k + 1) = zs.take k ++ [zs[k]] := List.take_succ_eq_append_getElem hlt
      have hmem : zs[k] ∈ zs := List.getElem_mem hlt
      generalize zs[k] = p at hc0 htk hmem
      have HT := Lib.hid htk
      have HM := Lib.hid hmem
      clear htk hmem
      have HL : Hid (n + 4 ≤ 140737488355328) := by have := HN.out; show n + 4 ≤ 140737488355328; omega
      cases hp : isSign p
      · have HP := Lib.hid hp
        have hz : allSigns zs = false := by
          unfold allSigns
          rw [List.all_eq_false]
          exact ⟨p, HM.out, by rw [hp]; decide⟩
        have hto := textOut_no hz
        clear hp
        have HZ := Lib.hid hz
        have HTO := Lib.hid hto
        clear hz hto
        go_wp2_with (first | (go_at_call 124; refine (scalar_any _ _).mono ?_; rw [HP.out]; rintro e w1 ⟨rfl, rfl⟩))
        go_ret2
        exact ⟨by rw [HZ.out, HTO.out]; rfl, hx⟩
      · have HP := Lib.hid hp
        clear hp
        go_wp2_with (first | (go_at_call 124; refine (scalar_any _ _).mono ?_; rw [HP.out]; rintro e w1 ⟨rfl, rfl⟩) | (go_at_call 125; refine (append_rune HP.out ho HL.out hx.size).mono ?_; rintro e w2 ⟨v', rfl, ho2, o, hg2⟩))
        go_roundw
        case rel =>
          refine ⟨k + 1, _, by omega, by go_num, hx.own ho (Nat.le_refl _) hg2, ?_, ?_, by rw [HT.out, encs_app, encs_one]; exact ho2⟩
          · show (zs.take (k + 1)).all isSign = true
            rw [HT.out, List.all_append, HA.out]
            simp [HP.out]
          · have h4 := enc_le p
            have := HN.out
            show n + _ ≤ 4 * (k + 1)
            omega
        case measure => simp [intOf]; omega
    · have hkl : k = zs.length := by omega
      subst hkl
      rw [List.take_length] at ho
      have hs := own_string ho
      have hz : allSigns zs = true := by have := HA.out; rwa [List.take_length] at this
      have HTO := Lib.hid (textOut_yes hz)
      have HZ := Lib.hid hz
      clear hz
      go_wp2
      go_ret2
      exact ⟨by rw [HZ.out, HTO.out]; rfl, hx⟩
theorem text_none (a : Option Addr) (cap : Nat) (w : World) :
    Calls Tryz.prog 76 #[.slice a 0 cap] w fun e w' => e = .returned (.tuple #[.string ⟨#[]⟩, .bool true]) ∧ Ext w w' := by
  obtain ⟨wm, hmk, hown, hgm⟩ := make_row 0 (by omega) w
  have hmk : (Instr.makeSlice 96 (.int .i64 0) (.int .i64 0)).run Tryz.prog w = .ok (.slice (some ⟨w.heap.size, 0, none⟩) 0 0) wm := hmk
  have hxm : Ext w wm := Below.grown (Ext.refl w) hgm (Nat.le_refl _) (by rintro k ⟨⟩)
  have hs := own_string (bs := []) hown
  generalize hv0 : (Value.slice (some ⟨w.heap.size, 0, none⟩) 0 0) = v0 at hmk hown hs
  clear hv0 hgm
  go_enter Tryz.func76, Tryz.ntmps76
  go_wp2
  refine wp_loop_rounds 1 ?_
  rw [rounds_succ]
  go_wp2
  go_ret2
  exact ⟨rfl, hxm⟩
end Go.Proofs.YtndopjmdpmkgeaaGreatDoor
namespace Go.Proofs.YtndopjmdpmkgeaaGreatDoor
open Go Go.ChangeShapes Go.WideShapes Go.ChangeAt Go.RowKit
set_option linter.unusedSimpArgs false
set_option linter.unusedVariables false

/-- The first place at which there is no sign, a being the place of the first byte; -1: there is none. -/
def badGo : Nat → Nat → List UInt8 → Int
  | 0, _, _ => -1
  | n + 1, a, l => if l = [] then -1 else if (Lib.decodeL l).1 = 65533 ∧ (Lib.decodeL l).2 = 1 then a else badGo n (a + (Lib.decodeL l).2) (l.drop (Lib.decodeL l).2)
def badL (a : Nat) (l : List UInt8) : Int := badGo l.length a l
theorem badGo_nil : ∀ n a, badGo n a [] = -1
  | 0, _ => rfl
  | _ + 1, _ => by rw [badGo, if_pos rfl]
theorem badGo_fuel : ∀ (n m a : Nat) (l : List UInt8), l.length ≤ n → l.length ≤ m → badGo n a l = badGo m a l
  | 0, m, a, l, h, _ => by
    have e : l = [] := List.eq_nil_of_length_eq_zero (by omega)
    subst e
    rw [badGo_nil, badGo_nil]
  | n + 1, 0, a, l, _, h => by
    have e : l = [] := List.eq_nil_of_length_eq_zero (by omega)
    subst e
    rw [badGo_nil, badGo_nil]
  | n + 1, m + 1, a, l, h, h2 => by
    rw [badGo, badGo]
    by_cases e : l = []
    · rw [if_pos e, if_pos e]
    · rw [if_neg e, if_neg e]
      have h1 := Lib.decodeL_width l
      have h3 : 0 < l.length := List.length_pos_iff.2 e
      rw [badGo_fuel n m _ (l.drop _) (by rw [List.length_drop]; omega) (by rw [List.length_drop]; omega)]
theorem badL_nil (a : Nat) : badL a [] = -1 := rfl
theorem badL_step (a : Nat) (l : List UInt8) (h : l ≠ []) : badL a l = if (Lib.decodeL l).1 = 65533 ∧ (Lib.decodeL l).2 = 1 then (a : Int) else badL (a + (Lib.decodeL l).2) (l.drop (Lib.decodeL l).2) := by
  have h1 := Lib.decodeL_width l
  have h3 : 0 < l.length := List.length_pos_iff.2 h
  unfold badL
  obtain ⟨n, hn⟩ : ∃ n, l.length = n + 1 := ⟨l.length - 1, by omega⟩
  rw [hn, badGo, if_neg h, badGo_fuel n (l.drop _).length _ _ (by rw [List.length_drop]; omega) (Nat.le_refl _)]
theorem extract_drop (s : ByteArray) (a : Nat) (h : a ≤ s.size) : (s.extract a s.size).data.toList = s.data.toList.drop a := by
  rw [ByteArray.data_extract, Array.toList_extract]
  apply List.take_of_length_le
  have e : s.data.toList.length = s.size := rfl
  rw [List.length_drop, e]
  exact Nat.le_refl _
theorem decodeGo_drop (s : ByteArray) (a : Nat) (h : a < s.size) : Lib.decodeGo (s.extract a s.size) = Lib.decodeL (s.data.toList.drop a) := by
  have hs : (s.extract a s.size).size ≠ 0 := by simp [ByteArray.size_extract]; omega
  unfold Lib.decodeGo
  rw [if_neg hs, ← extract_drop s a (by omega)]
  rfl
/-- A fault's number and place, by the place; -1: none. -/
def fNum (a : Int) : Int := if a < 0 then 0 else 2
def fPlace (a : Int) : Int := if a < 0 then 0 else a
theorem fNum_no {a : Int} (h : a < 0) : fNum a = 0 := by unfold fNum; rw [if_pos h]
theorem fNum_yes {a : Int} (h : ¬ a < 0) : fNum a = 2 := by unfold fNum; rw [if_neg h]
theorem fPlace_no {a : Int} (h : a < 0) : fPlace a = 0 := by unfold fPlace; rw [if_pos h]
theorem fPlace_yes {a : Int} (h : ¬ a < 0) : fPlace a = a := by unfold fPlace; rw [if_neg h]
/-- The tables of unicode/utf8 stand as they are laid. -/
def Tabs (w : World) : Prop := Lib.Utf8Tabs 1 2 w
theorem Tabs.ext {w w' : World} (h : Tabs w) (k : Ext w w') : Tabs w' := Utf8Tabs_below h k
theorem decode_at (s : ByteArray) (a p q : Nat) (w : World) (hT : Tabs w) (h : a < s.size) (hD : Lib.decodeL (s.data.toList.drop a) = (p, q)) :
    Calls Tryz.prog 86 #[.string (s.extract a s.size)] w fun e w' => e = .returned (.tuple #[.int .i32 p, .int .i64 q]) ∧ Ext w w' := by
  refine (Tryz.utf8_DecodeRuneInString (s.extract a s.size) w hT).mono ?_
  rintro e w' ⟨rfl, hb⟩
  rw [decodeGo_drop s a h, hD]
  exact ⟨rfl, hb⟩

theorem set_two {w : World} {b : Nat} {x y : Value} {T : TypeId} (h : w.heap[b]? = some (.cells #[x, y] T (0, 0))) (u v : Value) :
    ((w.setCell ⟨b, 0, none⟩ u).setCell ⟨b, 1, none⟩ v).heap[b]? = some (.cells #[u, v] T (0, 0)) := by
  have hlt : b < w.heap.size := lt_of_block h
  have h' : w.heap[b] = .cells #[x, y] T (0, 0) := by simpa [Array.getElem?_eq_getElem hlt] using h
  have hm : (w.setCell ⟨b, 0, none⟩ u).heap[b]? = some (.cells #[u, y] T (0, 0)) := by
    show (w.heap.modify b _)[b]? = _
    rw [Array.getElem?_eq_getElem (by simpa using hlt), Array.getElem_modify_self, h']
    rfl
  have hlt2 : b < (w.setCell ⟨b, 0, none⟩ u).heap.size := lt_of_block hm
  have hm' : (w.setCell ⟨b, 0, none⟩ u).heap[b] = .cells #[u, y] T (0, 0) := by simpa [Array.getElem?_eq_getElem hlt2] using hm
  show ((w.setCell ⟨b, 0, none⟩ u).heap.modify b _)[b]? = _
  rw [Array.getElem?_eq_getElem (by simpa using hlt2), Array.getElem_modify_self, hm']
  rfl
set_option maxRecDepth 100000 in
set_option maxHeartbeats 1000000 in
theorem check_any (s : ByteArray) (w : World) (hT : Tabs w) (hs : s.size ≤ 1099511627776) :
    Calls Tryz.prog 66 #[.string s] w fun e w' => e = .returned (.agg #[.int .i64 (fNum (badL 0 s.data.toList)), .int .i64 (fPlace (badL 0 s.data.toList))]) ∧ Ext w w' := by
  obtain ⟨ba, hba⟩ : ∃ ba, ba = badL 0 s.data.toList := ⟨_, rfl⟩
  rw [← hba]
  have HBA := Lib.hid hba
  clear hba
  have hTab := Lib.hid hT
  clear hT
  go_enter Tryz.func66, Tryz.ntmps66
  go_wp2
  go_loopw [3] (fun i wr => ∃ a : Nat, a ≤ s.size ∧ i = .int .i64 a ∧ Ext (w.alloc (.cells #[.int .i64 0, .int .i64 0] 54)) wr ∧ Hid (ba = badL a (s.data.toList.drop a))) (fun i _ => s.size - (intOf i).toNat)
  case atStart => exact ⟨0, by omega, rfl, Ext.refl _, HBA.out⟩
  case round =>
    obtain ⟨a, ha, rfl, hx, HB⟩ := hrel
    obtain ⟨b, hbe⟩ : ∃ b, b = w.heap.size := ⟨_, rfl⟩
    have hblk : wr.heap[b]? = some (.cells #[.int .i64 0, .int .i64 0] 54 (0, 0)) := by
      rw [hbe]
      exact (hx.block w.heap.size (by simp)).trans (heap_alloc_new w _)
    have hxw : Ext w wr := ((Ext.refl w).alloc _).trans hx
    have hlb : w.heap.size ≤ b := by omega
    have hxx : Ext (w.alloc (.cells #[.int .i64 0, .int .i64 0] 54)) wr := hx
    rw [← hbe]
    clear hbe hx
    by_cases hlt : a < s.size
    · have hT2 := hTab.out.ext hxw
      have HT2 := Lib.hid hT2
      clear hT2
      have he1 : (a : Int) ≤ s.size := by omega
      obtain ⟨p, q, hD⟩ : ∃ p q, Lib.decodeL (s.data.toList.drop a) = (p, q) := ⟨_, _, rfl⟩
      have hne : s.data.toList.drop a ≠ [] := by
        intro e
        have h1 := congrArg List.length e
        rw [List.length_drop] at h1
        have e2 : s.data.toList.length = s.size := rfl
        rw [e2, List.length_nil] at h1
        omega
      have hst := badL_step a _ hne
      have hqw := Lib.decodeL_width (s.data.toList.drop a)
      have hql := Lib.decodeL_le _ hne
      rw [hD] at hst hqw hql
      rw [List.length_drop, show s.data.toList.length = s.size from rfl] at hql
      rw [List.drop_drop] at hst
      have hql : q ≤ s.size - a := hql
      have hqw : 1 ≤ q := hqw
      rw [← HB.out] at hst
      have HST := Lib.hid hst
      clear hst hne HB
      have HD := Lib.hid hD
      clear hD
      by_cases hp : p = 65533
      · by_cases hq : q = 1
        · subst hp
          subst hq
          have hba : ba = a := by rw [HST.out]; simp
          have HBA2 := Lib.hid hba
          clear hba HST
          go_wp2_with (go_at_call 86; refine (decode_at s a _ _ _ HT2.out hlt HD.out).mono ?_; rintro e w1 ⟨rfl, hb1⟩; have hblk1 : w1.heap[b]? = some (.cells #[.int .i64 0, .int .i64 0] 54 (0, 0)) := (hb1.block b (lt_of_block hblk)).trans hblk; have hc0 : w1.cell? ⟨b, 0, none⟩ = some (.int .i64 0) := (by simp [World.cell?, hblk1]); have hc1 : w1.cell? ⟨b, 1, none⟩ = some (.int .i64 0) := (by simp [World.cell?, hblk1]); have hf0 : w1.frozen? ⟨b, 0, none⟩ = false := (by simp [World.frozen?, hblk1]); have hf1 : w1.frozen? ⟨b, 1, none⟩ = false := (by simp [World.frozen?, hblk1]))
          have hfin := set_two hblk1 (.int .i64 2) (.int .i64 (a : Int))
          have hxf : Ext w ((w1.setCell ⟨b, 0, none⟩ (.int .i64 2)).setCell ⟨b, 1, none⟩ (.int .i64 (a : Int))) := Ext.setCell (Ext.setCell (hxw.trans hb1) hlb _) hlb _
          generalize (w1.setCell ⟨b, 0, none⟩ (.int .i64 2)).setCell ⟨b, 1, none⟩ (.int .i64 (a : Int)) = wf at hfin hxf ⊢
          have k0 : wf.cell? ⟨b, 0, none⟩ = some (.int .i64 2) := by simp [World.cell?, hfin]
          have k1 : wf.cell? ⟨b, 1, none⟩ = some (.int .i64 (a : Int)) := by simp [World.cell?, hfin]
          refine bodyPost_ret (v := .agg #[.int .i64 2, .int .i64 (a : Int)]) (by simp [results, Tryz.results66, go_sem, k0, k1]) rfl ?_
          have hn : ¬ ((a : Int) < 0) := by omega
          exact ⟨by rw [HBA2.out, fNum_yes hn, fPlace_yes hn], hxf⟩
        · have hq1 : ¬ ((q : Int) = 1) := by omega
          have hq2 : ((q : Int) == 1) = false := by simpa using hq1
          subst hp
          go_wp2_with (go_at_call 86; refine (decode_at s a _ _ _ HT2.out hlt HD.out).mono ?_; rintro e w1 ⟨rfl, hb1⟩)
          go_roundw
          case rel => 
            refine ⟨a + q, by omega, by go_num, hxx.trans hb1, ?_⟩
            show ba = badL (a + q) _
            rw [HST.out, if_neg (fun h => hq h.2)]
          case measure => simp [intOf]; omega
      · have hp1 : ¬ ((p : Int) = 65533) := by omega
        have hp2 : ((p : Int) == 65533) = false := by simpa using hp1
        go_wp2_with (go_at_call 86; refine (decode_at s a _ _ _ HT2.out hlt HD.out).mono ?_; rintro e w1 ⟨rfl, hb1⟩)
        go_roundw
        case rel => 
          refine ⟨a + q, by omega, by go_num, hxx.trans hb1, ?_⟩
          show ba = badL (a + q) _
          rw [HST.out, if_neg (fun h => hp h.1)]
        case measure => simp [intOf]; omega
    · have hblk1 := hblk
      have hc0 : wr.cell? ⟨b, 0, none⟩ = some (.int .i64 0) := by simp [World.cell?, hblk1]
      have hc1 : wr.cell? ⟨b, 1, none⟩ = some (.int .i64 0) := by simp [World.cell?, hblk1]
      have hf0 : wr.frozen? ⟨b, 0, none⟩ = false := by simp [World.frozen?, hblk1]
      have hf1 : wr.frozen? ⟨b, 1, none⟩ = false := by simp [World.frozen?, hblk1]
      go_wp2
      have hfin := set_two hblk1 (.int .i64 0) (.int .i64 0)
      have hxf : Ext w ((wr.setCell ⟨b, 0, none⟩ (.int .i64 0)).setCell ⟨b, 1, none⟩ (.int .i64 0)) := Ext.setCell (Ext.setCell hxw hlb _) hlb _
      generalize (wr.setCell ⟨b, 0, none⟩ (.int .i64 0)).setCell ⟨b, 1, none⟩ (.int .i64 0) = wf at hfin hxf ⊢
      have k0 : wf.cell? ⟨b, 0, none⟩ = some (.int .i64 0) := by simp [World.cell?, hfin]
      have k1 : wf.cell? ⟨b, 1, none⟩ = some (.int .i64 0) := by simp [World.cell?, hfin]
      refine bodyPost_ret (v := .agg #[.int .i64 0, .int .i64 0]) (by simp [results, Tryz.results66, go_sem, k0, k1]) rfl ?_
      have hal : a = s.size := by omega
      have hba : ba = -1 := by
        have e : s.data.toList.drop s.size = [] := List.drop_eq_nil_of_le (Nat.le_of_eq rfl)
        rw [HB.out, hal, e]
        rfl
      exact ⟨by rw [hba]; rfl, hxf⟩
end Go.Proofs.YtndopjmdpmkgeaaGreatDoor
namespace Go.Proofs.YtndopjmdpmkgeaaGreatDoor
open Go Go.ChangeShapes Go.WideShapes Go.ChangeAt Go.RowKit
set_option linter.unusedSimpArgs false
set_option linter.unusedVariables false

set_option maxRecDepth 100000 in
set_option maxHeartbeats 1000000 in
theorem points_bad (s : ByteArray) (a : Int) (w : World) (hT : Tabs w) (hs : s.size ≤ 1099511627776) (hb : badL 0 s.data.toList = a) (ha : ¬ a < 0) :
    Calls Tryz.prog 104 #[.string s] w fun e w' => e = .returned (.tuple #[.slice none 0 0, .agg #[.int .i64 2, .int .i64 a]]) ∧ Ext w w' := by
  have hck : ∀ w0 : World, Tabs w0 → Calls Tryz.prog 66 #[.string s] w0 fun e w' => e = .returned (.agg #[.int .i64 2, .int .i64 a]) ∧ Ext w0 w' := fun w0 h => by
    have h2 := check_any s w0 h hs
    rw [hb, fNum_yes ha, fPlace_yes ha] at h2
    exact h2
  have HC := Lib.hid hck
  have HT := Lib.hid hT
  clear hck hT hb
  go_enter Tryz.func104, Tryz.ntmps104
  obtain ⟨b, hbe⟩ : ∃ b, b = w.heap.size := ⟨_, rfl⟩
  go_wp2_with (first | (go_at_call 66; refine (HC.out _ (HT.out.ext ((Ext.refl w).alloc _))).mono ?_; rintro e w1 ⟨rfl, hb1⟩) | (go_at_call 24; refine (bad_yes _ _ _ (by decide)).mono ?_; rintro e w2 ⟨rfl, hb2⟩))
  have hlt1 : w.heap.size < w1.heap.size := Nat.lt_of_lt_of_le (by simp) hb1.size
  have hlt2 : w1.heap.size < w2.heap.size := Nat.lt_of_lt_of_le (by simp) hb2.size
  have hF : w2.heap[w1.heap.size]? = some (.cells #[.int .i64 2, .int .i64 a] 54 (0, 0)) := (hb2.block w1.heap.size (by simp)).trans (heap_alloc_new w1 _)
  have hR1 : w1.heap[w.heap.size]? = some (.cells #[.int .i64 0, .int .i64 0] 54 (0, 0)) := (hb1.block w.heap.size (by simp)).trans (heap_alloc_new w _)
  have hR : w2.heap[w.heap.size]? = some (.cells #[.int .i64 0, .int .i64 0] 54 (0, 0)) := ((((Ext.refl w1).alloc _).trans hb2).block w.heap.size hlt1).trans hR1
  have hx : Ext w w2 := ((Ext.refl w).alloc _).trans (hb1.trans (((Ext.refl w1).alloc _).trans hb2))
  obtain ⟨c, hce⟩ : ∃ c, c = w1.heap.size := ⟨_, rfl⟩
  have hbc : b ≠ c := by omega
  have hlb : w.heap.size ≤ b := by omega
  rw [← hbe] at hR ⊢
  rw [← hce] at hF ⊢
  clear hbe hce hb1 hb2 hR1 hlt1 hlt2
  have f0 : w2.cell? ⟨c, 0, none⟩ = some (.int .i64 2) := by simp [World.cell?, hF]
  have f1 : w2.cell? ⟨c, 1, none⟩ = some (.int .i64 a) := by simp [World.cell?, hF]
  have r0 : w2.cell? ⟨b, 0, none⟩ = some (.int .i64 0) := by simp [World.cell?, hR]
  have r1 : w2.cell? ⟨b, 1, none⟩ = some (.int .i64 0) := by simp [World.cell?, hR]
  have z0 : w2.frozen? ⟨b, 0, none⟩ = false := by simp [World.frozen?, hR]
  have z1 : w2.frozen? ⟨b, 1, none⟩ = false := by simp [World.frozen?, hR]
  clear hF
  go_region
  all_goals go_wp2
  have hfin := set_two hR (.int .i64 2) (.int .i64 a)
  have hxf : Ext w ((w2.setCell ⟨b, 0, none⟩ (.int .i64 2)).setCell ⟨b, 1, none⟩ (.int .i64 a)) := Ext.setCell (Ext.setCell hx hlb _) hlb _
  generalize (w2.setCell ⟨b, 0, none⟩ (.int .i64 2)).setCell ⟨b, 1, none⟩ (.int .i64 a) = wf at hfin hxf ⊢
  have k0 : wf.drew.cell? ⟨b, 0, none⟩ = some (.int .i64 2) := by show wf.cell? _ = _; simp [World.cell?, hfin]
  have k1 : wf.drew.cell? ⟨b, 1, none⟩ = some (.int .i64 a) := by show wf.cell? _ = _; simp [World.cell?, hfin]
  refine bodyPost_ret (v := .tuple #[.slice none 0 0, .agg #[.int .i64 2, .int .i64 a]]) (by simp [results, Tryz.results104, go_sem, k0, k1]) rfl ?_
  exact ⟨rfl, hxf.drew⟩

theorem one_cells (p : Int) (w : World) : ∀ (j : Nat) z, [p][j]? = some z → (w.alloc (.cells #[.int .i32 p] 21)).cell? ⟨w.heap.size, 0 + j, none⟩ = some (.int .i32 z) := by
  intro j z hj
  cases j with
  | zero =>
    obtain rfl : p = z := by simpa using hj
    have h : (w.alloc (.cells #[.int .i32 p] 21)).heap[w.heap.size]? = some (.cells #[.int .i32 p] 21 (0, 0)) := heap_alloc_new w _
    simp only [World.cell?, h]
    rfl
  | succ j => simp at hj
theorem text_one (p : Int) (w : World) : Calls Tryz.prog 76 #[.slice (some ⟨w.heap.size, 0, none⟩) 1 1] (w.alloc (.cells #[.int .i32 p] 21)) fun e w' => e = .returned (.tuple #[.string (textOut [p]), .bool (allSigns [p])]) ∧ Ext w w' :=
  (text_in w.heap.size 0 1 [p] (w.alloc (.cells #[.int .i32 p] 21)) (one_cells p w) (by simp) (by simp) (by simp)).mono fun e w' ⟨he, hx⟩ => ⟨he, ((Ext.refl w).alloc _).trans hx⟩
theorem ex_text (w : World) : Calls Tryz.prog 76 #[.slice (some ⟨w.heap.size, 0, none⟩) 1 1] (w.alloc (.cells #[.int .i32 233] 21)) fun e w' => e = .returned (.tuple #[.string ⟨#[195, 169]⟩, .bool true]) ∧ Ext w w' := by
  have e1 : textOut [233] = ⟨#[195, 169]⟩ := by decide +kernel
  have e2 : allSigns [233] = true := by decide +kernel
  have h := text_one 233 w
  rw [e1, e2] at h
  exact h
theorem ex_points (w : World) (hT : Tabs w) : Calls Tryz.prog 104 #[.string ⟨#[97, 195, 97]⟩] w fun e w' => e = .returned (.tuple #[.slice none 0 0, .agg #[.int .i64 2, .int .i64 1]]) ∧ Ext w w' :=
  points_bad _ 1 w hT (by decide) (by decide +kernel) (by decide)
set_option maxRecDepth 100000 in
set_option maxHeartbeats 400000 in
theorem awake02 (w : World) (hT : Tabs w) : Calls Tryz.prog 60 #[] w fun e w' => e = .returned (.bool true) ∧ Ext w w' := by
  go_enter Tryz.func60, Tryz.ntmps60
  go_wp2_with (first | (go_at_call 76; refine (ex_text _).mono ?_; rintro e w1 ⟨rfl, hb1⟩) | (go_at_call 104; refine (ex_points _ (hT.ext hb1)).mono ?_; rintro e w2 ⟨rfl, hb2⟩))
  go_ret
  exact ⟨rfl, (hb1.trans hb2).alloc _⟩
end Go.Proofs.YtndopjmdpmkgeaaGreatDoor
namespace Go.Proofs.YtndopjmdpmkgeaaGreatDoor
open Go Go.ChangeShapes Go.WideShapes Go.ChangeAt Go.RowKit
set_option linter.unusedSimpArgs false
set_option linter.unusedVariables false

theorem lit_string (xs : List Int) (w : World) : (convert 96 9 (.slice (some ⟨w.heap.size, 0, none⟩) xs.length xs.length)).run Tryz.prog (w.alloc (.cells (xs.map fun x => .int .u8 x).toArray 5)) = .ok (.string (strOfNums xs)) (w.alloc (.cells (xs.map fun x => .int .u8 x).toArray 5)) :=
  run_convert_bytes_arg _ 96 5 Tryz.underlying96 Tryz.underlying5 w.heap.size 0 xs.length xs.length xs rfl (fun i hi => by
    have h := heap_alloc_new w (.cells (xs.map fun x => .int .u8 x).toArray 5)
    simp only [World.cell?, h]
    simp [List.getD, hi]) 9 Tryz.underlying9
set_option maxHeartbeats 1000000 in
theorem rbytes_1 (p : Int) (w : World) (h0 : 0 ≤ p) (h1 : p < 128) : Calls Tryz.prog 54 #[.int .i32 p] w fun e w' => e = .returned (.string (strOfNums [p])) ∧ Ext w w' := by
  have hs : (convert 96 9 (.slice (some ⟨w.heap.size, 0, none⟩) 1 1)).run Tryz.prog (w.alloc (.cells #[.int .u8 (p)] 5)) = .ok (.string (strOfNums [p])) _ := lit_string [p] w
  go_enter Tryz.func54, Tryz.ntmps54
  go_wp2
  go_ret
  exact ⟨rfl, (Ext.refl w).alloc _⟩
set_option maxHeartbeats 1000000 in
theorem rbytes_2 (p : Int) (w : World) (h0 : 128 ≤ p) (h1 : p < 2048) : Calls Tryz.prog 54 #[.int .i32 p] w fun e w' => e = .returned (.string (strOfNums [192 + p / 64, 128 + p % 64])) ∧ Ext w w' := by
  have n1 : ¬ p < 128 := by omega
  have hs : (convert 96 9 (.slice (some ⟨w.heap.size, 0, none⟩) 2 2)).run Tryz.prog (w.alloc (.cells #[.int .u8 (192 + p / 64), .int .u8 (128 + p % 64)] 5)) = .ok (.string (strOfNums [192 + p / 64, 128 + p % 64])) _ := lit_string [192 + p / 64, 128 + p % 64] w
  go_enter Tryz.func54, Tryz.ntmps54
  go_wp2
  go_ret
  exact ⟨rfl, (Ext.refl w).alloc _⟩
set_option maxHeartbeats 1000000 in
theorem rbytes_3 (p : Int) (w : World) (h0 : 2048 ≤ p) (h1 : p < 65536) : Calls Tryz.prog 54 #[.int .i32 p] w fun e w' => e = .returned (.string (strOfNums [224 + p / 4096, 128 + p / 64 % 64, 128 + p % 64])) ∧ Ext w w' := by
  have n1 : ¬ p < 128 := by omega
  have n2 : ¬ p < 2048 := by omega
  have hs : (convert 96 9 (.slice (some ⟨w.heap.size, 0, none⟩) 3 3)).run Tryz.prog (w.alloc (.cells #[.int .u8 (224 + p / 4096), .int .u8 (128 + p / 64 % 64), .int .u8 (128 + p % 64)] 5)) = .ok (.string (strOfNums [224 + p / 4096, 128 + p / 64 % 64, 128 + p % 64])) _ := lit_string [224 + p / 4096, 128 + p / 64 % 64, 128 + p % 64] w
  go_enter Tryz.func54, Tryz.ntmps54
  go_wp2
  go_ret
  exact ⟨rfl, (Ext.refl w).alloc _⟩
set_option maxHeartbeats 1000000 in
theorem rbytes_4 (p : Int) (w : World) (h0 : 65536 ≤ p) (h1 : p ≤ 1114111) : Calls Tryz.prog 54 #[.int .i32 p] w fun e w' => e = .returned (.string (strOfNums [240 + p / 262144, 128 + p / 4096 % 64, 128 + p / 64 % 64, 128 + p % 64])) ∧ Ext w w' := by
  have n1 : ¬ p < 128 := by omega
  have n2 : ¬ p < 2048 := by omega
  have n3 : ¬ p < 65536 := by omega
  have hs : (convert 96 9 (.slice (some ⟨w.heap.size, 0, none⟩) 4 4)).run Tryz.prog (w.alloc (.cells #[.int .u8 (240 + p / 262144), .int .u8 (128 + p / 4096 % 64), .int .u8 (128 + p / 64 % 64), .int .u8 (128 + p % 64)] 5)) = .ok (.string (strOfNums [240 + p / 262144, 128 + p / 4096 % 64, 128 + p / 64 % 64, 128 + p % 64])) _ := lit_string [240 + p / 262144, 128 + p / 4096 % 64, 128 + p / 64 % 64, 128 + p % 64] w
  go_enter Tryz.func54, Tryz.ntmps54
  go_wp2
  go_ret
  exact ⟨rfl, (Ext.refl w).alloc _⟩
/-- A sign's bytes, as a text. -/
def signText (p : Int) : ByteArray := ⟨(Lib.encodeRune p).toArray⟩
theorem signText_nums (p : Int) : signText p = strOfNums (Lib.encodeRuneZ p) := rfl
theorem rbytes_any (p : Int) (w : World) (h : isSign p = true) : Calls Tryz.prog 54 #[.int .i32 p] w fun e w' => e = .returned (.string (signText p)) ∧ Ext w w' := by
  have hp := (isSign_iff p).1 h
  rw [signText_nums]
  by_cases h1 : p < 128
  · rw [Lib.encodeRuneZ_one (by omega) (by omega)]
    exact rbytes_1 p w (by omega) h1
  by_cases h2 : p < 2048
  · rw [Lib.encodeRuneZ_two (by omega) (by omega)]
    exact rbytes_2 p w (by omega) h2
  by_cases h3 : p < 65536
  · rw [Lib.encodeRuneZ_three (by omega)]
    exact rbytes_3 p w (by omega) h3
  · rw [Lib.encodeRuneZ_four (by omega) (by omega)]
    exact rbytes_4 p w (by omega) (by omega)
end Go.Proofs.YtndopjmdpmkgeaaGreatDoor
namespace Go.Proofs.YtndopjmdpmkgeaaGreatDoor
open Go Go.ChangeShapes Go.WideShapes Go.ChangeAt Go.RowKit
set_option linter.unusedSimpArgs false
set_option linter.unusedVariables false

theorem byte_at (s : ByteArray) (k : Nat) (h : k < s.size) : s.data.toList[k]? = some s[k] := by
  have h2 : k < s.data.size := h
  rw [Array.getElem?_toList, Array.getElem?_eq_getElem h2]
  rfl
/-- Is a text made of signs? -/
def validS (s : ByteArray) : Bool := Lib.validD s.data.toList
theorem valid_any (s : ByteArray) (w : World) (hT : Tabs w) (hs : s.size ≤ 1099511627776) : Calls Tryz.prog 31 #[.string s] w fun e w' => e = .returned (.bool (validS s)) ∧ Ext w w' := by
  have hv : Calls Tryz.prog 49 #[.string s] w fun e w' => e = .returned (.bool (validS s)) ∧ Ext w w' := Tryz.utf8_ValidString s w (by omega) hT
  have HV := Lib.hid hv
  clear hv
  go_enter Tryz.func31, Tryz.ntmps31
  go_wp2_with (go_at_call 49; refine HV.out.mono ?_; rintro e w1 ⟨rfl, hb1⟩)
  go_ret
  exact ⟨rfl, hb1⟩
theorem count_no (s : ByteArray) (w : World) (hT : Tabs w) (hs : s.size ≤ 1099511627776) (h : validS s = false) : Calls Tryz.prog 134 #[.string s] w fun e w' => e = .returned (.int .i64 0) ∧ Ext w w' := by
  have hv := valid_any s w hT hs
  rw [h] at hv
  have HV := Lib.hid hv
  clear hv
  go_enter Tryz.func134, Tryz.ntmps134
  go_wp2_with (go_at_call 31; refine HV.out.mono ?_; rintro e w1 ⟨rfl, hb1⟩)
  go_ret
  exact ⟨rfl, hb1⟩
theorem count_yes (s : ByteArray) (w : World) (hT : Tabs w) (hs : s.size ≤ 1099511627776) (h : validS s = true) : Calls Tryz.prog 134 #[.string s] w fun e w' => e = .returned (.int .i64 (Lib.runeCount s)) ∧ Ext w w' := by
  have hv := valid_any s w hT hs
  rw [h] at hv
  have HV := Lib.hid hv
  have HC : Hid (∀ w : World, Calls Tryz.prog 170 #[.string s] w fun e w' => e = .returned (.int .i64 (Lib.runeCount s)) ∧ Ext w w') := fun w =>
    (Tryz.utf8_RuneCountInString s w (by omega)).mono fun e w' ⟨h1, pos, h2⟩ => ⟨h1, by rw [h2]; exact (Ext.refl w).alloc _⟩
  clear hv
  generalize Lib.runeCount s = n at HC
  go_enter Tryz.func134, Tryz.ntmps134
  go_wp2_with (first | (go_at_call 31; refine HV.out.mono ?_; rintro e w1 ⟨rfl, hb1⟩) | (go_at_call 170; refine (HC.out _).mono ?_; rintro e w2 ⟨rfl, hb2⟩))
  go_ret
  exact ⟨rfl, hb1.trans hb2⟩
end Go.Proofs.YtndopjmdpmkgeaaGreatDoor
namespace Go.Proofs.YtndopjmdpmkgeaaGreatDoor
open Go
set_option linter.unusedSimpArgs false
set_option linter.unusedVariables false

theorem u8z (x : Int) (h0 : 0 ≤ x) (h1 : x < 256) : (x.toNat.toUInt8).toNat = x.toNat := by
  rw [Nat.toUInt8_eq, UInt8.toNat_ofNat_of_lt']
  show x.toNat < 256
  omega
theorem dec1 (p : Int) (t : List UInt8) (h0 : 0 ≤ p) (h1 : p < 128) : Lib.decodeL (Lib.encodeRune p ++ t) = (p.toNat, 1) := by
  unfold Lib.encodeRune
  rw [Lib.encodeRuneZ_one h0 (by omega), Lib.decodeL_N]
  simp only [List.map_cons, List.map_nil, List.cons_append, List.nil_append, List.getD_cons_zero, List.getD_cons_succ, List.length_cons]
  rw [u8z p h0 (by omega)]
  unfold Lib.decodeN
  rw [if_pos (by omega)]
theorem dec2 (p : Int) (t : List UInt8) (h0 : 128 ≤ p) (h1 : p < 2048) : Lib.decodeL (Lib.encodeRune p ++ t) = (p.toNat, 2) := by
  unfold Lib.encodeRune
  rw [Lib.encodeRuneZ_two h0 (by omega), Lib.decodeL_N]
  simp only [List.map_cons, List.map_nil, List.cons_append, List.nil_append, List.getD_cons_zero, List.getD_cons_succ, List.length_cons]
  rw [u8z (192 + p / 64) (by omega) (by omega), u8z (128 + p % 64) (by omega) (by omega)]
  obtain ⟨n, rfl⟩ := Int.eq_ofNat_of_zero_le (show 0 ≤ p by omega)
  have e0 : (192 + (n : Int) / 64).toNat = 192 + n / 64 := by omega
  have e1 : (128 + (n : Int) % 64).toNat = 128 + n % 64 := by omega
  rw [e0, e1, Int.toNat_natCast]
  have k1 : n < 2048 := by omega
  have k0 : 128 ≤ n := by omega
  unfold Lib.decodeN
  have c1 : (192 + n / 64) / 32 = 6 := by omega
  have c2 : (128 + n % 64) / 64 = 2 := by omega
  have c3 : (192 + n / 64) % 32 * 64 + (128 + n % 64) % 64 = n := by omega
  have c0 : ¬ (192 + n / 64) < 128 := by omega
  have c4 : n ≥ 128 := by omega
  rw [if_neg c0, if_pos ⟨c1, by omega, c2⟩, c3, if_pos c4]
theorem dec3 (p : Int) (t : List UInt8) (h : (2048 ≤ p ∧ p < 55296) ∨ (57343 < p ∧ p ≤ 65535)) : Lib.decodeL (Lib.encodeRune p ++ t) = (p.toNat, 3) := by
  unfold Lib.encodeRune
  rw [Lib.encodeRuneZ_three h, Lib.decodeL_N]
  simp only [List.map_cons, List.map_nil, List.cons_append, List.nil_append, List.getD_cons_zero, List.getD_cons_succ, List.length_cons]
  rw [u8z (224 + p / 4096) (by omega) (by omega), u8z (128 + p / 64 % 64) (by omega) (by omega), u8z (128 + p % 64) (by omega) (by omega)]
  obtain ⟨n, rfl⟩ := Int.eq_ofNat_of_zero_le (show 0 ≤ p by omega)
  have e0 : (224 + (n : Int) / 4096).toNat = 224 + n / 4096 := by omega
  have e1 : (128 + (n : Int) / 64 % 64).toNat = 128 + n / 64 % 64 := by omega
  have e2 : (128 + (n : Int) % 64).toNat = 128 + n % 64 := by omega
  rw [e0, e1, e2, Int.toNat_natCast]
  have k : (2048 ≤ n ∧ n < 55296) ∨ (57343 < n ∧ n ≤ 65535) := by omega
  unfold Lib.decodeN
  have c0 : ¬ (224 + n / 4096) < 128 := by omega
  have c1 : ¬ (224 + n / 4096) / 32 = 6 := by omega
  have c2 : (224 + n / 4096) / 16 = 14 := by omega
  have c3 : (128 + n / 64 % 64) / 64 = 2 := by omega
  have c4 : (128 + n % 64) / 64 = 2 := by omega
  have c5 : (224 + n / 4096) % 16 * 4096 + (128 + n / 64 % 64) % 64 * 64 + (128 + n % 64) % 64 = n := by omega
  have c6 : n ≥ 2048 := by omega
  rw [if_neg c0, if_neg (fun h => c1 h.1), if_pos ⟨c2, ⟨by omega, c3⟩, ⟨by omega, c4⟩⟩, c5, if_pos ⟨c6, by omega⟩]
theorem dec4 (p : Int) (t : List UInt8) (h0 : 65536 ≤ p) (h1 : p ≤ 1114111) : Lib.decodeL (Lib.encodeRune p ++ t) = (p.toNat, 4) := by
  unfold Lib.encodeRune
  rw [Lib.encodeRuneZ_four h0 h1, Lib.decodeL_N]
  simp only [List.map_cons, List.map_nil, List.cons_append, List.nil_append, List.getD_cons_zero, List.getD_cons_succ, List.length_cons]
  rw [u8z (240 + p / 262144) (by omega) (by omega), u8z (128 + p / 4096 % 64) (by omega) (by omega), u8z (128 + p / 64 % 64) (by omega) (by omega), u8z (128 + p % 64) (by omega) (by omega)]
  obtain ⟨n, rfl⟩ := Int.eq_ofNat_of_zero_le (show 0 ≤ p by omega)
  have e0 : (240 + (n : Int) / 262144).toNat = 240 + n / 262144 := by omega
  have e1 : (128 + (n : Int) / 4096 % 64).toNat = 128 + n / 4096 % 64 := by omega
  have e2 : (128 + (n : Int) / 64 % 64).toNat = 128 + n / 64 % 64 := by omega
  have e3 : (128 + (n : Int) % 64).toNat = 128 + n % 64 := by omega
  rw [e0, e1, e2, e3, Int.toNat_natCast]
  have k1 : n ≤ 1114111 := by omega
  have k0 : 65536 ≤ n := by omega
  unfold Lib.decodeN
  have c0 : ¬ (240 + n / 262144) < 128 := by omega
  have c1 : ¬ (240 + n / 262144) / 32 = 6 := by omega
  have c2 : ¬ (240 + n / 262144) / 16 = 14 := by omega
  have c3 : (240 + n / 262144) / 8 = 30 := by omega
  have c4 : (128 + n / 4096 % 64) / 64 = 2 := by omega
  have c5 : (128 + n / 64 % 64) / 64 = 2 := by omega
  have c6 : (128 + n % 64) / 64 = 2 := by omega
  have c7 : (240 + n / 262144) % 8 * 262144 + (128 + n / 4096 % 64) % 64 * 4096 + (128 + n / 64 % 64) % 64 * 64 + (128 + n % 64) % 64 = n := by omega
  have c8 : n ≥ 65536 := by omega
  rw [if_neg c0, if_neg (fun h => c1 h.1), if_neg (fun h => c2 h.1), if_pos ⟨c3, ⟨by omega, c4⟩, ⟨by omega, c5⟩, ⟨by omega, c6⟩⟩, c7, if_pos ⟨c8, by omega⟩]
theorem dec_enc (p : Int) (h : isSign p = true) (t : List UInt8) : Lib.decodeL (Lib.encodeRune p ++ t) = (p.toNat, (Lib.encodeRune p).length) := by
  have hp := (isSign_iff p).1 h
  have hl : (Lib.encodeRune p).length = (Lib.encodeRuneZ p).length := List.length_map _
  rw [hl]
  by_cases h1 : p < 128
  · rw [dec1 p t (by omega) h1, Lib.encodeRuneZ_one (by omega) (by omega)]; rfl
  by_cases h2 : p < 2048
  · rw [dec2 p t (by omega) h2, Lib.encodeRuneZ_two (by omega) (by omega)]; rfl
  by_cases h3 : p < 65536
  · rw [dec3 p t (by omega), Lib.encodeRuneZ_three (by omega)]; rfl
  · rw [dec4 p t (by omega) (by omega), Lib.encodeRuneZ_four (by omega) (by omega)]; rfl
theorem enc_good (p : Int) (h : isSign p = true) : ¬ (p.toNat = 65533 ∧ (Lib.encodeRune p).length = 1) := by
  rintro ⟨h1, h2⟩
  have hp := (isSign_iff p).1 h
  have hl : (Lib.encodeRune p).length = (Lib.encodeRuneZ p).length := List.length_map _
  rw [hl, Lib.encodeRuneZ_three (by omega)] at h2
  simp at h2
theorem enc_ne (p : Int) (t : List UInt8) : Lib.encodeRune p ++ t ≠ [] := by
  intro e
  have h := congrArg List.length e
  have h2 := (Lib.runeCells_le p).1
  rw [Lib.runeCells_length] at h2
  rw [List.length_append, List.length_nil] at h
  omega
theorem badL_enc (a : Nat) (p : Int) (h : isSign p = true) (t : List UInt8) : badL a (Lib.encodeRune p ++ t) = badL (a + (Lib.encodeRune p).length) t := by
  rw [badL_step a _ (enc_ne p t), dec_enc p h t, if_neg (enc_good p h)]
  simp only
  rw [List.drop_left]
theorem badL_encs : ∀ (l : List Int) (a : Nat) (t : List UInt8), allSigns l = true → badL a (encs l ++ t) = badL (a + (encs l).length) t
  | [], a, t, _ => by simp [encs]
  | p :: l, a, t, h => by
    unfold allSigns at h
    rw [List.all_cons, Bool.and_eq_true] at h
    rw [encs_cons, List.append_assoc, badL_enc a p h.1, badL_encs l _ t h.2, List.length_append, Nat.add_assoc]
theorem badL_shift : ∀ (n : Nat) (a : Nat) (l : List UInt8), l.length ≤ n → badL a l = if badL 0 l < 0 then -1 else a + badL 0 l
  | n, a, [], _ => by rw [badL_nil, badL_nil, if_pos (by decide)]
  | 0, a, x :: l, h => by simp at h
  | n + 1, a, x :: l, h => by
    have hne : x :: l ≠ [] := by simp
    have hw := Lib.decodeL_width (x :: l)
    rw [badL_step a _ hne, badL_step 0 _ hne]
    by_cases hb : (Lib.decodeL (x :: l)).1 = 65533 ∧ (Lib.decodeL (x :: l)).2 = 1
    · rw [if_pos hb, if_pos hb]; simp
    · rw [if_neg hb, if_neg hb]
      have hd : ((x :: l).drop (Lib.decodeL (x :: l)).2).length ≤ n := by rw [List.length_drop]; omega
      rw [badL_shift n _ _ hd, badL_shift n (0 + _) _ hd]
      generalize badL 0 (List.drop (Lib.decodeL (x :: l)).2 (x :: l)) = q
      generalize (Lib.decodeL (x :: l)).2 = k
      by_cases hq : q < 0
      · simp [hq]
      · have h2 : ¬ (((0 + k : Nat) : Int) + q < 0) := by omega
        rw [if_neg hq, if_neg hq, if_neg h2]
        omega
end Go.Proofs.YtndopjmdpmkgeaaGreatDoor
namespace Go.Proofs.YtndopjmdpmkgeaaGreatDoor
open Go Go.ChangeShapes Go.WideShapes Go.ChangeAt Go.RowKit
set_option linter.unusedSimpArgs false
set_option linter.unusedVariables false
set_option maxRecDepth 100000

theorem own : ownKnob Tryz.prog.godebug = none := by kernel_rfl
theorem laidOut : laidOutB Tryz.prog = true := by kernel_rfl
theorem accept_eq : (Rows.laid_unicode_utf8_acceptRanges : DataW Unit) = Lib.acceptData := by kernel_rfl
theorem first_eq : Rows.laid_unicode_utf8_first = Lib.firstData := Pinned.utf8First_eq
theorem extra : U8Extra Tryz.prog Tryz.lays260_ren := ⟨by kernel_rfl, by kernel_rfl, by kernel_rfl, by kernel_rfl, by kernel_rfl, by kernel_rfl, by kernel_rfl⟩
theorem tabs_of {W : World} (h : laidMetH Tryz.prog Rows.detectScoresRow.laid W) : Tabs W := by
  rw [MakeChecks.laidMetH_plain _ _ _ (by kernel_rfl)] at h
  have h4 := Lib.laidMet.reads h (n := "unicode/utf8.acceptRanges") (d := Rows.laid_unicode_utf8_acceptRanges) (by repeat (first | exact List.Mem.head _ | apply List.Mem.tail))
  have h3 := Lib.laidMet.reads h (n := "unicode/utf8.first") (d := Rows.laid_unicode_utf8_first) (by repeat (first | exact List.Mem.head _ | apply List.Mem.tail))
  rw [accept_eq] at h4
  rw [first_eq] at h3
  exact utf8Tabs_of_readsT (U8Types.of260 Tryz.lays260) extra h3 h4
end Go.Proofs.YtndopjmdpmkgeaaGreatDoor
namespace Go.Proofs.YtndopjmdpmkgeaaGreatDoor
open Go Go.ChangeShapes Go.WideShapes Go.ChangeAt Go.RowKit
set_option linter.unusedSimpArgs false
set_option linter.unusedVariables false

/-- What a list of numbers is: none, or in memory. -/
def IsRow (w : World) (a : Option Addr) (len cap : Nat) (zs : List Int) : Prop :=
  zs.length = len ∧ (len = 0 ∨ ∃ (x off : Nat), a = some ⟨x, off, none⟩ ∧ len ≤ cap ∧ ∀ (j : Nat) z, zs[j]? = some z → w.cell? ⟨x, off + j, none⟩ = some (.int .i32 z))
theorem text_row {w0 w : World} {a : Option Addr} {len cap : Nat} {zs : List Int} (h : IsRow w0 a len cap zs) (hx : Ext w0 w) (hl : zs.length ≤ 1099511627776) :
    Calls Tryz.prog 76 #[.slice a len cap] w fun e w' => e = .returned (.tuple #[.string (textOut zs), .bool (allSigns zs)]) ∧ Ext w w' := by
  obtain ⟨h1, h2⟩ := h
  by_cases h0 : len = 0
  · subst h0
    obtain rfl : zs = [] := List.eq_nil_of_length_eq_zero h1
    exact text_none a cap w
  · rcases h2 with h2 | ⟨x, off, rfl, hc, hcell⟩
    · exact absurd h2 h0
    · subst h1
      exact text_in x off cap zs w (fun j z hj => by
        have h3 := hcell j z hj
        exact (World.cell?_of_block (hx.block x (World.block_lt_of_cell? w0 _ h3))).trans h3) (by omega) hl hc
theorem text_list {zs : List Int} (h : allSigns zs = true) : (textOut zs).data.toList = encs zs := by
  rw [textOut_yes h]
theorem append_list (t s : ByteArray) : (t ++ s).data.toList = t.data.toList ++ s.data.toList := by
  rw [ByteArray.data_append, Array.toList_append]
theorem badL_le : ∀ (n a : Nat) (l : List UInt8), l.length ≤ n → badL a l < a + l.length
  | n, a, [], _ => by rw [badL_nil]; simp; omega
  | 0, a, x :: l, h => by simp at h
  | n + 1, a, x :: l, h => by
    have hne : x :: l ≠ [] := by simp
    have hw := Lib.decodeL_width (x :: l)
    have hq := Lib.decodeL_le (x :: l) hne
    rw [badL_step a _ hne]
    by_cases hb : (Lib.decodeL (x :: l)).1 = 65533 ∧ (Lib.decodeL (x :: l)).2 = 1
    · rw [if_pos hb]; simp; omega
    · rw [if_neg hb]
      have hd : ((x :: l).drop (Lib.decodeL (x :: l)).2).length = (x :: l).length - (Lib.decodeL (x :: l)).2 := List.length_drop
      have h3 := badL_le n (a + (Lib.decodeL (x :: l)).2) ((x :: l).drop (Lib.decodeL (x :: l)).2) (by omega)
      omega
/-- The first place without a sign, of a text. -/
def badS (s : ByteArray) : Int := badL 0 s.data.toList
theorem badS_append {zs : List Int} (h : allSigns zs = true) (s : ByteArray) : badS (textOut zs ++ s) = if badS s < 0 then -1 else (textOut zs).size + badS s := by
  unfold badS
  have e : (textOut zs).size = (encs zs).length := by rw [textOut_yes h]; rfl
  rw [append_list, text_list h, badL_encs zs 0 _ h, badL_shift _ _ _ (Nat.le_refl _), e]
  simp
theorem check_no (s : ByteArray) (w : World) (hT : Tabs w) (hs : s.size ≤ 1099511627776) (h : badS s < 0) : Calls Tryz.prog 66 #[.string s] w fun e w' => e = .returned (.agg #[.int .i64 0, .int .i64 0]) ∧ Ext w w' := by
  have := check_any s w hT hs
  rwa [show badL 0 s.data.toList = badS s from rfl, fNum_no h, fPlace_no h] at this
theorem check_yes (s : ByteArray) (w : World) (hT : Tabs w) (hs : s.size ≤ 1099511627776) (a : Int) (e : badS s = a) (h : ¬ a < 0) : Calls Tryz.prog 66 #[.string s] w fun e w' => e = .returned (.agg #[.int .i64 2, .int .i64 a]) ∧ Ext w w' := by
  have := check_any s w hT hs
  rwa [show badL 0 s.data.toList = badS s from rfl, e, fNum_yes h, fPlace_yes h] at this
end Go.Proofs.YtndopjmdpmkgeaaGreatDoor
namespace Go.Proofs.YtndopjmdpmkgeaaGreatDoor
open Go
set_option linter.unusedSimpArgs false
set_option linter.unusedVariables false

/-- The signs of some bytes, by the decoder. -/
def runesGo : Nat → List UInt8 → List Int
  | 0, _ => []
  | n + 1, l => if l = [] then [] else ((Lib.decodeL l).1 : Int) :: runesGo n (l.drop (Lib.decodeL l).2)
def runesL (l : List UInt8) : List Int := runesGo l.length l
theorem runesGo_nil : ∀ n, runesGo n [] = []
  | 0 => rfl
  | _ + 1 => by rw [runesGo, if_pos rfl]
theorem runesGo_fuel : ∀ (n m : Nat) (l : List UInt8), l.length ≤ n → l.length ≤ m → runesGo n l = runesGo m l
  | 0, m, l, h, _ => by
    have e : l = [] := List.eq_nil_of_length_eq_zero (by omega)
    subst e
    rw [runesGo_nil, runesGo_nil]
  | n + 1, 0, l, _, h => by
    have e : l = [] := List.eq_nil_of_length_eq_zero (by omega)
    subst e
    rw [runesGo_nil, runesGo_nil]
  | n + 1, m + 1, l, h, h2 => by
    rw [runesGo, runesGo]
    by_cases e : l = []
    · rw [if_pos e, if_pos e]
    · rw [if_neg e, if_neg e]
      have h1 := Lib.decodeL_width l
      have h3 : 0 < l.length := List.length_pos_iff.2 e
      rw [runesGo_fuel n m (l.drop _) (by rw [List.length_drop]; omega) (by rw [List.length_drop]; omega)]
theorem runesL_nil : runesL [] = [] := rfl
theorem runesL_step (l : List UInt8) (h : l ≠ []) : runesL l = ((Lib.decodeL l).1 : Int) :: runesL (l.drop (Lib.decodeL l).2) := by
  have h1 := Lib.decodeL_width l
  have h3 : 0 < l.length := List.length_pos_iff.2 h
  unfold runesL
  obtain ⟨n, hn⟩ : ∃ n, l.length = n + 1 := ⟨l.length - 1, by omega⟩
  rw [hn, runesGo, if_neg h, runesGo_fuel n (l.drop _).length _ (by rw [List.length_drop]; omega) (Nat.le_refl _)]
theorem runesL_enc (p : Int) (h : isSign p = true) (t : List UInt8) : runesL (Lib.encodeRune p ++ t) = p :: runesL t := by
  have hp := (isSign_iff p).1 h
  rw [runesL_step _ (enc_ne p t), dec_enc p h t]
  simp only
  rw [List.drop_left, Int.toNat_of_nonneg (by omega)]
theorem runesL_encs : ∀ (l : List Int), allSigns l = true → runesL (encs l) = l
  | [], _ => rfl
  | p :: l, h => by
    unfold allSigns at h
    rw [List.all_cons, Bool.and_eq_true] at h
    rw [encs_cons, runesL_enc p h.1, runesL_encs l h.2]
theorem dec_sign (l : List UInt8) : isSign ((Lib.decodeL l).1 : Int) = true := by
  have h0 := (l.getD 0 0).toNat_lt
  rw [isSign_iff, Lib.decodeL_N]
  unfold Lib.decodeN
  split
  · simp only; omega
  · split
    · split
      · simp only; omega
      · simp only; omega
    · split
      · split
        · simp only; omega
        · simp only; omega
      · split
        · split
          · simp only; omega
          · simp only; omega
        · simp only; omega
theorem runesL_signs : ∀ (n : Nat) (l : List UInt8), l.length ≤ n → allSigns (runesL l) = true
  | _, [], _ => rfl
  | 0, x :: l, h => by simp at h
  | n + 1, x :: l, h => by
    have hne : x :: l ≠ [] := by simp
    have hw := Lib.decodeL_width (x :: l)
    rw [runesL_step _ hne]
    unfold allSigns
    rw [List.all_cons, dec_sign]
    exact runesL_signs n _ (by rw [List.length_drop]; omega)
theorem runesL_back : ∀ (n a : Nat) (l : List UInt8), l.length ≤ n → badL a l < 0 → encs (runesL l) = l
  | _, _, [], _, _ => rfl
  | 0, _, x :: l, h, _ => by simp at h
  | n + 1, a, x :: l, h, hb => by
    have hne : x :: l ≠ [] := by simp
    have hw := Lib.decodeL_width (x :: l)
    rw [badL_step a _ hne] at hb
    by_cases hx : (Lib.decodeL (x :: l)).1 = 65533 ∧ (Lib.decodeL (x :: l)).2 = 1
    · rw [if_pos hx] at hb; omega
    · rw [if_neg hx] at hb
      rw [runesL_step _ hne, encs_cons, Lib.encode_decode _ hne hx, runesL_back n _ _ (by rw [List.length_drop]; omega) hb, List.take_append_drop]
theorem valid_bad : ∀ (n a : Nat) (l : List UInt8), l.length ≤ n → Lib.validD l = decide (badL a l < 0)
  | _, _, [], _ => rfl
  | 0, _, x :: l, h => by simp at h
  | n + 1, a, x :: l, h => by
    have hne : x :: l ≠ [] := by simp
    have hw := Lib.decodeL_width (x :: l)
    rw [badL_step a _ hne, Lib.validD_step _ hne]
    by_cases hx : (Lib.decodeL (x :: l)).1 = 65533 ∧ (Lib.decodeL (x :: l)).2 = 1
    · rw [if_pos hx, if_pos hx]
      exact (decide_eq_false (by omega)).symm
    · rw [if_neg hx, if_neg hx]
      exact valid_bad n _ _ (by rw [List.length_drop]; omega)
theorem validS_eq (s : ByteArray) : validS s = decide (badS s < 0) := valid_bad _ 0 _ (Nat.le_refl _)
theorem count_from (s : ByteArray) : ∀ (f pos : Nat), s.size ≤ pos + f → Lib.runeCountFrom s f pos = (runesL (s.data.toList.drop pos)).length
  | f, pos, h => by
    have hsz : s.data.toList.length = s.size := rfl
    by_cases hp : pos < s.size
    · cases f with
      | zero => omega
      | succ f =>
        have hne : s.data.toList.drop pos ≠ [] := by
          intro e
          have h1 := congrArg List.length e
          rw [List.length_drop, hsz, List.length_nil] at h1
          omega
        have hw := Lib.decodeL_width (s.data.toList.drop pos)
        rw [runesL_step _ hne, List.length_cons, List.drop_drop, Lib.decodeL_drop]
        rw [Lib.decodeL_drop] at hw
        rw [← count_from s f (pos + (Utf8.decode s pos).2) (by omega)]
        simp only [Lib.runeCountFrom, hp, if_true]
        omega
    · rw [Lib.runeCountFrom_end s f pos hp, List.drop_eq_nil_of_le (by omega)]
      rfl
theorem runeCount_eq (s : ByteArray) : Lib.runeCount s = (runesL s.data.toList).length := by
  unfold Lib.runeCount
  rw [count_from s s.size 0 (by omega), List.drop_zero]
end Go.Proofs.YtndopjmdpmkgeaaGreatDoor
namespace Go.Proofs.YtndopjmdpmkgeaaGreatDoor
open Go Go.ChangeShapes Go.WideShapes Go.ChangeAt Go.RowKit
set_option linter.unusedSimpArgs false
set_option linter.unusedVariables false

/-- Numbers as cells. -/
def runeCellsOf (l : List Int) : List Value := l.map fun z => .int .i32 z
theorem info_i32 : (Tryz.prog.info? 21).map (fun i => (i.zero, i.size, i.bytes)) = some (some (.int .i32 0), 1, 4) := by kernel_rfl
theorem make_runes (k : Nat) (hk : k ≤ 1099511627776) (w : World) : ∃ w', (Instr.makeSlice 58 (.int .i64 0) (.int .i64 (k : Int))).run Tryz.prog w = .ok (.slice (some ⟨w.heap.size, 0, none⟩) 0 k) w' ∧
    (∀ B, B ≤ w.heap.size → w'.ownsRow B 21 1 (.slice (some ⟨w.heap.size, 0, none⟩) 0 k) 0 []) ∧ w.grownBy w' none := by
  obtain ⟨i, hi, h2⟩ := Option.map_eq_some_iff.1 info_i32
  obtain ⟨h3, h4⟩ := Prod.mk.inj h2
  obtain ⟨h5, h6⟩ := Prod.mk.inj h4
  obtain ⟨w', h7, h8, h9⟩ := run_make_own (P := Tryz.prog) (w := w) w.heap.size 58 21 i (.int .i32 0) 1 Tryz.underlying58 hi h3 h5 .i64 .i64 k (by rw [h6]; omega) (by simp [maxLen]; omega) (Nat.le_refl _)
  refine ⟨w', h7, fun B hB => ?_, h9⟩
  obtain ⟨a, b⟩ := h8
  refine ⟨a, ?_⟩
  rcases b with b | ⟨g, cap, cur, e1, e2, r⟩
  · exact .inl b
  · exact .inr ⟨g, cap, cur, e1, by omega, r⟩
theorem own_row {w : World} {B : Nat} {v : Value} {n : Nat} {zs : List Int} (h : w.ownsRow B 21 1 v n (runeCellsOf zs)) : ∃ a cap, v = .slice a n cap ∧ IsRow w a n cap zs := by
  obtain ⟨hl, ⟨rfl, rfl⟩ | ⟨g, cap, cur, rfl, hg, hh, hn, hm, hs, ht⟩⟩ := h
  · exact ⟨none, 0, rfl, by simpa [runeCellsOf] using hl, .inl rfl⟩
  · have hbl : zs.length = n := by simpa [runeCellsOf] using hl
    refine ⟨some ⟨g, 0, none⟩, cap, rfl, hbl, .inr ⟨g, 0, rfl, hn, fun j z hj => ?_⟩⟩
    have hjl : j < zs.length := (List.getElem?_eq_some_iff.1 hj).1
    have e1 : (runeCellsOf zs)[j]? = some (.int .i32 z) := by simp [runeCellsOf, hj]
    rw [← ht, List.getElem?_take, if_pos (by omega)] at e1
    have e2 : w.cell? ⟨g, 0 + j, none⟩ = cur.toList[j]? := by simp [World.cell?, hh]
    rw [e2, e1]
theorem own_iterAt {w : World} {B e size n : Nat} {v : Value} {xs : List Value} {k : Nat} {s : ByteArray} {pos : Nat} (h : w.ownsRow B e size v n xs) (hk : w.heap[k]? = some (.stringIter s pos)) (pos' : Nat) : (w.iterAt k s pos').ownsRow B e size v n xs := by
  obtain ⟨h1, h2⟩ := h
  refine ⟨h1, ?_⟩
  rcases h2 with h2 | ⟨g, cap, cur, a, b, c, d⟩
  · exact .inl h2
  · have hne : g ≠ k := by
      rintro rfl
      rw [hk] at c
      cases c
    exact .inr ⟨g, cap, cur, a, b, by rw [Lib.iterAt_other _ _ _ _ _ hne]; exact c, d⟩
theorem own_ne_iter {w : World} {B e size n : Nat} {v : Value} {xs : List Value} {k : Nat} {s : ByteArray} {pos : Nat} (h : w.ownsRow B e size v n xs) (hk : w.heap[k]? = some (.stringIter s pos)) : some k ≠ v.ownBlock := by
  obtain ⟨h1, h2⟩ := h
  rcases h2 with ⟨rfl, _⟩ | ⟨g, cap, cur, rfl, b, c, d⟩
  · simp [Value.ownBlock]
  · intro e
    obtain rfl : k = g := by simpa [Value.ownBlock] using e
    rw [hk] at c
    cases c
theorem info_parts_i32 : ∃ i, Tryz.prog.info? 21 = some i ∧ i.zero = some (.int .i32 0) ∧ i.size = 1 ∧ i.bytes = 4 := by
  obtain ⟨i, hi, h2⟩ := Option.map_eq_some_iff.1 info_i32
  obtain ⟨h3, h4⟩ := Prod.mk.inj h2
  obtain ⟨h5, h6⟩ := Prod.mk.inj h4
  exact ⟨i, hi, h3, h5, h6⟩
theorem cell_one_new (w : World) (a : Value) (t : TypeId) : ∀ j u, [a][j]? = some u → (w.alloc (.cells #[a] t)).cell? ((⟨w.heap.size, 0, none⟩ : Addr).add j) = some u := by
  intro j u hj
  match j, hj with
  | 0, hj => simp at hj; subst hj; simp [Addr.add]
  | j + 1, hj => simp at hj
theorem decode_pos (s : ByteArray) (pos : Nat) : 1 ≤ (Utf8.decode s pos).2 := by
  rw [← Lib.decodeL_drop]
  exact Lib.decodeL_width _
theorem drop_ne {s : ByteArray} {a : Nat} (h : a < s.size) : s.data.toList.drop a ≠ [] := by
  intro e
  have h1 := congrArg List.length e
  rw [List.length_drop] at h1
  have e2 : s.data.toList.length = s.size := rfl
  rw [e2, List.length_nil] at h1
  omega
theorem decode_end (s : ByteArray) (pos : Nat) (h : pos < s.size) : pos + (Utf8.decode s pos).2 ≤ s.size := by
  have h1 := Lib.decodeL_le _ (drop_ne h)
  rw [Lib.decodeL_drop, List.length_drop] at h1
  have e2 : s.data.toList.length = s.size := rfl
  omega
theorem runes_at (s : ByteArray) (pos : Nat) (h : pos < s.size) : runesL (s.data.toList.drop pos) = ((Utf8.decode s pos).1 : Int) :: runesL (s.data.toList.drop (pos + (Utf8.decode s pos).2)) := by
  rw [runesL_step _ (drop_ne h), Lib.decodeL_drop, List.drop_drop]

set_option maxRecDepth 100000 in
set_option maxHeartbeats 2000000 in
theorem points_ok (s : ByteArray) (w : World) (hT : Tabs w) (hs : s.size ≤ 1099511627776) (hb : badS s < 0) :
    Calls Tryz.prog 104 #[.string s] w fun e w' => ∃ a cap, e = .returned (.tuple #[.slice a (runesL s.data.toList).length cap, .agg #[.int .i64 0, .int .i64 0]]) ∧ IsRow w' a (runesL s.data.toList).length cap (runesL s.data.toList) ∧ Ext w w' := by
  obtain ⟨zs, hzs⟩ : ∃ zs, zs = runesL s.data.toList := ⟨_, rfl⟩
  have hvs : validS s = true := by rw [validS_eq]; exact decide_eq_true hb
  have HC : Hid (∀ w, Tabs w → Calls Tryz.prog 134 #[.string s] w fun e w' => e = .returned (.int .i64 zs.length) ∧ Ext w w') := fun w hT => by
    have := count_yes s w hT hs hvs
    rwa [runeCount_eq, ← hzs] at this
  have hzl : zs.length ≤ s.size := by
    have := Lib.runeCount_le s
    rwa [runeCount_eq, ← hzs] at this
  rw [← hzs]
  have HZ := Lib.hid hzs
  have HT := Lib.hid hT
  have HK : Hid (∀ w, Tabs w → Calls Tryz.prog 66 #[.string s] w fun e w' => e = .returned (.agg #[.int .i64 0, .int .i64 0]) ∧ Ext w w') := fun w hT => check_no s w hT hs hb
  clear hzs hT hb hvs
  go_enter Tryz.func104, Tryz.ntmps104
  go_wp2_with (first | (go_at_call 66; refine (HK.out _ (HT.out.ext ((Ext.refl w).alloc _))).mono ?_; rintro e w1 ⟨rfl, hb1⟩) | (go_at_call 24; refine (bad_no _ _ _ (by decide)).mono ?_; rintro e w2 ⟨rfl, hb2⟩; have hx2 : Ext (w.alloc (.cells #[.int .i64 0, .int .i64 0] 54)) w2 := hb1.trans (((Ext.refl w1).alloc _).trans hb2); have T2 := (HT.out.ext ((Ext.refl w).alloc _)).ext hx2) | (go_at_call 134; refine (HC.out _ T2).mono ?_; rintro e w3 ⟨rfl, hb3⟩; have hx3 := hx2.trans hb3; obtain ⟨wm, hmk, hown, hgm⟩ := make_runes zs.length (by omega) w3; clear hb1 hb2 hb3 hx2 T2))
  obtain ⟨i0, hi, hz0, hz1, hz2⟩ := info_parts_i32
  have hs3 : w.heap.size + 1 ≤ w3.heap.size := by have := hx3.size; simpa using this
  have hsm := hgm.size
  have hxm : Ext (w.alloc (.cells #[.int .i64 0, .int .i64 0] 54)) wm := Below.grown hx3 hgm hx3.size (by rintro k ⟨⟩)
  have hit0 := World.iter_heap wm s 0
  have hx0 := hxm.alloc (.stringIter s 0)
  have ho0 := (hown (w.heap.size + 1) hs3).alloc (.stringIter s 0)
  obtain ⟨k, hk⟩ : ∃ k, k = wm.heap.size := ⟨_, rfl⟩
  have hkl : w.heap.size + 1 ≤ k := by omega
  rw [← hk] at hit0 ⊢
  clear hown hgm hmk hx3 hxm hs3 hsm
  go_loopw [5] (fun v wr => ∃ (pos : Nat) (dn : List Int), wr.heap[k]? = some (.stringIter s pos) ∧ Ext (w.alloc (.cells #[.int .i64 0, .int .i64 0] 54)) wr ∧ Hid (dn ++ runesL (s.data.toList.drop pos) = zs) ∧ wr.ownsRow (w.heap.size + 1) 21 1 v dn.length (runeCellsOf dn) ∧ pos ≤ s.size) (fun _ wr => s.size - wr.iterPos k)
  case atStart => exact ⟨0, [], hit0, hx0, HZ.out.symm, ho0, by omega⟩
  case round =>
    obtain ⟨pos, dn, hit, hx, HS, hown, hple⟩ := hrel
    clear hit0 hx0 ho0 hk
    have hpos0 := iterPos_of hit
    have hdl : dn.length ≤ zs.length := by rw [← HS.out, List.length_append]; omega
    by_cases hp : pos < s.size
    · have hnx : ∀ ty, (Instr.next (.pointer (some ⟨k, 0, none⟩)) true ty).run Tryz.prog wr = _ := fun ty => Lib.run_next_any_at wr k s pos ty hit hp
      have hwd := decode_pos s pos
      have hwe := decode_end s pos hp
      have hrs := runes_at s pos hp
      have hit2 := Lib.iterAt_heap wr k s pos (pos + (Utf8.decode s pos).2) hit
      have hx2 : Ext (w.alloc (.cells #[.int .i64 0, .int .i64 0] 54)) (wr.iterAt k s (pos + (Utf8.decode s pos).2)) := Lib.below_iterAt hx (k := k) (by simpa using hkl) s (pos + (Utf8.decode s pos).2)
      have hown2 := own_iterAt hown hit (pos + (Utf8.decode s pos).2)
      have HR := Lib.hid hrs
      clear hrs
      generalize (Utf8.decode s pos).1 = p at hnx HR
      generalize (Utf8.decode s pos).2 = q at hnx HR hwd hwe hit2 hx2 hown2
      obtain ⟨W1, hW1⟩ : ∃ W1, W1 = wr.iterAt k s (pos + q) := ⟨_, rfl⟩
      rw [← hW1] at hnx hit2 hx2 hown2
      have hBlt := lt_of_block hit2
      have hne2 := own_ne_iter hown2 hit2
      clear hW1 hit hown hx
      go_wp2_with (first
        | (at_builtin; refine wpList_append_own _ rfl _ _ 58 rfl (w.heap.size + 1) 21 i0 (.int .i32 0) 1 4 Tryz.underlying58 hi hz0 hz1 hz2 rfl (by decide) _ _ _ rfl (hown2.alloc _) ⟨W1.heap.size, 0, none⟩ 1 1 [.int .i32 (p : Int)] rfl rfl (cell_one_new _ _ _) (fun x hx => by simp at hx; subst hx; rfl) (by unfold maxLen; omega) (by omega) (by simp; omega) ?_; intro v' w3 hown' hgrow3 hnil3
           have hit3 : w3.heap[k]? = some (.stringIter s (pos + q)) := by
             rw [hgrow3.block k (by simp; omega) hne2, Below.heap_alloc _ _ _ hBlt]; exact hit2
           have hx3 : Ext (w.alloc (.cells #[.int .i64 0, .int .i64 0] 54)) w3 := Below.grown (hx2.alloc _) hgrow3 (by have := hx2.size; simp at this ⊢; omega) (fun j hj => by have := (hown2.lt _ hj).1; simpa using this)
           clear hgrow3 hnil3))
      go_roundw
      case rel =>
        refine ⟨pos + q, dn ++ [(p : Int)], hit3, hx3, ?_, ?_, hwe⟩
        · show _ = zs
          rw [← HS.out, HR.out, List.append_assoc]
          rfl
        · have e : runeCellsOf (dn ++ [(p : Int)]) = runeCellsOf dn ++ [.int .i32 (p : Int)] := by simp [runeCellsOf]
          rw [e, List.length_append]
          exact hown'
      case measure =>
        rw [iterPos_of hit3, hpos0]
        omega
    · have hnx : ∀ ty, (Instr.next (.pointer (some ⟨k, 0, none⟩)) true ty).run Tryz.prog wr = _ := fun ty => Lib.run_next_end_at wr k s pos ty hit hp
      have hdz : dn = zs := by
        have e : s.data.toList.drop pos = [] := List.drop_eq_nil_of_le (by have e2 : s.data.toList.length = s.size := rfl; omega)
        have h1 := HS.out
        rw [e, runesL_nil, List.append_nil] at h1
        exact h1
      subst hdz
      obtain ⟨b, hbe⟩ : ∃ b, b = w.heap.size := ⟨_, rfl⟩
      have hblk : wr.heap[b]? = some (.cells #[.int .i64 0, .int .i64 0] 54 (0, 0)) := by
        rw [hbe]
        exact (hx.block w.heap.size (by simp)).trans (heap_alloc_new w _)
      have hxw : Ext w wr := ((Ext.refl w).alloc _).trans hx
      have hlb : w.heap.size ≤ b := by omega
      have hbb : b < w.heap.size + 1 := by omega
      have hof := ownsRow_setCell_below (ownsRow_setCell_below hown (a := ⟨b, 0, none⟩) hbb (.int .i64 0)) (a := ⟨b, 1, none⟩) hbb (.int .i64 0)
      have hfin := set_two hblk (.int .i64 0) (.int .i64 0)
      have hxf : Ext w ((wr.setCell ⟨b, 0, none⟩ (.int .i64 0)).setCell ⟨b, 1, none⟩ (.int .i64 0)) := Ext.setCell (Ext.setCell hxw hlb _) hlb _
      have hc0 : wr.cell? ⟨b, 0, none⟩ = some (.int .i64 0) := by simp [World.cell?, hblk]
      have hc1 : wr.cell? ⟨b, 1, none⟩ = some (.int .i64 0) := by simp [World.cell?, hblk]
      have hf0 : wr.frozen? ⟨b, 0, none⟩ = false := by simp [World.frozen?, hblk]
      have hf1 : wr.frozen? ⟨b, 1, none⟩ = false := by simp [World.frozen?, hblk]
      rw [← hbe]
      clear hbe hx hown
      have hwf := Lib.hid hof
      clear hof
      go_wp2
      generalize (wr.setCell ⟨b, 0, none⟩ (.int .i64 0)).setCell ⟨b, 1, none⟩ (.int .i64 0) = wf at hfin hxf hwf ⊢
      obtain ⟨a, cap, he, hrow⟩ := own_row hwf.out
      have k0 : wf.cell? ⟨b, 0, none⟩ = some (.int .i64 0) := by simp [World.cell?, hfin]
      have k1 : wf.cell? ⟨b, 1, none⟩ = some (.int .i64 0) := by simp [World.cell?, hfin]
      refine bodyPost_ret (v := .tuple #[.slice a dn.length cap, .agg #[.int .i64 0, .int .i64 0]]) (by simp [results, Tryz.results104, go_sem, k0, k1, he]) rfl ?_
      exact ⟨a, cap, rfl, hrow, hxf⟩
end Go.Proofs.YtndopjmdpmkgeaaGreatDoor
namespace Go.Proofs.YtndopjmdpmkgeaaGreatDoor
open Go Go.ChangeShapes Go.WideShapes Go.ChangeAt Go.RowKit
set_option linter.unusedSimpArgs false
set_option linter.unusedVariables false

theorem IsRow.ext {w w' : World} {a : Option Addr} {len cap : Nat} {zs : List Int} (h : IsRow w a len cap zs) (k : Ext w w') : IsRow w' a len cap zs := by
  obtain ⟨h1, h2⟩ := h
  refine ⟨h1, ?_⟩
  rcases h2 with h2 | ⟨x, off, rfl, hc, hcell⟩
  · exact .inl h2
  · exact .inr ⟨x, off, rfl, hc, fun j z hj => (World.cell?_of_block (k.block x (World.block_lt_of_cell? w _ (hcell j z hj)))).trans (hcell j z hj)⟩
/-- The text of signs. -/
def txt (zs : List Int) : ByteArray := ⟨(encs zs).toArray⟩
theorem txt_append (a : List Int) (p : Int) : txt a ++ signText p = txt (a ++ [p]) := by
  have h : (txt a ++ signText p).data = (txt (a ++ [p])).data := by
    rw [ByteArray.data_append]
    unfold txt signText
    rw [encs_app, encs_one]
    simp
  exact ByteArray.ext h
theorem txt_size (a : List Int) : (txt a).size ≤ 4 * a.length := encs_le a
theorem sign_size (p : Int) : (signText p).size ≤ 4 := enc_le p
end Go.Proofs.YtndopjmdpmkgeaaGreatDoor

namespace Go.Proofs.YtndopjmdpmkgeaaGreatDoor
open Go Go.ChangeShapes Go.WideShapes Go.ChangeAt Go.RowKit
set_option linter.unusedSimpArgs false
set_option linter.unusedVariables false

/-- A list of texts: none, or in memory. -/
def IsTexts (w : World) (a : Option Addr) (len cap : Nat) (xs : List ByteArray) : Prop :=
  xs.length = len ∧ (len = 0 ∨ ∃ (x off : Nat), a = some ⟨x, off, none⟩ ∧ len ≤ cap ∧ ∀ (j : Nat) y, xs[j]? = some y → w.cell? ⟨x, off + j, none⟩ = some (.string y))
theorem IsTexts.ext {w w' : World} {a : Option Addr} {len cap : Nat} {xs : List ByteArray} (h : IsTexts w a len cap xs) (k : Ext w w') : IsTexts w' a len cap xs := by
  obtain ⟨h1, h2⟩ := h
  refine ⟨h1, ?_⟩
  rcases h2 with h2 | ⟨x, off, rfl, hc, hcell⟩
  · exact .inl h2
  · exact .inr ⟨x, off, rfl, hc, fun j z hj => (World.cell?_of_block (k.block x (World.block_lt_of_cell? w _ (hcell j z hj)))).trans (hcell j z hj)⟩
/-- Texts as cells. -/
def textCells (l : List ByteArray) : List Value := l.map fun z => .string z
end Go.Proofs.YtndopjmdpmkgeaaGreatDoor

namespace Go.Proofs.YtndopjmdpmkgeaaGreatDoor
open Go.ChangeShapes Go.WideShapes Go.ChangeAt Go.RowKit
set_option linter.unusedSimpArgs false
set_option linter.unusedVariables false

/-- A reader's block: its text, how far it was read, its base, its fault's number and place. -/
def rdr (t : ByteArray) (r ba er pl : Int) : Obj := .cells #[.string t, .int .i64 r, .int .i64 ba, .int .i64 er, .int .i64 pl] 177 (0, 0)
/-- In block b stands a reader. -/
structure Rdr (w : World) (b : Nat) (t : ByteArray) (r : Nat) (ba er pl : Int) : Prop where
  here : w.heap[b]? = some (rdr t r ba er pl)
  le : r ≤ t.size
  small : t.size ≤ 1099511627776
  lo : 0 ≤ ba
  hi : ba ≤ 1099511627776
theorem Rdr.cells {w : World} {b : Nat} {t : ByteArray} {r : Nat} {ba er pl : Int} (h : Rdr w b t r ba er pl) :
    w.cell? ⟨b, 0, none⟩ = some (.string t) ∧ w.cell? ⟨b, 1, none⟩ = some (.int .i64 r) ∧ w.cell? ⟨b, 2, none⟩ = some (.int .i64 ba) ∧ w.cell? ⟨b, 3, none⟩ = some (.int .i64 er) ∧ w.cell? ⟨b, 4, none⟩ = some (.int .i64 pl) := by
  simp [World.cell?, h.here, rdr]
theorem Rdr.free {w : World} {b : Nat} {t : ByteArray} {r : Nat} {ba er pl : Int} (h : Rdr w b t r ba er pl) (o : Nat) : w.frozen? ⟨b, o, none⟩ = false := by
  simp [World.frozen?, h.here, rdr]
theorem Rdr.lt {w : World} {b : Nat} {t : ByteArray} {r : Nat} {ba er pl : Int} (h : Rdr w b t r ba er pl) : b < w.heap.size := lt_of_block h.here
theorem Rdr.ext {w w' : World} {b : Nat} {t : ByteArray} {r : Nat} {ba er pl : Int} (h : Rdr w b t r ba er pl) (k : Ext w w') : Rdr w' b t r ba er pl :=
  ⟨(k.block b h.lt).trans h.here, h.le, h.small, h.lo, h.hi⟩
theorem Rdr.mod {w w' : World} {b g : Nat} {t : ByteArray} {r : Nat} {ba er pl : Int} (h : Rdr w b t r ba er pl) (k : Mod g w w') (hg : b ≠ g) : Rdr w' b t r ba er pl :=
  ⟨(k.block b h.lt (by simpa using hg)).trans h.here, h.le, h.small, h.lo, h.hi⟩

set_option maxHeartbeats 400000 in
theorem fault_at (w : World) (b : Nat) (t : ByteArray) (r : Nat) (ba er pl : Int) (h : Rdr w b t r ba er pl) : Calls Tryz.prog 117 #[.pointer (some ⟨b, 0, none⟩)] w fun e w' => e = .returned (.agg #[.int .i64 er, .int .i64 pl]) ∧ Ext w w' := by
  obtain ⟨c0, c1, c2, c3, c4⟩ := h.cells
  have hl := h.lt
  clear h
  go_enter Tryz.func117, Tryz.ntmps117
  go_wp2
  exact bodyPost_ret (v := .agg #[.int .i64 er, .int .i64 pl]) (by simp [results, Tryz.results117, go_sem]) rfl ⟨rfl, (by repeat (first | exact Ext.refl _ | apply Ext.drew | refine Ext.alloc ?_ _ | refine Ext.setCell ?_ (by simp) _))⟩

end Go.Proofs.YtndopjmdpmkgeaaGreatDoor

