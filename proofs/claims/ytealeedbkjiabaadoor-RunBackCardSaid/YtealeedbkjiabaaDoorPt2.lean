/-
  Contracts of package point (2): signs as a text.
-/
import Derived.Test.YtealeedbkjiabaaDoorPt1
import Derived.Test.YtealeedbkjiabaaDoorShelf
namespace Go.Proofs.YtealeedbkjiabaaDoor
open Go Go.ChangeShapes Go.WideShapes Go.ChangeAt Go.RowKit
set_option linter.unusedSimpArgs false
set_option linter.unusedVariables false

theorem append_rune {B : Nat} {v : Value} {n : Nat} {bs : List UInt8} {p : Int} {w : World} (hp : isSign p = true) (hown : w.ownsRow B 5 1 v n (Lib.byteCells bs)) (hlen : n + 4 ≤ 140737488355328) (hB : B ≤ w.heap.size) :
    Calls Tryd.prog 77 #[v, .int .i32 p] w fun e w' => ∃ v', e = .returned v' ∧ w'.ownsRow B 5 1 v' (n + (Lib.encodeRune p).length) (Lib.byteCells (bs ++ Lib.encodeRune p)) ∧ ∃ o, (w.alloc o).grownBy w' v.ownBlock := by
  have h := (isSign_iff p).1 hp
  have hk := Tryd.utf8_AppendRune_plain B v n (Lib.byteCells bs) p (by omega) (by omega) w hown hlen hB
  rw [Lib.runeCells_length, ← Lib.byteCells_encodeRune, ← Lib.byteCells_append] at hk
  exact hk

/-- Are all signs' numbers? -/
def allSigns (zs : List Int) : Bool := zs.all isSign
/-- What the text of some numbers is. -/
def textOut (zs : List Int) : ByteArray := if allSigns zs then ⟨(encs zs).toArray⟩ else ⟨#[]⟩
theorem textOut_yes {zs : List Int} (h : allSigns zs = true) : textOut zs = ⟨(encs zs).toArray⟩ := by unfold textOut; rw [if_pos h]
theorem textOut_no {zs : List Int} (h : allSigns zs = false) : textOut zs = ⟨#[]⟩ := by unfold textOut; rw [if_neg (by rw [h]; decide)]
set_option maxRecDepth 100000 in
set_option maxHeartbeats 1000000 in
theorem text_in (x off cap : Nat) (zs : List Int) (w : World) (hc : ∀ (j : Nat) z, zs[j]? = some z → w.cell? ⟨x, off + j, none⟩ = some (.int .i32 z)) (h1 : 1 ≤ zs.length) (hl : zs.length ≤ 1099511627776) (hcap : zs.length ≤ cap) :
    Calls Tryd.prog 55 #[.slice (some ⟨x, off, none⟩) zs.length cap] w fun e w' => e = .returned (.tuple #[.string (textOut zs), .bool (allSigns zs)]) ∧ Ext w w' := by
  have hxl : x < w.heap.size := World.block_lt_of_cell? w _ (hc 0 (zs[0]) (by simp))
  have HC := Lib.hid hc
  clear hc
  obtain ⟨wm, hmk, hown, hgm⟩ := make_row zs.length (by omega) w
  have hxm : Ext w wm := Below.grown (Ext.refl w) hgm (Nat.le_refl _) (by rintro k ⟨⟩)
  generalize hv0 : (Value.slice (some ⟨w.heap.size, 0, none⟩) 0 zs.length) = v0 at hmk hown
  clear hv0 hgm
  go_enter Tryd.func55, Tryd.ntmps55
  go_wp2
  go_loopw [4, 12] (fun b i wr => ∃ (k n : Nat), k ≤ zs.length ∧ i = .int .i64 k ∧ Ext w wr ∧ Hid ((zs.take k).all isSign = true) ∧ Hid (n ≤ 4 * k) ∧ wr.ownsRow w.heap.size 5 1 b n (Lib.byteCells (encs (zs.take k)))) (fun _ i _ => zs.length - (intOf i).toNat)
  case atStart => exact ⟨0, 0, by omega, rfl, hxm, rfl, Nat.le_refl _, hown⟩
  case round =>
    obtain ⟨k, n, hk, rfl, hx, HA, HN, ho⟩ := hrel
    clear hxm hown
    by_cases hlt : k < zs.length
    · have hc0 := (World.cell?_of_block (w := w) (hx.block x hxl)).trans (HC.out k zs[k] (by simp [hlt]))
      have htk : zs.take (k + 1) = zs.take k ++ [zs[k]] := List.take_succ_eq_append_getElem hlt
      have hmem : zs[k] ∈ zs := List.getElem_mem hlt
      generalize zs[k] = p at hc0 htk hmem
      have HT := Lib.hid htk
      have HM := Lib.hid hmem
      clear htk hmem
      have HL : Hid (n + 4 ≤ 140737488355328) := by have := HN.out; show n + 4 ≤ 140737488355328; omega
      cases hp : isSign p
      · have HP := Lib.hid hp
        have hz : allSigns zs = false := by
          unfold allSigns
          rw [List.all_eq_false]
          exact ⟨p, HM.out, by rw [hp]; decide⟩
        have hto := textOut_no hz
        clear hp
        have HZ := Lib.hid hz
        have HTO := Lib.hid hto
        clear hz hto
        go_wp2_with (first | (go_at_call 76; refine (scalar_any _ _).mono ?_; rw [HP.out]; rintro e w1 ⟨rfl, rfl⟩))
        go_ret2
        exact ⟨by rw [HZ.out, HTO.out]; rfl, hx⟩
      · have HP := Lib.hid hp
        clear hp
        go_wp2_with (first | (go_at_call 76; refine (scalar_any _ _).mono ?_; rw [HP.out]; rintro e w1 ⟨rfl, rfl⟩) | (go_at_call 77; refine (append_rune HP.out ho HL.out hx.size).mono ?_; rintro e w2 ⟨v', rfl, ho2, o, hg2⟩))
        go_roundw
        case rel =>
          refine ⟨k + 1, _, by omega, by go_num, hx.own ho (Nat.le_refl _) hg2, ?_, ?_, by rw [HT.out, encs_app, encs_one]; exact ho2⟩
          · show (zs.take (k + 1)).all isSign = true
            rw [HT.out, List.all_append, HA.out]
            simp [HP.out]
          · have h4 := enc_le p
            have := HN.out
            show n + _ ≤ 4 * (k + 1)
            omega
        case measure => simp [intOf]; omega
    · have hkl : k = zs.length := by omega
      subst hkl
      rw [List.take_length] at ho
      have hs := own_string ho
      have hz : allSigns zs = true := by have := HA.out; rwa [List.take_length] at this
      have HTO := Lib.hid (textOut_yes hz)
      have HZ := Lib.hid hz
      clear hz
      go_wp2
      go_ret2
      exact ⟨by rw [HZ.out, HTO.out]; rfl, hx⟩
theorem text_none (a : Option Addr) (cap : Nat) (w : World) :
    Calls Tryd.prog 55 #[.slice a 0 cap] w fun e w' => e = .returned (.tuple #[.string ⟨#[]⟩, .bool true]) ∧ Ext w w' := by
  obtain ⟨wm, hmk, hown, hgm⟩ := make_row 0 (by omega) w
  have hmk : (Instr.makeSlice 98 (.int .i64 0) (.int .i64 0)).run Tryd.prog w = .ok (.slice (some ⟨w.heap.size, 0, none⟩) 0 0) wm := hmk
  have hxm : Ext w wm := Below.grown (Ext.refl w) hgm (Nat.le_refl _) (by rintro k ⟨⟩)
  have hs := own_string (bs := []) hown
  generalize hv0 : (Value.slice (some ⟨w.heap.size, 0, none⟩) 0 0) = v0 at hmk hown hs
  clear hv0 hgm
  go_enter Tryd.func55, Tryd.ntmps55
  go_wp2
  refine wp_loop_rounds 1 ?_
  rw [rounds_succ]
  go_wp2
  go_ret2
  exact ⟨rfl, hxm⟩
end Go.Proofs.YtealeedbkjiabaaDoor
