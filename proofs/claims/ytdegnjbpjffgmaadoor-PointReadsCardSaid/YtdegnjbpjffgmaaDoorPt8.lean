/-
  Lists that are the same; the document's text of signs.
-/
import Derived.Test.YtdegnjbpjffgmaaDoorPt7
namespace Go.Proofs.YtdegnjbpjffgmaaDoor
open Go Go.ChangeShapes Go.WideShapes Go.ChangeAt Go.RowKit
set_option linter.unusedSimpArgs false
set_option linter.unusedVariables false

theorem IsRow.ext {w w' : World} {a : Option Addr} {len cap : Nat} {zs : List Int} (h : IsRow w a len cap zs) (k : Ext w w') : IsRow w' a len cap zs := by
  obtain ⟨h1, h2⟩ := h
  refine ⟨h1, ?_⟩
  rcases h2 with h2 | ⟨x, off, rfl, hc, hcell⟩
  · exact .inl h2
  · exact .inr ⟨x, off, rfl, hc, fun j z hj => (World.cell?_of_block (k.block x (World.block_lt_of_cell? w _ (hcell j z hj)))).trans (hcell j z hj)⟩
set_option maxRecDepth 100000 in
theorem same_none (a1 : Option Addr) (c1 : Nat) (a2 : Option Addr) (c2 : Nat) (w : World) :
    Calls Tryd.prog 15 #[.slice a1 0 c1, .slice a2 0 c2] w fun e w' => e = .returned (.bool true) ∧ Ext w w' := by
  go_enter Tryd.func15, Tryd.ntmps15
  go_wp2
  refine wp_loop_rounds 1 ?_
  rw [rounds_succ]
  go_wp2
  go_ret
  exact ⟨rfl, Ext.refl _⟩
set_option maxRecDepth 100000 in
set_option maxHeartbeats 1000000 in
theorem same_in (x1 o1 c1 x2 o2 c2 : Nat) (zs : List Int) (w : World) (h1 : ∀ (j : Nat) z, zs[j]? = some z → w.cell? ⟨x1, o1 + j, none⟩ = some (.int .i32 z)) (h2 : ∀ (j : Nat) z, zs[j]? = some z → w.cell? ⟨x2, o2 + j, none⟩ = some (.int .i32 z)) (hl : zs.length ≤ 1099511627776) :
    Calls Tryd.prog 15 #[.slice (some ⟨x1, o1, none⟩) zs.length c1, .slice (some ⟨x2, o2, none⟩) zs.length c2] w fun e w' => e = .returned (.bool true) ∧ Ext w w' := by
  have H1 := Lib.hid h1
  have H2 := Lib.hid h2
  clear h1 h2
  go_enter Tryd.func15, Tryd.ntmps15
  go_wp2
  go_loopw [13] (fun i wr => ∃ (k : Nat), k ≤ zs.length ∧ i = .int .i64 k ∧ Ext w wr) (fun i _ => zs.length - (intOf i).toNat)
  case atStart => exact ⟨0, by omega, rfl, Ext.refl _⟩
  case round =>
    obtain ⟨k, hk, rfl, hx⟩ := hrel
    by_cases hlt : k < zs.length
    · have p1 := H1.out k zs[k] (by simp [hlt])
      have p2 := H2.out k zs[k] (by simp [hlt])
      have q1 : wr.cell? ⟨x1, o1 + k, none⟩ = some (.int .i32 zs[k]) := (World.cell?_of_block (w := w) (hx.block x1 (World.block_lt_of_cell? w _ p1))).trans p1
      have q2 : wr.cell? ⟨x2, o2 + k, none⟩ = some (.int .i32 zs[k]) := (World.cell?_of_block (w := w) (hx.block x2 (World.block_lt_of_cell? w _ p2))).trans p2
      clear p1 p2
      have b1 : (k : Int) < (zs.length : Int) := by omega
      have b0 : (0 : Int) ≤ (k : Int) := by omega
      generalize zs[k] = p at q1 q2
      go_wp2
      go_quiet (fail)
      go_wp2
      go_roundw
      case rel => exact ⟨k + 1, by omega, by go_num, hx.drewN _⟩
      case measure => simp [intOf]; omega
    · go_wp2
      go_ret
      exact ⟨rfl, hx⟩
theorem same_row {w : World} {a1 a2 : Option Addr} {n c1 c2 : Nat} {zs : List Int} (h1 : IsRow w a1 n c1 zs) (h2 : IsRow w a2 n c2 zs) (hl : zs.length ≤ 1099511627776) :
    Calls Tryd.prog 15 #[.slice a1 n c1, .slice a2 n c2] w fun e w' => e = .returned (.bool true) ∧ Ext w w' := by
  obtain ⟨rfl, r1⟩ := h1
  obtain ⟨_, r2⟩ := h2
  by_cases h0 : zs.length = 0
  · rw [h0]
    exact same_none _ _ _ _ _
  · rcases r1 with r1 | ⟨x1, o1, rfl, _, k1⟩
    · exact absurd r1 h0
    · rcases r2 with r2 | ⟨x2, o2, rfl, _, k2⟩
      · exact absurd r2 h0
      · exact same_in _ _ _ _ _ _ zs w k1 k2 hl

/-- The text of signs. -/
def txt (zs : List Int) : ByteArray := ⟨(encs zs).toArray⟩
theorem txt_append (a : List Int) (p : Int) : txt a ++ signText p = txt (a ++ [p]) := by
  have h : (txt a ++ signText p).data = (txt (a ++ [p])).data := by
    rw [ByteArray.data_append]
    unfold txt signText
    rw [encs_app, encs_one]
    simp
  exact ByteArray.ext h
theorem txt_size (a : List Int) : (txt a).size ≤ 4 * a.length := encs_le a
theorem sign_size (p : Int) : (signText p).size ≤ 4 := enc_le p
theorem rtext_none (a : Option Addr) (cap : Nat) (w : World) :
    Calls Tryd.prog 14 #[.slice a 0 cap] w fun e w' => e = .returned (.string ⟨#[]⟩) ∧ Ext w w' := by
  go_enter Tryd.func14, Tryd.ntmps14
  go_wp2
  refine wp_loop_rounds 1 ?_
  rw [rounds_succ]
  go_wp2
  go_ret
  exact ⟨rfl, Ext.refl _⟩
set_option maxRecDepth 100000 in
set_option maxHeartbeats 1000000 in
theorem rtext_in (x off cap : Nat) (zs : List Int) (w : World) (hc : ∀ (j : Nat) z, zs[j]? = some z → w.cell? ⟨x, off + j, none⟩ = some (.int .i32 z)) (h1 : 1 ≤ zs.length) (hl : zs.length ≤ 1099511627776) (ha : allSigns zs = true) :
    Calls Tryd.prog 14 #[.slice (some ⟨x, off, none⟩) zs.length cap] w fun e w' => e = .returned (.string (txt zs)) ∧ Ext w w' := by
  have hxl : x < w.heap.size := World.block_lt_of_cell? w _ (hc 0 (zs[0]) (by simp))
  have HC := Lib.hid hc
  have HA := Lib.hid ha
  clear hc ha
  go_enter Tryd.func14, Tryd.ntmps14
  go_wp2
  go_loopw [3, 4] (fun u i wr => ∃ (k : Nat) (t : ByteArray), k ≤ zs.length ∧ i = .int .i64 k ∧ u = .string t ∧ Ext w wr ∧ Hid (t = txt (zs.take k)) ∧ t.size ≤ 4 * k) (fun _ i _ => zs.length - (intOf i).toNat)
  case atStart => exact ⟨0, ⟨#[]⟩, by omega, rfl, rfl, Ext.refl _, rfl, by decide⟩
  case round =>
    obtain ⟨k, t, hk, rfl, rfl, hx, HT, hts⟩ := hrel
    by_cases hlt : k < zs.length
    · have hc0 := (World.cell?_of_block (w := w) (hx.block x hxl)).trans (HC.out k zs[k] (by simp [hlt]))
      have htk : zs.take (k + 1) = zs.take k ++ [zs[k]] := List.take_succ_eq_append_getElem hlt
      have hp : isSign zs[k] = true := by
        have := HA.out
        unfold allSigns at this
        rw [List.all_eq_true] at this
        exact this _ (List.getElem_mem hlt)
      have b1 : (k : Int) < (zs.length : Int) := by omega
      generalize zs[k] = p at hc0 htk hp
      have hss := sign_size p
      have hta := txt_append (zs.take k) p
      rw [← htk, ← HT.out] at hta
      have HB : Hid (∀ w, Calls Tryd.prog 12 #[.int .i32 p] w fun e w' => e = .returned (.string (signText p)) ∧ Ext w w') := fun w => rbytes_any p w hp
      have HTA := Lib.hid hta
      clear htk hp hta HT
      generalize signText p = g at hss HB HTA
      go_wp2_with (go_at_call 12; refine (HB.out _).mono ?_; rintro e w2 ⟨rfl, hb2⟩)
      go_roundw
      case rel =>
        refine ⟨k + 1, t ++ g, by omega, by go_num, rfl, hx.trans hb2, HTA.out, ?_⟩
        rw [ByteArray.size_append]
        omega
      case measure => simp [intOf]; omega
    · have hkl : k = zs.length := by omega
      have hte : t = txt zs := by
        have := HT.out
        rwa [hkl, List.take_length] at this
      have HE := Lib.hid hte
      clear hte HT
      go_wp2
      go_ret
      exact ⟨by rw [← HE.out]; rfl, hx⟩
theorem rtext_row {w : World} {a : Option Addr} {n c : Nat} {zs : List Int} (h : IsRow w a n c zs) (hl : zs.length ≤ 1099511627776) (ha : allSigns zs = true) :
    Calls Tryd.prog 14 #[.slice a n c] w fun e w' => e = .returned (.string (txt zs)) ∧ Ext w w' := by
  obtain ⟨rfl, r⟩ := h
  by_cases h0 : zs.length = 0
  · have e : zs = [] := List.eq_nil_of_length_eq_zero h0
    subst e
    exact rtext_none _ _ _
  · rcases r with r | ⟨x, off, rfl, _, k⟩
    · exact absurd r h0
    · exact rtext_in x off c zs w k (by omega) hl ha
end Go.Proofs.YtdegnjbpjffgmaaDoor
