/-
  The document's answers of layer 4 (2): pairs joined, and one over the other.
-/
import Derived.Test.YtealeedbkjiabaaDoorRn1
namespace Go.Proofs.YtealeedbkjiabaaDoor
open Go Go.ChangeShapes Go.WideShapes Go.ChangeAt Go.RowKit
set_option linter.unusedSimpArgs false
set_option linter.unusedVariables false

theorem joinP_some {l more r : List Pr} (h : joinP l more = some r) : (∀ (i : Nat) (q : Pr), more[i]? = some q → findP l q.1 < 0) ∧ more.foldl putP l = r := by
  unfold joinP at h
  split at h
  · cases h
  · rename_i hn
    refine ⟨fun i q hq => ?_, Option.some.inj h⟩
    have : (more.any fun q => decide (0 ≤ findP l q.1)) = false := by simpa using hn
    rw [List.any_eq_false] at this
    have := this q (List.mem_of_getElem? hq)
    simp at this
    omega
theorem joinP_none {l more : List Pr} (h : joinP l more = none) : ∃ (i : Nat) (q : Pr), more[i]? = some q ∧ 0 ≤ findP l q.1 := by
  unfold joinP at h
  split at h
  · rename_i hn
    rw [List.any_eq_true] at hn
    obtain ⟨q, hq, hd⟩ := hn
    obtain ⟨i, hi⟩ := List.getElem?_of_mem hq
    exact ⟨i, q, hi, by simpa using hd⟩
  · cases h
theorem foldl_put_len : ∀ (more l : List Pr), (more.foldl putP l).length = l.length + more.length
  | [], l => rfl
  | q :: more, l => by
    rw [List.foldl_cons, foldl_put_len more, putP_len, List.length_cons]
    omega
theorem foldl_take_succ {f : List Pr → Pr → List Pr} {more l : List Pr} {k : Nat} {q : Pr} (h : more[k]? = some q) : (more.take (k + 1)).foldl f l = f ((more.take k).foldl f l) q := by
  rw [List.take_add_one, h]
  simp
set_option maxRecDepth 100000 in
set_option maxHeartbeats 1000000 in
theorem rjoin_no (a : Option Addr) (cap : Nat) (l : List Pr) (a2 : Option Addr) (cap2 : Nat) (more : List Pr) (w : World) (h : IsPairs w a l.length cap l) (h2 : IsPairs w a2 more.length cap2 more) (hl : l.length ≤ 100000000) (hm : more.length ≤ 100000000) (hj : joinP l more = none) :
    Calls Tryd.prog 43 #[.slice a l.length cap, .slice a2 more.length cap2] w fun e w' => e = .returned (.tuple #[.slice none 0 0, .bool false]) ∧ Ext w w' := by
  have HJ := Lib.hid (joinP_none hj)
  clear hj
  go_enter Tryd.func43, Tryd.ntmps43
  go_wp2
  go_loopw [6] (fun i wr => ∃ k : Nat, k ≤ more.length ∧ i = .int .i64 k ∧ Ext w wr ∧ Hid (∀ (i : Nat) (q : Pr), i < k → more[i]? = some q → findP l q.1 < 0)) (fun i _ => more.length - (intOf i).toNat)
  case atStart => exact ⟨0, by omega, rfl, Ext.refl _, fun i q h => by omega⟩
  case round =>
    obtain ⟨k, hk, rfl, hx, HN⟩ := hrel
    by_cases hlt : k < more.length
    · obtain ⟨x, off, rfl, hxl, hcell⟩ := pairs_at h2 (by omega)
      obtain ⟨q, hq⟩ : ∃ q, more[k]? = some q := ⟨more[k], by simp [hlt]⟩
      have hc0 := (World.cell?_of_block (w := w) (hx.block x hxl)).trans (hcell k q hq).1
      have HQ := Lib.hid hq
      have HFn := Lib.hid (rfind a cap l q.1 wr (h.ext hx) (by omega))
      clear hcell hq
      by_cases hf : findP l q.1 < 0
      · have HX := Lib.hid hf
        generalize findP l q.1 = v at HFn hf
        go_wp2_with (go_at_call 20; refine HFn.out.mono ?_; rintro e w2 ⟨rfl, hb2⟩)
        go_roundw
        case rel =>
          refine ⟨k + 1, by omega, by go_num, hx.trans hb2, fun i r hi hr => ?_⟩
          by_cases e : i = k
          · subst e
            rw [HQ.out] at hr
            cases hr
            exact HX.out
          · exact HN.out i r (by omega) hr
        case measure => simp [intOf]; omega
      · have hf2 : 0 ≤ findP l q.1 := by omega
        generalize findP l q.1 = v at HFn hf hf2
        go_wp2_with (go_at_call 20; refine HFn.out.mono ?_; rintro e w2 ⟨rfl, hb2⟩)
        go_ret2
        exact ⟨rfl, hx.trans hb2⟩
    · exfalso
      obtain ⟨i, q, hq, hf⟩ := HJ.out
      have := HN.out i q (by have := (List.getElem?_eq_some_iff.1 hq).1; omega) hq
      omega
set_option maxRecDepth 100000 in
set_option maxHeartbeats 2000000 in
theorem rjoin_yes (a : Option Addr) (cap : Nat) (l : List Pr) (a2 : Option Addr) (cap2 : Nat) (more r : List Pr) (w : World) (h : IsPairs w a l.length cap l) (h2 : IsPairs w a2 more.length cap2 more) (hl : l.length ≤ 100000000) (hm : more.length ≤ 100000000) (hj : joinP l more = some r) :
    Calls Tryd.prog 43 #[.slice a l.length cap, .slice a2 more.length cap2] w fun e w' => ∃ a' cap', e = .returned (.tuple #[.slice a' r.length cap', .bool true]) ∧ IsPairs w' a' r.length cap' r ∧ Ext w w' := by
  obtain ⟨hn, hr⟩ := joinP_some hj
  have HN := Lib.hid hn
  have HR := Lib.hid hr
  clear hj hn hr
  go_enter Tryd.func43, Tryd.ntmps43
  go_wp2
  go_loopw [6] (fun i wr => ∃ k : Nat, k ≤ more.length ∧ i = .int .i64 k ∧ Ext w wr) (fun i _ => more.length - (intOf i).toNat)
  case atStart => exact ⟨0, by omega, rfl, Ext.refl _⟩
  case round =>
    obtain ⟨k, hk, rfl, hx⟩ := hrel
    by_cases hlt : k < more.length
    · obtain ⟨x, off, rfl, hxl, hcell⟩ := pairs_at h2 (by omega)
      obtain ⟨q, hq⟩ : ∃ q, more[k]? = some q := ⟨more[k], by simp [hlt]⟩
      have hc0 := (World.cell?_of_block (w := w) (hx.block x hxl)).trans (hcell k q hq).1
      have HFn := Lib.hid (rfind a cap l q.1 wr (h.ext hx) (by omega))
      have hf := HN.out k q hq
      clear hcell hq
      generalize findP l q.1 = v at HFn hf
      go_wp2_with (go_at_call 20; refine HFn.out.mono ?_; rintro e w2 ⟨rfl, hb2⟩)
      go_roundw
      case rel => exact ⟨k + 1, by omega, by go_num, hx.trans hb2⟩
      case measure => simp [intOf]; omega
    · obtain ⟨wo, hwo⟩ : ∃ wo, wo = wr := ⟨_, rfl⟩
      have hxo : Ext w wo := by rw [hwo]; exact hx
      rw [← hwo]
      clear hwo hx
      go_wp2
      go_loopw [0, 7] (fun v i wr => ∃ (k : Nat) (a' : Option Addr) (cap' : Nat) (cur : List Pr), k ≤ more.length ∧ i = .int .i64 k ∧ v = .slice a' cur.length cap' ∧ Ext wo wr ∧ IsPairs wr a' cur.length cap' cur ∧ Hid (cur = (more.take k).foldl putP l)) (fun _ i _ => more.length - (intOf i).toNat)
      case atStart => exact ⟨0, a, cap, l, by omega, rfl, rfl, Ext.refl _, h.ext hxo, rfl⟩
      case round =>
        obtain ⟨k2, a', cap', cur, hk2, rfl, rfl, hx, hrow, HC⟩ := hrel
        have hcl : cur.length = l.length + k2 := by rw [HC.out, foldl_put_len, List.length_take]; omega
        have hcb : cur.length ≤ 1000000000 := by omega
        have HCL := Lib.hid hcl
        clear hcl
        by_cases hlt2 : k2 < more.length
        · obtain ⟨x, off, rfl, hxl, hcell⟩ := pairs_at h2 (by omega)
          obtain ⟨q, hq⟩ : ∃ q, more[k2]? = some q := ⟨more[k2], by simp [hlt2]⟩
          have hc := hcell k2 q hq
          have hxw := hxo.trans hx
          have hc0 := (World.cell?_of_block (w := w) (hxw.block x hxl)).trans hc.1
          have hc1 := (World.cell?_of_block (w := w) (hxw.block x hxl)).trans hc.2
          have HP := Lib.hid (rput a' cap' cur q wr hrow hcb)
          have HS : Hid (putP cur q = (more.take (k2 + 1)).foldl putP l) := by show _ = _; rw [foldl_take_succ hq, HC.out]
          have hpl : (putP cur q).length = cur.length + 1 := putP_len cur q
          have HPL := Lib.hid hpl
          clear hcell hc hq hpl
          go_wp2_with (go_at_call 46; refine HP.out.mono ?_; rintro e w3 ⟨a3, cap3, rfl, hrow3, hb3⟩)
          go_roundw
          case rel => exact ⟨k2 + 1, a3, cap3, putP cur q, by omega, by go_num, by rw [HPL.out], hx.trans hb3, by rw [HPL.out]; exact hrow3, HS⟩
          case measure => simp [intOf]; omega
        · have hcr : cur = r := by have := HC.out; rw [List.take_of_length_le (by omega), HR.out] at this; exact this
          subst hcr
          clear HC HCL
          go_wp2
          go_ret2
          exact ⟨a', cap', rfl, hrow, hxo.trans hx⟩
theorem overP_len (l : List Pr) : ∀ (other out : List Pr), (other.foldl (fun out q => if findP l q.1 < 0 then putP out q else out) out).length ≤ out.length + other.length
  | [], out => Nat.le_refl _
  | q :: other, out => by
    have := overP_len l other (if findP l q.1 < 0 then putP out q else out)
    rw [List.foldl_cons, List.length_cons]
    have h2 : (if findP l q.1 < 0 then putP out q else out).length ≤ out.length + 1 := by
      split
      · rw [putP_len]; exact Nat.le_refl _
      · omega
    omega
set_option maxRecDepth 100000 in
set_option maxHeartbeats 2000000 in
theorem rover (a : Option Addr) (cap : Nat) (l : List Pr) (a2 : Option Addr) (cap2 : Nat) (other : List Pr) (w : World) (h : IsPairs w a l.length cap l) (h2 : IsPairs w a2 other.length cap2 other) (hl : l.length ≤ 100000000) (hm : other.length ≤ 100000000) :
    Calls Tryd.prog 24 #[.slice a l.length cap, .slice a2 other.length cap2] w fun e w' => ∃ a' cap', e = .returned (.slice a' (overP l other).length cap') ∧ IsPairs w' a' (overP l other).length cap' (overP l other) ∧ Ext w w' := by
  go_enter Tryd.func24, Tryd.ntmps24
  go_wp2
  go_loopw [5, 6] (fun v i wr => ∃ (k : Nat) (a' : Option Addr) (cap' : Nat) (cur : List Pr), k ≤ other.length ∧ i = .int .i64 k ∧ v = .slice a' cur.length cap' ∧ Ext w wr ∧ IsPairs wr a' cur.length cap' cur ∧ Hid (cur = (other.take k).foldl (fun out q => if findP l q.1 < 0 then putP out q else out) l)) (fun _ i _ => other.length - (intOf i).toNat)
  case atStart => exact ⟨0, a, cap, l, by omega, rfl, rfl, Ext.refl _, h, rfl⟩
  case round =>
    obtain ⟨k, a', cap', cur, hk, rfl, rfl, hx, hrow, HC⟩ := hrel
    have hcb : cur.length ≤ 1000000000 := by
      have := overP_len l (other.take k) l
      rw [← HC.out, List.length_take] at this
      omega
    by_cases hlt : k < other.length
    · obtain ⟨x, off, rfl, hxl, hcell⟩ := pairs_at h2 (by omega)
      obtain ⟨q, hq⟩ : ∃ q, other[k]? = some q := ⟨other[k], by simp [hlt]⟩
      have hc := hcell k q hq
      have HCC : Hid (∀ w', Ext w w' → w'.cell? ⟨x, off + k * 2, none⟩ = some (.int .i64 q.1) ∧ w'.cell? ⟨x, off + k * 2 + 1, none⟩ = some (.int .i32 q.2)) := fun w' hx => ⟨(World.cell?_of_block (w := w) (hx.block x hxl)).trans hc.1, (World.cell?_of_block (w := w) (hx.block x hxl)).trans hc.2⟩
      obtain ⟨hc0, hc1⟩ := HCC.out wr hx
      have HFn := Lib.hid (rfind a cap l q.1 wr (h.ext hx) (by omega))
      by_cases hf : findP l q.1 < 0
      · have HS : Hid (putP cur q = (other.take (k + 1)).foldl (fun out q => if findP l q.1 < 0 then putP out q else out) l) := by show _ = _; rw [foldl_take_succ hq, ← HC.out, if_pos hf]
        have HP : Hid (∀ w', Ext wr w' → _) := fun w' hx' => rput a' cap' cur q w' (hrow.ext hx') hcb
        have HPL := Lib.hid (putP_len cur q)
        clear hcell hc hq
        generalize findP l q.1 = v at HFn hf
        go_wp2_with (first
          | (go_at_call 20; refine HFn.out.mono ?_; rintro e w2 ⟨rfl, hb2⟩; clear hc0 hc1; obtain ⟨hc0, hc1⟩ := HCC.out _ (hx.trans hb2))
          | (go_at_call 46; refine (HP.out _ hb2).mono ?_; rintro e w3 ⟨a3, cap3, rfl, hrow3, hb3⟩))
        go_roundw
        case rel => exact ⟨k + 1, a3, cap3, putP cur q, by omega, by go_num, by rw [HPL.out], (hx.trans hb2).trans hb3, by rw [HPL.out]; exact hrow3, HS⟩
        case measure => simp [intOf]; omega
      · have HS : Hid (cur = (other.take (k + 1)).foldl (fun out q => if findP l q.1 < 0 then putP out q else out) l) := by show _ = _; rw [foldl_take_succ hq, ← HC.out, if_neg hf]
        clear hcell hc hq
        generalize findP l q.1 = v at HFn hf
        go_wp2_with (go_at_call 20; refine HFn.out.mono ?_; rintro e w2 ⟨rfl, hb2⟩)
        go_roundw
        case rel => exact ⟨k + 1, a', cap', cur, by omega, by go_num, rfl, hx.trans hb2, hrow.ext hb2, HS⟩
        case measure => simp [intOf]; omega
    · have hcr : cur = overP l other := by have := HC.out; rw [List.take_of_length_le (by omega)] at this; exact this
      subst hcr
      clear HC
      go_wp2
      go_ret
      exact ⟨a', cap', rfl, hrow, hx⟩
end Go.Proofs.YtealeedbkjiabaaDoor
