/-
  The document's answers of layer 3 (1): units.
-/
import Derived.Test.YtdbjjadgmfgjfaaDoorWd7
import Derived.StillTailTactics
import Derived.Deep.RegionHeld3
import Derived.Deep.AppendLies
namespace Go.Proofs.YtdbjjadgmfgjfaaDoor
open Go Go.ChangeShapes Go.WideShapes Go.ChangeAt Go.RowKit
set_option linter.unusedSimpArgs false
set_option linter.unusedVariables false

theorem runit (big : Bool) (x y : UInt8) (w : World) : Calls Tryd.prog 36 #[.int .u8 x.toNat, .int .u8 y.toNat, .bool big] w fun e w' => e = .returned (.int .i64 (un big x y)) ∧ w' = w := by
  have hx := x.toNat_lt
  have hy := y.toNat_lt
  cases big
  · go_enter Tryd.func36, Tryd.ntmps36
    go_wp2
    go_ret
    exact ⟨by unfold un; simp, rfl⟩
  · go_enter Tryd.func36, Tryd.ntmps36
    go_wp2
    go_ret
    exact ⟨by unfold un; simp, rfl⟩
/-- Whole numbers as cells. -/
def intCells (l : List Int) : List Value := l.map fun z => .int .i64 z
theorem info_i64 : (Tryd.prog.info? 3).map (fun i => (i.zero, i.size, i.bytes)) = some (some (.int .i64 0), 1, 8) := by kernel_rfl
theorem info_parts_i64 : ∃ i, Tryd.prog.info? 3 = some i ∧ i.zero = some (.int .i64 0) ∧ i.size = 1 ∧ i.bytes = 8 := by
  obtain ⟨i, hi, h2⟩ := Option.map_eq_some_iff.1 info_i64
  obtain ⟨h3, h4⟩ := Prod.mk.inj h2
  obtain ⟨h5, h6⟩ := Prod.mk.inj h4
  exact ⟨i, hi, h3, h5, h6⟩
/-- A list of whole numbers: none, or in memory. -/
def IsInts (w : World) (a : Option Addr) (len cap : Nat) (zs : List Int) : Prop :=
  zs.length = len ∧ (len = 0 ∨ ∃ (x off : Nat), a = some ⟨x, off, none⟩ ∧ len ≤ cap ∧ ∀ (j : Nat) z, zs[j]? = some z → w.cell? ⟨x, off + j, none⟩ = some (.int .i64 z))
theorem own_ints {w : World} {B : Nat} {v : Value} {n : Nat} {zs : List Int} (h : w.ownsRow B 3 1 v n (intCells zs)) : ∃ a cap, v = .slice a n cap ∧ IsInts w a n cap zs := by
  obtain ⟨hl, ⟨rfl, rfl⟩ | ⟨g, cap, cur, rfl, hg, hh, hn, hm, hs, ht⟩⟩ := h
  · exact ⟨none, 0, rfl, by simpa [intCells] using hl, .inl rfl⟩
  · have hbl : zs.length = n := by simpa [intCells] using hl
    refine ⟨some ⟨g, 0, none⟩, cap, rfl, hbl, .inr ⟨g, 0, rfl, hn, fun j z hj => ?_⟩⟩
    have hjl : j < zs.length := (List.getElem?_eq_some_iff.1 hj).1
    have e1 : (intCells zs)[j]? = some (.int .i64 z) := by simp [intCells, hj]
    rw [← ht, List.getElem?_take, if_pos (by omega)] at e1
    have e2 : w.cell? ⟨g, 0 + j, none⟩ = cur.toList[j]? := by simp [World.cell?, hh]
    rw [e2, e1]
theorem IsInts.ext {w w' : World} {a : Option Addr} {len cap : Nat} {zs : List Int} (h : IsInts w a len cap zs) (k : Ext w w') : IsInts w' a len cap zs := by
  obtain ⟨h1, h2⟩ := h
  refine ⟨h1, ?_⟩
  rcases h2 with h2 | ⟨x, off, rfl, hc, hcell⟩
  · exact .inl h2
  · exact .inr ⟨x, off, rfl, hc, fun j z hj => (World.cell?_of_block (k.block x (World.block_lt_of_cell? w _ (hcell j z hj)))).trans (hcell j z hj)⟩
/-- The first units of a text. -/
def unRow (big : Bool) (s : ByteArray) (k : Nat) : List Int := (List.range k).map fun j => ((unAt big s (2 * j) : Nat) : Int)
theorem unRow_succ (big : Bool) (s : ByteArray) (k : Nat) : unRow big s (k + 1) = unRow big s k ++ [((unAt big s (2 * k) : Nat) : Int)] := by simp [unRow, List.range_succ]
theorem unRow_len (big : Bool) (s : ByteArray) (k : Nat) : (unRow big s k).length = k := by simp [unRow]
theorem unAt_get (big : Bool) (s : ByteArray) (r : Nat) (h : r + 1 < s.size) : unAt big s r = un big s[r] s[r + 1] := by
  have hl : s.data.toList.length = s.size := rfl
  refine unAt_of (l := s.data.toList.drop (r + 2)) ?_
  rw [List.drop_eq_getElem_cons (by omega : r < s.data.toList.length), List.drop_eq_getElem_cons (by omega : r + 1 < s.data.toList.length)]
  rfl
set_option maxRecDepth 100000 in
set_option maxHeartbeats 1000000 in
theorem runits (s : ByteArray) (big : Bool) (w : World) (hs : s.size ≤ 1099511627776) : Calls Tryd.prog 21 #[.string s, .bool big] w fun e w' => ∃ a cap, e = .returned (.slice a (s.size / 2) cap) ∧ IsInts w' a (s.size / 2) cap (unRow big s (s.size / 2)) ∧ Ext w w' := by
  obtain ⟨i0, hi, hz0, hz1, hz2⟩ := info_parts_i64
  obtain ⟨n, hn⟩ : ∃ n, n = s.size / 2 := ⟨_, rfl⟩
  rw [← hn]
  have HN := Lib.hid hn
  clear hn
  go_enter Tryd.func21, Tryd.ntmps21
  go_wp2
  go_loopw [5, 6] (fun v i wr => ∃ (k q : Nat), 2 * k = q ∧ q ≤ s.size ∧ i = .int .i64 ((q : Int) + 1) ∧ Ext w wr ∧ wr.ownsRow w.heap.size 3 1 v k (intCells (unRow big s k))) (fun _ i _ => s.size + 1 - (intOf i).toNat)
  case atStart => exact ⟨0, 0, by omega, by omega, rfl, Ext.refl _, World.ownsRow_nil _ _ _ _⟩
  case round =>
    obtain ⟨k, q, hkq, hq, rfl, hx, ho⟩ := hrel
    have hle := hx.size
    by_cases hlt : q + 1 < s.size
    · have hl2 : (q : Int) + 1 < s.size := by omega
      have hq0 : q < s.size := Nat.lt_of_succ_lt hlt
      have HU : Hid (un big (s[q]'hq0) (s[q + 1]'hlt) = unAt big s (2 * k)) := by show _ = _; rw [hkq]; exact (unAt_get big s q hlt).symm
      have hk2 : k ≤ 1099511627776 := by omega
      have HKQ := Lib.hid hkq
      clear hkq
      have h0 : IntKind.i64.wrap (q : Int) = (q : Int) := IntWalk.i64_in _ (by omega)
      have h1 : ((q : Int) + 1).toNat = q + 1 := by omega
      have h2 : (0 : Int) ≤ (q : Int) + 1 := by omega
      have h3 : (0 : Int) ≤ (q : Int) := by omega
      have h4 : (q : Int) < (s.size : Int) := by omega
      have h5 : ((q : Int)).toNat = q := by omega
      go_wp2
      have ho2 : wr.drew.ownsRow w.heap.size 3 1 u5 k (intCells (unRow big s k)) := ho
      have hle2 : w.heap.size ≤ wr.drew.heap.size := hle
      have hx2 : Ext w wr.drew := hx.drew
      clear ho hx
      go_region_held3 (fun W' => True) (first | exact trivial) (first
        | (go_at_call 36; refine (runit big (s[q]'hq0) (s[q + 1]'hlt) _).mono ?_; rintro e w3 ⟨rfl, rfl⟩)
        | (refine step_append_lies _ (by rfl) _ _ _ (by rfl) w.heap.size 3 i0 (.int .i64 0) 1 8 Tryd.underlying43 hi hz0 hz1 hz2 rfl (by decide) u5 k (intCells (unRow big s k)) (by rfl) (ho2.alloc _) ⟨wr.drew.heap.size, 0, none⟩ 1 1 [.int .i64 (un big (s[q]'hq0) (s[q + 1]'hlt) : Nat)] (by rfl) rfl (cell_one_new _ _ _) (fun x hx => by simp at hx; subst hx; rfl) (by decide) (by unfold maxLen; omega) (by omega) (by simp; omega) _ rfl ?_; intro g cap w4 hown4 hgrow4 hor4 hlt4))
      all_goals
        have hx4 : Ext w w4 := hx2.own ho2 (Nat.le_refl _) hgrow4
        rw [HU.out] at hown4
        clear hgrow4 hor4 hlt4
        go_wp2
        go_roundw
        case rel =>
          refine ⟨k + 1, q + 2, by have := HKQ.out; omega, by omega, by first | rfl | go_num | (congr 1; omega), hx4, ?_⟩
          have e : intCells (unRow big s (k + 1)) = intCells (unRow big s k) ++ [.int .i64 (unAt big s (2 * k) : Nat)] := by rw [unRow_succ]; simp [intCells]
          rw [e]
          exact hown4
        case measure => simp [intOf]; omega
    · have hl2 : ¬ (q : Int) + 1 < s.size := by omega
      have hkn : k = n := by have := HN.out; omega
      subst hkn
      obtain ⟨a, cap, rfl, hrow⟩ := own_ints ho
      clear ho
      go_wp2
      go_ret
      exact ⟨a, cap, rfl, hrow, hx⟩
end Go.Proofs.YtdbjjadgmfgjfaaDoor
