/-
  What the proof of this claim leans on (S13).
-/
import Derived.Test.YtndopjmdpmkgeaaGreatDoorS2
import Derived.Test.YtndopjmdpmkgeaaGreatDoorS3
import Derived.Test.YtndopjmdpmkgeaaGreatDoorS12
import Derived.Deep.AppendLies
import Derived.Deep.RegionHeld3
import Derived.Laws.AppendOwn
import Derived.Laws.Bits64b
import Derived.Laws.BitsAllLaws
import Derived.Lib.Join
import Derived.StillTailTactics
namespace Go.Proofs.YtndopjmdpmkgeaaGreatDoor
open Go Go.ChangeShapes Go.WideShapes Go.ChangeAt Go.RowKit
set_option linter.unusedSimpArgs false
set_option linter.unusedVariables false

theorem runit (big : Bool) (x y : UInt8) (w : World) : Calls Tryz.prog 95 #[.int .u8 x.toNat, .int .u8 y.toNat, .bool big] w fun e w' => e = .returned (.int .i64 (un big x y)) ∧ w' = w := by
  have hx := x.toNat_lt
  have hy := y.toNat_lt
  cases big
  · go_enter Tryz.func95, Tryz.ntmps95
    go_wp2
    go_ret
    exact ⟨by unfold un; simp, rfl⟩
  · go_enter Tryz.func95, Tryz.ntmps95
    go_wp2
    go_ret
    exact ⟨by unfold un; simp, rfl⟩
/-- Whole numbers as cells. -/
def intCellsW (l : List Int) : List Value := l.map fun z => .int .i64 z
theorem info_i64W : (Tryz.prog.info? 3).map (fun i => (i.zero, i.size, i.bytes)) = some (some (.int .i64 0), 1, 8) := by kernel_rfl
theorem info_parts_i64W : ∃ i, Tryz.prog.info? 3 = some i ∧ i.zero = some (.int .i64 0) ∧ i.size = 1 ∧ i.bytes = 8 := by
  obtain ⟨i, hi, h2⟩ := Option.map_eq_some_iff.1 info_i64W
  obtain ⟨h3, h4⟩ := Prod.mk.inj h2
  obtain ⟨h5, h6⟩ := Prod.mk.inj h4
  exact ⟨i, hi, h3, h5, h6⟩
/-- A list of whole numbers: none, or in memory. -/
def IsIntsW (w : World) (a : Option Addr) (len cap : Nat) (zs : List Int) : Prop :=
  zs.length = len ∧ (len = 0 ∨ ∃ (x off : Nat), a = some ⟨x, off, none⟩ ∧ len ≤ cap ∧ ∀ (j : Nat) z, zs[j]? = some z → w.cell? ⟨x, off + j, none⟩ = some (.int .i64 z))
theorem own_intsW {w : World} {B : Nat} {v : Value} {n : Nat} {zs : List Int} (h : w.ownsRow B 3 1 v n (intCellsW zs)) : ∃ a cap, v = .slice a n cap ∧ IsIntsW w a n cap zs := by
  obtain ⟨hl, ⟨rfl, rfl⟩ | ⟨g, cap, cur, rfl, hg, hh, hn, hm, hs, ht⟩⟩ := h
  · exact ⟨none, 0, rfl, by simpa [intCellsW] using hl, .inl rfl⟩
  · have hbl : zs.length = n := by simpa [intCellsW] using hl
    refine ⟨some ⟨g, 0, none⟩, cap, rfl, hbl, .inr ⟨g, 0, rfl, hn, fun j z hj => ?_⟩⟩
    have hjl : j < zs.length := (List.getElem?_eq_some_iff.1 hj).1
    have e1 : (intCellsW zs)[j]? = some (.int .i64 z) := by simp [intCellsW, hj]
    rw [← ht, List.getElem?_take, if_pos (by omega)] at e1
    have e2 : w.cell? ⟨g, 0 + j, none⟩ = cur.toList[j]? := by simp [World.cell?, hh]
    rw [e2, e1]
theorem IsIntsW.ext {w w' : World} {a : Option Addr} {len cap : Nat} {zs : List Int} (h : IsIntsW w a len cap zs) (k : Ext w w') : IsIntsW w' a len cap zs := by
  obtain ⟨h1, h2⟩ := h
  refine ⟨h1, ?_⟩
  rcases h2 with h2 | ⟨x, off, rfl, hc, hcell⟩
  · exact .inl h2
  · exact .inr ⟨x, off, rfl, hc, fun j z hj => (World.cell?_of_block (k.block x (World.block_lt_of_cell? w _ (hcell j z hj)))).trans (hcell j z hj)⟩
/-- The first units of a text. -/
def unRow (big : Bool) (s : ByteArray) (k : Nat) : List Int := (List.range k).map fun j => ((unAt big s (2 * j) : Nat) : Int)
theorem unRow_succ (big : Bool) (s : ByteArray) (k : Nat) : unRow big s (k + 1) = unRow big s k ++ [((unAt big s (2 * k) : Nat) : Int)] := by simp [unRow, List.range_succ]
theorem unAt_get (big : Bool) (s : ByteArray) (r : Nat) (h : r + 1 < s.size) : unAt big s r = un big s[r] s[r + 1] := by
  have hl : s.data.toList.length = s.size := rfl
  refine unAt_of (l := s.data.toList.drop (r + 2)) ?_
  rw [List.drop_eq_getElem_cons (by omega : r < s.data.toList.length), List.drop_eq_getElem_cons (by omega : r + 1 < s.data.toList.length)]
  rfl
set_option maxRecDepth 100000 in
set_option maxHeartbeats 1000000 in
theorem runits (s : ByteArray) (big : Bool) (w : World) (hs : s.size ≤ 1099511627776) : Calls Tryz.prog 56 #[.string s, .bool big] w fun e w' => ∃ a cap, e = .returned (.slice a (s.size / 2) cap) ∧ IsIntsW w' a (s.size / 2) cap (unRow big s (s.size / 2)) ∧ Ext w w' := by
  obtain ⟨i0, hi, hz0, hz1, hz2⟩ := info_parts_i64W
  obtain ⟨n, hn⟩ : ∃ n, n = s.size / 2 := ⟨_, rfl⟩
  rw [← hn]
  have HN := Lib.hid hn
  clear hn
  go_enter Tryz.func56, Tryz.ntmps56
  go_wp2
  go_loopw [5, 6] (fun v i wr => ∃ (k q : Nat), 2 * k = q ∧ q ≤ s.size ∧ i = .int .i64 ((q : Int) + 1) ∧ Ext w wr ∧ wr.ownsRow w.heap.size 3 1 v k (intCellsW (unRow big s k))) (fun _ i _ => s.size + 1 - (intOf i).toNat)
  case atStart => exact ⟨0, 0, by omega, by omega, rfl, Ext.refl _, World.ownsRow_nil _ _ _ _⟩
  case round =>
    obtain ⟨k, q, hkq, hq, rfl, hx, ho⟩ := hrel
    have hle := hx.size
    by_cases hlt : q + 1 < s.size
    · have hl2 : (q : Int) + 1 < s.size := by omega
      have hq0 : q < s.size := Nat.lt_of_succ_lt hlt
      have HU : Hid (un big (s[q]'hq0) (s[q + 1]'hlt) = unAt big s (2 * k)) := by show _ = _; rw [hkq]; exact (unAt_get big s q hlt).symm
      have hk2 : k ≤ 1099511627776 := by omega
      have HKQ := Lib.hid hkq
      clear hkq
      have h0 : IntKind.i64.wrap (q : Int) = (q : Int) := IntWalk.i64_in _ (by omega)
      have h1 : ((q : Int) + 1).toNat = q + 1 := by omega
      have h2 : (0 : Int) ≤ (q : Int) + 1 := by omega
      have h3 : (0 : Int) ≤ (q : Int) := by omega
      have h4 : (q : Int) < (s.size : Int) := by omega
      have h5 : ((q : Int)).toNat = q := by omega
      go_wp2
      have ho2 : wr.drew.ownsRow w.heap.size 3 1 u5 k (intCellsW (unRow big s k)) := ho
      have hle2 : w.heap.size ≤ wr.drew.heap.size := hle
      have hx2 : Ext w wr.drew := hx.drew
      clear ho hx
      go_region_held3 (fun W' => True) (first | exact trivial) (first
        | (go_at_call 95; refine (runit big (s[q]'hq0) (s[q + 1]'hlt) _).mono ?_; rintro e w3 ⟨rfl, rfl⟩)
        | (refine step_append_lies _ (by rfl) _ _ _ (by rfl) w.heap.size 3 i0 (.int .i64 0) 1 8 Tryz.underlying28 hi hz0 hz1 hz2 rfl (by decide) u5 k (intCellsW (unRow big s k)) (by rfl) (ho2.alloc _) ⟨wr.drew.heap.size, 0, none⟩ 1 1 [.int .i64 (un big (s[q]'hq0) (s[q + 1]'hlt) : Nat)] (by rfl) rfl (cell_one_new _ _ _) (fun x hx => by simp at hx; subst hx; rfl) (by decide) (by unfold maxLen; omega) (by omega) (by simp; omega) _ rfl ?_; intro g cap w4 hown4 hgrow4 hor4 hlt4))
      all_goals
        have hx4 : Ext w w4 := hx2.own ho2 (Nat.le_refl _) hgrow4
        rw [HU.out] at hown4
        clear hgrow4 hor4 hlt4
        go_wp2
        go_roundw
        case rel =>
          refine ⟨k + 1, q + 2, by have := HKQ.out; omega, by omega, by first | rfl | go_num | (congr 1; omega), hx4, ?_⟩
          have e : intCellsW (unRow big s (k + 1)) = intCellsW (unRow big s k) ++ [.int .i64 (unAt big s (2 * k) : Nat)] := by rw [unRow_succ]; simp [intCellsW]
          rw [e]
          exact hown4
        case measure => simp [intOf]; omega
    · have hl2 : ¬ (q : Int) + 1 < s.size := by omega
      have hkn : k = n := by have := HN.out; omega
      subst hkn
      obtain ⟨a, cap, rfl, hrow⟩ := own_intsW ho
      clear ho
      go_wp2
      go_ret
      exact ⟨a, cap, rfl, hrow, hx⟩
end Go.Proofs.YtndopjmdpmkgeaaGreatDoor

namespace Go.Proofs.YtndopjmdpmkgeaaGreatDoor
open Go Go.ChangeShapes Go.WideShapes Go.ChangeAt Go.RowKit
set_option linter.unusedSimpArgs false
set_option linter.unusedVariables false

theorem wdAt_step (big : Bool) (s : ByteArray) (q : Nat) (h : q + 2 ≤ s.size) {P : Prop}
    (h1 : isSign (unAt big s q) = true → wdAt big s q = (((unAt big s q : Nat) : Int) :: (wdAt big s (q + 2)).1, (wdAt big s (q + 2)).2) → P)
    (h2 : isSign (unAt big s q) = false → q + 4 ≤ s.size → isHi (unAt big s q) = true → isLo (unAt big s (q + 2)) = true → wdAt big s q = (pairOf (unAt big s q) (unAt big s (q + 2)) :: (wdAt big s (q + 4)).1, (wdAt big s (q + 4)).2) → P)
    (h3 : isSign (unAt big s q) = false → (s.size < q + 4 ∨ isHi (unAt big s q) = false ∨ isLo (unAt big s (q + 2)) = false) → wdAt big s q = ([], (q : Int)) → P) : P := by
  have hl : s.data.toList.length = s.size := rfl
  have hlen : (s.data.toList.drop q).length = s.size - q := by rw [List.length_drop]; rfl
  obtain ⟨x0, y0, e0⟩ := drop_two (t := s) (r := q) h
  refine wd_cases big q (s.data.toList.drop q) (fun e => ?_) (fun x e => ?_) (fun x y l e g => ?_) (fun x y x2 y2 l e g g1 g2 => ?_) (fun x y x2 y2 l e g g1 => ?_) (fun x y l e g g1 => ?_)
  · rw [e] at hlen; simp at hlen; omega
  · rw [e] at hlen; simp at hlen; omega
  · have hu : unAt big s q = un big x y := unAt_of e
    have hd : s.data.toList.drop (q + 2) = l := by
      rw [e0] at e
      simp at e
      exact e.2.2
    rw [← hu] at g
    refine h1 g ?_
    unfold wdAt
    rw [e, wd_sign big q x y l (by rw [← hu]; exact g), hd, hu]
  · have hu : unAt big s q = un big x y := unAt_of e
    have hd : s.data.toList.drop (q + 2) = x2 :: y2 :: l := by
      rw [e0] at e
      simp at e
      exact e.2.2
    rw [e] at hlen
    simp at hlen
    have hu2 : unAt big s (q + 2) = un big x2 y2 := unAt_of hd
    have hd2 : s.data.toList.drop (q + 4) = l := by
      obtain ⟨x', y', e2⟩ := drop_two (t := s) (r := q + 2) (by omega)
      rw [e2] at hd
      simp at hd
      exact hd.2.2
    refine h2 (by rw [hu]; exact g) (by omega) (by rw [hu]; exact g1) (by rw [hu2]; exact g2) ?_
    unfold wdAt
    rw [e, wd_two big q x y x2 y2 l g g1 g2, hd2, hu, hu2]
  · have hu : unAt big s q = un big x y := unAt_of e
    have hd : s.data.toList.drop (q + 2) = x2 :: y2 :: l := by
      rw [e0] at e
      simp at e
      exact e.2.2
    have hu2 : unAt big s (q + 2) = un big x2 y2 := unAt_of hd
    refine h3 (by rw [hu]; exact g) (.inr ?_) ?_
    · rw [hu, hu2]
      revert g1
      cases isHi (un big x y) <;> simp
    · unfold wdAt
      rw [e, wd_no big q x y x2 y2 l g g1]
  · have hu : unAt big s q = un big x y := unAt_of e
    have hd : s.data.toList.drop (q + 2) = l := by
      rw [e0] at e
      simp at e
      exact e.2.2
    rw [e] at hlen
    simp at hlen
    refine h3 (by rw [hu]; exact g) (.inl (by omega)) ?_
    unfold wdAt
    rw [e, wd_end big q x y l g g1]
theorem unRow_get (big : Bool) (s : ByteArray) (n k : Nat) (h : k < n) : (unRow big s n)[k]? = some ((unAt big s (2 * k) : Nat) : Int) := by
  unfold unRow
  rw [List.getElem?_map, List.getElem?_range h]
  rfl
theorem ints_cell {w : World} {a : Option Addr} {n cap : Nat} {zs : List Int} (h : IsIntsW w a n cap zs) (h0 : 0 < n) : ∃ x off, a = some ⟨x, off, none⟩ ∧ x < w.heap.size ∧ ∀ (j : Nat) z, zs[j]? = some z → w.cell? ⟨x, off + j, none⟩ = some (.int .i64 z) := by
  obtain ⟨h1, h2⟩ := h
  rcases h2 with h2 | ⟨x, off, rfl, hc, hcell⟩
  · omega
  · have e : zs[0]? = some zs[0] := by simp
    exact ⟨x, off, rfl, World.block_lt_of_cell? w _ (hcell 0 _ e), hcell⟩
/-- How far the document's reading has come. -/
def RdTo (big : Bool) (s : ByteArray) (zs : List Int) (a0 : Int) (k : Nat) (t : ByteArray) : Prop :=
  ∃ dn : List Int, t = txt dn ∧ dn.length ≤ k ∧ dn ++ (wdAt big s (2 * k)).1 = zs ∧ (wdAt big s (2 * k)).2 = a0
theorem RdTo.size {big : Bool} {s : ByteArray} {zs : List Int} {a0 : Int} {k : Nat} {t : ByteArray} (h : RdTo big s zs a0 k t) : t.size ≤ 4 * k := by
  obtain ⟨dn, rfl, h1, _⟩ := h
  have := txt_size dn
  omega
theorem RdTo.more {big : Bool} {s : ByteArray} {zs : List Int} {a0 : Int} {k : Nat} {t : ByteArray} (h : RdTo big s zs a0 k t) {p : Int} {k2 : Nat} (hk : k < k2) (e : wdAt big s (2 * k) = (p :: (wdAt big s (2 * k2)).1, (wdAt big s (2 * k2)).2)) : RdTo big s zs a0 k2 (t ++ signText p) := by
  obtain ⟨dn, rfl, h1, h2, h3⟩ := h
  rw [e] at h2 h3
  exact ⟨dn ++ [p], txt_append dn p, by simp; omega, by simpa using h2, h3⟩
theorem rb_at (p : Int) (h : isSign p = true) : ∃ g : ByteArray, Hid (g = signText p) ∧ g.size ≤ 4 ∧ ∀ w, Calls Tryz.prog 54 #[.int .i32 p] w fun e w' => e = .returned (.string g) ∧ Ext w w' :=
  ⟨signText p, rfl, sign_size p, fun w => rbytes_any p w h⟩
set_option maxRecDepth 100000 in
set_option maxHeartbeats 4000000 in
theorem rdecode (s : ByteArray) (big : Bool) (zs : List Int) (a0 : Int) (w : World) (hs : s.size ≤ 1000000) (hz : (wdS big s).1 = zs) (ha : (wdS big s).2 = a0) :
    Calls Tryz.prog 35 #[.string s, .bool big] w fun e w' => e = .returned (.tuple #[.string (wtxt zs a0), .int .i64 a0]) ∧ Ext w w' := by
  have HZ : Hid (RdTo big s zs a0 0 ⟨#[]⟩) := ⟨[], rfl, by decide, by rw [List.nil_append]; exact hz, ha⟩
  clear hz ha
  obtain ⟨n, hn⟩ : ∃ n, n = s.size / 2 := ⟨_, rfl⟩
  have HU := Lib.hid (fun w => runits s big w (by omega))
  rw [← hn] at HU
  have hn1 : 2 * n ≤ s.size := by omega
  have hn2 : s.size < 2 * n + 2 := by omega
  clear hn
  go_enter Tryz.func35, Tryz.ntmps35
  go_wp2_with (go_at_call 56; refine (HU.out _).mono ?_; rintro e w1 ⟨a, cap, rfl, hr, hb1⟩)
  go_loopw [7, 8] (fun t i wr => ∃ (k : Nat) (u : ByteArray), k ≤ n ∧ i = .int .i64 k ∧ t = .string u ∧ Ext w1 wr ∧ Hid (RdTo big s zs a0 k u)) (fun _ i _ => n - (intOf i).toNat)
  case atStart => exact ⟨0, ⟨#[]⟩, by omega, rfl, rfl, Ext.refl _, HZ⟩
  case round =>
    obtain ⟨k, u, hk, rfl, rfl, hx, HR⟩ := hrel
    clear HZ
    have hus := HR.out.size
    have hxx := hb1.trans hx
    by_cases hlt : k < n
    · have hq2 : 2 * k + 2 ≤ s.size := by omega
      obtain ⟨x, off, rfl, hxl, hcell⟩ := ints_cell hr (by omega)
      have hc0 := (World.cell?_of_block (w := w1) (hx.block x hxl)).trans (hcell k _ (unRow_get big s n k hlt))
      have hm := unAt_lt big s (2 * k)
      have HC := Lib.hid hcell
      clear hcell
      refine wdAt_step big s (2 * k) hq2 (fun g1 g2 => ?_) (fun g1 g2 g3 g4 g5 => ?_) (fun g1 g2 g3 => ?_)
      · have HS := Lib.hid (HR.out.more (k2 := k + 1) (by omega) g2)
        obtain ⟨g, HG, hgs, hB⟩ := rb_at _ g1
        rw [← HG.out] at HS
        have HB := Lib.hid hB
        have hsg := (isSign_iff _).1 g1
        clear g1 g2 hB HG
        have hm0 : (0 : Int) ≤ (unAt big s (2 * k) : Nat) := Int.natCast_nonneg _
        have hm1 : ((unAt big s (2 * k) : Nat) : Int) < 65536 := by omega
        clear hm
        generalize ((unAt big s (2 * k) : Nat) : Int) = m at hc0 hm0 hm1 HB hsg
        rcases hsg with hsg | hsg
        · obtain ⟨_, hsg⟩ := hsg
          go_wp2_with (go_at_call 54; refine (HB.out _).mono ?_; rintro e w2 ⟨rfl, hb2⟩)
          go_roundw
          case rel => exact ⟨k + 1, u ++ g, by omega, by go_num, rfl, hx.trans hb2, HS⟩
          case measure => simp [intOf]; omega
        · obtain ⟨hsg, _⟩ := hsg
          have hsg2 : ¬ m < 55296 := by omega
          go_wp2_with (go_at_call 54; refine (HB.out _).mono ?_; rintro e w2 ⟨rfl, hb2⟩)
          go_roundw
          case rel => exact ⟨k + 1, u ++ g, by omega, by go_num, rfl, hx.trans hb2, HS⟩
          case measure => simp [intOf]; omega
      · have hk1 : k + 1 < n := by omega
        have hc1 : wr.cell? ⟨x, off + (k + 1), none⟩ = some (.int .i64 ((unAt big s (2 * k + 2) : Nat) : Int)) := (World.cell?_of_block (w := w1) (hx.block x hxl)).trans (HC.out (k + 1) _ (unRow_get big s n (k + 1) hk1))
        have HS := Lib.hid (HR.out.more (k2 := k + 2) (by omega) g5)
        obtain ⟨g, HG, hgs, hB⟩ := rb_at _ (pairOf_sign g3 g4)
        rw [← HG.out] at HS
        have g6 := (isHi_iff _).1 g3
        have g7 := (isLo_iff _).1 g4
        have hm0 : (55296 : Int) ≤ (unAt big s (2 * k) : Nat) := by omega
        have hm1 : ((unAt big s (2 * k) : Nat) : Int) < 56320 := by omega
        have hm2 : (56320 : Int) ≤ (unAt big s (2 * k + 2) : Nat) := by omega
        have hm3 : ((unAt big s (2 * k + 2) : Nat) : Int) < 57344 := by omega
        unfold pairOf at hB
        have HB := Lib.hid hB
        clear g1 g2 g3 g4 g5 g6 g7 hB HG hm
        generalize ((unAt big s (2 * k) : Nat) : Int) = m at hc0 hm0 hm1 HB
        generalize ((unAt big s (2 * k + 2) : Nat) : Int) = m2 at hc1 hm2 hm3 HB
        have hk2 : (k : Int) + 1 < n := by omega
        have hm5 : ¬ (56319 : Int) < m := by omega
        go_wp2_with (go_at_call 54; refine (HB.out _).mono ?_; rintro e w2 ⟨rfl, hb2⟩)
        go_roundw
        case rel => exact ⟨k + 2, u ++ g, by omega, by go_num, rfl, hx.trans hb2, HS⟩
        case measure => simp [intOf]; omega
      · have HA : Hid (a0 = 2 * (k : Int)) := by
          obtain ⟨dn, _, _, _, h4⟩ := HR.out
          rw [g3] at h4
          show a0 = _
          rw [← h4]
          simp
        have HW : Hid (wtxt zs a0 = ⟨#[]⟩) := if_neg (by rw [HA.out]; omega)
        have g4 := (isSign_no _).1 g1
        have hm0 : (55296 : Int) ≤ (unAt big s (2 * k) : Nat) := by omega
        have hm1 : ((unAt big s (2 * k) : Nat) : Int) ≤ 57343 := by omega
        by_cases hh : (56319 : Int) < (unAt big s (2 * k) : Nat)
        · clear g1 g2 g3 g4 hm HR
          generalize ((unAt big s (2 * k) : Nat) : Int) = m at hc0 hm0 hm1 hh
          go_wp2
          go_ret2
          exact ⟨by rw [HW.out, HA.out]; rfl, hxx⟩
        by_cases hk1 : k + 1 < n
        · have hc1 : wr.cell? ⟨x, off + (k + 1), none⟩ = some (.int .i64 ((unAt big s (2 * k + 2) : Nat) : Int)) := (World.cell?_of_block (w := w1) (hx.block x hxl)).trans (HC.out (k + 1) _ (unRow_get big s n (k + 1) hk1))
          have hlo : isLo (unAt big s (2 * k + 2)) = false := by
            rcases g2 with g2 | g2 | g2
            · omega
            · exfalso
              have := (isHi_iff (unAt big s (2 * k))).2 (by omega)
              rw [this] at g2
              cases g2
            · exact g2
          have hlt2 := unAt_lt big s (2 * k + 2)
          have hm2 : (0 : Int) ≤ (unAt big s (2 * k + 2) : Nat) := Int.natCast_nonneg _
          have hm3 : ((unAt big s (2 * k + 2) : Nat) : Int) < 65536 := by omega
          have hm4 : ((unAt big s (2 * k + 2) : Nat) : Int) < 56320 ∨ (57343 : Int) < (unAt big s (2 * k + 2) : Nat) := by
            rcases Nat.lt_or_ge (unAt big s (2 * k + 2)) 56320 with h | h
            · left; omega
            · right
              rcases Nat.lt_or_ge (unAt big s (2 * k + 2)) 57344 with h2 | h2
              · have := (isLo_iff _).2 ⟨h, h2⟩
                rw [this] at hlo
                cases hlo
              · omega
          clear g1 g2 g3 g4 hm HR hlo hlt2
          generalize ((unAt big s (2 * k) : Nat) : Int) = m at hc0 hm0 hm1 hh
          generalize ((unAt big s (2 * k + 2) : Nat) : Int) = m2 at hc1 hm2 hm3 hm4
          have hk2 : (k : Int) + 1 < n := by omega
          rcases hm4 with hm4 | hm4
          · go_wp2
            go_ret2
            exact ⟨by rw [HW.out, HA.out]; rfl, hxx⟩
          · have hm5 : ¬ m2 < 56320 := by omega
            go_wp2
            go_ret2
            exact ⟨by rw [HW.out, HA.out]; rfl, hxx⟩
        · have hk2 : ¬ (k : Int) + 1 < n := by omega
          clear g1 g2 g3 g4 hm HR
          generalize ((unAt big s (2 * k) : Nat) : Int) = m at hc0 hm0 hm1 hh
          go_wp2
          go_ret2
          exact ⟨by rw [HW.out, HA.out]; rfl, hxx⟩
    · have hkn : k = n := by omega
      subst hkn
      have hl : s.data.toList.length = s.size := rfl
      by_cases hod : s.size = 2 * k
      · have hwe : wdAt big s (2 * k) = ([], -1) := by
          unfold wdAt
          rw [List.drop_eq_nil_of_le (by omega), wd_nil]
        obtain ⟨dn, rfl, _, h3, h4⟩ := HR.out
        rw [hwe] at h3 h4
        rw [List.append_nil] at h3
        obtain rfl : dn = zs := h3
        have HA : Hid (a0 = -1) := h4.symm
        have HW : Hid (wtxt dn a0 = txt dn) := if_pos (by rw [HA.out]; decide)
        have hr2 : (s.size : Int) % 2 = 0 := by omega
        clear hwe h4 HR hod hl
        go_wp2
        go_ret2
        exact ⟨by rw [HW.out, HA.out]; rfl, hxx⟩
      · obtain ⟨x, y, hxy⟩ : ∃ x y, s.data.toList.drop (2 * k) = x :: y := by
          cases hd : s.data.toList.drop (2 * k) with
          | nil =>
            have := congrArg List.length hd
            rw [List.length_drop, hl] at this
            simp at this
            omega
          | cons x y => exact ⟨x, y, rfl⟩
        have hy : y = [] := by
          have := congrArg List.length hxy
          rw [List.length_drop, hl] at this
          simp at this
          exact List.eq_nil_of_length_eq_zero (by omega)
        have hwe : wdAt big s (2 * k) = ([], ((2 * k : Nat) : Int)) := by
          unfold wdAt
          rw [hxy, hy, wd_one]
        obtain ⟨dn, _, _, _, h4⟩ := HR.out
        rw [hwe] at h4
        have HA : Hid (a0 = (s.size : Int) - 1) := by show _ = _; rw [← h4]; show ((2 * k : Nat) : Int) = _; omega
        have HW : Hid (wtxt zs a0 = ⟨#[]⟩) := if_neg (by rw [HA.out]; omega)
        have hr2 : (s.size : Int) % 2 = 1 := by omega
        clear hwe h4 HR hod hl hxy hy
        go_wp2
        go_ret2
        exact ⟨by rw [HW.out, HA.out]; rfl, hxx⟩
end Go.Proofs.YtndopjmdpmkgeaaGreatDoor

