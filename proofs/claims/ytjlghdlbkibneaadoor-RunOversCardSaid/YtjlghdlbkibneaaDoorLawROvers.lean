/-
  The law RunOvers holds at every three lists of pieces, every code and every sign: a table over another is the document's; both stay.
  Conditions: none beyond the row's own.
-/
import Derived.Test.YtjlghdlbkibneaaDoorTbH
import Derived.Test.YtjlghdlbkibneaaDoorCel
import Derived.Deep.CutRange
import Derived.ChangeMaps
namespace Go.Proofs.YtjlghdlbkibneaaDoor.runOvers
open Go Go.Proofs.YtjlghdlbkibneaaDoor Go.ChangeShapes Go.WideShapes Go.ChangeAt Go.RowKit
open Go.ChangeMaps (open_string shut_string)
set_option linter.unusedSimpArgs false
set_option linter.unusedVariables false

theorem mid_of {vs : List Pv} (hl : lightP vs = true) (hw : WideP vs) : Mid vs := by
  unfold lightP at hl
  simp only [Bool.and_eq_true, List.all_eq_true, decide_eq_true_eq] at hl
  refine ⟨by omega, fun p hp => ?_⟩
  have := (lightOne_iff p).1 (hl.2 p hp)
  exact ⟨hw p hp, by omega, by omega⟩
theorem KeepT.cell {W w : World} {cs : List (Addr × Value)} {ts : List (Value × List Pr)} (h : KeepT W cs ts w) {a : Addr} {v : Value} (hc : w.cell? a = some v) : KeepT W ((a, v) :: cs) ts w := ⟨h.ex, h.tb, ⟨hc, h.c⟩, h.t⟩
theorem find_is (a : Option Addr) (cap : Nat) (l : List Pr) (c r : Int) (w : World) (hr : findP l c = r) (h : IsPairs w a l.length cap l) (hl : l.length ≤ 1099511627776) :
    Calls Tryd.prog 20 #[.slice a l.length cap, .int .i64 c] w fun e w' => e = .returned (.int .i64 r) ∧ Ext w w' := by
  subst hr
  exact rfind a cap l c w h hl
theorem rev_is (a : Option Addr) (cap : Nat) (l : List Pr) (c r : Int) (w : World) (hr : revP l c = r) (h : IsPairs w a l.length cap l) (hl : l.length ≤ 1099511627776) :
    Calls Tryd.prog 22 #[.slice a l.length cap, .int .i32 c] w fun e w' => e = .returned (.int .i64 r) ∧ Ext w w' := by
  subst hr
  exact rrev a cap l c w h hl
theorem KeepT.six {W w : World} {cs : List (Addr × Value)} {ts : List (Value × List Pr)} (h : KeepT W cs ts w) (x y : Value) (T : TypeId) (u v : Value) (U : TypeId) (p q : Value) (V : TypeId) : KeepT W ((⟨w.heap.size + 1 + 1, 0, none⟩, p) :: (⟨w.heap.size + 1 + 1, 1, none⟩, q) :: (⟨w.heap.size + 1, 0, none⟩, u) :: (⟨w.heap.size + 1, 1, none⟩, v) :: (⟨w.heap.size, 0, none⟩, x) :: (⟨w.heap.size, 1, none⟩, y) :: cs) ts (((w.alloc (.cells #[x, y] T)).alloc (.cells #[u, v] U)).alloc (.cells #[p, q] V)) := by
  have := (h.four x y T u v U).two p q V
  have e : ((w.alloc (.cells #[x, y] T)).alloc (.cells #[u, v] U)).heap.size = w.heap.size + 1 + 1 := by simp
  rw [e] at this
  exact this
theorem keepC_far {w : World} : ∀ {cs : List (Addr × Value)}, KeepC w cs → ∀ p ∈ cs, p.1.block < w.heap.size
  | [], _, p, hp => by simp at hp
  | (a, v) :: cs, h, p, hp => by
    rcases List.mem_cons.1 hp with rfl | hp
    · exact World.block_lt_of_cell? w _ h.1
    · exact keepC_far h.2 p hp
theorem keepC_put {w wf : World} {b : Nat} (hk : ∀ k, k ≠ b → wf.heap[k]? = w.heap[k]?) : ∀ {cs : List (Addr × Value)}, KeepC w cs → (∀ p ∈ cs, p.1.block < b) → KeepC wf cs
  | [], _, _ => trivial
  | (a, v) :: cs, h, hn => ⟨(World.cell?_of_block (hk _ (Nat.ne_of_lt (hn (a, v) (by simp))))).trans h.1, keepC_put hk h.2 (fun p hp => hn p (by simp [hp]))⟩
theorem keepT_far {W w : World} {cs : List (Addr × Value)} {ts : List (Value × List Pr)} (h : KeepT W cs ts w) : ∀ p ∈ cs, p.1.block < w.heap.size := keepC_far h.c
theorem keepT_c {W w : World} {cs : List (Addr × Value)} {ts : List (Value × List Pr)} (h : KeepT W cs ts w) : KeepC w cs := h.c
/-- Behind the two tables put over others: where they stand, and all that was kept. -/
def OvTo (w0 wc : World) (cs : List (Addr × Value)) (l m n : List Pr) (x y : Value) (bu bv : Nat) : Prop :=
  Ext w0 wc ∧ KeepC wc cs ∧
    (∃ (ua : Option Addr) (un uc : Nat) (ub : Option Addr) (um ud : Nat), wc.cell? ⟨bu, 0, none⟩ = some (.slice ua un uc) ∧ wc.cell? ⟨bu, 1, none⟩ = some (.slice ub um ud) ∧ IsTab wc (.agg #[.slice ua un uc, .slice ub um ud]) (overP l (overP m n))) ∧
    (∃ (va : Option Addr) (vn vc : Nat) (vb : Option Addr) (vm vd : Nat), wc.cell? ⟨bv, 0, none⟩ = some (.slice va vn vc) ∧ wc.cell? ⟨bv, 1, none⟩ = some (.slice vb vm vd) ∧ IsTab wc (.agg #[.slice va vn vc, .slice vb vm vd]) (overP (overP l m) n)) ∧
    IsTab wc x l ∧ IsTab wc y m
theorem ov_end {w0 w : World} {cs : List (Addr × Value)} {l m n : List Pr} {x y : Value} {bu bv : Nat} {ua ub va vb : Option Addr} {un uc um ud vn vc vm vd : Nat} {p q r s : Value} {T : TypeId} (hX : Ext w0 w) (hc : KeepC w cs) (HU : w.heap[bu]? = some (.cells #[p, q] T (0, 0))) (HV : w.heap[bv]? = some (.cells #[r, s] T (0, 0))) (hWu : w0.heap.size ≤ bu) (hWv : w0.heap.size ≤ bv) (hne : bu ≠ bv)
    (hNU : ∀ p ∈ cs, p.1.block < bu) (hNV : ∀ p ∈ cs, p.1.block < bv) (tu : IsTab w (.agg #[.slice ua un uc, .slice ub um ud]) (overP l (overP m n))) (tv : IsTab w (.agg #[.slice va vn vc, .slice vb vm vd]) (overP (overP l m) n)) (tx : IsTab w x l) (ty : IsTab w y m) :
    KeepC ((w.setCell ⟨bu, 0, none⟩ (.slice ua un uc)).setCell ⟨bu, 1, none⟩ (.slice ub um ud)) cs ∧
    OvTo w0 ((((w.setCell ⟨bu, 0, none⟩ (.slice ua un uc)).setCell ⟨bu, 1, none⟩ (.slice ub um ud)).setCell ⟨bv, 0, none⟩ (.slice va vn vc)).setCell ⟨bv, 1, none⟩ (.slice vb vm vd)) cs l m n x y bu bv := by
  obtain ⟨w1, rfl, hx1, hB1, hs1, hk1⟩ := put2 HU hX hWu (.slice ua un uc) (.slice ub um ud)
  have HV1 := (hk1 bv (Ne.symm hne)).trans HV
  have hc1 := keepC_put hk1 hc hNU
  refine ⟨hc1, ?_⟩
  obtain ⟨w2, e2, hx2, hB2, hs2, hk2⟩ := put2 HV1 hx1 hWv (.slice va vn vc) (.slice vb vm vd)
  rw [← e2]
  have HU2 := (hk2 bu hne).trans hB1
  have mv : ∀ {v : Value} {L : List Pr}, IsTab w v L → IsTab w2 v L := fun h => (h.move HU hs1 hk1).move HV1 hs2 hk2
  exact ⟨hx2, keepC_put hk2 hc1 hNV, ⟨ua, un, uc, ub, um, ud, (facts2 HU2).1.1, (facts2 HU2).1.2, mv tu⟩, ⟨va, vn, vc, vb, vm, vd, (facts2 hB2).1.1, (facts2 hB2).1.2, mv tv⟩, mv tx, mv ty⟩
set_option maxRecDepth 100000 in
set_option maxHeartbeats 20000000 in
theorem walk_pre (a0 b0 c0 : Option Addr) (an ac bn bc cn cc : Nat) (l m n : List Pr) (code sg : Int) (W : World) (hT : Tabs W)
    (HLa : Hid (∀ w, Ext W w → Calls Tryd.prog 12 #[.slice a0 an ac] w fun e w' => e = .returned (.bool true) ∧ Ext w w'))
    (HTa : Hid (∀ w, Tabs w → Ext W w → Calls Tryd.prog 23 #[.slice a0 an ac] w fun e w' => ∃ v, e = .returned v ∧ IsTab w' v l ∧ Ext w w'))
    (HMa : Hid (∀ w, Ext W w → Calls Tryd.prog 15 #[.slice a0 an ac] w fun e w' => ∃ a cap i, e = .returned (.tuple #[.slice a l.length cap, .int .i64 i]) ∧ IsPairs w' a l.length cap l ∧ Ext w w'))
    (HLb : Hid (∀ w, Ext W w → Calls Tryd.prog 12 #[.slice b0 bn bc] w fun e w' => e = .returned (.bool true) ∧ Ext w w'))
    (HTb : Hid (∀ w, Tabs w → Ext W w → Calls Tryd.prog 23 #[.slice b0 bn bc] w fun e w' => ∃ v, e = .returned v ∧ IsTab w' v m ∧ Ext w w'))
    (HMb : Hid (∀ w, Ext W w → Calls Tryd.prog 15 #[.slice b0 bn bc] w fun e w' => ∃ a cap i, e = .returned (.tuple #[.slice a m.length cap, .int .i64 i]) ∧ IsPairs w' a m.length cap m ∧ Ext w w'))
    (HLc : Hid (∀ w, Ext W w → Calls Tryd.prog 12 #[.slice c0 cn cc] w fun e w' => e = .returned (.bool true) ∧ Ext w w'))
    (HTc : Hid (∀ w, Tabs w → Ext W w → Calls Tryd.prog 23 #[.slice c0 cn cc] w fun e w' => ∃ v, e = .returned v ∧ IsTab w' v n ∧ Ext w w'))
    (HMc : Hid (∀ w, Ext W w → Calls Tryd.prog 15 #[.slice c0 cn cc] w fun e w' => ∃ a cap i, e = .returned (.tuple #[.slice a n.length cap, .int .i64 i]) ∧ IsPairs w' a n.length cap n ∧ Ext w w'))
    (hl : l.length ≤ 3600) (hm : m.length ≤ 3600) (hn : n.length ≤ 3600) (hmn : (overP m n).length ≤ 7200)
    (HAS : Hid (overP (overP l m) n = overP l (overP m n))) (HF0 : Hid (From0 (overP l (overP m n)))) (hLL : (overP l (overP m n)).length ≤ 10800)
    (HFD : Hid ((∃ (j : Nat) (y0 : Int), (overP l (overP m n))[j]? = some (code, y0) ∧ findP (overP l (overP m n)) code = (j : Int) ∧ j < (overP l (overP m n)).length) ∨ (¬ has (overP l (overP m n)) code ∧ findP (overP l (overP m n)) code = -1)))
    (HRV : Hid ((∃ k : Int, revP (overP l (overP m n)) sg = k ∧ 0 ≤ k) ∨ revP (overP l (overP m n)) sg = -1)) (hs0 : -2147483648 ≤ sg) (hs1 : sg ≤ 2147483647) :
    Calls Tryd.prog 5 #[.slice a0 an ac, .slice b0 bn bc, .slice c0 cn cc, .int .i64 code, .int .i32 sg] W fun e w' => e = .returned (.bool true) ∧ Ext W w' := by
  have hC := KeepT.start hT
  have HKo := Lib.hid trivial
  have HKw := Lib.hid trivial
  clear hT
  go_enter Tryd.func5, Tryd.ntmps5
  go_upto_region 8 with (first
    | (go_at_call 12; refine (HLa.out _ hC.ex).mono ?_; rintro e w1a ⟨rfl, hb⟩; have hC' := hC.ext hb; clear hC hb HLa; have hC := hC'; clear hC')
    | (go_at_call 12; refine (HLb.out _ hC.ex).mono ?_; rintro e w1b ⟨rfl, hb⟩; have hC' := hC.ext hb; clear hC hb HLb; have hC := hC'; clear hC')
    | (go_at_call 12; refine (HLc.out _ hC.ex).mono ?_; rintro e w1c ⟨rfl, hb⟩; have hC' := hC.ext hb; clear hC hb HLc; have hC := hC'; clear hC')
    | (go_at_call 23; refine (HTa.out _ hC.tb hC.ex).mono ?_; rintro e w2a ⟨va, rfl, ht, hb⟩; obtain ⟨ta1, na1, ta2, ta3, na2, ta4, rfl⟩ := ht.open; have hC' := (hC.ext hb).tab ht; clear hC hb ht; have hC := hC'; clear hC'; clear HTa)
    | (go_at_call 23; refine (HTb.out _ hC.tb hC.ex).mono ?_; rintro e w2b ⟨vb, rfl, ht, hb⟩; obtain ⟨tb1, nb1, tb2, tb3, nb2, tb4, rfl⟩ := ht.open; have hC' := (hC.ext hb).tab ht; clear hC hb ht; have hC := hC'; clear hC'; clear HTb)
    | (go_at_call 23; refine (HTc.out _ hC.tb hC.ex).mono ?_; rintro e w2c ⟨vc, rfl, ht, hb⟩; obtain ⟨tc1, nc1, tc2, tc3, nc2, tc4, rfl⟩ := ht.open; have hC' := KeepT.six ((hC.ext hb).tab ht) (.slice ta1 na1 ta2) (.slice ta3 na2 ta4) 27 (.slice tb1 nb1 tb2) (.slice tb3 nb2 tb4) 27 (.slice tc1 nc1 tc2) (.slice tc3 nc2 tc4) 27; clear hC hb ht; have hC := hC'; clear hC'; clear HTc; obtain ⟨c1, c2, c3, c4, c5, c6, _⟩ := hC.c)
    | (go_at_call 15; refine (HMa.out _ hC.ex).mono ?_; rintro e w3a ⟨pa, ka, ia, rfl, hpr, hb⟩; have HPa := Lib.hid hpr; have hC' := hC.ext hb; clear hpr HMa; clear hC hb c1 c2 c3 c4 c5 c6; have hC := hC'; clear hC'; obtain ⟨c1, c2, c3, c4, c5, c6, _⟩ := hC.c)
    | (go_at_call 15; refine (HMb.out _ hC.ex).mono ?_; rintro e w3b ⟨pb, kb, ib, rfl, hpr, hb⟩; have HPb := Lib.hid hpr; have HPa' := Lib.hid (HPa.out.ext hb); clear HPa; have HPa := HPa'; clear HPa'; have hC' := hC.ext hb; clear hpr HMb; clear hC hb c1 c2 c3 c4 c5 c6; have hC := hC'; clear hC'; obtain ⟨c1, c2, c3, c4, c5, c6, _⟩ := hC.c)
    | (go_at_call 15; refine (HMc.out _ hC.ex).mono ?_; rintro e w3c ⟨pc, kc, ic, rfl, hpr, hb⟩; have HPc := Lib.hid hpr; have HPa' := Lib.hid (HPa.out.ext hb); clear HPa; have HPa := HPa'; clear HPa'; have HPb' := Lib.hid (HPb.out.ext hb); clear HPb; have HPb := HPb'; clear HPb'; have hC' := hC.ext hb; clear hpr HMc; clear hC hb c1 c2 c3 c4 c5 c6; have hC := hC'; clear hC'; obtain ⟨c1, c2, c3, c4, c5, c6, _⟩ := hC.c)
    | (go_at_call 24; have hk := HKo; clear hk HKo; refine (rover _ _ m _ _ n _ HPb.out HPc.out (by omega) (by omega)).mono ?_; rintro e w4o ⟨po, ko, rfl, hpr, hb⟩; have HPo := Lib.hid hpr; have HPa' := Lib.hid (HPa.out.ext hb); clear HPa; have HPa := HPa'; clear HPa'; have HPb' := Lib.hid (HPb.out.ext hb); clear HPb; have HPb := HPb'; clear HPb'; have HPc' := Lib.hid (HPc.out.ext hb); clear HPc; have HPc := HPc'; clear HPc'; have hC' := hC.ext hb; clear hpr; clear hC hb c1 c2 c3 c4 c5 c6; have hC := hC'; clear hC'; obtain ⟨c1, c2, c3, c4, c5, c6, _⟩ := hC.c)
    | (go_at_call 24; have hk := HKw; clear hk HKw; refine (rover _ _ l _ _ (overP m n) _ HPa.out HPo.out (by omega) (by omega)).mono ?_; rintro e w4w ⟨pw, kw, rfl, hpr, hb⟩; have HPw := Lib.hid hpr; have HPa' := Lib.hid (HPa.out.ext hb); clear HPa; have HPa := HPa'; clear HPa'; have HPb' := Lib.hid (HPb.out.ext hb); clear HPb; have HPb := HPb'; clear HPb'; have HPc' := Lib.hid (HPc.out.ext hb); clear HPc; have HPc := HPc'; clear HPc'; have HPo' := Lib.hid (HPo.out.ext hb); clear HPo; have HPo := HPo'; clear HPo'; have hC' := hC.ext hb; clear hpr; clear hC hb c1 c2 c3 c4 c5 c6; have hC := hC'; clear hC'; obtain ⟨c1, c2, c3, c4, c5, c6, _⟩ := hC.c))
  go_cut [21, 22] from 69 to 78 (fun u v wx => ∃ bu bv : Nat, u = .pointer (some ⟨bu, 0, none⟩) ∧ v = .pointer (some ⟨bv, 0, none⟩) ∧ OvTo w4w wx [(⟨w2c.heap.size + 1 + 1, 0, none⟩, .slice tc1 nc1 tc2), (⟨w2c.heap.size + 1 + 1, 1, none⟩, .slice tc3 nc2 tc4), (⟨w2c.heap.size + 1, 0, none⟩, .slice tb1 nb1 tb2), (⟨w2c.heap.size + 1, 1, none⟩, .slice tb3 nb2 tb4), (⟨w2c.heap.size, 0, none⟩, .slice ta1 na1 ta2), (⟨w2c.heap.size, 1, none⟩, .slice ta3 na2 ta4)] l m n (.agg #[.slice ta1 na1 ta2, .slice ta3 na2 ta4]) (.agg #[.slice tb1 nb1 tb2, .slice tb3 nb2 tb4]) bu bv)
  case rest => 
    obtain ⟨bu, bv, rfl, rfl, hx, hc, ⟨ua, un, uc, ub, um, ud, e0, e1, tu⟩, ⟨va, vn, vc, vb, vm, vd, f0, f1, tv⟩, tx, ty⟩ := hcut
    rw [HAS.out] at tv
    generalize overP l (overP m n) = L1 at *
    have hC' : KeepT W ((⟨bu, 0, none⟩, .slice ua un uc) :: (⟨bu, 1, none⟩, .slice ub um ud) :: (⟨bv, 0, none⟩, .slice va vn vc) :: (⟨bv, 1, none⟩, .slice vb vm vd) :: [(⟨w2c.heap.size + 1 + 1, 0, none⟩, .slice tc1 nc1 tc2), (⟨w2c.heap.size + 1 + 1, 1, none⟩, .slice tc3 nc2 tc4), (⟨w2c.heap.size + 1, 0, none⟩, .slice tb1 nb1 tb2), (⟨w2c.heap.size + 1, 1, none⟩, .slice tb3 nb2 tb4), (⟨w2c.heap.size, 0, none⟩, .slice ta1 na1 ta2), (⟨w2c.heap.size, 1, none⟩, .slice ta3 na2 ta4)]) ((_, L1) :: (_, L1) :: (_, l) :: (_, m) :: []) wc := ⟨hC.ex.trans hx, hC.tb.ext hx, ⟨e0, e1, f0, f1, hc⟩, ⟨tu, tv, tx, ty, trivial⟩⟩
    clear hC c1 c2 c3 c4 c5 c6 e0 e1 f0 f1 hc tu tv tx ty HAS hmn
    have hC := hC'
    have hX := hx
    clear hC' hx
    have M1 := Lib.hid trivial
    have M2 := Lib.hid trivial
    have M3 := Lib.hid trivial
    have M4 := Lib.hid trivial
    rcases HFD.out with ⟨j, y0, hj1, hj2, hjl⟩ | ⟨hj1, hj2⟩
    · clear HFD
      rcases HRV.out with ⟨k, hr1, hk0⟩ | hr1
      · clear HRV
        have HJ := Lib.hid hj1
        have HFI := Lib.hid hj2
        clear hj1 hj2
        obtain ⟨px, po, pq, rfl, hpx, hpq, hcell⟩ := pairs_cell HPw.out hjl
        obtain rfl : pq = (code, y0) := Option.some.inj (hpq.symm.trans HJ.out)
        have hC' := KeepT.cell hC (hcell _ hX).2
        clear hC hpx hpq hcell
        have hC := hC'
        clear hC'
        have HRI := Lib.hid hr1
        clear hr1
        obtain ⟨c0, u0, u1, v0, v1, c1, c2, c3, c4, c5, c6, _⟩ := hC.c
        go_wp2_with (first
          | (go_at_call 18; clear M1; refine (is_yes _ L1 _ _ _ hC.t.1 (HPw.out.ext hX)).mono ?_; rintro e wy ⟨rfl, hb⟩; have hC' := hC.ext hb; have hX' := hX.trans hb; clear hC hb hX c0 u0 u1 v0 v1 c1 c2 c3 c4 c5 c6; have hC := hC'; have hX := hX'; clear hC' hX'; obtain ⟨c0, u0, u1, v0, v1, c1, c2, c3, c4, c5, c6, _⟩ := hC.c)
          | (go_at_call 18; clear M2; refine (is_yes _ L1 _ _ _ hC.t.2.1 (HPw.out.ext hX)).mono ?_; rintro e wy ⟨rfl, hb⟩; have hC' := hC.ext hb; have hX' := hX.trans hb; clear hC hb hX c0 u0 u1 v0 v1 c1 c2 c3 c4 c5 c6; have hC := hC'; have hX := hX'; clear hC' hX'; obtain ⟨c0, u0, u1, v0, v1, c1, c2, c3, c4, c5, c6, _⟩ := hC.c)
          | (go_at_call 18; clear M3; refine (is_yes _ l _ _ _ hC.t.2.2.1 (HPa.out.ext hX)).mono ?_; rintro e wy ⟨rfl, hb⟩; have hC' := hC.ext hb; have hX' := hX.trans hb; clear hC hb hX c0 u0 u1 v0 v1 c1 c2 c3 c4 c5 c6; have hC := hC'; have hX := hX'; clear hC' hX'; obtain ⟨c0, u0, u1, v0, v1, c1, c2, c3, c4, c5, c6, _⟩ := hC.c)
          | (go_at_call 18; clear M4; refine (is_yes _ m _ _ _ hC.t.2.2.2.1 (HPb.out.ext hX)).mono ?_; rintro e wy ⟨rfl, hb⟩; have hC' := hC.ext hb; have hX' := hX.trans hb; clear hC hb hX c0 u0 u1 v0 v1 c1 c2 c3 c4 c5 c6; have hC := hC'; have hX := hX'; clear hC' hX'; obtain ⟨c0, u0, u1, v0, v1, c1, c2, c3, c4, c5, c6, _⟩ := hC.c)
          | (go_at_call 19; refine (fwd_yes _ L1 (code, y0) _ hC.t.1 (List.mem_of_getElem? HJ.out)).mono ?_; rintro e wy ⟨rfl, hb⟩; have hC' := hC.ext hb; have hX' := hX.trans hb; clear hC hb hX c0 u0 u1 v0 v1 c1 c2 c3 c4 c5 c6; have hC := hC'; have hX := hX'; clear hC' hX'; obtain ⟨c0, u0, u1, v0, v1, c1, c2, c3, c4, c5, c6, _⟩ := hC.c)
          | (go_at_call 20; refine (find_is _ _ L1 code _ _ HFI.out (HPw.out.ext hX) (by omega)).mono ?_; rintro e wy ⟨rfl, hb⟩; have hC' := hC.ext hb; have hX' := hX.trans hb; clear hC hb hX c0 u0 u1 v0 v1 c1 c2 c3 c4 c5 c6; have hC := hC'; have hX := hX'; clear hC' hX'; obtain ⟨c0, u0, u1, v0, v1, c1, c2, c3, c4, c5, c6, _⟩ := hC.c)
          | (go_at_call 21; refine (rev_yes_any _ L1 sg _ _ hC.t.2.1 HF0.out HRI.out (by omega)).mono ?_; rintro e wy ⟨rfl, hb⟩; have hC' := hC.ext hb; have hX' := hX.trans hb; clear hC hb hX c0 u0 u1 v0 v1 c1 c2 c3 c4 c5 c6; have hC := hC'; have hX := hX'; clear hC' hX'; obtain ⟨c0, u0, u1, v0, v1, c1, c2, c3, c4, c5, c6, _⟩ := hC.c)
          | (go_at_call 22; refine (rev_is _ _ L1 sg _ _ HRI.out (HPw.out.ext hX) (by omega)).mono ?_; rintro e wy ⟨rfl, hb⟩; have hC' := hC.ext hb; have hX' := hX.trans hb; clear hC hb hX c0 u0 u1 v0 v1 c1 c2 c3 c4 c5 c6; have hC := hC'; have hX := hX'; clear hC' hX'; obtain ⟨c0, u0, u1, v0, v1, c1, c2, c3, c4, c5, c6, _⟩ := hC.c)
          | (go_at_call 13; refine (awake4 _ hC.tb).mono ?_; rintro e wy ⟨rfl, hb⟩; have hC' := hC.ext hb; have hX' := hX.trans hb; clear hC hb hX c0 u0 u1 v0 v1 c1 c2 c3 c4 c5 c6; have hC := hC'; have hX := hX'; clear hC' hX'; obtain ⟨c0, u0, u1, v0, v1, c1, c2, c3, c4, c5, c6, _⟩ := hC.c))
        go_ret
        exact ⟨by simp, hC.ex⟩
      · clear HRV
        have HJ := Lib.hid hj1
        have HFI := Lib.hid hj2
        clear hj1 hj2
        obtain ⟨px, po, pq, rfl, hpx, hpq, hcell⟩ := pairs_cell HPw.out hjl
        obtain rfl : pq = (code, y0) := Option.some.inj (hpq.symm.trans HJ.out)
        have hC' := KeepT.cell hC (hcell _ hX).2
        clear hC hpx hpq hcell
        have hC := hC'
        clear hC'
        have HRI := Lib.hid hr1
        clear hr1
        obtain ⟨c0, u0, u1, v0, v1, c1, c2, c3, c4, c5, c6, _⟩ := hC.c
        go_wp2_with (first
          | (go_at_call 18; clear M1; refine (is_yes _ L1 _ _ _ hC.t.1 (HPw.out.ext hX)).mono ?_; rintro e wy ⟨rfl, hb⟩; have hC' := hC.ext hb; have hX' := hX.trans hb; clear hC hb hX c0 u0 u1 v0 v1 c1 c2 c3 c4 c5 c6; have hC := hC'; have hX := hX'; clear hC' hX'; obtain ⟨c0, u0, u1, v0, v1, c1, c2, c3, c4, c5, c6, _⟩ := hC.c)
          | (go_at_call 18; clear M2; refine (is_yes _ L1 _ _ _ hC.t.2.1 (HPw.out.ext hX)).mono ?_; rintro e wy ⟨rfl, hb⟩; have hC' := hC.ext hb; have hX' := hX.trans hb; clear hC hb hX c0 u0 u1 v0 v1 c1 c2 c3 c4 c5 c6; have hC := hC'; have hX := hX'; clear hC' hX'; obtain ⟨c0, u0, u1, v0, v1, c1, c2, c3, c4, c5, c6, _⟩ := hC.c)
          | (go_at_call 18; clear M3; refine (is_yes _ l _ _ _ hC.t.2.2.1 (HPa.out.ext hX)).mono ?_; rintro e wy ⟨rfl, hb⟩; have hC' := hC.ext hb; have hX' := hX.trans hb; clear hC hb hX c0 u0 u1 v0 v1 c1 c2 c3 c4 c5 c6; have hC := hC'; have hX := hX'; clear hC' hX'; obtain ⟨c0, u0, u1, v0, v1, c1, c2, c3, c4, c5, c6, _⟩ := hC.c)
          | (go_at_call 18; clear M4; refine (is_yes _ m _ _ _ hC.t.2.2.2.1 (HPb.out.ext hX)).mono ?_; rintro e wy ⟨rfl, hb⟩; have hC' := hC.ext hb; have hX' := hX.trans hb; clear hC hb hX c0 u0 u1 v0 v1 c1 c2 c3 c4 c5 c6; have hC := hC'; have hX := hX'; clear hC' hX'; obtain ⟨c0, u0, u1, v0, v1, c1, c2, c3, c4, c5, c6, _⟩ := hC.c)
          | (go_at_call 19; refine (fwd_yes _ L1 (code, y0) _ hC.t.1 (List.mem_of_getElem? HJ.out)).mono ?_; rintro e wy ⟨rfl, hb⟩; have hC' := hC.ext hb; have hX' := hX.trans hb; clear hC hb hX c0 u0 u1 v0 v1 c1 c2 c3 c4 c5 c6; have hC := hC'; have hX := hX'; clear hC' hX'; obtain ⟨c0, u0, u1, v0, v1, c1, c2, c3, c4, c5, c6, _⟩ := hC.c)
          | (go_at_call 20; refine (find_is _ _ L1 code _ _ HFI.out (HPw.out.ext hX) (by omega)).mono ?_; rintro e wy ⟨rfl, hb⟩; have hC' := hC.ext hb; have hX' := hX.trans hb; clear hC hb hX c0 u0 u1 v0 v1 c1 c2 c3 c4 c5 c6; have hC := hC'; have hX := hX'; clear hC' hX'; obtain ⟨c0, u0, u1, v0, v1, c1, c2, c3, c4, c5, c6, _⟩ := hC.c)
          | (go_at_call 21; refine (rev_no_any _ L1 sg _ hC.t.2.1 HF0.out (by rw [HRI.out]; decide) hs0 hs1).mono ?_; rintro e wy ⟨rfl, hb⟩; have hC' := hC.ext hb; have hX' := hX.trans hb; clear hC hb hX c0 u0 u1 v0 v1 c1 c2 c3 c4 c5 c6; have hC := hC'; have hX := hX'; clear hC' hX'; obtain ⟨c0, u0, u1, v0, v1, c1, c2, c3, c4, c5, c6, _⟩ := hC.c)
          | (go_at_call 22; refine (rev_is _ _ L1 sg _ _ HRI.out (HPw.out.ext hX) (by omega)).mono ?_; rintro e wy ⟨rfl, hb⟩; have hC' := hC.ext hb; have hX' := hX.trans hb; clear hC hb hX c0 u0 u1 v0 v1 c1 c2 c3 c4 c5 c6; have hC := hC'; have hX := hX'; clear hC' hX'; obtain ⟨c0, u0, u1, v0, v1, c1, c2, c3, c4, c5, c6, _⟩ := hC.c)
          | (go_at_call 13; refine (awake4 _ hC.tb).mono ?_; rintro e wy ⟨rfl, hb⟩; have hC' := hC.ext hb; have hX' := hX.trans hb; clear hC hb hX c0 u0 u1 v0 v1 c1 c2 c3 c4 c5 c6; have hC := hC'; have hX := hX'; clear hC' hX'; obtain ⟨c0, u0, u1, v0, v1, c1, c2, c3, c4, c5, c6, _⟩ := hC.c))
        go_ret
        exact ⟨by simp, hC.ex⟩
    · clear HFD
      rcases HRV.out with ⟨k, hr1, hk0⟩ | hr1
      · clear HRV
        have HNF := Lib.hid hj1
        have HFI := Lib.hid hj2
        clear hj1 hj2
        have HRI := Lib.hid hr1
        clear hr1
        obtain ⟨u0, u1, v0, v1, c1, c2, c3, c4, c5, c6, _⟩ := hC.c
        go_wp2_with (first
          | (go_at_call 18; clear M1; refine (is_yes _ L1 _ _ _ hC.t.1 (HPw.out.ext hX)).mono ?_; rintro e wy ⟨rfl, hb⟩; have hC' := hC.ext hb; have hX' := hX.trans hb; clear hC hb hX u0 u1 v0 v1 c1 c2 c3 c4 c5 c6; have hC := hC'; have hX := hX'; clear hC' hX'; obtain ⟨u0, u1, v0, v1, c1, c2, c3, c4, c5, c6, _⟩ := hC.c)
          | (go_at_call 18; clear M2; refine (is_yes _ L1 _ _ _ hC.t.2.1 (HPw.out.ext hX)).mono ?_; rintro e wy ⟨rfl, hb⟩; have hC' := hC.ext hb; have hX' := hX.trans hb; clear hC hb hX u0 u1 v0 v1 c1 c2 c3 c4 c5 c6; have hC := hC'; have hX := hX'; clear hC' hX'; obtain ⟨u0, u1, v0, v1, c1, c2, c3, c4, c5, c6, _⟩ := hC.c)
          | (go_at_call 18; clear M3; refine (is_yes _ l _ _ _ hC.t.2.2.1 (HPa.out.ext hX)).mono ?_; rintro e wy ⟨rfl, hb⟩; have hC' := hC.ext hb; have hX' := hX.trans hb; clear hC hb hX u0 u1 v0 v1 c1 c2 c3 c4 c5 c6; have hC := hC'; have hX := hX'; clear hC' hX'; obtain ⟨u0, u1, v0, v1, c1, c2, c3, c4, c5, c6, _⟩ := hC.c)
          | (go_at_call 18; clear M4; refine (is_yes _ m _ _ _ hC.t.2.2.2.1 (HPb.out.ext hX)).mono ?_; rintro e wy ⟨rfl, hb⟩; have hC' := hC.ext hb; have hX' := hX.trans hb; clear hC hb hX u0 u1 v0 v1 c1 c2 c3 c4 c5 c6; have hC := hC'; have hX := hX'; clear hC' hX'; obtain ⟨u0, u1, v0, v1, c1, c2, c3, c4, c5, c6, _⟩ := hC.c)
          | (go_at_call 19; refine (fwd_no _ L1 code _ hC.t.1 HNF.out).mono ?_; rintro e wy ⟨rfl, hb⟩; have hC' := hC.ext hb; have hX' := hX.trans hb; clear hC hb hX u0 u1 v0 v1 c1 c2 c3 c4 c5 c6; have hC := hC'; have hX := hX'; clear hC' hX'; obtain ⟨u0, u1, v0, v1, c1, c2, c3, c4, c5, c6, _⟩ := hC.c)
          | (go_at_call 20; refine (find_is _ _ L1 code _ _ HFI.out (HPw.out.ext hX) (by omega)).mono ?_; rintro e wy ⟨rfl, hb⟩; have hC' := hC.ext hb; have hX' := hX.trans hb; clear hC hb hX u0 u1 v0 v1 c1 c2 c3 c4 c5 c6; have hC := hC'; have hX := hX'; clear hC' hX'; obtain ⟨u0, u1, v0, v1, c1, c2, c3, c4, c5, c6, _⟩ := hC.c)
          | (go_at_call 21; refine (rev_yes_any _ L1 sg _ _ hC.t.2.1 HF0.out HRI.out (by omega)).mono ?_; rintro e wy ⟨rfl, hb⟩; have hC' := hC.ext hb; have hX' := hX.trans hb; clear hC hb hX u0 u1 v0 v1 c1 c2 c3 c4 c5 c6; have hC := hC'; have hX := hX'; clear hC' hX'; obtain ⟨u0, u1, v0, v1, c1, c2, c3, c4, c5, c6, _⟩ := hC.c)
          | (go_at_call 22; refine (rev_is _ _ L1 sg _ _ HRI.out (HPw.out.ext hX) (by omega)).mono ?_; rintro e wy ⟨rfl, hb⟩; have hC' := hC.ext hb; have hX' := hX.trans hb; clear hC hb hX u0 u1 v0 v1 c1 c2 c3 c4 c5 c6; have hC := hC'; have hX := hX'; clear hC' hX'; obtain ⟨u0, u1, v0, v1, c1, c2, c3, c4, c5, c6, _⟩ := hC.c)
          | (go_at_call 13; refine (awake4 _ hC.tb).mono ?_; rintro e wy ⟨rfl, hb⟩; have hC' := hC.ext hb; have hX' := hX.trans hb; clear hC hb hX u0 u1 v0 v1 c1 c2 c3 c4 c5 c6; have hC := hC'; have hX := hX'; clear hC' hX'; obtain ⟨u0, u1, v0, v1, c1, c2, c3, c4, c5, c6, _⟩ := hC.c))
        go_ret
        exact ⟨by simp, hC.ex⟩
      · clear HRV
        have HNF := Lib.hid hj1
        have HFI := Lib.hid hj2
        clear hj1 hj2
        have HRI := Lib.hid hr1
        clear hr1
        obtain ⟨u0, u1, v0, v1, c1, c2, c3, c4, c5, c6, _⟩ := hC.c
        go_wp2_with (first
          | (go_at_call 18; clear M1; refine (is_yes _ L1 _ _ _ hC.t.1 (HPw.out.ext hX)).mono ?_; rintro e wy ⟨rfl, hb⟩; have hC' := hC.ext hb; have hX' := hX.trans hb; clear hC hb hX u0 u1 v0 v1 c1 c2 c3 c4 c5 c6; have hC := hC'; have hX := hX'; clear hC' hX'; obtain ⟨u0, u1, v0, v1, c1, c2, c3, c4, c5, c6, _⟩ := hC.c)
          | (go_at_call 18; clear M2; refine (is_yes _ L1 _ _ _ hC.t.2.1 (HPw.out.ext hX)).mono ?_; rintro e wy ⟨rfl, hb⟩; have hC' := hC.ext hb; have hX' := hX.trans hb; clear hC hb hX u0 u1 v0 v1 c1 c2 c3 c4 c5 c6; have hC := hC'; have hX := hX'; clear hC' hX'; obtain ⟨u0, u1, v0, v1, c1, c2, c3, c4, c5, c6, _⟩ := hC.c)
          | (go_at_call 18; clear M3; refine (is_yes _ l _ _ _ hC.t.2.2.1 (HPa.out.ext hX)).mono ?_; rintro e wy ⟨rfl, hb⟩; have hC' := hC.ext hb; have hX' := hX.trans hb; clear hC hb hX u0 u1 v0 v1 c1 c2 c3 c4 c5 c6; have hC := hC'; have hX := hX'; clear hC' hX'; obtain ⟨u0, u1, v0, v1, c1, c2, c3, c4, c5, c6, _⟩ := hC.c)
          | (go_at_call 18; clear M4; refine (is_yes _ m _ _ _ hC.t.2.2.2.1 (HPb.out.ext hX)).mono ?_; rintro e wy ⟨rfl, hb⟩; have hC' := hC.ext hb; have hX' := hX.trans hb; clear hC hb hX u0 u1 v0 v1 c1 c2 c3 c4 c5 c6; have hC := hC'; have hX := hX'; clear hC' hX'; obtain ⟨u0, u1, v0, v1, c1, c2, c3, c4, c5, c6, _⟩ := hC.c)
          | (go_at_call 19; refine (fwd_no _ L1 code _ hC.t.1 HNF.out).mono ?_; rintro e wy ⟨rfl, hb⟩; have hC' := hC.ext hb; have hX' := hX.trans hb; clear hC hb hX u0 u1 v0 v1 c1 c2 c3 c4 c5 c6; have hC := hC'; have hX := hX'; clear hC' hX'; obtain ⟨u0, u1, v0, v1, c1, c2, c3, c4, c5, c6, _⟩ := hC.c)
          | (go_at_call 20; refine (find_is _ _ L1 code _ _ HFI.out (HPw.out.ext hX) (by omega)).mono ?_; rintro e wy ⟨rfl, hb⟩; have hC' := hC.ext hb; have hX' := hX.trans hb; clear hC hb hX u0 u1 v0 v1 c1 c2 c3 c4 c5 c6; have hC := hC'; have hX := hX'; clear hC' hX'; obtain ⟨u0, u1, v0, v1, c1, c2, c3, c4, c5, c6, _⟩ := hC.c)
          | (go_at_call 21; refine (rev_no_any _ L1 sg _ hC.t.2.1 HF0.out (by rw [HRI.out]; decide) hs0 hs1).mono ?_; rintro e wy ⟨rfl, hb⟩; have hC' := hC.ext hb; have hX' := hX.trans hb; clear hC hb hX u0 u1 v0 v1 c1 c2 c3 c4 c5 c6; have hC := hC'; have hX := hX'; clear hC' hX'; obtain ⟨u0, u1, v0, v1, c1, c2, c3, c4, c5, c6, _⟩ := hC.c)
          | (go_at_call 22; refine (rev_is _ _ L1 sg _ _ HRI.out (HPw.out.ext hX) (by omega)).mono ?_; rintro e wy ⟨rfl, hb⟩; have hC' := hC.ext hb; have hX' := hX.trans hb; clear hC hb hX u0 u1 v0 v1 c1 c2 c3 c4 c5 c6; have hC := hC'; have hX := hX'; clear hC' hX'; obtain ⟨u0, u1, v0, v1, c1, c2, c3, c4, c5, c6, _⟩ := hC.c)
          | (go_at_call 13; refine (awake4 _ hC.tb).mono ?_; rintro e wy ⟨rfl, hb⟩; have hC' := hC.ext hb; have hX' := hX.trans hb; clear hC hb hX u0 u1 v0 v1 c1 c2 c3 c4 c5 c6; have hC := hC'; have hX := hX'; clear hC' hX'; obtain ⟨u0, u1, v0, v1, c1, c2, c3, c4, c5, c6, _⟩ := hC.c))
        go_ret
        exact ⟨by simp, hC.ex⟩
  case first =>
    have hC' := hC.ext (Ext.drew (Ext.refl _))
    have hX := Ext.drew (Ext.refl w4w)
    clear hC c1 c2 c3 c4 c5 c6
    have hC := hC'
    clear hC'
    obtain ⟨c1, c2, c3, c4, c5, c6, _⟩ := hC.c
    have hl1 : (overP l m).length ≤ 7200 := by have := over_len l m; omega
    clear HPa HPb HPc HPo HPw
    refine wp_region_held_drew (S := (fun W' => W'.cell? ⟨w2c.heap.size + 1 + 1, 0, none⟩ = some (.slice tc1 nc1 tc2) ∧ W'.cell? ⟨w2c.heap.size + 1 + 1, 1, none⟩ = some (.slice tc3 nc2 tc4) ∧ W'.cell? ⟨w2c.heap.size + 1, 0, none⟩ = some (.slice tb1 nb1 tb2) ∧ W'.cell? ⟨w2c.heap.size + 1, 1, none⟩ = some (.slice tb3 nb2 tb4) ∧ W'.cell? ⟨w2c.heap.size, 0, none⟩ = some (.slice ta1 na1 ta2) ∧ W'.cell? ⟨w2c.heap.size, 1, none⟩ = some (.slice ta3 na2 ta4))) (by kernel_rfl) ?_ (fun hHeld => ?_)
    · (try dsimp only); go_keep
    generalize w4w.drew = w5 at hC hX hHeld c1 c2 c3 c4 c5 c6 ⊢
    refine' wpAnyH_take (i := 0) (oi := { dst := some 69, op := _, type := _, pos := _, after := _, guard := _ }) (v := _) ?hiz1 (by kernel_rfl) ?hfz1 ?hrz1 ?hqz1 ?hyz1 ?hsz1 ?restz1
    case hiz1 => exact rfl
    case hfz1 => kernel_rfl
    case hrz1 => kernel_rfl
    case hqz1 => exact fun _ _ _ h => h
    case hsz1 => assumption
    case hyz1 =>
      refine Or.inl ⟨by kernel_rfl, ?_⟩
      intro w hSw
      try dsimp only at hSw
      go_simp
      try with_reducible rfl
    try simp only [Act.put, List.setIfInBounds_toArray, List.set_cons_zero, List.set_cons_succ]
    refine' wpAnyH_take (i := 1) (oi := { dst := some 70, op := _, type := _, pos := _, after := _, guard := _ }) (v := _) ?hiz2 (by kernel_rfl) ?hfz2 ?hrz2 ?hqz2 ?hyz2 ?hsz2 ?restz2
    case hiz2 => exact rfl
    case hfz2 => kernel_rfl
    case hrz2 => kernel_rfl
    case hqz2 => exact fun _ _ _ h => h
    case hsz2 => assumption
    case hyz2 =>
      refine Or.inl ⟨by kernel_rfl, ?_⟩
      intro w hSw
      try dsimp only at hSw
      go_simp
      try with_reducible rfl
    try simp only [Act.put, List.setIfInBounds_toArray, List.set_cons_zero, List.set_cons_succ]
    refine' wpAnyH_take (i := 2) (oi := { dst := some 71, op := _, type := _, pos := _, after := _, guard := _ }) (v := _) ?hiz3 (by kernel_rfl) ?hfz3 ?hrz3 ?hqz3 ?hyz3 ?hsz3 ?restz3
    case hiz3 => exact rfl
    case hfz3 => kernel_rfl
    case hrz3 => kernel_rfl
    case hqz3 => exact fun _ _ _ h => h
    case hsz3 => assumption
    case hyz3 =>
      refine Or.inl ⟨by kernel_rfl, ?_⟩
      intro w hSw
      try dsimp only at hSw
      go_simp
      try with_reducible rfl
    try simp only [Act.put, List.setIfInBounds_toArray, List.set_cons_zero, List.set_cons_succ]
    refine' wpAnyH_take (i := 5) (oi := { dst := some 74, op := _, type := _, pos := _, after := _, guard := _ }) (v := _) ?hiz4 (by kernel_rfl) ?hfz4 ?hrz4 ?hqz4 ?hyz4 ?hsz4 ?restz4
    case hiz4 => exact rfl
    case hfz4 => kernel_rfl
    case hrz4 => kernel_rfl
    case hqz4 => exact fun _ _ _ h => h
    case hsz4 => assumption
    case hyz4 =>
      refine Or.inl ⟨by kernel_rfl, ?_⟩
      intro w hSw
      try dsimp only at hSw
      go_simp
      try with_reducible rfl
    try simp only [Act.put, List.setIfInBounds_toArray, List.set_cons_zero, List.set_cons_succ]
    refine' wpAnyH_take (i := 6) (oi := { dst := some 75, op := _, type := _, pos := _, after := _, guard := _ }) (v := _) ?hiz5 (by kernel_rfl) ?hfz5 ?hrz5 ?hqz5 ?hyz5 ?hsz5 ?restz5
    case hiz5 => exact rfl
    case hfz5 => kernel_rfl
    case hrz5 => kernel_rfl
    case hqz5 => exact fun _ _ _ h => h
    case hsz5 => assumption
    case hyz5 =>
      refine Or.inl ⟨by kernel_rfl, ?_⟩
      intro w hSw
      try dsimp only at hSw
      go_simp
      try with_reducible rfl
    try simp only [Act.put, List.setIfInBounds_toArray, List.set_cons_zero, List.set_cons_succ]
    refine' wpAnyH_take (i := 8) (oi := { dst := some 77, op := _, type := _, pos := _, after := _, guard := _ }) (v := _) ?hiz6 (by kernel_rfl) ?hfz6 ?hrz6 ?hqz6 ?hyz6 ?hsz6 ?restz6
    case hiz6 => exact rfl
    case hfz6 => kernel_rfl
    case hrz6 => kernel_rfl
    case hqz6 => exact fun _ _ _ h => h
    case hsz6 => assumption
    case hyz6 =>
      refine Or.inl ⟨by kernel_rfl, ?_⟩
      intro w hSw
      try dsimp only at hSw
      go_simp
      try with_reducible rfl
    try simp only [Act.put, List.setIfInBounds_toArray, List.set_cons_zero, List.set_cons_succ]
    refine wpAnyH_ready (rs := [3, 10, 11]) (by kernel_rfl) (by simp) ?_
    refine' AllReadyH.cons (o := _) ?hiAz7 (fun K hK => ?hkAz7) (AllReadyH.cons (o := _) ?hiBz7 (fun K hK => ?hkBz7) (AllReadyH.cons (o := _) ?hiCz7 (fun K hK => ?hkCz7) AllReadyH.nil))
    case hiAz7 => exact rfl
    case hiBz7 => exact rfl
    case hiCz7 => exact rfl
    case hkAz7 =>
      go_simp
      go_at_call 25
      refine (over_any _ _ m n _ hC.t.2.1 hC.t.1 (by omega) (by omega)).mono ?_
      rintro e wqA ⟨vx3, rfl, ht, hb⟩
      obtain ⟨r31, r32, r33, r34, r35, r36, rfl⟩ := ht.open
      have hC' := (hC.ext hb).tab ht
      have hX' := hX.trans hb
      clear hC hb ht hX c1 c2 c3 c4 c5 c6 
      have hC := hC'
      have hX := hX'
      clear hC' hX' 
      obtain ⟨c1, c2, c3, c4, c5, c6, _⟩ := hC.c
      try go_wp2_with fail
      refine hK.out _ _ ?hS0z155 (fun hHeld => ?restz155)
      case hS0z155 => (try dsimp only); go_keep
      clear hK K
      try simp only [Act.put, List.setIfInBounds_toArray, List.set_cons_zero, List.set_cons_succ]
      refine wpAnyH_ready (rs := [4, 10, 11]) (by kernel_rfl) (by simp) ?_
      refine' AllReadyH.cons (o := _) ?hiAz8 (fun K hK => ?hkAz8) (AllReadyH.cons (o := _) ?hiBz8 (fun K hK => ?hkBz8) (AllReadyH.cons (o := _) ?hiCz8 (fun K hK => ?hkCz8) AllReadyH.nil))
      case hiAz8 => exact rfl
      case hiBz8 => exact rfl
      case hiCz8 => exact rfl
      case hkAz8 =>
        go_simp
        go_at_call 25
        refine (over_any _ _ l (overP m n) _ hC.t.2.2.2.1 hC.t.1 (by omega) (by omega)).mono ?_
        rintro e wqAA ⟨vx4, rfl, ht, hb⟩
        obtain ⟨r41, r42, r43, r44, r45, r46, rfl⟩ := ht.open
        have hC' := (hC.ext hb).tab ht
        have hX' := hX.trans hb
        clear hC hb ht hX c1 c2 c3 c4 c5 c6 
        have hC := hC'
        have hX := hX'
        clear hC' hX' 
        obtain ⟨c1, c2, c3, c4, c5, c6, _⟩ := hC.c
        try go_wp2_with fail
        refine hK.out _ _ ?hS0z90 (fun hHeld => ?restz90)
        case hS0z90 => (try dsimp only); go_keep
        clear hK K
        try simp only [Act.put, List.setIfInBounds_toArray, List.set_cons_zero, List.set_cons_succ]
        refine wpAnyH_ready (rs := [7, 10, 11]) (by kernel_rfl) (by simp) ?_
        refine' AllReadyH.cons (o := _) ?hiAz9 (fun K hK => ?hkAz9) (AllReadyH.cons (o := _) ?hiBz9 (fun K hK => ?hkBz9) (AllReadyH.cons (o := _) ?hiCz9 (fun K hK => ?hkCz9) AllReadyH.nil))
        case hiAz9 => exact rfl
        case hiBz9 => exact rfl
        case hiCz9 => exact rfl
        case hkAz9 =>
          go_simp
          go_at_call 25
          refine (over_any _ _ l m _ hC.t.2.2.2.2.1 hC.t.2.2.2.1 (by omega) (by omega)).mono ?_
          rintro e wqAAA ⟨vx7, rfl, ht, hb⟩
          obtain ⟨r71, r72, r73, r74, r75, r76, rfl⟩ := ht.open
          have hC' := (hC.ext hb).tab ht
          have hX' := hX.trans hb
          clear hC hb ht hX c1 c2 c3 c4 c5 c6 
          have hC := hC'
          have hX := hX'
          clear hC' hX' 
          obtain ⟨c1, c2, c3, c4, c5, c6, _⟩ := hC.c
          try go_wp2_with fail
          refine hK.out _ _ ?hS0z47 (fun hHeld => ?restz47)
          case hS0z47 => (try dsimp only); go_keep
          clear hK K
          try simp only [Act.put, List.setIfInBounds_toArray, List.set_cons_zero, List.set_cons_succ]
          refine wpAnyH_ready (rs := [9, 10, 11]) (by kernel_rfl) (by simp) ?_
          refine' AllReadyH.cons (o := _) ?hiAz10 (fun K hK => ?hkAz10) (AllReadyH.cons (o := _) ?hiBz10 (fun K hK => ?hkBz10) (AllReadyH.cons (o := _) ?hiCz10 (fun K hK => ?hkCz10) AllReadyH.nil))
          case hiAz10 => exact rfl
          case hiBz10 => exact rfl
          case hiCz10 => exact rfl
          case hkAz10 =>
            go_simp
            go_at_call 25
            refine (over_any _ _ (overP l m) n _ hC.t.1 hC.t.2.2.2.1 (by omega) (by omega)).mono ?_
            rintro e wqAAAA ⟨vx9, rfl, ht, hb⟩
            obtain ⟨r91, r92, r93, r94, r95, r96, rfl⟩ := ht.open
            have hC' := (hC.ext hb).tab ht
            have hX' := hX.trans hb
            clear hC hb ht hX c1 c2 c3 c4 c5 c6 
            have hC := hC'
            have hX := hX'
            clear hC' hX' 
            obtain ⟨c1, c2, c3, c4, c5, c6, _⟩ := hC.c
            try go_wp2_with fail
            refine hK.out _ _ ?hS0z22 (fun hHeld => ?restz22)
            case hS0z22 => (try dsimp only); go_keep
            clear hK K
            try simp only [Act.put, List.setIfInBounds_toArray, List.set_cons_zero, List.set_cons_succ]
            refine wpAnyH_ready (rs := [10, 11]) (by kernel_rfl) (by simp) ?_
            refine' AllReadyH.cons (o := _) ?hiAz11 (fun K hK => ?hkAz11) (AllReadyH.cons (o := _) ?hiBz11 (fun K hK => ?hkBz11) AllReadyH.nil)
            case hiAz11 => exact rfl
            case hiBz11 => exact rfl
            case hkAz11 =>
              go_simp
              have HU := Lib.hid (heap_alloc_new wqAAAA (.cells #[.slice none 0 0, .slice none 0 0] 27))
              have hWu : w4w.heap.size ≤ wqAAAA.heap.size := hX.size
              have HNU := Lib.hid (keepT_far hC)
              have hC' := hC.ext ((Ext.refl wqAAAA).alloc (.cells #[.slice none 0 0, .slice none 0 0] 27))
              have hX' := hX.trans ((Ext.refl wqAAAA).alloc (.cells #[.slice none 0 0, .slice none 0 0] 27))
              obtain ⟨bu, hbu⟩ : ∃ b, b = wqAAAA.heap.size := ⟨_, rfl⟩
              rw [← hbu] at HU hWu HNU ⊢
              generalize wqAAAA.alloc (.cells #[.slice none 0 0, .slice none 0 0] 27) = wqAAAAA at hC' hX' HU ⊢
              clear hC hX c1 c2 c3 c4 c5 c6 hbu 
              have hC := hC'
              have hX := hX'
              clear hC' hX' 
              obtain ⟨c1, c2, c3, c4, c5, c6, _⟩ := hC.c
              refine hK.out _ _ ?hS0z16 (fun hHeld => ?restz16)
              case hS0z16 => (try dsimp only); go_keep
              clear hK K
              try simp only [Act.put, List.setIfInBounds_toArray, List.set_cons_zero, List.set_cons_succ]
              refine wpAnyH_ready (rs := [11]) (by kernel_rfl) (by simp) ?_
              refine' AllReadyH.cons (o := _) ?hiAz12 (fun K hK => ?hkAz12) AllReadyH.nil
              case hiAz12 => exact rfl
              case hkAz12 =>
                go_simp
                have HV := Lib.hid (heap_alloc_new wqAAAAA (.cells #[.slice none 0 0, .slice none 0 0] 27))
                have hWv : w4w.heap.size ≤ wqAAAAA.heap.size := hX.size
                have HNV := Lib.hid (keepT_far hC)
                have hne : bu ≠ wqAAAAA.heap.size := Nat.ne_of_lt (lt_of_block HU.out)
                have hC' := hC.ext ((Ext.refl wqAAAAA).alloc (.cells #[.slice none 0 0, .slice none 0 0] 27))
                have hX' := hX.trans ((Ext.refl wqAAAAA).alloc (.cells #[.slice none 0 0, .slice none 0 0] 27))
                have HU' := Lib.hid ((((Ext.refl wqAAAAA).alloc (.cells #[.slice none 0 0, .slice none 0 0] 27)).block _ (lt_of_block HU.out)).trans HU.out)
                obtain ⟨bv, hbv⟩ : ∃ b, b = wqAAAAA.heap.size := ⟨_, rfl⟩
                rw [← hbv] at HV hWv HNV hne ⊢
                generalize wqAAAAA.alloc (.cells #[.slice none 0 0, .slice none 0 0] 27) = wqAAAAAA at hC' hX' HV HU' ⊢
                clear hC hX c1 c2 c3 c4 c5 c6 hbv HU
                have hC := hC'
                have hX := hX'
                have HU := HU'
                clear hC' hX' HU'
                obtain ⟨c1, c2, c3, c4, c5, c6, _⟩ := hC.c
                refine hK.out _ _ ?hS0z15 (fun hHeld => ?restz15)
                case hS0z15 => (try dsimp only); go_keep
                clear hK K
                try simp only [Act.put, List.setIfInBounds_toArray, List.set_cons_zero, List.set_cons_succ]
                obtain ⟨⟨d0, d1⟩, z0, z1⟩ := facts2 HU.out
                obtain ⟨⟨d2, d3⟩, z2, z3⟩ := facts2 HV.out
                have hE := ov_end hX (keepT_c hC) HU.out HV.out hWu hWv hne HNU.out HNV.out hC.t.2.2.1 hC.t.1 hC.t.2.2.2.2.2.2.1 hC.t.2.2.2.2.2.1
                have HE := Lib.hid hE
                have hC1 := hE.1
                have hc3 := hC1
                clear hE
                refine wpAnyH_ready (rs := [12]) (by kernel_rfl) (by simp) ?_
                refine' AllReadyH.cons (o := _) ?hiz13 (fun K hK => ?hkAz13) AllReadyH.nil
                case hiz13 => exact rfl
                go_simp
                refine hK.out _ _ ?hS0z13 (fun hHeld => ?restz13)
                case hS0z13 => exact ⟨hC1.1, hC1.2.1, hC1.2.2.1, hC1.2.2.2.1, hC1.2.2.2.2.1, hC1.2.2.2.2.2.1⟩
                clear hK K
                try simp only [Act.put, List.setIfInBounds_toArray, List.set_cons_zero, List.set_cons_succ]
                have hkk : ((wqAAAAAA.setCell ⟨bu, 0, none⟩ (.slice r41 r42 r43)).setCell ⟨bu, 1, none⟩ (.slice r44 r45 r46)).heap[bv]? = wqAAAAAA.heap[bv]? := by rw [heap_setCell_other _ _ _ _ (Ne.symm hne), heap_setCell_other _ _ _ _ (Ne.symm hne)]
                obtain ⟨⟨d4, d5⟩, z4, z5⟩ := facts2 (hkk.trans HV.out)
                clear d0 d1 z0 z1 d2 d3 z2 z3 hkk
                refine wpAnyH_ready (rs := [13]) (by kernel_rfl) (by simp) ?_
                refine' AllReadyH.cons (o := _) ?hiz14 (fun K hK => ?hkAz14) AllReadyH.nil
                case hiz14 => exact rfl
                go_simp
                refine hK.out _ _ ?hS0z14 (fun hHeld => ?restz14)
                case hS0z14 => exact ⟨HE.out.2.2.1.1, HE.out.2.2.1.2.1, HE.out.2.2.1.2.2.1, HE.out.2.2.1.2.2.2.1, HE.out.2.2.1.2.2.2.2.1, HE.out.2.2.1.2.2.2.2.2.1⟩
                clear hK K
                try simp only [Act.put, List.setIfInBounds_toArray, List.set_cons_zero, List.set_cons_succ]
                refine wpAnyH_done (by kernel_rfl) ?_ _
                go_wp2_with fail
                go_meet
                exact ⟨bu, bv, rfl, rfl, HE.out.2⟩
            case hkBz11 =>
              go_simp
              have HV := Lib.hid (heap_alloc_new wqAAAA (.cells #[.slice none 0 0, .slice none 0 0] 27))
              have hWv : w4w.heap.size ≤ wqAAAA.heap.size := hX.size
              have HNV := Lib.hid (keepT_far hC)
              have hC' := hC.ext ((Ext.refl wqAAAA).alloc (.cells #[.slice none 0 0, .slice none 0 0] 27))
              have hX' := hX.trans ((Ext.refl wqAAAA).alloc (.cells #[.slice none 0 0, .slice none 0 0] 27))
              obtain ⟨bv, hbv⟩ : ∃ b, b = wqAAAA.heap.size := ⟨_, rfl⟩
              rw [← hbv] at HV hWv HNV ⊢
              generalize wqAAAA.alloc (.cells #[.slice none 0 0, .slice none 0 0] 27) = wqAAAAB at hC' hX' HV ⊢
              clear hC hX c1 c2 c3 c4 c5 c6 hbv 
              have hC := hC'
              have hX := hX'
              clear hC' hX' 
              obtain ⟨c1, c2, c3, c4, c5, c6, _⟩ := hC.c
              refine hK.out _ _ ?hS0z21 (fun hHeld => ?restz21)
              case hS0z21 => (try dsimp only); go_keep
              clear hK K
              try simp only [Act.put, List.setIfInBounds_toArray, List.set_cons_zero, List.set_cons_succ]
              refine wpAnyH_ready (rs := [10]) (by kernel_rfl) (by simp) ?_
              refine' AllReadyH.cons (o := _) ?hiAz17 (fun K hK => ?hkAz17) AllReadyH.nil
              case hiAz17 => exact rfl
              case hkAz17 =>
                go_simp
                have HU := Lib.hid (heap_alloc_new wqAAAAB (.cells #[.slice none 0 0, .slice none 0 0] 27))
                have hWu : w4w.heap.size ≤ wqAAAAB.heap.size := hX.size
                have HNU := Lib.hid (keepT_far hC)
                have hne : wqAAAAB.heap.size ≠ bv := Nat.ne_of_gt (lt_of_block HV.out)
                have hC' := hC.ext ((Ext.refl wqAAAAB).alloc (.cells #[.slice none 0 0, .slice none 0 0] 27))
                have hX' := hX.trans ((Ext.refl wqAAAAB).alloc (.cells #[.slice none 0 0, .slice none 0 0] 27))
                have HV' := Lib.hid ((((Ext.refl wqAAAAB).alloc (.cells #[.slice none 0 0, .slice none 0 0] 27)).block _ (lt_of_block HV.out)).trans HV.out)
                obtain ⟨bu, hbu⟩ : ∃ b, b = wqAAAAB.heap.size := ⟨_, rfl⟩
                rw [← hbu] at HU hWu HNU hne ⊢
                generalize wqAAAAB.alloc (.cells #[.slice none 0 0, .slice none 0 0] 27) = wqAAAABA at hC' hX' HU HV' ⊢
                clear hC hX c1 c2 c3 c4 c5 c6 hbu HV
                have hC := hC'
                have hX := hX'
                have HV := HV'
                clear hC' hX' HV'
                obtain ⟨c1, c2, c3, c4, c5, c6, _⟩ := hC.c
                refine hK.out _ _ ?hS0z20 (fun hHeld => ?restz20)
                case hS0z20 => (try dsimp only); go_keep
                clear hK K
                try simp only [Act.put, List.setIfInBounds_toArray, List.set_cons_zero, List.set_cons_succ]
                obtain ⟨⟨d0, d1⟩, z0, z1⟩ := facts2 HU.out
                obtain ⟨⟨d2, d3⟩, z2, z3⟩ := facts2 HV.out
                have hE := ov_end hX (keepT_c hC) HU.out HV.out hWu hWv hne HNU.out HNV.out hC.t.2.2.1 hC.t.1 hC.t.2.2.2.2.2.2.1 hC.t.2.2.2.2.2.1
                have HE := Lib.hid hE
                have hC1 := hE.1
                have hc3 := hC1
                clear hE
                refine wpAnyH_ready (rs := [12]) (by kernel_rfl) (by simp) ?_
                refine' AllReadyH.cons (o := _) ?hiz18 (fun K hK => ?hkAz18) AllReadyH.nil
                case hiz18 => exact rfl
                go_simp
                refine hK.out _ _ ?hS0z18 (fun hHeld => ?restz18)
                case hS0z18 => exact ⟨hC1.1, hC1.2.1, hC1.2.2.1, hC1.2.2.2.1, hC1.2.2.2.2.1, hC1.2.2.2.2.2.1⟩
                clear hK K
                try simp only [Act.put, List.setIfInBounds_toArray, List.set_cons_zero, List.set_cons_succ]
                have hkk : ((wqAAAABA.setCell ⟨bu, 0, none⟩ (.slice r41 r42 r43)).setCell ⟨bu, 1, none⟩ (.slice r44 r45 r46)).heap[bv]? = wqAAAABA.heap[bv]? := by rw [heap_setCell_other _ _ _ _ (Ne.symm hne), heap_setCell_other _ _ _ _ (Ne.symm hne)]
                obtain ⟨⟨d4, d5⟩, z4, z5⟩ := facts2 (hkk.trans HV.out)
                clear d0 d1 z0 z1 d2 d3 z2 z3 hkk
                refine wpAnyH_ready (rs := [13]) (by kernel_rfl) (by simp) ?_
                refine' AllReadyH.cons (o := _) ?hiz19 (fun K hK => ?hkAz19) AllReadyH.nil
                case hiz19 => exact rfl
                go_simp
                refine hK.out _ _ ?hS0z19 (fun hHeld => ?restz19)
                case hS0z19 => exact ⟨HE.out.2.2.1.1, HE.out.2.2.1.2.1, HE.out.2.2.1.2.2.1, HE.out.2.2.1.2.2.2.1, HE.out.2.2.1.2.2.2.2.1, HE.out.2.2.1.2.2.2.2.2.1⟩
                clear hK K
                try simp only [Act.put, List.setIfInBounds_toArray, List.set_cons_zero, List.set_cons_succ]
                refine wpAnyH_done (by kernel_rfl) ?_ _
                go_wp2_with fail
                go_meet
                exact ⟨bu, bv, rfl, rfl, HE.out.2⟩
          case hkBz10 =>
            go_simp
            have HU := Lib.hid (heap_alloc_new wqAAA (.cells #[.slice none 0 0, .slice none 0 0] 27))
            have hWu : w4w.heap.size ≤ wqAAA.heap.size := hX.size
            have HNU := Lib.hid (keepT_far hC)
            have hC' := hC.ext ((Ext.refl wqAAA).alloc (.cells #[.slice none 0 0, .slice none 0 0] 27))
            have hX' := hX.trans ((Ext.refl wqAAA).alloc (.cells #[.slice none 0 0, .slice none 0 0] 27))
            obtain ⟨bu, hbu⟩ : ∃ b, b = wqAAA.heap.size := ⟨_, rfl⟩
            rw [← hbu] at HU hWu HNU ⊢
            generalize wqAAA.alloc (.cells #[.slice none 0 0, .slice none 0 0] 27) = wqAAAB at hC' hX' HU ⊢
            clear hC hX c1 c2 c3 c4 c5 c6 hbu 
            have hC := hC'
            have hX := hX'
            clear hC' hX' 
            obtain ⟨c1, c2, c3, c4, c5, c6, _⟩ := hC.c
            refine hK.out _ _ ?hS0z34 (fun hHeld => ?restz34)
            case hS0z34 => (try dsimp only); go_keep
            clear hK K
            try simp only [Act.put, List.setIfInBounds_toArray, List.set_cons_zero, List.set_cons_succ]
            refine wpAnyH_ready (rs := [9, 11]) (by kernel_rfl) (by simp) ?_
            refine' AllReadyH.cons (o := _) ?hiAz23 (fun K hK => ?hkAz23) (AllReadyH.cons (o := _) ?hiBz23 (fun K hK => ?hkBz23) AllReadyH.nil)
            case hiAz23 => exact rfl
            case hiBz23 => exact rfl
            case hkAz23 =>
              go_simp
              go_at_call 25
              refine (over_any _ _ (overP l m) n _ hC.t.1 hC.t.2.2.2.1 (by omega) (by omega)).mono ?_
              rintro e wqAAABA ⟨vx9, rfl, ht, hb⟩
              obtain ⟨r91, r92, r93, r94, r95, r96, rfl⟩ := ht.open
              have hC' := (hC.ext hb).tab ht
              have hX' := hX.trans hb
              have HU' := Lib.hid ((hb.block _ (lt_of_block HU.out)).trans HU.out)
              clear hC hb ht hX c1 c2 c3 c4 c5 c6 HU
              have hC := hC'
              have hX := hX'
              have HU := HU'
              clear hC' hX' HU'
              obtain ⟨c1, c2, c3, c4, c5, c6, _⟩ := hC.c
              try go_wp2_with fail
              refine hK.out _ _ ?hS0z28 (fun hHeld => ?restz28)
              case hS0z28 => (try dsimp only); go_keep
              clear hK K
              try simp only [Act.put, List.setIfInBounds_toArray, List.set_cons_zero, List.set_cons_succ]
              refine wpAnyH_ready (rs := [11]) (by kernel_rfl) (by simp) ?_
              refine' AllReadyH.cons (o := _) ?hiAz24 (fun K hK => ?hkAz24) AllReadyH.nil
              case hiAz24 => exact rfl
              case hkAz24 =>
                go_simp
                have HV := Lib.hid (heap_alloc_new wqAAABA (.cells #[.slice none 0 0, .slice none 0 0] 27))
                have hWv : w4w.heap.size ≤ wqAAABA.heap.size := hX.size
                have HNV := Lib.hid (keepT_far hC)
                have hne : bu ≠ wqAAABA.heap.size := Nat.ne_of_lt (lt_of_block HU.out)
                have hC' := hC.ext ((Ext.refl wqAAABA).alloc (.cells #[.slice none 0 0, .slice none 0 0] 27))
                have hX' := hX.trans ((Ext.refl wqAAABA).alloc (.cells #[.slice none 0 0, .slice none 0 0] 27))
                have HU' := Lib.hid ((((Ext.refl wqAAABA).alloc (.cells #[.slice none 0 0, .slice none 0 0] 27)).block _ (lt_of_block HU.out)).trans HU.out)
                obtain ⟨bv, hbv⟩ : ∃ b, b = wqAAABA.heap.size := ⟨_, rfl⟩
                rw [← hbv] at HV hWv HNV hne ⊢
                generalize wqAAABA.alloc (.cells #[.slice none 0 0, .slice none 0 0] 27) = wqAAABAA at hC' hX' HV HU' ⊢
                clear hC hX c1 c2 c3 c4 c5 c6 hbv HU
                have hC := hC'
                have hX := hX'
                have HU := HU'
                clear hC' hX' HU'
                obtain ⟨c1, c2, c3, c4, c5, c6, _⟩ := hC.c
                refine hK.out _ _ ?hS0z27 (fun hHeld => ?restz27)
                case hS0z27 => (try dsimp only); go_keep
                clear hK K
                try simp only [Act.put, List.setIfInBounds_toArray, List.set_cons_zero, List.set_cons_succ]
                obtain ⟨⟨d0, d1⟩, z0, z1⟩ := facts2 HU.out
                obtain ⟨⟨d2, d3⟩, z2, z3⟩ := facts2 HV.out
                have hE := ov_end hX (keepT_c hC) HU.out HV.out hWu hWv hne HNU.out HNV.out hC.t.2.2.1 hC.t.1 hC.t.2.2.2.2.2.2.1 hC.t.2.2.2.2.2.1
                have HE := Lib.hid hE
                have hC1 := hE.1
                have hc3 := hC1
                clear hE
                refine wpAnyH_ready (rs := [12]) (by kernel_rfl) (by simp) ?_
                refine' AllReadyH.cons (o := _) ?hiz25 (fun K hK => ?hkAz25) AllReadyH.nil
                case hiz25 => exact rfl
                go_simp
                refine hK.out _ _ ?hS0z25 (fun hHeld => ?restz25)
                case hS0z25 => exact ⟨hC1.1, hC1.2.1, hC1.2.2.1, hC1.2.2.2.1, hC1.2.2.2.2.1, hC1.2.2.2.2.2.1⟩
                clear hK K
                try simp only [Act.put, List.setIfInBounds_toArray, List.set_cons_zero, List.set_cons_succ]
                have hkk : ((wqAAABAA.setCell ⟨bu, 0, none⟩ (.slice r41 r42 r43)).setCell ⟨bu, 1, none⟩ (.slice r44 r45 r46)).heap[bv]? = wqAAABAA.heap[bv]? := by rw [heap_setCell_other _ _ _ _ (Ne.symm hne), heap_setCell_other _ _ _ _ (Ne.symm hne)]
                obtain ⟨⟨d4, d5⟩, z4, z5⟩ := facts2 (hkk.trans HV.out)
                clear d0 d1 z0 z1 d2 d3 z2 z3 hkk
                refine wpAnyH_ready (rs := [13]) (by kernel_rfl) (by simp) ?_
                refine' AllReadyH.cons (o := _) ?hiz26 (fun K hK => ?hkAz26) AllReadyH.nil
                case hiz26 => exact rfl
                go_simp
                refine hK.out _ _ ?hS0z26 (fun hHeld => ?restz26)
                case hS0z26 => exact ⟨HE.out.2.2.1.1, HE.out.2.2.1.2.1, HE.out.2.2.1.2.2.1, HE.out.2.2.1.2.2.2.1, HE.out.2.2.1.2.2.2.2.1, HE.out.2.2.1.2.2.2.2.2.1⟩
                clear hK K
                try simp only [Act.put, List.setIfInBounds_toArray, List.set_cons_zero, List.set_cons_succ]
                refine wpAnyH_done (by kernel_rfl) ?_ _
                go_wp2_with fail
                go_meet
                exact ⟨bu, bv, rfl, rfl, HE.out.2⟩
            case hkBz23 =>
              go_simp
              have HV := Lib.hid (heap_alloc_new wqAAAB (.cells #[.slice none 0 0, .slice none 0 0] 27))
              have hWv : w4w.heap.size ≤ wqAAAB.heap.size := hX.size
              have HNV := Lib.hid (keepT_far hC)
              have hne : bu ≠ wqAAAB.heap.size := Nat.ne_of_lt (lt_of_block HU.out)
              have hC' := hC.ext ((Ext.refl wqAAAB).alloc (.cells #[.slice none 0 0, .slice none 0 0] 27))
              have hX' := hX.trans ((Ext.refl wqAAAB).alloc (.cells #[.slice none 0 0, .slice none 0 0] 27))
              have HU' := Lib.hid ((((Ext.refl wqAAAB).alloc (.cells #[.slice none 0 0, .slice none 0 0] 27)).block _ (lt_of_block HU.out)).trans HU.out)
              obtain ⟨bv, hbv⟩ : ∃ b, b = wqAAAB.heap.size := ⟨_, rfl⟩
              rw [← hbv] at HV hWv HNV hne ⊢
              generalize wqAAAB.alloc (.cells #[.slice none 0 0, .slice none 0 0] 27) = wqAAABB at hC' hX' HV HU' ⊢
              clear hC hX c1 c2 c3 c4 c5 c6 hbv HU
              have hC := hC'
              have hX := hX'
              have HU := HU'
              clear hC' hX' HU'
              obtain ⟨c1, c2, c3, c4, c5, c6, _⟩ := hC.c
              refine hK.out _ _ ?hS0z33 (fun hHeld => ?restz33)
              case hS0z33 => (try dsimp only); go_keep
              clear hK K
              try simp only [Act.put, List.setIfInBounds_toArray, List.set_cons_zero, List.set_cons_succ]
              refine wpAnyH_ready (rs := [9]) (by kernel_rfl) (by simp) ?_
              refine' AllReadyH.cons (o := _) ?hiAz29 (fun K hK => ?hkAz29) AllReadyH.nil
              case hiAz29 => exact rfl
              case hkAz29 =>
                go_simp
                go_at_call 25
                refine (over_any _ _ (overP l m) n _ hC.t.1 hC.t.2.2.2.1 (by omega) (by omega)).mono ?_
                rintro e wqAAABBA ⟨vx9, rfl, ht, hb⟩
                obtain ⟨r91, r92, r93, r94, r95, r96, rfl⟩ := ht.open
                have hC' := (hC.ext hb).tab ht
                have hX' := hX.trans hb
                have HU' := Lib.hid ((hb.block _ (lt_of_block HU.out)).trans HU.out)
                have HV' := Lib.hid ((hb.block _ (lt_of_block HV.out)).trans HV.out)
                clear hC hb ht hX c1 c2 c3 c4 c5 c6 HU HV
                have hC := hC'
                have hX := hX'
                have HU := HU'
                have HV := HV'
                clear hC' hX' HU' HV'
                obtain ⟨c1, c2, c3, c4, c5, c6, _⟩ := hC.c
                try go_wp2_with fail
                refine hK.out _ _ ?hS0z32 (fun hHeld => ?restz32)
                case hS0z32 => (try dsimp only); go_keep
                clear hK K
                try simp only [Act.put, List.setIfInBounds_toArray, List.set_cons_zero, List.set_cons_succ]
                obtain ⟨⟨d0, d1⟩, z0, z1⟩ := facts2 HU.out
                obtain ⟨⟨d2, d3⟩, z2, z3⟩ := facts2 HV.out
                have hE := ov_end hX (keepT_c hC) HU.out HV.out hWu hWv hne HNU.out HNV.out hC.t.2.2.1 hC.t.1 hC.t.2.2.2.2.2.2.1 hC.t.2.2.2.2.2.1
                have HE := Lib.hid hE
                have hC1 := hE.1
                have hc3 := hC1
                clear hE
                refine wpAnyH_ready (rs := [12]) (by kernel_rfl) (by simp) ?_
                refine' AllReadyH.cons (o := _) ?hiz30 (fun K hK => ?hkAz30) AllReadyH.nil
                case hiz30 => exact rfl
                go_simp
                refine hK.out _ _ ?hS0z30 (fun hHeld => ?restz30)
                case hS0z30 => exact ⟨hC1.1, hC1.2.1, hC1.2.2.1, hC1.2.2.2.1, hC1.2.2.2.2.1, hC1.2.2.2.2.2.1⟩
                clear hK K
                try simp only [Act.put, List.setIfInBounds_toArray, List.set_cons_zero, List.set_cons_succ]
                have hkk : ((wqAAABBA.setCell ⟨bu, 0, none⟩ (.slice r41 r42 r43)).setCell ⟨bu, 1, none⟩ (.slice r44 r45 r46)).heap[bv]? = wqAAABBA.heap[bv]? := by rw [heap_setCell_other _ _ _ _ (Ne.symm hne), heap_setCell_other _ _ _ _ (Ne.symm hne)]
                obtain ⟨⟨d4, d5⟩, z4, z5⟩ := facts2 (hkk.trans HV.out)
                clear d0 d1 z0 z1 d2 d3 z2 z3 hkk
                refine wpAnyH_ready (rs := [13]) (by kernel_rfl) (by simp) ?_
                refine' AllReadyH.cons (o := _) ?hiz31 (fun K hK => ?hkAz31) AllReadyH.nil
                case hiz31 => exact rfl
                go_simp
                refine hK.out _ _ ?hS0z31 (fun hHeld => ?restz31)
                case hS0z31 => exact ⟨HE.out.2.2.1.1, HE.out.2.2.1.2.1, HE.out.2.2.1.2.2.1, HE.out.2.2.1.2.2.2.1, HE.out.2.2.1.2.2.2.2.1, HE.out.2.2.1.2.2.2.2.2.1⟩
                clear hK K
                try simp only [Act.put, List.setIfInBounds_toArray, List.set_cons_zero, List.set_cons_succ]
                refine wpAnyH_done (by kernel_rfl) ?_ _
                go_wp2_with fail
                go_meet
                exact ⟨bu, bv, rfl, rfl, HE.out.2⟩
          case hkCz10 =>
            go_simp
            have HV := Lib.hid (heap_alloc_new wqAAA (.cells #[.slice none 0 0, .slice none 0 0] 27))
            have hWv : w4w.heap.size ≤ wqAAA.heap.size := hX.size
            have HNV := Lib.hid (keepT_far hC)
            have hC' := hC.ext ((Ext.refl wqAAA).alloc (.cells #[.slice none 0 0, .slice none 0 0] 27))
            have hX' := hX.trans ((Ext.refl wqAAA).alloc (.cells #[.slice none 0 0, .slice none 0 0] 27))
            obtain ⟨bv, hbv⟩ : ∃ b, b = wqAAA.heap.size := ⟨_, rfl⟩
            rw [← hbv] at HV hWv HNV ⊢
            generalize wqAAA.alloc (.cells #[.slice none 0 0, .slice none 0 0] 27) = wqAAAC at hC' hX' HV ⊢
            clear hC hX c1 c2 c3 c4 c5 c6 hbv 
            have hC := hC'
            have hX := hX'
            clear hC' hX' 
            obtain ⟨c1, c2, c3, c4, c5, c6, _⟩ := hC.c
            refine hK.out _ _ ?hS0z46 (fun hHeld => ?restz46)
            case hS0z46 => (try dsimp only); go_keep
            clear hK K
            try simp only [Act.put, List.setIfInBounds_toArray, List.set_cons_zero, List.set_cons_succ]
            refine wpAnyH_ready (rs := [9, 10]) (by kernel_rfl) (by simp) ?_
            refine' AllReadyH.cons (o := _) ?hiAz35 (fun K hK => ?hkAz35) (AllReadyH.cons (o := _) ?hiBz35 (fun K hK => ?hkBz35) AllReadyH.nil)
            case hiAz35 => exact rfl
            case hiBz35 => exact rfl
            case hkAz35 =>
              go_simp
              go_at_call 25
              refine (over_any _ _ (overP l m) n _ hC.t.1 hC.t.2.2.2.1 (by omega) (by omega)).mono ?_
              rintro e wqAAACA ⟨vx9, rfl, ht, hb⟩
              obtain ⟨r91, r92, r93, r94, r95, r96, rfl⟩ := ht.open
              have hC' := (hC.ext hb).tab ht
              have hX' := hX.trans hb
              have HV' := Lib.hid ((hb.block _ (lt_of_block HV.out)).trans HV.out)
              clear hC hb ht hX c1 c2 c3 c4 c5 c6 HV
              have hC := hC'
              have hX := hX'
              have HV := HV'
              clear hC' hX' HV'
              obtain ⟨c1, c2, c3, c4, c5, c6, _⟩ := hC.c
              try go_wp2_with fail
              refine hK.out _ _ ?hS0z40 (fun hHeld => ?restz40)
              case hS0z40 => (try dsimp only); go_keep
              clear hK K
              try simp only [Act.put, List.setIfInBounds_toArray, List.set_cons_zero, List.set_cons_succ]
              refine wpAnyH_ready (rs := [10]) (by kernel_rfl) (by simp) ?_
              refine' AllReadyH.cons (o := _) ?hiAz36 (fun K hK => ?hkAz36) AllReadyH.nil
              case hiAz36 => exact rfl
              case hkAz36 =>
                go_simp
                have HU := Lib.hid (heap_alloc_new wqAAACA (.cells #[.slice none 0 0, .slice none 0 0] 27))
                have hWu : w4w.heap.size ≤ wqAAACA.heap.size := hX.size
                have HNU := Lib.hid (keepT_far hC)
                have hne : wqAAACA.heap.size ≠ bv := Nat.ne_of_gt (lt_of_block HV.out)
                have hC' := hC.ext ((Ext.refl wqAAACA).alloc (.cells #[.slice none 0 0, .slice none 0 0] 27))
                have hX' := hX.trans ((Ext.refl wqAAACA).alloc (.cells #[.slice none 0 0, .slice none 0 0] 27))
                have HV' := Lib.hid ((((Ext.refl wqAAACA).alloc (.cells #[.slice none 0 0, .slice none 0 0] 27)).block _ (lt_of_block HV.out)).trans HV.out)
                obtain ⟨bu, hbu⟩ : ∃ b, b = wqAAACA.heap.size := ⟨_, rfl⟩
                rw [← hbu] at HU hWu HNU hne ⊢
                generalize wqAAACA.alloc (.cells #[.slice none 0 0, .slice none 0 0] 27) = wqAAACAA at hC' hX' HU HV' ⊢
                clear hC hX c1 c2 c3 c4 c5 c6 hbu HV
                have hC := hC'
                have hX := hX'
                have HV := HV'
                clear hC' hX' HV'
                obtain ⟨c1, c2, c3, c4, c5, c6, _⟩ := hC.c
                refine hK.out _ _ ?hS0z39 (fun hHeld => ?restz39)
                case hS0z39 => (try dsimp only); go_keep
                clear hK K
                try simp only [Act.put, List.setIfInBounds_toArray, List.set_cons_zero, List.set_cons_succ]
                obtain ⟨⟨d0, d1⟩, z0, z1⟩ := facts2 HU.out
                obtain ⟨⟨d2, d3⟩, z2, z3⟩ := facts2 HV.out
                have hE := ov_end hX (keepT_c hC) HU.out HV.out hWu hWv hne HNU.out HNV.out hC.t.2.2.1 hC.t.1 hC.t.2.2.2.2.2.2.1 hC.t.2.2.2.2.2.1
                have HE := Lib.hid hE
                have hC1 := hE.1
                have hc3 := hC1
                clear hE
                refine wpAnyH_ready (rs := [12]) (by kernel_rfl) (by simp) ?_
                refine' AllReadyH.cons (o := _) ?hiz37 (fun K hK => ?hkAz37) AllReadyH.nil
                case hiz37 => exact rfl
                go_simp
                refine hK.out _ _ ?hS0z37 (fun hHeld => ?restz37)
                case hS0z37 => exact ⟨hC1.1, hC1.2.1, hC1.2.2.1, hC1.2.2.2.1, hC1.2.2.2.2.1, hC1.2.2.2.2.2.1⟩
                clear hK K
                try simp only [Act.put, List.setIfInBounds_toArray, List.set_cons_zero, List.set_cons_succ]
                have hkk : ((wqAAACAA.setCell ⟨bu, 0, none⟩ (.slice r41 r42 r43)).setCell ⟨bu, 1, none⟩ (.slice r44 r45 r46)).heap[bv]? = wqAAACAA.heap[bv]? := by rw [heap_setCell_other _ _ _ _ (Ne.symm hne), heap_setCell_other _ _ _ _ (Ne.symm hne)]
                obtain ⟨⟨d4, d5⟩, z4, z5⟩ := facts2 (hkk.trans HV.out)
                clear d0 d1 z0 z1 d2 d3 z2 z3 hkk
                refine wpAnyH_ready (rs := [13]) (by kernel_rfl) (by simp) ?_
                refine' AllReadyH.cons (o := _) ?hiz38 (fun K hK => ?hkAz38) AllReadyH.nil
                case hiz38 => exact rfl
                go_simp
                refine hK.out _ _ ?hS0z38 (fun hHeld => ?restz38)
                case hS0z38 => exact ⟨HE.out.2.2.1.1, HE.out.2.2.1.2.1, HE.out.2.2.1.2.2.1, HE.out.2.2.1.2.2.2.1, HE.out.2.2.1.2.2.2.2.1, HE.out.2.2.1.2.2.2.2.2.1⟩
                clear hK K
                try simp only [Act.put, List.setIfInBounds_toArray, List.set_cons_zero, List.set_cons_succ]
                refine wpAnyH_done (by kernel_rfl) ?_ _
                go_wp2_with fail
                go_meet
                exact ⟨bu, bv, rfl, rfl, HE.out.2⟩
            case hkBz35 =>
              go_simp
              have HU := Lib.hid (heap_alloc_new wqAAAC (.cells #[.slice none 0 0, .slice none 0 0] 27))
              have hWu : w4w.heap.size ≤ wqAAAC.heap.size := hX.size
              have HNU := Lib.hid (keepT_far hC)
              have hne : wqAAAC.heap.size ≠ bv := Nat.ne_of_gt (lt_of_block HV.out)
              have hC' := hC.ext ((Ext.refl wqAAAC).alloc (.cells #[.slice none 0 0, .slice none 0 0] 27))
              have hX' := hX.trans ((Ext.refl wqAAAC).alloc (.cells #[.slice none 0 0, .slice none 0 0] 27))
              have HV' := Lib.hid ((((Ext.refl wqAAAC).alloc (.cells #[.slice none 0 0, .slice none 0 0] 27)).block _ (lt_of_block HV.out)).trans HV.out)
              obtain ⟨bu, hbu⟩ : ∃ b, b = wqAAAC.heap.size := ⟨_, rfl⟩
              rw [← hbu] at HU hWu HNU hne ⊢
              generalize wqAAAC.alloc (.cells #[.slice none 0 0, .slice none 0 0] 27) = wqAAACB at hC' hX' HU HV' ⊢
              clear hC hX c1 c2 c3 c4 c5 c6 hbu HV
              have hC := hC'
              have hX := hX'
              have HV := HV'
              clear hC' hX' HV'
              obtain ⟨c1, c2, c3, c4, c5, c6, _⟩ := hC.c
              refine hK.out _ _ ?hS0z45 (fun hHeld => ?restz45)
              case hS0z45 => (try dsimp only); go_keep
              clear hK K
              try simp only [Act.put, List.setIfInBounds_toArray, List.set_cons_zero, List.set_cons_succ]
              refine wpAnyH_ready (rs := [9]) (by kernel_rfl) (by simp) ?_
              refine' AllReadyH.cons (o := _) ?hiAz41 (fun K hK => ?hkAz41) AllReadyH.nil
              case hiAz41 => exact rfl
              case hkAz41 =>
                go_simp
                go_at_call 25
                refine (over_any _ _ (overP l m) n _ hC.t.1 hC.t.2.2.2.1 (by omega) (by omega)).mono ?_
                rintro e wqAAACBA ⟨vx9, rfl, ht, hb⟩
                obtain ⟨r91, r92, r93, r94, r95, r96, rfl⟩ := ht.open
                have hC' := (hC.ext hb).tab ht
                have hX' := hX.trans hb
                have HU' := Lib.hid ((hb.block _ (lt_of_block HU.out)).trans HU.out)
                have HV' := Lib.hid ((hb.block _ (lt_of_block HV.out)).trans HV.out)
                clear hC hb ht hX c1 c2 c3 c4 c5 c6 HU HV
                have hC := hC'
                have hX := hX'
                have HU := HU'
                have HV := HV'
                clear hC' hX' HU' HV'
                obtain ⟨c1, c2, c3, c4, c5, c6, _⟩ := hC.c
                try go_wp2_with fail
                refine hK.out _ _ ?hS0z44 (fun hHeld => ?restz44)
                case hS0z44 => (try dsimp only); go_keep
                clear hK K
                try simp only [Act.put, List.setIfInBounds_toArray, List.set_cons_zero, List.set_cons_succ]
                obtain ⟨⟨d0, d1⟩, z0, z1⟩ := facts2 HU.out
                obtain ⟨⟨d2, d3⟩, z2, z3⟩ := facts2 HV.out
                have hE := ov_end hX (keepT_c hC) HU.out HV.out hWu hWv hne HNU.out HNV.out hC.t.2.2.1 hC.t.1 hC.t.2.2.2.2.2.2.1 hC.t.2.2.2.2.2.1
                have HE := Lib.hid hE
                have hC1 := hE.1
                have hc3 := hC1
                clear hE
                refine wpAnyH_ready (rs := [12]) (by kernel_rfl) (by simp) ?_
                refine' AllReadyH.cons (o := _) ?hiz42 (fun K hK => ?hkAz42) AllReadyH.nil
                case hiz42 => exact rfl
                go_simp
                refine hK.out _ _ ?hS0z42 (fun hHeld => ?restz42)
                case hS0z42 => exact ⟨hC1.1, hC1.2.1, hC1.2.2.1, hC1.2.2.2.1, hC1.2.2.2.2.1, hC1.2.2.2.2.2.1⟩
                clear hK K
                try simp only [Act.put, List.setIfInBounds_toArray, List.set_cons_zero, List.set_cons_succ]
                have hkk : ((wqAAACBA.setCell ⟨bu, 0, none⟩ (.slice r41 r42 r43)).setCell ⟨bu, 1, none⟩ (.slice r44 r45 r46)).heap[bv]? = wqAAACBA.heap[bv]? := by rw [heap_setCell_other _ _ _ _ (Ne.symm hne), heap_setCell_other _ _ _ _ (Ne.symm hne)]
                obtain ⟨⟨d4, d5⟩, z4, z5⟩ := facts2 (hkk.trans HV.out)
                clear d0 d1 z0 z1 d2 d3 z2 z3 hkk
                refine wpAnyH_ready (rs := [13]) (by kernel_rfl) (by simp) ?_
                refine' AllReadyH.cons (o := _) ?hiz43 (fun K hK => ?hkAz43) AllReadyH.nil
                case hiz43 => exact rfl
                go_simp
                refine hK.out _ _ ?hS0z43 (fun hHeld => ?restz43)
                case hS0z43 => exact ⟨HE.out.2.2.1.1, HE.out.2.2.1.2.1, HE.out.2.2.1.2.2.1, HE.out.2.2.1.2.2.2.1, HE.out.2.2.1.2.2.2.2.1, HE.out.2.2.1.2.2.2.2.2.1⟩
                clear hK K
                try simp only [Act.put, List.setIfInBounds_toArray, List.set_cons_zero, List.set_cons_succ]
                refine wpAnyH_done (by kernel_rfl) ?_ _
                go_wp2_with fail
                go_meet
                exact ⟨bu, bv, rfl, rfl, HE.out.2⟩
        case hkBz9 =>
          go_simp
          have HU := Lib.hid (heap_alloc_new wqAA (.cells #[.slice none 0 0, .slice none 0 0] 27))
          have hWu : w4w.heap.size ≤ wqAA.heap.size := hX.size
          have HNU := Lib.hid (keepT_far hC)
          have hC' := hC.ext ((Ext.refl wqAA).alloc (.cells #[.slice none 0 0, .slice none 0 0] 27))
          have hX' := hX.trans ((Ext.refl wqAA).alloc (.cells #[.slice none 0 0, .slice none 0 0] 27))
          obtain ⟨bu, hbu⟩ : ∃ b, b = wqAA.heap.size := ⟨_, rfl⟩
          rw [← hbu] at HU hWu HNU ⊢
          generalize wqAA.alloc (.cells #[.slice none 0 0, .slice none 0 0] 27) = wqAAB at hC' hX' HU ⊢
          clear hC hX c1 c2 c3 c4 c5 c6 hbu 
          have hC := hC'
          have hX := hX'
          clear hC' hX' 
          obtain ⟨c1, c2, c3, c4, c5, c6, _⟩ := hC.c
          refine hK.out _ _ ?hS0z68 (fun hHeld => ?restz68)
          case hS0z68 => (try dsimp only); go_keep
          clear hK K
          try simp only [Act.put, List.setIfInBounds_toArray, List.set_cons_zero, List.set_cons_succ]
          refine wpAnyH_ready (rs := [7, 11]) (by kernel_rfl) (by simp) ?_
          refine' AllReadyH.cons (o := _) ?hiAz48 (fun K hK => ?hkAz48) (AllReadyH.cons (o := _) ?hiBz48 (fun K hK => ?hkBz48) AllReadyH.nil)
          case hiAz48 => exact rfl
          case hiBz48 => exact rfl
          case hkAz48 =>
            go_simp
            go_at_call 25
            refine (over_any _ _ l m _ hC.t.2.2.2.2.1 hC.t.2.2.2.1 (by omega) (by omega)).mono ?_
            rintro e wqAABA ⟨vx7, rfl, ht, hb⟩
            obtain ⟨r71, r72, r73, r74, r75, r76, rfl⟩ := ht.open
            have hC' := (hC.ext hb).tab ht
            have hX' := hX.trans hb
            have HU' := Lib.hid ((hb.block _ (lt_of_block HU.out)).trans HU.out)
            clear hC hb ht hX c1 c2 c3 c4 c5 c6 HU
            have hC := hC'
            have hX := hX'
            have HU := HU'
            clear hC' hX' HU'
            obtain ⟨c1, c2, c3, c4, c5, c6, _⟩ := hC.c
            try go_wp2_with fail
            refine hK.out _ _ ?hS0z60 (fun hHeld => ?restz60)
            case hS0z60 => (try dsimp only); go_keep
            clear hK K
            try simp only [Act.put, List.setIfInBounds_toArray, List.set_cons_zero, List.set_cons_succ]
            refine wpAnyH_ready (rs := [9, 11]) (by kernel_rfl) (by simp) ?_
            refine' AllReadyH.cons (o := _) ?hiAz49 (fun K hK => ?hkAz49) (AllReadyH.cons (o := _) ?hiBz49 (fun K hK => ?hkBz49) AllReadyH.nil)
            case hiAz49 => exact rfl
            case hiBz49 => exact rfl
            case hkAz49 =>
              go_simp
              go_at_call 25
              refine (over_any _ _ (overP l m) n _ hC.t.1 hC.t.2.2.2.1 (by omega) (by omega)).mono ?_
              rintro e wqAABAA ⟨vx9, rfl, ht, hb⟩
              obtain ⟨r91, r92, r93, r94, r95, r96, rfl⟩ := ht.open
              have hC' := (hC.ext hb).tab ht
              have hX' := hX.trans hb
              have HU' := Lib.hid ((hb.block _ (lt_of_block HU.out)).trans HU.out)
              clear hC hb ht hX c1 c2 c3 c4 c5 c6 HU
              have hC := hC'
              have hX := hX'
              have HU := HU'
              clear hC' hX' HU'
              obtain ⟨c1, c2, c3, c4, c5, c6, _⟩ := hC.c
              try go_wp2_with fail
              refine hK.out _ _ ?hS0z54 (fun hHeld => ?restz54)
              case hS0z54 => (try dsimp only); go_keep
              clear hK K
              try simp only [Act.put, List.setIfInBounds_toArray, List.set_cons_zero, List.set_cons_succ]
              refine wpAnyH_ready (rs := [11]) (by kernel_rfl) (by simp) ?_
              refine' AllReadyH.cons (o := _) ?hiAz50 (fun K hK => ?hkAz50) AllReadyH.nil
              case hiAz50 => exact rfl
              case hkAz50 =>
                go_simp
                have HV := Lib.hid (heap_alloc_new wqAABAA (.cells #[.slice none 0 0, .slice none 0 0] 27))
                have hWv : w4w.heap.size ≤ wqAABAA.heap.size := hX.size
                have HNV := Lib.hid (keepT_far hC)
                have hne : bu ≠ wqAABAA.heap.size := Nat.ne_of_lt (lt_of_block HU.out)
                have hC' := hC.ext ((Ext.refl wqAABAA).alloc (.cells #[.slice none 0 0, .slice none 0 0] 27))
                have hX' := hX.trans ((Ext.refl wqAABAA).alloc (.cells #[.slice none 0 0, .slice none 0 0] 27))
                have HU' := Lib.hid ((((Ext.refl wqAABAA).alloc (.cells #[.slice none 0 0, .slice none 0 0] 27)).block _ (lt_of_block HU.out)).trans HU.out)
                obtain ⟨bv, hbv⟩ : ∃ b, b = wqAABAA.heap.size := ⟨_, rfl⟩
                rw [← hbv] at HV hWv HNV hne ⊢
                generalize wqAABAA.alloc (.cells #[.slice none 0 0, .slice none 0 0] 27) = wqAABAAA at hC' hX' HV HU' ⊢
                clear hC hX c1 c2 c3 c4 c5 c6 hbv HU
                have hC := hC'
                have hX := hX'
                have HU := HU'
                clear hC' hX' HU'
                obtain ⟨c1, c2, c3, c4, c5, c6, _⟩ := hC.c
                refine hK.out _ _ ?hS0z53 (fun hHeld => ?restz53)
                case hS0z53 => (try dsimp only); go_keep
                clear hK K
                try simp only [Act.put, List.setIfInBounds_toArray, List.set_cons_zero, List.set_cons_succ]
                obtain ⟨⟨d0, d1⟩, z0, z1⟩ := facts2 HU.out
                obtain ⟨⟨d2, d3⟩, z2, z3⟩ := facts2 HV.out
                have hE := ov_end hX (keepT_c hC) HU.out HV.out hWu hWv hne HNU.out HNV.out hC.t.2.2.1 hC.t.1 hC.t.2.2.2.2.2.2.1 hC.t.2.2.2.2.2.1
                have HE := Lib.hid hE
                have hC1 := hE.1
                have hc3 := hC1
                clear hE
                refine wpAnyH_ready (rs := [12]) (by kernel_rfl) (by simp) ?_
                refine' AllReadyH.cons (o := _) ?hiz51 (fun K hK => ?hkAz51) AllReadyH.nil
                case hiz51 => exact rfl
                go_simp
                refine hK.out _ _ ?hS0z51 (fun hHeld => ?restz51)
                case hS0z51 => exact ⟨hC1.1, hC1.2.1, hC1.2.2.1, hC1.2.2.2.1, hC1.2.2.2.2.1, hC1.2.2.2.2.2.1⟩
                clear hK K
                try simp only [Act.put, List.setIfInBounds_toArray, List.set_cons_zero, List.set_cons_succ]
                have hkk : ((wqAABAAA.setCell ⟨bu, 0, none⟩ (.slice r41 r42 r43)).setCell ⟨bu, 1, none⟩ (.slice r44 r45 r46)).heap[bv]? = wqAABAAA.heap[bv]? := by rw [heap_setCell_other _ _ _ _ (Ne.symm hne), heap_setCell_other _ _ _ _ (Ne.symm hne)]
                obtain ⟨⟨d4, d5⟩, z4, z5⟩ := facts2 (hkk.trans HV.out)
                clear d0 d1 z0 z1 d2 d3 z2 z3 hkk
                refine wpAnyH_ready (rs := [13]) (by kernel_rfl) (by simp) ?_
                refine' AllReadyH.cons (o := _) ?hiz52 (fun K hK => ?hkAz52) AllReadyH.nil
                case hiz52 => exact rfl
                go_simp
                refine hK.out _ _ ?hS0z52 (fun hHeld => ?restz52)
                case hS0z52 => exact ⟨HE.out.2.2.1.1, HE.out.2.2.1.2.1, HE.out.2.2.1.2.2.1, HE.out.2.2.1.2.2.2.1, HE.out.2.2.1.2.2.2.2.1, HE.out.2.2.1.2.2.2.2.2.1⟩
                clear hK K
                try simp only [Act.put, List.setIfInBounds_toArray, List.set_cons_zero, List.set_cons_succ]
                refine wpAnyH_done (by kernel_rfl) ?_ _
                go_wp2_with fail
                go_meet
                exact ⟨bu, bv, rfl, rfl, HE.out.2⟩
            case hkBz49 =>
              go_simp
              have HV := Lib.hid (heap_alloc_new wqAABA (.cells #[.slice none 0 0, .slice none 0 0] 27))
              have hWv : w4w.heap.size ≤ wqAABA.heap.size := hX.size
              have HNV := Lib.hid (keepT_far hC)
              have hne : bu ≠ wqAABA.heap.size := Nat.ne_of_lt (lt_of_block HU.out)
              have hC' := hC.ext ((Ext.refl wqAABA).alloc (.cells #[.slice none 0 0, .slice none 0 0] 27))
              have hX' := hX.trans ((Ext.refl wqAABA).alloc (.cells #[.slice none 0 0, .slice none 0 0] 27))
              have HU' := Lib.hid ((((Ext.refl wqAABA).alloc (.cells #[.slice none 0 0, .slice none 0 0] 27)).block _ (lt_of_block HU.out)).trans HU.out)
              obtain ⟨bv, hbv⟩ : ∃ b, b = wqAABA.heap.size := ⟨_, rfl⟩
              rw [← hbv] at HV hWv HNV hne ⊢
              generalize wqAABA.alloc (.cells #[.slice none 0 0, .slice none 0 0] 27) = wqAABAB at hC' hX' HV HU' ⊢
              clear hC hX c1 c2 c3 c4 c5 c6 hbv HU
              have hC := hC'
              have hX := hX'
              have HU := HU'
              clear hC' hX' HU'
              obtain ⟨c1, c2, c3, c4, c5, c6, _⟩ := hC.c
              refine hK.out _ _ ?hS0z59 (fun hHeld => ?restz59)
              case hS0z59 => (try dsimp only); go_keep
              clear hK K
              try simp only [Act.put, List.setIfInBounds_toArray, List.set_cons_zero, List.set_cons_succ]
              refine wpAnyH_ready (rs := [9]) (by kernel_rfl) (by simp) ?_
              refine' AllReadyH.cons (o := _) ?hiAz55 (fun K hK => ?hkAz55) AllReadyH.nil
              case hiAz55 => exact rfl
              case hkAz55 =>
                go_simp
                go_at_call 25
                refine (over_any _ _ (overP l m) n _ hC.t.1 hC.t.2.2.2.1 (by omega) (by omega)).mono ?_
                rintro e wqAABABA ⟨vx9, rfl, ht, hb⟩
                obtain ⟨r91, r92, r93, r94, r95, r96, rfl⟩ := ht.open
                have hC' := (hC.ext hb).tab ht
                have hX' := hX.trans hb
                have HU' := Lib.hid ((hb.block _ (lt_of_block HU.out)).trans HU.out)
                have HV' := Lib.hid ((hb.block _ (lt_of_block HV.out)).trans HV.out)
                clear hC hb ht hX c1 c2 c3 c4 c5 c6 HU HV
                have hC := hC'
                have hX := hX'
                have HU := HU'
                have HV := HV'
                clear hC' hX' HU' HV'
                obtain ⟨c1, c2, c3, c4, c5, c6, _⟩ := hC.c
                try go_wp2_with fail
                refine hK.out _ _ ?hS0z58 (fun hHeld => ?restz58)
                case hS0z58 => (try dsimp only); go_keep
                clear hK K
                try simp only [Act.put, List.setIfInBounds_toArray, List.set_cons_zero, List.set_cons_succ]
                obtain ⟨⟨d0, d1⟩, z0, z1⟩ := facts2 HU.out
                obtain ⟨⟨d2, d3⟩, z2, z3⟩ := facts2 HV.out
                have hE := ov_end hX (keepT_c hC) HU.out HV.out hWu hWv hne HNU.out HNV.out hC.t.2.2.1 hC.t.1 hC.t.2.2.2.2.2.2.1 hC.t.2.2.2.2.2.1
                have HE := Lib.hid hE
                have hC1 := hE.1
                have hc3 := hC1
                clear hE
                refine wpAnyH_ready (rs := [12]) (by kernel_rfl) (by simp) ?_
                refine' AllReadyH.cons (o := _) ?hiz56 (fun K hK => ?hkAz56) AllReadyH.nil
                case hiz56 => exact rfl
                go_simp
                refine hK.out _ _ ?hS0z56 (fun hHeld => ?restz56)
                case hS0z56 => exact ⟨hC1.1, hC1.2.1, hC1.2.2.1, hC1.2.2.2.1, hC1.2.2.2.2.1, hC1.2.2.2.2.2.1⟩
                clear hK K
                try simp only [Act.put, List.setIfInBounds_toArray, List.set_cons_zero, List.set_cons_succ]
                have hkk : ((wqAABABA.setCell ⟨bu, 0, none⟩ (.slice r41 r42 r43)).setCell ⟨bu, 1, none⟩ (.slice r44 r45 r46)).heap[bv]? = wqAABABA.heap[bv]? := by rw [heap_setCell_other _ _ _ _ (Ne.symm hne), heap_setCell_other _ _ _ _ (Ne.symm hne)]
                obtain ⟨⟨d4, d5⟩, z4, z5⟩ := facts2 (hkk.trans HV.out)
                clear d0 d1 z0 z1 d2 d3 z2 z3 hkk
                refine wpAnyH_ready (rs := [13]) (by kernel_rfl) (by simp) ?_
                refine' AllReadyH.cons (o := _) ?hiz57 (fun K hK => ?hkAz57) AllReadyH.nil
                case hiz57 => exact rfl
                go_simp
                refine hK.out _ _ ?hS0z57 (fun hHeld => ?restz57)
                case hS0z57 => exact ⟨HE.out.2.2.1.1, HE.out.2.2.1.2.1, HE.out.2.2.1.2.2.1, HE.out.2.2.1.2.2.2.1, HE.out.2.2.1.2.2.2.2.1, HE.out.2.2.1.2.2.2.2.2.1⟩
                clear hK K
                try simp only [Act.put, List.setIfInBounds_toArray, List.set_cons_zero, List.set_cons_succ]
                refine wpAnyH_done (by kernel_rfl) ?_ _
                go_wp2_with fail
                go_meet
                exact ⟨bu, bv, rfl, rfl, HE.out.2⟩
          case hkBz48 =>
            go_simp
            have HV := Lib.hid (heap_alloc_new wqAAB (.cells #[.slice none 0 0, .slice none 0 0] 27))
            have hWv : w4w.heap.size ≤ wqAAB.heap.size := hX.size
            have HNV := Lib.hid (keepT_far hC)
            have hne : bu ≠ wqAAB.heap.size := Nat.ne_of_lt (lt_of_block HU.out)
            have hC' := hC.ext ((Ext.refl wqAAB).alloc (.cells #[.slice none 0 0, .slice none 0 0] 27))
            have hX' := hX.trans ((Ext.refl wqAAB).alloc (.cells #[.slice none 0 0, .slice none 0 0] 27))
            have HU' := Lib.hid ((((Ext.refl wqAAB).alloc (.cells #[.slice none 0 0, .slice none 0 0] 27)).block _ (lt_of_block HU.out)).trans HU.out)
            obtain ⟨bv, hbv⟩ : ∃ b, b = wqAAB.heap.size := ⟨_, rfl⟩
            rw [← hbv] at HV hWv HNV hne ⊢
            generalize wqAAB.alloc (.cells #[.slice none 0 0, .slice none 0 0] 27) = wqAABB at hC' hX' HV HU' ⊢
            clear hC hX c1 c2 c3 c4 c5 c6 hbv HU
            have hC := hC'
            have hX := hX'
            have HU := HU'
            clear hC' hX' HU'
            obtain ⟨c1, c2, c3, c4, c5, c6, _⟩ := hC.c
            refine hK.out _ _ ?hS0z67 (fun hHeld => ?restz67)
            case hS0z67 => (try dsimp only); go_keep
            clear hK K
            try simp only [Act.put, List.setIfInBounds_toArray, List.set_cons_zero, List.set_cons_succ]
            refine wpAnyH_ready (rs := [7]) (by kernel_rfl) (by simp) ?_
            refine' AllReadyH.cons (o := _) ?hiAz61 (fun K hK => ?hkAz61) AllReadyH.nil
            case hiAz61 => exact rfl
            case hkAz61 =>
              go_simp
              go_at_call 25
              refine (over_any _ _ l m _ hC.t.2.2.2.2.1 hC.t.2.2.2.1 (by omega) (by omega)).mono ?_
              rintro e wqAABBA ⟨vx7, rfl, ht, hb⟩
              obtain ⟨r71, r72, r73, r74, r75, r76, rfl⟩ := ht.open
              have hC' := (hC.ext hb).tab ht
              have hX' := hX.trans hb
              have HU' := Lib.hid ((hb.block _ (lt_of_block HU.out)).trans HU.out)
              have HV' := Lib.hid ((hb.block _ (lt_of_block HV.out)).trans HV.out)
              clear hC hb ht hX c1 c2 c3 c4 c5 c6 HU HV
              have hC := hC'
              have hX := hX'
              have HU := HU'
              have HV := HV'
              clear hC' hX' HU' HV'
              obtain ⟨c1, c2, c3, c4, c5, c6, _⟩ := hC.c
              try go_wp2_with fail
              refine hK.out _ _ ?hS0z66 (fun hHeld => ?restz66)
              case hS0z66 => (try dsimp only); go_keep
              clear hK K
              try simp only [Act.put, List.setIfInBounds_toArray, List.set_cons_zero, List.set_cons_succ]
              refine wpAnyH_ready (rs := [9]) (by kernel_rfl) (by simp) ?_
              refine' AllReadyH.cons (o := _) ?hiAz62 (fun K hK => ?hkAz62) AllReadyH.nil
              case hiAz62 => exact rfl
              case hkAz62 =>
                go_simp
                go_at_call 25
                refine (over_any _ _ (overP l m) n _ hC.t.1 hC.t.2.2.2.1 (by omega) (by omega)).mono ?_
                rintro e wqAABBAA ⟨vx9, rfl, ht, hb⟩
                obtain ⟨r91, r92, r93, r94, r95, r96, rfl⟩ := ht.open
                have hC' := (hC.ext hb).tab ht
                have hX' := hX.trans hb
                have HU' := Lib.hid ((hb.block _ (lt_of_block HU.out)).trans HU.out)
                have HV' := Lib.hid ((hb.block _ (lt_of_block HV.out)).trans HV.out)
                clear hC hb ht hX c1 c2 c3 c4 c5 c6 HU HV
                have hC := hC'
                have hX := hX'
                have HU := HU'
                have HV := HV'
                clear hC' hX' HU' HV'
                obtain ⟨c1, c2, c3, c4, c5, c6, _⟩ := hC.c
                try go_wp2_with fail
                refine hK.out _ _ ?hS0z65 (fun hHeld => ?restz65)
                case hS0z65 => (try dsimp only); go_keep
                clear hK K
                try simp only [Act.put, List.setIfInBounds_toArray, List.set_cons_zero, List.set_cons_succ]
                obtain ⟨⟨d0, d1⟩, z0, z1⟩ := facts2 HU.out
                obtain ⟨⟨d2, d3⟩, z2, z3⟩ := facts2 HV.out
                have hE := ov_end hX (keepT_c hC) HU.out HV.out hWu hWv hne HNU.out HNV.out hC.t.2.2.1 hC.t.1 hC.t.2.2.2.2.2.2.1 hC.t.2.2.2.2.2.1
                have HE := Lib.hid hE
                have hC1 := hE.1
                have hc3 := hC1
                clear hE
                refine wpAnyH_ready (rs := [12]) (by kernel_rfl) (by simp) ?_
                refine' AllReadyH.cons (o := _) ?hiz63 (fun K hK => ?hkAz63) AllReadyH.nil
                case hiz63 => exact rfl
                go_simp
                refine hK.out _ _ ?hS0z63 (fun hHeld => ?restz63)
                case hS0z63 => exact ⟨hC1.1, hC1.2.1, hC1.2.2.1, hC1.2.2.2.1, hC1.2.2.2.2.1, hC1.2.2.2.2.2.1⟩
                clear hK K
                try simp only [Act.put, List.setIfInBounds_toArray, List.set_cons_zero, List.set_cons_succ]
                have hkk : ((wqAABBAA.setCell ⟨bu, 0, none⟩ (.slice r41 r42 r43)).setCell ⟨bu, 1, none⟩ (.slice r44 r45 r46)).heap[bv]? = wqAABBAA.heap[bv]? := by rw [heap_setCell_other _ _ _ _ (Ne.symm hne), heap_setCell_other _ _ _ _ (Ne.symm hne)]
                obtain ⟨⟨d4, d5⟩, z4, z5⟩ := facts2 (hkk.trans HV.out)
                clear d0 d1 z0 z1 d2 d3 z2 z3 hkk
                refine wpAnyH_ready (rs := [13]) (by kernel_rfl) (by simp) ?_
                refine' AllReadyH.cons (o := _) ?hiz64 (fun K hK => ?hkAz64) AllReadyH.nil
                case hiz64 => exact rfl
                go_simp
                refine hK.out _ _ ?hS0z64 (fun hHeld => ?restz64)
                case hS0z64 => exact ⟨HE.out.2.2.1.1, HE.out.2.2.1.2.1, HE.out.2.2.1.2.2.1, HE.out.2.2.1.2.2.2.1, HE.out.2.2.1.2.2.2.2.1, HE.out.2.2.1.2.2.2.2.2.1⟩
                clear hK K
                try simp only [Act.put, List.setIfInBounds_toArray, List.set_cons_zero, List.set_cons_succ]
                refine wpAnyH_done (by kernel_rfl) ?_ _
                go_wp2_with fail
                go_meet
                exact ⟨bu, bv, rfl, rfl, HE.out.2⟩
        case hkCz9 =>
          go_simp
          have HV := Lib.hid (heap_alloc_new wqAA (.cells #[.slice none 0 0, .slice none 0 0] 27))
          have hWv : w4w.heap.size ≤ wqAA.heap.size := hX.size
          have HNV := Lib.hid (keepT_far hC)
          have hC' := hC.ext ((Ext.refl wqAA).alloc (.cells #[.slice none 0 0, .slice none 0 0] 27))
          have hX' := hX.trans ((Ext.refl wqAA).alloc (.cells #[.slice none 0 0, .slice none 0 0] 27))
          obtain ⟨bv, hbv⟩ : ∃ b, b = wqAA.heap.size := ⟨_, rfl⟩
          rw [← hbv] at HV hWv HNV ⊢
          generalize wqAA.alloc (.cells #[.slice none 0 0, .slice none 0 0] 27) = wqAAC at hC' hX' HV ⊢
          clear hC hX c1 c2 c3 c4 c5 c6 hbv 
          have hC := hC'
          have hX := hX'
          clear hC' hX' 
          obtain ⟨c1, c2, c3, c4, c5, c6, _⟩ := hC.c
          refine hK.out _ _ ?hS0z89 (fun hHeld => ?restz89)
          case hS0z89 => (try dsimp only); go_keep
          clear hK K
          try simp only [Act.put, List.setIfInBounds_toArray, List.set_cons_zero, List.set_cons_succ]
          refine wpAnyH_ready (rs := [7, 10]) (by kernel_rfl) (by simp) ?_
          refine' AllReadyH.cons (o := _) ?hiAz69 (fun K hK => ?hkAz69) (AllReadyH.cons (o := _) ?hiBz69 (fun K hK => ?hkBz69) AllReadyH.nil)
          case hiAz69 => exact rfl
          case hiBz69 => exact rfl
          case hkAz69 =>
            go_simp
            go_at_call 25
            refine (over_any _ _ l m _ hC.t.2.2.2.2.1 hC.t.2.2.2.1 (by omega) (by omega)).mono ?_
            rintro e wqAACA ⟨vx7, rfl, ht, hb⟩
            obtain ⟨r71, r72, r73, r74, r75, r76, rfl⟩ := ht.open
            have hC' := (hC.ext hb).tab ht
            have hX' := hX.trans hb
            have HV' := Lib.hid ((hb.block _ (lt_of_block HV.out)).trans HV.out)
            clear hC hb ht hX c1 c2 c3 c4 c5 c6 HV
            have hC := hC'
            have hX := hX'
            have HV := HV'
            clear hC' hX' HV'
            obtain ⟨c1, c2, c3, c4, c5, c6, _⟩ := hC.c
            try go_wp2_with fail
            refine hK.out _ _ ?hS0z81 (fun hHeld => ?restz81)
            case hS0z81 => (try dsimp only); go_keep
            clear hK K
            try simp only [Act.put, List.setIfInBounds_toArray, List.set_cons_zero, List.set_cons_succ]
            refine wpAnyH_ready (rs := [9, 10]) (by kernel_rfl) (by simp) ?_
            refine' AllReadyH.cons (o := _) ?hiAz70 (fun K hK => ?hkAz70) (AllReadyH.cons (o := _) ?hiBz70 (fun K hK => ?hkBz70) AllReadyH.nil)
            case hiAz70 => exact rfl
            case hiBz70 => exact rfl
            case hkAz70 =>
              go_simp
              go_at_call 25
              refine (over_any _ _ (overP l m) n _ hC.t.1 hC.t.2.2.2.1 (by omega) (by omega)).mono ?_
              rintro e wqAACAA ⟨vx9, rfl, ht, hb⟩
              obtain ⟨r91, r92, r93, r94, r95, r96, rfl⟩ := ht.open
              have hC' := (hC.ext hb).tab ht
              have hX' := hX.trans hb
              have HV' := Lib.hid ((hb.block _ (lt_of_block HV.out)).trans HV.out)
              clear hC hb ht hX c1 c2 c3 c4 c5 c6 HV
              have hC := hC'
              have hX := hX'
              have HV := HV'
              clear hC' hX' HV'
              obtain ⟨c1, c2, c3, c4, c5, c6, _⟩ := hC.c
              try go_wp2_with fail
              refine hK.out _ _ ?hS0z75 (fun hHeld => ?restz75)
              case hS0z75 => (try dsimp only); go_keep
              clear hK K
              try simp only [Act.put, List.setIfInBounds_toArray, List.set_cons_zero, List.set_cons_succ]
              refine wpAnyH_ready (rs := [10]) (by kernel_rfl) (by simp) ?_
              refine' AllReadyH.cons (o := _) ?hiAz71 (fun K hK => ?hkAz71) AllReadyH.nil
              case hiAz71 => exact rfl
              case hkAz71 =>
                go_simp
                have HU := Lib.hid (heap_alloc_new wqAACAA (.cells #[.slice none 0 0, .slice none 0 0] 27))
                have hWu : w4w.heap.size ≤ wqAACAA.heap.size := hX.size
                have HNU := Lib.hid (keepT_far hC)
                have hne : wqAACAA.heap.size ≠ bv := Nat.ne_of_gt (lt_of_block HV.out)
                have hC' := hC.ext ((Ext.refl wqAACAA).alloc (.cells #[.slice none 0 0, .slice none 0 0] 27))
                have hX' := hX.trans ((Ext.refl wqAACAA).alloc (.cells #[.slice none 0 0, .slice none 0 0] 27))
                have HV' := Lib.hid ((((Ext.refl wqAACAA).alloc (.cells #[.slice none 0 0, .slice none 0 0] 27)).block _ (lt_of_block HV.out)).trans HV.out)
                obtain ⟨bu, hbu⟩ : ∃ b, b = wqAACAA.heap.size := ⟨_, rfl⟩
                rw [← hbu] at HU hWu HNU hne ⊢
                generalize wqAACAA.alloc (.cells #[.slice none 0 0, .slice none 0 0] 27) = wqAACAAA at hC' hX' HU HV' ⊢
                clear hC hX c1 c2 c3 c4 c5 c6 hbu HV
                have hC := hC'
                have hX := hX'
                have HV := HV'
                clear hC' hX' HV'
                obtain ⟨c1, c2, c3, c4, c5, c6, _⟩ := hC.c
                refine hK.out _ _ ?hS0z74 (fun hHeld => ?restz74)
                case hS0z74 => (try dsimp only); go_keep
                clear hK K
                try simp only [Act.put, List.setIfInBounds_toArray, List.set_cons_zero, List.set_cons_succ]
                obtain ⟨⟨d0, d1⟩, z0, z1⟩ := facts2 HU.out
                obtain ⟨⟨d2, d3⟩, z2, z3⟩ := facts2 HV.out
                have hE := ov_end hX (keepT_c hC) HU.out HV.out hWu hWv hne HNU.out HNV.out hC.t.2.2.1 hC.t.1 hC.t.2.2.2.2.2.2.1 hC.t.2.2.2.2.2.1
                have HE := Lib.hid hE
                have hC1 := hE.1
                have hc3 := hC1
                clear hE
                refine wpAnyH_ready (rs := [12]) (by kernel_rfl) (by simp) ?_
                refine' AllReadyH.cons (o := _) ?hiz72 (fun K hK => ?hkAz72) AllReadyH.nil
                case hiz72 => exact rfl
                go_simp
                refine hK.out _ _ ?hS0z72 (fun hHeld => ?restz72)
                case hS0z72 => exact ⟨hC1.1, hC1.2.1, hC1.2.2.1, hC1.2.2.2.1, hC1.2.2.2.2.1, hC1.2.2.2.2.2.1⟩
                clear hK K
                try simp only [Act.put, List.setIfInBounds_toArray, List.set_cons_zero, List.set_cons_succ]
                have hkk : ((wqAACAAA.setCell ⟨bu, 0, none⟩ (.slice r41 r42 r43)).setCell ⟨bu, 1, none⟩ (.slice r44 r45 r46)).heap[bv]? = wqAACAAA.heap[bv]? := by rw [heap_setCell_other _ _ _ _ (Ne.symm hne), heap_setCell_other _ _ _ _ (Ne.symm hne)]
                obtain ⟨⟨d4, d5⟩, z4, z5⟩ := facts2 (hkk.trans HV.out)
                clear d0 d1 z0 z1 d2 d3 z2 z3 hkk
                refine wpAnyH_ready (rs := [13]) (by kernel_rfl) (by simp) ?_
                refine' AllReadyH.cons (o := _) ?hiz73 (fun K hK => ?hkAz73) AllReadyH.nil
                case hiz73 => exact rfl
                go_simp
                refine hK.out _ _ ?hS0z73 (fun hHeld => ?restz73)
                case hS0z73 => exact ⟨HE.out.2.2.1.1, HE.out.2.2.1.2.1, HE.out.2.2.1.2.2.1, HE.out.2.2.1.2.2.2.1, HE.out.2.2.1.2.2.2.2.1, HE.out.2.2.1.2.2.2.2.2.1⟩
                clear hK K
                try simp only [Act.put, List.setIfInBounds_toArray, List.set_cons_zero, List.set_cons_succ]
                refine wpAnyH_done (by kernel_rfl) ?_ _
                go_wp2_with fail
                go_meet
                exact ⟨bu, bv, rfl, rfl, HE.out.2⟩
            case hkBz70 =>
              go_simp
              have HU := Lib.hid (heap_alloc_new wqAACA (.cells #[.slice none 0 0, .slice none 0 0] 27))
              have hWu : w4w.heap.size ≤ wqAACA.heap.size := hX.size
              have HNU := Lib.hid (keepT_far hC)
              have hne : wqAACA.heap.size ≠ bv := Nat.ne_of_gt (lt_of_block HV.out)
              have hC' := hC.ext ((Ext.refl wqAACA).alloc (.cells #[.slice none 0 0, .slice none 0 0] 27))
              have hX' := hX.trans ((Ext.refl wqAACA).alloc (.cells #[.slice none 0 0, .slice none 0 0] 27))
              have HV' := Lib.hid ((((Ext.refl wqAACA).alloc (.cells #[.slice none 0 0, .slice none 0 0] 27)).block _ (lt_of_block HV.out)).trans HV.out)
              obtain ⟨bu, hbu⟩ : ∃ b, b = wqAACA.heap.size := ⟨_, rfl⟩
              rw [← hbu] at HU hWu HNU hne ⊢
              generalize wqAACA.alloc (.cells #[.slice none 0 0, .slice none 0 0] 27) = wqAACAB at hC' hX' HU HV' ⊢
              clear hC hX c1 c2 c3 c4 c5 c6 hbu HV
              have hC := hC'
              have hX := hX'
              have HV := HV'
              clear hC' hX' HV'
              obtain ⟨c1, c2, c3, c4, c5, c6, _⟩ := hC.c
              refine hK.out _ _ ?hS0z80 (fun hHeld => ?restz80)
              case hS0z80 => (try dsimp only); go_keep
              clear hK K
              try simp only [Act.put, List.setIfInBounds_toArray, List.set_cons_zero, List.set_cons_succ]
              refine wpAnyH_ready (rs := [9]) (by kernel_rfl) (by simp) ?_
              refine' AllReadyH.cons (o := _) ?hiAz76 (fun K hK => ?hkAz76) AllReadyH.nil
              case hiAz76 => exact rfl
              case hkAz76 =>
                go_simp
                go_at_call 25
                refine (over_any _ _ (overP l m) n _ hC.t.1 hC.t.2.2.2.1 (by omega) (by omega)).mono ?_
                rintro e wqAACABA ⟨vx9, rfl, ht, hb⟩
                obtain ⟨r91, r92, r93, r94, r95, r96, rfl⟩ := ht.open
                have hC' := (hC.ext hb).tab ht
                have hX' := hX.trans hb
                have HU' := Lib.hid ((hb.block _ (lt_of_block HU.out)).trans HU.out)
                have HV' := Lib.hid ((hb.block _ (lt_of_block HV.out)).trans HV.out)
                clear hC hb ht hX c1 c2 c3 c4 c5 c6 HU HV
                have hC := hC'
                have hX := hX'
                have HU := HU'
                have HV := HV'
                clear hC' hX' HU' HV'
                obtain ⟨c1, c2, c3, c4, c5, c6, _⟩ := hC.c
                try go_wp2_with fail
                refine hK.out _ _ ?hS0z79 (fun hHeld => ?restz79)
                case hS0z79 => (try dsimp only); go_keep
                clear hK K
                try simp only [Act.put, List.setIfInBounds_toArray, List.set_cons_zero, List.set_cons_succ]
                obtain ⟨⟨d0, d1⟩, z0, z1⟩ := facts2 HU.out
                obtain ⟨⟨d2, d3⟩, z2, z3⟩ := facts2 HV.out
                have hE := ov_end hX (keepT_c hC) HU.out HV.out hWu hWv hne HNU.out HNV.out hC.t.2.2.1 hC.t.1 hC.t.2.2.2.2.2.2.1 hC.t.2.2.2.2.2.1
                have HE := Lib.hid hE
                have hC1 := hE.1
                have hc3 := hC1
                clear hE
                refine wpAnyH_ready (rs := [12]) (by kernel_rfl) (by simp) ?_
                refine' AllReadyH.cons (o := _) ?hiz77 (fun K hK => ?hkAz77) AllReadyH.nil
                case hiz77 => exact rfl
                go_simp
                refine hK.out _ _ ?hS0z77 (fun hHeld => ?restz77)
                case hS0z77 => exact ⟨hC1.1, hC1.2.1, hC1.2.2.1, hC1.2.2.2.1, hC1.2.2.2.2.1, hC1.2.2.2.2.2.1⟩
                clear hK K
                try simp only [Act.put, List.setIfInBounds_toArray, List.set_cons_zero, List.set_cons_succ]
                have hkk : ((wqAACABA.setCell ⟨bu, 0, none⟩ (.slice r41 r42 r43)).setCell ⟨bu, 1, none⟩ (.slice r44 r45 r46)).heap[bv]? = wqAACABA.heap[bv]? := by rw [heap_setCell_other _ _ _ _ (Ne.symm hne), heap_setCell_other _ _ _ _ (Ne.symm hne)]
                obtain ⟨⟨d4, d5⟩, z4, z5⟩ := facts2 (hkk.trans HV.out)
                clear d0 d1 z0 z1 d2 d3 z2 z3 hkk
                refine wpAnyH_ready (rs := [13]) (by kernel_rfl) (by simp) ?_
                refine' AllReadyH.cons (o := _) ?hiz78 (fun K hK => ?hkAz78) AllReadyH.nil
                case hiz78 => exact rfl
                go_simp
                refine hK.out _ _ ?hS0z78 (fun hHeld => ?restz78)
                case hS0z78 => exact ⟨HE.out.2.2.1.1, HE.out.2.2.1.2.1, HE.out.2.2.1.2.2.1, HE.out.2.2.1.2.2.2.1, HE.out.2.2.1.2.2.2.2.1, HE.out.2.2.1.2.2.2.2.2.1⟩
                clear hK K
                try simp only [Act.put, List.setIfInBounds_toArray, List.set_cons_zero, List.set_cons_succ]
                refine wpAnyH_done (by kernel_rfl) ?_ _
                go_wp2_with fail
                go_meet
                exact ⟨bu, bv, rfl, rfl, HE.out.2⟩
          case hkBz69 =>
            go_simp
            have HU := Lib.hid (heap_alloc_new wqAAC (.cells #[.slice none 0 0, .slice none 0 0] 27))
            have hWu : w4w.heap.size ≤ wqAAC.heap.size := hX.size
            have HNU := Lib.hid (keepT_far hC)
            have hne : wqAAC.heap.size ≠ bv := Nat.ne_of_gt (lt_of_block HV.out)
            have hC' := hC.ext ((Ext.refl wqAAC).alloc (.cells #[.slice none 0 0, .slice none 0 0] 27))
            have hX' := hX.trans ((Ext.refl wqAAC).alloc (.cells #[.slice none 0 0, .slice none 0 0] 27))
            have HV' := Lib.hid ((((Ext.refl wqAAC).alloc (.cells #[.slice none 0 0, .slice none 0 0] 27)).block _ (lt_of_block HV.out)).trans HV.out)
            obtain ⟨bu, hbu⟩ : ∃ b, b = wqAAC.heap.size := ⟨_, rfl⟩
            rw [← hbu] at HU hWu HNU hne ⊢
            generalize wqAAC.alloc (.cells #[.slice none 0 0, .slice none 0 0] 27) = wqAACB at hC' hX' HU HV' ⊢
            clear hC hX c1 c2 c3 c4 c5 c6 hbu HV
            have hC := hC'
            have hX := hX'
            have HV := HV'
            clear hC' hX' HV'
            obtain ⟨c1, c2, c3, c4, c5, c6, _⟩ := hC.c
            refine hK.out _ _ ?hS0z88 (fun hHeld => ?restz88)
            case hS0z88 => (try dsimp only); go_keep
            clear hK K
            try simp only [Act.put, List.setIfInBounds_toArray, List.set_cons_zero, List.set_cons_succ]
            refine wpAnyH_ready (rs := [7]) (by kernel_rfl) (by simp) ?_
            refine' AllReadyH.cons (o := _) ?hiAz82 (fun K hK => ?hkAz82) AllReadyH.nil
            case hiAz82 => exact rfl
            case hkAz82 =>
              go_simp
              go_at_call 25
              refine (over_any _ _ l m _ hC.t.2.2.2.2.1 hC.t.2.2.2.1 (by omega) (by omega)).mono ?_
              rintro e wqAACBA ⟨vx7, rfl, ht, hb⟩
              obtain ⟨r71, r72, r73, r74, r75, r76, rfl⟩ := ht.open
              have hC' := (hC.ext hb).tab ht
              have hX' := hX.trans hb
              have HU' := Lib.hid ((hb.block _ (lt_of_block HU.out)).trans HU.out)
              have HV' := Lib.hid ((hb.block _ (lt_of_block HV.out)).trans HV.out)
              clear hC hb ht hX c1 c2 c3 c4 c5 c6 HU HV
              have hC := hC'
              have hX := hX'
              have HU := HU'
              have HV := HV'
              clear hC' hX' HU' HV'
              obtain ⟨c1, c2, c3, c4, c5, c6, _⟩ := hC.c
              try go_wp2_with fail
              refine hK.out _ _ ?hS0z87 (fun hHeld => ?restz87)
              case hS0z87 => (try dsimp only); go_keep
              clear hK K
              try simp only [Act.put, List.setIfInBounds_toArray, List.set_cons_zero, List.set_cons_succ]
              refine wpAnyH_ready (rs := [9]) (by kernel_rfl) (by simp) ?_
              refine' AllReadyH.cons (o := _) ?hiAz83 (fun K hK => ?hkAz83) AllReadyH.nil
              case hiAz83 => exact rfl
              case hkAz83 =>
                go_simp
                go_at_call 25
                refine (over_any _ _ (overP l m) n _ hC.t.1 hC.t.2.2.2.1 (by omega) (by omega)).mono ?_
                rintro e wqAACBAA ⟨vx9, rfl, ht, hb⟩
                obtain ⟨r91, r92, r93, r94, r95, r96, rfl⟩ := ht.open
                have hC' := (hC.ext hb).tab ht
                have hX' := hX.trans hb
                have HU' := Lib.hid ((hb.block _ (lt_of_block HU.out)).trans HU.out)
                have HV' := Lib.hid ((hb.block _ (lt_of_block HV.out)).trans HV.out)
                clear hC hb ht hX c1 c2 c3 c4 c5 c6 HU HV
                have hC := hC'
                have hX := hX'
                have HU := HU'
                have HV := HV'
                clear hC' hX' HU' HV'
                obtain ⟨c1, c2, c3, c4, c5, c6, _⟩ := hC.c
                try go_wp2_with fail
                refine hK.out _ _ ?hS0z86 (fun hHeld => ?restz86)
                case hS0z86 => (try dsimp only); go_keep
                clear hK K
                try simp only [Act.put, List.setIfInBounds_toArray, List.set_cons_zero, List.set_cons_succ]
                obtain ⟨⟨d0, d1⟩, z0, z1⟩ := facts2 HU.out
                obtain ⟨⟨d2, d3⟩, z2, z3⟩ := facts2 HV.out
                have hE := ov_end hX (keepT_c hC) HU.out HV.out hWu hWv hne HNU.out HNV.out hC.t.2.2.1 hC.t.1 hC.t.2.2.2.2.2.2.1 hC.t.2.2.2.2.2.1
                have HE := Lib.hid hE
                have hC1 := hE.1
                have hc3 := hC1
                clear hE
                refine wpAnyH_ready (rs := [12]) (by kernel_rfl) (by simp) ?_
                refine' AllReadyH.cons (o := _) ?hiz84 (fun K hK => ?hkAz84) AllReadyH.nil
                case hiz84 => exact rfl
                go_simp
                refine hK.out _ _ ?hS0z84 (fun hHeld => ?restz84)
                case hS0z84 => exact ⟨hC1.1, hC1.2.1, hC1.2.2.1, hC1.2.2.2.1, hC1.2.2.2.2.1, hC1.2.2.2.2.2.1⟩
                clear hK K
                try simp only [Act.put, List.setIfInBounds_toArray, List.set_cons_zero, List.set_cons_succ]
                have hkk : ((wqAACBAA.setCell ⟨bu, 0, none⟩ (.slice r41 r42 r43)).setCell ⟨bu, 1, none⟩ (.slice r44 r45 r46)).heap[bv]? = wqAACBAA.heap[bv]? := by rw [heap_setCell_other _ _ _ _ (Ne.symm hne), heap_setCell_other _ _ _ _ (Ne.symm hne)]
                obtain ⟨⟨d4, d5⟩, z4, z5⟩ := facts2 (hkk.trans HV.out)
                clear d0 d1 z0 z1 d2 d3 z2 z3 hkk
                refine wpAnyH_ready (rs := [13]) (by kernel_rfl) (by simp) ?_
                refine' AllReadyH.cons (o := _) ?hiz85 (fun K hK => ?hkAz85) AllReadyH.nil
                case hiz85 => exact rfl
                go_simp
                refine hK.out _ _ ?hS0z85 (fun hHeld => ?restz85)
                case hS0z85 => exact ⟨HE.out.2.2.1.1, HE.out.2.2.1.2.1, HE.out.2.2.1.2.2.1, HE.out.2.2.1.2.2.2.1, HE.out.2.2.1.2.2.2.2.1, HE.out.2.2.1.2.2.2.2.2.1⟩
                clear hK K
                try simp only [Act.put, List.setIfInBounds_toArray, List.set_cons_zero, List.set_cons_succ]
                refine wpAnyH_done (by kernel_rfl) ?_ _
                go_wp2_with fail
                go_meet
                exact ⟨bu, bv, rfl, rfl, HE.out.2⟩
      case hkBz8 =>
        go_simp
        have HU := Lib.hid (heap_alloc_new wqA (.cells #[.slice none 0 0, .slice none 0 0] 27))
        have hWu : w4w.heap.size ≤ wqA.heap.size := hX.size
        have HNU := Lib.hid (keepT_far hC)
        have hC' := hC.ext ((Ext.refl wqA).alloc (.cells #[.slice none 0 0, .slice none 0 0] 27))
        have hX' := hX.trans ((Ext.refl wqA).alloc (.cells #[.slice none 0 0, .slice none 0 0] 27))
        obtain ⟨bu, hbu⟩ : ∃ b, b = wqA.heap.size := ⟨_, rfl⟩
        rw [← hbu] at HU hWu HNU ⊢
        generalize wqA.alloc (.cells #[.slice none 0 0, .slice none 0 0] 27) = wqAB at hC' hX' HU ⊢
        clear hC hX c1 c2 c3 c4 c5 c6 hbu 
        have hC := hC'
        have hX := hX'
        clear hC' hX' 
        obtain ⟨c1, c2, c3, c4, c5, c6, _⟩ := hC.c
        refine hK.out _ _ ?hS0z122 (fun hHeld => ?restz122)
        case hS0z122 => (try dsimp only); go_keep
        clear hK K
        try simp only [Act.put, List.setIfInBounds_toArray, List.set_cons_zero, List.set_cons_succ]
        refine wpAnyH_ready (rs := [4, 11]) (by kernel_rfl) (by simp) ?_
        refine' AllReadyH.cons (o := _) ?hiAz91 (fun K hK => ?hkAz91) (AllReadyH.cons (o := _) ?hiBz91 (fun K hK => ?hkBz91) AllReadyH.nil)
        case hiAz91 => exact rfl
        case hiBz91 => exact rfl
        case hkAz91 =>
          go_simp
          go_at_call 25
          refine (over_any _ _ l (overP m n) _ hC.t.2.2.2.1 hC.t.1 (by omega) (by omega)).mono ?_
          rintro e wqABA ⟨vx4, rfl, ht, hb⟩
          obtain ⟨r41, r42, r43, r44, r45, r46, rfl⟩ := ht.open
          have hC' := (hC.ext hb).tab ht
          have hX' := hX.trans hb
          have HU' := Lib.hid ((hb.block _ (lt_of_block HU.out)).trans HU.out)
          clear hC hb ht hX c1 c2 c3 c4 c5 c6 HU
          have hC := hC'
          have hX := hX'
          have HU := HU'
          clear hC' hX' HU'
          obtain ⟨c1, c2, c3, c4, c5, c6, _⟩ := hC.c
          try go_wp2_with fail
          refine hK.out _ _ ?hS0z112 (fun hHeld => ?restz112)
          case hS0z112 => (try dsimp only); go_keep
          clear hK K
          try simp only [Act.put, List.setIfInBounds_toArray, List.set_cons_zero, List.set_cons_succ]
          refine wpAnyH_ready (rs := [7, 11]) (by kernel_rfl) (by simp) ?_
          refine' AllReadyH.cons (o := _) ?hiAz92 (fun K hK => ?hkAz92) (AllReadyH.cons (o := _) ?hiBz92 (fun K hK => ?hkBz92) AllReadyH.nil)
          case hiAz92 => exact rfl
          case hiBz92 => exact rfl
          case hkAz92 =>
            go_simp
            go_at_call 25
            refine (over_any _ _ l m _ hC.t.2.2.2.2.1 hC.t.2.2.2.1 (by omega) (by omega)).mono ?_
            rintro e wqABAA ⟨vx7, rfl, ht, hb⟩
            obtain ⟨r71, r72, r73, r74, r75, r76, rfl⟩ := ht.open
            have hC' := (hC.ext hb).tab ht
            have hX' := hX.trans hb
            have HU' := Lib.hid ((hb.block _ (lt_of_block HU.out)).trans HU.out)
            clear hC hb ht hX c1 c2 c3 c4 c5 c6 HU
            have hC := hC'
            have hX := hX'
            have HU := HU'
            clear hC' hX' HU'
            obtain ⟨c1, c2, c3, c4, c5, c6, _⟩ := hC.c
            try go_wp2_with fail
            refine hK.out _ _ ?hS0z104 (fun hHeld => ?restz104)
            case hS0z104 => (try dsimp only); go_keep
            clear hK K
            try simp only [Act.put, List.setIfInBounds_toArray, List.set_cons_zero, List.set_cons_succ]
            refine wpAnyH_ready (rs := [9, 11]) (by kernel_rfl) (by simp) ?_
            refine' AllReadyH.cons (o := _) ?hiAz93 (fun K hK => ?hkAz93) (AllReadyH.cons (o := _) ?hiBz93 (fun K hK => ?hkBz93) AllReadyH.nil)
            case hiAz93 => exact rfl
            case hiBz93 => exact rfl
            case hkAz93 =>
              go_simp
              go_at_call 25
              refine (over_any _ _ (overP l m) n _ hC.t.1 hC.t.2.2.2.1 (by omega) (by omega)).mono ?_
              rintro e wqABAAA ⟨vx9, rfl, ht, hb⟩
              obtain ⟨r91, r92, r93, r94, r95, r96, rfl⟩ := ht.open
              have hC' := (hC.ext hb).tab ht
              have hX' := hX.trans hb
              have HU' := Lib.hid ((hb.block _ (lt_of_block HU.out)).trans HU.out)
              clear hC hb ht hX c1 c2 c3 c4 c5 c6 HU
              have hC := hC'
              have hX := hX'
              have HU := HU'
              clear hC' hX' HU'
              obtain ⟨c1, c2, c3, c4, c5, c6, _⟩ := hC.c
              try go_wp2_with fail
              refine hK.out _ _ ?hS0z98 (fun hHeld => ?restz98)
              case hS0z98 => (try dsimp only); go_keep
              clear hK K
              try simp only [Act.put, List.setIfInBounds_toArray, List.set_cons_zero, List.set_cons_succ]
              refine wpAnyH_ready (rs := [11]) (by kernel_rfl) (by simp) ?_
              refine' AllReadyH.cons (o := _) ?hiAz94 (fun K hK => ?hkAz94) AllReadyH.nil
              case hiAz94 => exact rfl
              case hkAz94 =>
                go_simp
                have HV := Lib.hid (heap_alloc_new wqABAAA (.cells #[.slice none 0 0, .slice none 0 0] 27))
                have hWv : w4w.heap.size ≤ wqABAAA.heap.size := hX.size
                have HNV := Lib.hid (keepT_far hC)
                have hne : bu ≠ wqABAAA.heap.size := Nat.ne_of_lt (lt_of_block HU.out)
                have hC' := hC.ext ((Ext.refl wqABAAA).alloc (.cells #[.slice none 0 0, .slice none 0 0] 27))
                have hX' := hX.trans ((Ext.refl wqABAAA).alloc (.cells #[.slice none 0 0, .slice none 0 0] 27))
                have HU' := Lib.hid ((((Ext.refl wqABAAA).alloc (.cells #[.slice none 0 0, .slice none 0 0] 27)).block _ (lt_of_block HU.out)).trans HU.out)
                obtain ⟨bv, hbv⟩ : ∃ b, b = wqABAAA.heap.size := ⟨_, rfl⟩
                rw [← hbv] at HV hWv HNV hne ⊢
                generalize wqABAAA.alloc (.cells #[.slice none 0 0, .slice none 0 0] 27) = wqABAAAA at hC' hX' HV HU' ⊢
                clear hC hX c1 c2 c3 c4 c5 c6 hbv HU
                have hC := hC'
                have hX := hX'
                have HU := HU'
                clear hC' hX' HU'
                obtain ⟨c1, c2, c3, c4, c5, c6, _⟩ := hC.c
                refine hK.out _ _ ?hS0z97 (fun hHeld => ?restz97)
                case hS0z97 => (try dsimp only); go_keep
                clear hK K
                try simp only [Act.put, List.setIfInBounds_toArray, List.set_cons_zero, List.set_cons_succ]
                obtain ⟨⟨d0, d1⟩, z0, z1⟩ := facts2 HU.out
                obtain ⟨⟨d2, d3⟩, z2, z3⟩ := facts2 HV.out
                have hE := ov_end hX (keepT_c hC) HU.out HV.out hWu hWv hne HNU.out HNV.out hC.t.2.2.1 hC.t.1 hC.t.2.2.2.2.2.2.1 hC.t.2.2.2.2.2.1
                have HE := Lib.hid hE
                have hC1 := hE.1
                have hc3 := hC1
                clear hE
                refine wpAnyH_ready (rs := [12]) (by kernel_rfl) (by simp) ?_
                refine' AllReadyH.cons (o := _) ?hiz95 (fun K hK => ?hkAz95) AllReadyH.nil
                case hiz95 => exact rfl
                go_simp
                refine hK.out _ _ ?hS0z95 (fun hHeld => ?restz95)
                case hS0z95 => exact ⟨hC1.1, hC1.2.1, hC1.2.2.1, hC1.2.2.2.1, hC1.2.2.2.2.1, hC1.2.2.2.2.2.1⟩
                clear hK K
                try simp only [Act.put, List.setIfInBounds_toArray, List.set_cons_zero, List.set_cons_succ]
                have hkk : ((wqABAAAA.setCell ⟨bu, 0, none⟩ (.slice r41 r42 r43)).setCell ⟨bu, 1, none⟩ (.slice r44 r45 r46)).heap[bv]? = wqABAAAA.heap[bv]? := by rw [heap_setCell_other _ _ _ _ (Ne.symm hne), heap_setCell_other _ _ _ _ (Ne.symm hne)]
                obtain ⟨⟨d4, d5⟩, z4, z5⟩ := facts2 (hkk.trans HV.out)
                clear d0 d1 z0 z1 d2 d3 z2 z3 hkk
                refine wpAnyH_ready (rs := [13]) (by kernel_rfl) (by simp) ?_
                refine' AllReadyH.cons (o := _) ?hiz96 (fun K hK => ?hkAz96) AllReadyH.nil
                case hiz96 => exact rfl
                go_simp
                refine hK.out _ _ ?hS0z96 (fun hHeld => ?restz96)
                case hS0z96 => exact ⟨HE.out.2.2.1.1, HE.out.2.2.1.2.1, HE.out.2.2.1.2.2.1, HE.out.2.2.1.2.2.2.1, HE.out.2.2.1.2.2.2.2.1, HE.out.2.2.1.2.2.2.2.2.1⟩
                clear hK K
                try simp only [Act.put, List.setIfInBounds_toArray, List.set_cons_zero, List.set_cons_succ]
                refine wpAnyH_done (by kernel_rfl) ?_ _
                go_wp2_with fail
                go_meet
                exact ⟨bu, bv, rfl, rfl, HE.out.2⟩
            case hkBz93 =>
              go_simp
              have HV := Lib.hid (heap_alloc_new wqABAA (.cells #[.slice none 0 0, .slice none 0 0] 27))
              have hWv : w4w.heap.size ≤ wqABAA.heap.size := hX.size
              have HNV := Lib.hid (keepT_far hC)
              have hne : bu ≠ wqABAA.heap.size := Nat.ne_of_lt (lt_of_block HU.out)
              have hC' := hC.ext ((Ext.refl wqABAA).alloc (.cells #[.slice none 0 0, .slice none 0 0] 27))
              have hX' := hX.trans ((Ext.refl wqABAA).alloc (.cells #[.slice none 0 0, .slice none 0 0] 27))
              have HU' := Lib.hid ((((Ext.refl wqABAA).alloc (.cells #[.slice none 0 0, .slice none 0 0] 27)).block _ (lt_of_block HU.out)).trans HU.out)
              obtain ⟨bv, hbv⟩ : ∃ b, b = wqABAA.heap.size := ⟨_, rfl⟩
              rw [← hbv] at HV hWv HNV hne ⊢
              generalize wqABAA.alloc (.cells #[.slice none 0 0, .slice none 0 0] 27) = wqABAAB at hC' hX' HV HU' ⊢
              clear hC hX c1 c2 c3 c4 c5 c6 hbv HU
              have hC := hC'
              have hX := hX'
              have HU := HU'
              clear hC' hX' HU'
              obtain ⟨c1, c2, c3, c4, c5, c6, _⟩ := hC.c
              refine hK.out _ _ ?hS0z103 (fun hHeld => ?restz103)
              case hS0z103 => (try dsimp only); go_keep
              clear hK K
              try simp only [Act.put, List.setIfInBounds_toArray, List.set_cons_zero, List.set_cons_succ]
              refine wpAnyH_ready (rs := [9]) (by kernel_rfl) (by simp) ?_
              refine' AllReadyH.cons (o := _) ?hiAz99 (fun K hK => ?hkAz99) AllReadyH.nil
              case hiAz99 => exact rfl
              case hkAz99 =>
                go_simp
                go_at_call 25
                refine (over_any _ _ (overP l m) n _ hC.t.1 hC.t.2.2.2.1 (by omega) (by omega)).mono ?_
                rintro e wqABAABA ⟨vx9, rfl, ht, hb⟩
                obtain ⟨r91, r92, r93, r94, r95, r96, rfl⟩ := ht.open
                have hC' := (hC.ext hb).tab ht
                have hX' := hX.trans hb
                have HU' := Lib.hid ((hb.block _ (lt_of_block HU.out)).trans HU.out)
                have HV' := Lib.hid ((hb.block _ (lt_of_block HV.out)).trans HV.out)
                clear hC hb ht hX c1 c2 c3 c4 c5 c6 HU HV
                have hC := hC'
                have hX := hX'
                have HU := HU'
                have HV := HV'
                clear hC' hX' HU' HV'
                obtain ⟨c1, c2, c3, c4, c5, c6, _⟩ := hC.c
                try go_wp2_with fail
                refine hK.out _ _ ?hS0z102 (fun hHeld => ?restz102)
                case hS0z102 => (try dsimp only); go_keep
                clear hK K
                try simp only [Act.put, List.setIfInBounds_toArray, List.set_cons_zero, List.set_cons_succ]
                obtain ⟨⟨d0, d1⟩, z0, z1⟩ := facts2 HU.out
                obtain ⟨⟨d2, d3⟩, z2, z3⟩ := facts2 HV.out
                have hE := ov_end hX (keepT_c hC) HU.out HV.out hWu hWv hne HNU.out HNV.out hC.t.2.2.1 hC.t.1 hC.t.2.2.2.2.2.2.1 hC.t.2.2.2.2.2.1
                have HE := Lib.hid hE
                have hC1 := hE.1
                have hc3 := hC1
                clear hE
                refine wpAnyH_ready (rs := [12]) (by kernel_rfl) (by simp) ?_
                refine' AllReadyH.cons (o := _) ?hiz100 (fun K hK => ?hkAz100) AllReadyH.nil
                case hiz100 => exact rfl
                go_simp
                refine hK.out _ _ ?hS0z100 (fun hHeld => ?restz100)
                case hS0z100 => exact ⟨hC1.1, hC1.2.1, hC1.2.2.1, hC1.2.2.2.1, hC1.2.2.2.2.1, hC1.2.2.2.2.2.1⟩
                clear hK K
                try simp only [Act.put, List.setIfInBounds_toArray, List.set_cons_zero, List.set_cons_succ]
                have hkk : ((wqABAABA.setCell ⟨bu, 0, none⟩ (.slice r41 r42 r43)).setCell ⟨bu, 1, none⟩ (.slice r44 r45 r46)).heap[bv]? = wqABAABA.heap[bv]? := by rw [heap_setCell_other _ _ _ _ (Ne.symm hne), heap_setCell_other _ _ _ _ (Ne.symm hne)]
                obtain ⟨⟨d4, d5⟩, z4, z5⟩ := facts2 (hkk.trans HV.out)
                clear d0 d1 z0 z1 d2 d3 z2 z3 hkk
                refine wpAnyH_ready (rs := [13]) (by kernel_rfl) (by simp) ?_
                refine' AllReadyH.cons (o := _) ?hiz101 (fun K hK => ?hkAz101) AllReadyH.nil
                case hiz101 => exact rfl
                go_simp
                refine hK.out _ _ ?hS0z101 (fun hHeld => ?restz101)
                case hS0z101 => exact ⟨HE.out.2.2.1.1, HE.out.2.2.1.2.1, HE.out.2.2.1.2.2.1, HE.out.2.2.1.2.2.2.1, HE.out.2.2.1.2.2.2.2.1, HE.out.2.2.1.2.2.2.2.2.1⟩
                clear hK K
                try simp only [Act.put, List.setIfInBounds_toArray, List.set_cons_zero, List.set_cons_succ]
                refine wpAnyH_done (by kernel_rfl) ?_ _
                go_wp2_with fail
                go_meet
                exact ⟨bu, bv, rfl, rfl, HE.out.2⟩
          case hkBz92 =>
            go_simp
            have HV := Lib.hid (heap_alloc_new wqABA (.cells #[.slice none 0 0, .slice none 0 0] 27))
            have hWv : w4w.heap.size ≤ wqABA.heap.size := hX.size
            have HNV := Lib.hid (keepT_far hC)
            have hne : bu ≠ wqABA.heap.size := Nat.ne_of_lt (lt_of_block HU.out)
            have hC' := hC.ext ((Ext.refl wqABA).alloc (.cells #[.slice none 0 0, .slice none 0 0] 27))
            have hX' := hX.trans ((Ext.refl wqABA).alloc (.cells #[.slice none 0 0, .slice none 0 0] 27))
            have HU' := Lib.hid ((((Ext.refl wqABA).alloc (.cells #[.slice none 0 0, .slice none 0 0] 27)).block _ (lt_of_block HU.out)).trans HU.out)
            obtain ⟨bv, hbv⟩ : ∃ b, b = wqABA.heap.size := ⟨_, rfl⟩
            rw [← hbv] at HV hWv HNV hne ⊢
            generalize wqABA.alloc (.cells #[.slice none 0 0, .slice none 0 0] 27) = wqABAB at hC' hX' HV HU' ⊢
            clear hC hX c1 c2 c3 c4 c5 c6 hbv HU
            have hC := hC'
            have hX := hX'
            have HU := HU'
            clear hC' hX' HU'
            obtain ⟨c1, c2, c3, c4, c5, c6, _⟩ := hC.c
            refine hK.out _ _ ?hS0z111 (fun hHeld => ?restz111)
            case hS0z111 => (try dsimp only); go_keep
            clear hK K
            try simp only [Act.put, List.setIfInBounds_toArray, List.set_cons_zero, List.set_cons_succ]
            refine wpAnyH_ready (rs := [7]) (by kernel_rfl) (by simp) ?_
            refine' AllReadyH.cons (o := _) ?hiAz105 (fun K hK => ?hkAz105) AllReadyH.nil
            case hiAz105 => exact rfl
            case hkAz105 =>
              go_simp
              go_at_call 25
              refine (over_any _ _ l m _ hC.t.2.2.2.2.1 hC.t.2.2.2.1 (by omega) (by omega)).mono ?_
              rintro e wqABABA ⟨vx7, rfl, ht, hb⟩
              obtain ⟨r71, r72, r73, r74, r75, r76, rfl⟩ := ht.open
              have hC' := (hC.ext hb).tab ht
              have hX' := hX.trans hb
              have HU' := Lib.hid ((hb.block _ (lt_of_block HU.out)).trans HU.out)
              have HV' := Lib.hid ((hb.block _ (lt_of_block HV.out)).trans HV.out)
              clear hC hb ht hX c1 c2 c3 c4 c5 c6 HU HV
              have hC := hC'
              have hX := hX'
              have HU := HU'
              have HV := HV'
              clear hC' hX' HU' HV'
              obtain ⟨c1, c2, c3, c4, c5, c6, _⟩ := hC.c
              try go_wp2_with fail
              refine hK.out _ _ ?hS0z110 (fun hHeld => ?restz110)
              case hS0z110 => (try dsimp only); go_keep
              clear hK K
              try simp only [Act.put, List.setIfInBounds_toArray, List.set_cons_zero, List.set_cons_succ]
              refine wpAnyH_ready (rs := [9]) (by kernel_rfl) (by simp) ?_
              refine' AllReadyH.cons (o := _) ?hiAz106 (fun K hK => ?hkAz106) AllReadyH.nil
              case hiAz106 => exact rfl
              case hkAz106 =>
                go_simp
                go_at_call 25
                refine (over_any _ _ (overP l m) n _ hC.t.1 hC.t.2.2.2.1 (by omega) (by omega)).mono ?_
                rintro e wqABABAA ⟨vx9, rfl, ht, hb⟩
                obtain ⟨r91, r92, r93, r94, r95, r96, rfl⟩ := ht.open
                have hC' := (hC.ext hb).tab ht
                have hX' := hX.trans hb
                have HU' := Lib.hid ((hb.block _ (lt_of_block HU.out)).trans HU.out)
                have HV' := Lib.hid ((hb.block _ (lt_of_block HV.out)).trans HV.out)
                clear hC hb ht hX c1 c2 c3 c4 c5 c6 HU HV
                have hC := hC'
                have hX := hX'
                have HU := HU'
                have HV := HV'
                clear hC' hX' HU' HV'
                obtain ⟨c1, c2, c3, c4, c5, c6, _⟩ := hC.c
                try go_wp2_with fail
                refine hK.out _ _ ?hS0z109 (fun hHeld => ?restz109)
                case hS0z109 => (try dsimp only); go_keep
                clear hK K
                try simp only [Act.put, List.setIfInBounds_toArray, List.set_cons_zero, List.set_cons_succ]
                obtain ⟨⟨d0, d1⟩, z0, z1⟩ := facts2 HU.out
                obtain ⟨⟨d2, d3⟩, z2, z3⟩ := facts2 HV.out
                have hE := ov_end hX (keepT_c hC) HU.out HV.out hWu hWv hne HNU.out HNV.out hC.t.2.2.1 hC.t.1 hC.t.2.2.2.2.2.2.1 hC.t.2.2.2.2.2.1
                have HE := Lib.hid hE
                have hC1 := hE.1
                have hc3 := hC1
                clear hE
                refine wpAnyH_ready (rs := [12]) (by kernel_rfl) (by simp) ?_
                refine' AllReadyH.cons (o := _) ?hiz107 (fun K hK => ?hkAz107) AllReadyH.nil
                case hiz107 => exact rfl
                go_simp
                refine hK.out _ _ ?hS0z107 (fun hHeld => ?restz107)
                case hS0z107 => exact ⟨hC1.1, hC1.2.1, hC1.2.2.1, hC1.2.2.2.1, hC1.2.2.2.2.1, hC1.2.2.2.2.2.1⟩
                clear hK K
                try simp only [Act.put, List.setIfInBounds_toArray, List.set_cons_zero, List.set_cons_succ]
                have hkk : ((wqABABAA.setCell ⟨bu, 0, none⟩ (.slice r41 r42 r43)).setCell ⟨bu, 1, none⟩ (.slice r44 r45 r46)).heap[bv]? = wqABABAA.heap[bv]? := by rw [heap_setCell_other _ _ _ _ (Ne.symm hne), heap_setCell_other _ _ _ _ (Ne.symm hne)]
                obtain ⟨⟨d4, d5⟩, z4, z5⟩ := facts2 (hkk.trans HV.out)
                clear d0 d1 z0 z1 d2 d3 z2 z3 hkk
                refine wpAnyH_ready (rs := [13]) (by kernel_rfl) (by simp) ?_
                refine' AllReadyH.cons (o := _) ?hiz108 (fun K hK => ?hkAz108) AllReadyH.nil
                case hiz108 => exact rfl
                go_simp
                refine hK.out _ _ ?hS0z108 (fun hHeld => ?restz108)
                case hS0z108 => exact ⟨HE.out.2.2.1.1, HE.out.2.2.1.2.1, HE.out.2.2.1.2.2.1, HE.out.2.2.1.2.2.2.1, HE.out.2.2.1.2.2.2.2.1, HE.out.2.2.1.2.2.2.2.2.1⟩
                clear hK K
                try simp only [Act.put, List.setIfInBounds_toArray, List.set_cons_zero, List.set_cons_succ]
                refine wpAnyH_done (by kernel_rfl) ?_ _
                go_wp2_with fail
                go_meet
                exact ⟨bu, bv, rfl, rfl, HE.out.2⟩
        case hkBz91 =>
          go_simp
          have HV := Lib.hid (heap_alloc_new wqAB (.cells #[.slice none 0 0, .slice none 0 0] 27))
          have hWv : w4w.heap.size ≤ wqAB.heap.size := hX.size
          have HNV := Lib.hid (keepT_far hC)
          have hne : bu ≠ wqAB.heap.size := Nat.ne_of_lt (lt_of_block HU.out)
          have hC' := hC.ext ((Ext.refl wqAB).alloc (.cells #[.slice none 0 0, .slice none 0 0] 27))
          have hX' := hX.trans ((Ext.refl wqAB).alloc (.cells #[.slice none 0 0, .slice none 0 0] 27))
          have HU' := Lib.hid ((((Ext.refl wqAB).alloc (.cells #[.slice none 0 0, .slice none 0 0] 27)).block _ (lt_of_block HU.out)).trans HU.out)
          obtain ⟨bv, hbv⟩ : ∃ b, b = wqAB.heap.size := ⟨_, rfl⟩
          rw [← hbv] at HV hWv HNV hne ⊢
          generalize wqAB.alloc (.cells #[.slice none 0 0, .slice none 0 0] 27) = wqABB at hC' hX' HV HU' ⊢
          clear hC hX c1 c2 c3 c4 c5 c6 hbv HU
          have hC := hC'
          have hX := hX'
          have HU := HU'
          clear hC' hX' HU'
          obtain ⟨c1, c2, c3, c4, c5, c6, _⟩ := hC.c
          refine hK.out _ _ ?hS0z121 (fun hHeld => ?restz121)
          case hS0z121 => (try dsimp only); go_keep
          clear hK K
          try simp only [Act.put, List.setIfInBounds_toArray, List.set_cons_zero, List.set_cons_succ]
          refine wpAnyH_ready (rs := [4]) (by kernel_rfl) (by simp) ?_
          refine' AllReadyH.cons (o := _) ?hiAz113 (fun K hK => ?hkAz113) AllReadyH.nil
          case hiAz113 => exact rfl
          case hkAz113 =>
            go_simp
            go_at_call 25
            refine (over_any _ _ l (overP m n) _ hC.t.2.2.2.1 hC.t.1 (by omega) (by omega)).mono ?_
            rintro e wqABBA ⟨vx4, rfl, ht, hb⟩
            obtain ⟨r41, r42, r43, r44, r45, r46, rfl⟩ := ht.open
            have hC' := (hC.ext hb).tab ht
            have hX' := hX.trans hb
            have HU' := Lib.hid ((hb.block _ (lt_of_block HU.out)).trans HU.out)
            have HV' := Lib.hid ((hb.block _ (lt_of_block HV.out)).trans HV.out)
            clear hC hb ht hX c1 c2 c3 c4 c5 c6 HU HV
            have hC := hC'
            have hX := hX'
            have HU := HU'
            have HV := HV'
            clear hC' hX' HU' HV'
            obtain ⟨c1, c2, c3, c4, c5, c6, _⟩ := hC.c
            try go_wp2_with fail
            refine hK.out _ _ ?hS0z120 (fun hHeld => ?restz120)
            case hS0z120 => (try dsimp only); go_keep
            clear hK K
            try simp only [Act.put, List.setIfInBounds_toArray, List.set_cons_zero, List.set_cons_succ]
            refine wpAnyH_ready (rs := [7]) (by kernel_rfl) (by simp) ?_
            refine' AllReadyH.cons (o := _) ?hiAz114 (fun K hK => ?hkAz114) AllReadyH.nil
            case hiAz114 => exact rfl
            case hkAz114 =>
              go_simp
              go_at_call 25
              refine (over_any _ _ l m _ hC.t.2.2.2.2.1 hC.t.2.2.2.1 (by omega) (by omega)).mono ?_
              rintro e wqABBAA ⟨vx7, rfl, ht, hb⟩
              obtain ⟨r71, r72, r73, r74, r75, r76, rfl⟩ := ht.open
              have hC' := (hC.ext hb).tab ht
              have hX' := hX.trans hb
              have HU' := Lib.hid ((hb.block _ (lt_of_block HU.out)).trans HU.out)
              have HV' := Lib.hid ((hb.block _ (lt_of_block HV.out)).trans HV.out)
              clear hC hb ht hX c1 c2 c3 c4 c5 c6 HU HV
              have hC := hC'
              have hX := hX'
              have HU := HU'
              have HV := HV'
              clear hC' hX' HU' HV'
              obtain ⟨c1, c2, c3, c4, c5, c6, _⟩ := hC.c
              try go_wp2_with fail
              refine hK.out _ _ ?hS0z119 (fun hHeld => ?restz119)
              case hS0z119 => (try dsimp only); go_keep
              clear hK K
              try simp only [Act.put, List.setIfInBounds_toArray, List.set_cons_zero, List.set_cons_succ]
              refine wpAnyH_ready (rs := [9]) (by kernel_rfl) (by simp) ?_
              refine' AllReadyH.cons (o := _) ?hiAz115 (fun K hK => ?hkAz115) AllReadyH.nil
              case hiAz115 => exact rfl
              case hkAz115 =>
                go_simp
                go_at_call 25
                refine (over_any _ _ (overP l m) n _ hC.t.1 hC.t.2.2.2.1 (by omega) (by omega)).mono ?_
                rintro e wqABBAAA ⟨vx9, rfl, ht, hb⟩
                obtain ⟨r91, r92, r93, r94, r95, r96, rfl⟩ := ht.open
                have hC' := (hC.ext hb).tab ht
                have hX' := hX.trans hb
                have HU' := Lib.hid ((hb.block _ (lt_of_block HU.out)).trans HU.out)
                have HV' := Lib.hid ((hb.block _ (lt_of_block HV.out)).trans HV.out)
                clear hC hb ht hX c1 c2 c3 c4 c5 c6 HU HV
                have hC := hC'
                have hX := hX'
                have HU := HU'
                have HV := HV'
                clear hC' hX' HU' HV'
                obtain ⟨c1, c2, c3, c4, c5, c6, _⟩ := hC.c
                try go_wp2_with fail
                refine hK.out _ _ ?hS0z118 (fun hHeld => ?restz118)
                case hS0z118 => (try dsimp only); go_keep
                clear hK K
                try simp only [Act.put, List.setIfInBounds_toArray, List.set_cons_zero, List.set_cons_succ]
                obtain ⟨⟨d0, d1⟩, z0, z1⟩ := facts2 HU.out
                obtain ⟨⟨d2, d3⟩, z2, z3⟩ := facts2 HV.out
                have hE := ov_end hX (keepT_c hC) HU.out HV.out hWu hWv hne HNU.out HNV.out hC.t.2.2.1 hC.t.1 hC.t.2.2.2.2.2.2.1 hC.t.2.2.2.2.2.1
                have HE := Lib.hid hE
                have hC1 := hE.1
                have hc3 := hC1
                clear hE
                refine wpAnyH_ready (rs := [12]) (by kernel_rfl) (by simp) ?_
                refine' AllReadyH.cons (o := _) ?hiz116 (fun K hK => ?hkAz116) AllReadyH.nil
                case hiz116 => exact rfl
                go_simp
                refine hK.out _ _ ?hS0z116 (fun hHeld => ?restz116)
                case hS0z116 => exact ⟨hC1.1, hC1.2.1, hC1.2.2.1, hC1.2.2.2.1, hC1.2.2.2.2.1, hC1.2.2.2.2.2.1⟩
                clear hK K
                try simp only [Act.put, List.setIfInBounds_toArray, List.set_cons_zero, List.set_cons_succ]
                have hkk : ((wqABBAAA.setCell ⟨bu, 0, none⟩ (.slice r41 r42 r43)).setCell ⟨bu, 1, none⟩ (.slice r44 r45 r46)).heap[bv]? = wqABBAAA.heap[bv]? := by rw [heap_setCell_other _ _ _ _ (Ne.symm hne), heap_setCell_other _ _ _ _ (Ne.symm hne)]
                obtain ⟨⟨d4, d5⟩, z4, z5⟩ := facts2 (hkk.trans HV.out)
                clear d0 d1 z0 z1 d2 d3 z2 z3 hkk
                refine wpAnyH_ready (rs := [13]) (by kernel_rfl) (by simp) ?_
                refine' AllReadyH.cons (o := _) ?hiz117 (fun K hK => ?hkAz117) AllReadyH.nil
                case hiz117 => exact rfl
                go_simp
                refine hK.out _ _ ?hS0z117 (fun hHeld => ?restz117)
                case hS0z117 => exact ⟨HE.out.2.2.1.1, HE.out.2.2.1.2.1, HE.out.2.2.1.2.2.1, HE.out.2.2.1.2.2.2.1, HE.out.2.2.1.2.2.2.2.1, HE.out.2.2.1.2.2.2.2.2.1⟩
                clear hK K
                try simp only [Act.put, List.setIfInBounds_toArray, List.set_cons_zero, List.set_cons_succ]
                refine wpAnyH_done (by kernel_rfl) ?_ _
                go_wp2_with fail
                go_meet
                exact ⟨bu, bv, rfl, rfl, HE.out.2⟩
      case hkCz8 =>
        go_simp
        have HV := Lib.hid (heap_alloc_new wqA (.cells #[.slice none 0 0, .slice none 0 0] 27))
        have hWv : w4w.heap.size ≤ wqA.heap.size := hX.size
        have HNV := Lib.hid (keepT_far hC)
        have hC' := hC.ext ((Ext.refl wqA).alloc (.cells #[.slice none 0 0, .slice none 0 0] 27))
        have hX' := hX.trans ((Ext.refl wqA).alloc (.cells #[.slice none 0 0, .slice none 0 0] 27))
        obtain ⟨bv, hbv⟩ : ∃ b, b = wqA.heap.size := ⟨_, rfl⟩
        rw [← hbv] at HV hWv HNV ⊢
        generalize wqA.alloc (.cells #[.slice none 0 0, .slice none 0 0] 27) = wqAC at hC' hX' HV ⊢
        clear hC hX c1 c2 c3 c4 c5 c6 hbv 
        have hC := hC'
        have hX := hX'
        clear hC' hX' 
        obtain ⟨c1, c2, c3, c4, c5, c6, _⟩ := hC.c
        refine hK.out _ _ ?hS0z154 (fun hHeld => ?restz154)
        case hS0z154 => (try dsimp only); go_keep
        clear hK K
        try simp only [Act.put, List.setIfInBounds_toArray, List.set_cons_zero, List.set_cons_succ]
        refine wpAnyH_ready (rs := [4, 10]) (by kernel_rfl) (by simp) ?_
        refine' AllReadyH.cons (o := _) ?hiAz123 (fun K hK => ?hkAz123) (AllReadyH.cons (o := _) ?hiBz123 (fun K hK => ?hkBz123) AllReadyH.nil)
        case hiAz123 => exact rfl
        case hiBz123 => exact rfl
        case hkAz123 =>
          go_simp
          go_at_call 25
          refine (over_any _ _ l (overP m n) _ hC.t.2.2.2.1 hC.t.1 (by omega) (by omega)).mono ?_
          rintro e wqACA ⟨vx4, rfl, ht, hb⟩
          obtain ⟨r41, r42, r43, r44, r45, r46, rfl⟩ := ht.open
          have hC' := (hC.ext hb).tab ht
          have hX' := hX.trans hb
          have HV' := Lib.hid ((hb.block _ (lt_of_block HV.out)).trans HV.out)
          clear hC hb ht hX c1 c2 c3 c4 c5 c6 HV
          have hC := hC'
          have hX := hX'
          have HV := HV'
          clear hC' hX' HV'
          obtain ⟨c1, c2, c3, c4, c5, c6, _⟩ := hC.c
          try go_wp2_with fail
          refine hK.out _ _ ?hS0z144 (fun hHeld => ?restz144)
          case hS0z144 => (try dsimp only); go_keep
          clear hK K
          try simp only [Act.put, List.setIfInBounds_toArray, List.set_cons_zero, List.set_cons_succ]
          refine wpAnyH_ready (rs := [7, 10]) (by kernel_rfl) (by simp) ?_
          refine' AllReadyH.cons (o := _) ?hiAz124 (fun K hK => ?hkAz124) (AllReadyH.cons (o := _) ?hiBz124 (fun K hK => ?hkBz124) AllReadyH.nil)
          case hiAz124 => exact rfl
          case hiBz124 => exact rfl
          case hkAz124 =>
            go_simp
            go_at_call 25
            refine (over_any _ _ l m _ hC.t.2.2.2.2.1 hC.t.2.2.2.1 (by omega) (by omega)).mono ?_
            rintro e wqACAA ⟨vx7, rfl, ht, hb⟩
            obtain ⟨r71, r72, r73, r74, r75, r76, rfl⟩ := ht.open
            have hC' := (hC.ext hb).tab ht
            have hX' := hX.trans hb
            have HV' := Lib.hid ((hb.block _ (lt_of_block HV.out)).trans HV.out)
            clear hC hb ht hX c1 c2 c3 c4 c5 c6 HV
            have hC := hC'
            have hX := hX'
            have HV := HV'
            clear hC' hX' HV'
            obtain ⟨c1, c2, c3, c4, c5, c6, _⟩ := hC.c
            try go_wp2_with fail
            refine hK.out _ _ ?hS0z136 (fun hHeld => ?restz136)
            case hS0z136 => (try dsimp only); go_keep
            clear hK K
            try simp only [Act.put, List.setIfInBounds_toArray, List.set_cons_zero, List.set_cons_succ]
            refine wpAnyH_ready (rs := [9, 10]) (by kernel_rfl) (by simp) ?_
            refine' AllReadyH.cons (o := _) ?hiAz125 (fun K hK => ?hkAz125) (AllReadyH.cons (o := _) ?hiBz125 (fun K hK => ?hkBz125) AllReadyH.nil)
            case hiAz125 => exact rfl
            case hiBz125 => exact rfl
            case hkAz125 =>
              go_simp
              go_at_call 25
              refine (over_any _ _ (overP l m) n _ hC.t.1 hC.t.2.2.2.1 (by omega) (by omega)).mono ?_
              rintro e wqACAAA ⟨vx9, rfl, ht, hb⟩
              obtain ⟨r91, r92, r93, r94, r95, r96, rfl⟩ := ht.open
              have hC' := (hC.ext hb).tab ht
              have hX' := hX.trans hb
              have HV' := Lib.hid ((hb.block _ (lt_of_block HV.out)).trans HV.out)
              clear hC hb ht hX c1 c2 c3 c4 c5 c6 HV
              have hC := hC'
              have hX := hX'
              have HV := HV'
              clear hC' hX' HV'
              obtain ⟨c1, c2, c3, c4, c5, c6, _⟩ := hC.c
              try go_wp2_with fail
              refine hK.out _ _ ?hS0z130 (fun hHeld => ?restz130)
              case hS0z130 => (try dsimp only); go_keep
              clear hK K
              try simp only [Act.put, List.setIfInBounds_toArray, List.set_cons_zero, List.set_cons_succ]
              refine wpAnyH_ready (rs := [10]) (by kernel_rfl) (by simp) ?_
              refine' AllReadyH.cons (o := _) ?hiAz126 (fun K hK => ?hkAz126) AllReadyH.nil
              case hiAz126 => exact rfl
              case hkAz126 =>
                go_simp
                have HU := Lib.hid (heap_alloc_new wqACAAA (.cells #[.slice none 0 0, .slice none 0 0] 27))
                have hWu : w4w.heap.size ≤ wqACAAA.heap.size := hX.size
                have HNU := Lib.hid (keepT_far hC)
                have hne : wqACAAA.heap.size ≠ bv := Nat.ne_of_gt (lt_of_block HV.out)
                have hC' := hC.ext ((Ext.refl wqACAAA).alloc (.cells #[.slice none 0 0, .slice none 0 0] 27))
                have hX' := hX.trans ((Ext.refl wqACAAA).alloc (.cells #[.slice none 0 0, .slice none 0 0] 27))
                have HV' := Lib.hid ((((Ext.refl wqACAAA).alloc (.cells #[.slice none 0 0, .slice none 0 0] 27)).block _ (lt_of_block HV.out)).trans HV.out)
                obtain ⟨bu, hbu⟩ : ∃ b, b = wqACAAA.heap.size := ⟨_, rfl⟩
                rw [← hbu] at HU hWu HNU hne ⊢
                generalize wqACAAA.alloc (.cells #[.slice none 0 0, .slice none 0 0] 27) = wqACAAAA at hC' hX' HU HV' ⊢
                clear hC hX c1 c2 c3 c4 c5 c6 hbu HV
                have hC := hC'
                have hX := hX'
                have HV := HV'
                clear hC' hX' HV'
                obtain ⟨c1, c2, c3, c4, c5, c6, _⟩ := hC.c
                refine hK.out _ _ ?hS0z129 (fun hHeld => ?restz129)
                case hS0z129 => (try dsimp only); go_keep
                clear hK K
                try simp only [Act.put, List.setIfInBounds_toArray, List.set_cons_zero, List.set_cons_succ]
                obtain ⟨⟨d0, d1⟩, z0, z1⟩ := facts2 HU.out
                obtain ⟨⟨d2, d3⟩, z2, z3⟩ := facts2 HV.out
                have hE := ov_end hX (keepT_c hC) HU.out HV.out hWu hWv hne HNU.out HNV.out hC.t.2.2.1 hC.t.1 hC.t.2.2.2.2.2.2.1 hC.t.2.2.2.2.2.1
                have HE := Lib.hid hE
                have hC1 := hE.1
                have hc3 := hC1
                clear hE
                refine wpAnyH_ready (rs := [12]) (by kernel_rfl) (by simp) ?_
                refine' AllReadyH.cons (o := _) ?hiz127 (fun K hK => ?hkAz127) AllReadyH.nil
                case hiz127 => exact rfl
                go_simp
                refine hK.out _ _ ?hS0z127 (fun hHeld => ?restz127)
                case hS0z127 => exact ⟨hC1.1, hC1.2.1, hC1.2.2.1, hC1.2.2.2.1, hC1.2.2.2.2.1, hC1.2.2.2.2.2.1⟩
                clear hK K
                try simp only [Act.put, List.setIfInBounds_toArray, List.set_cons_zero, List.set_cons_succ]
                have hkk : ((wqACAAAA.setCell ⟨bu, 0, none⟩ (.slice r41 r42 r43)).setCell ⟨bu, 1, none⟩ (.slice r44 r45 r46)).heap[bv]? = wqACAAAA.heap[bv]? := by rw [heap_setCell_other _ _ _ _ (Ne.symm hne), heap_setCell_other _ _ _ _ (Ne.symm hne)]
                obtain ⟨⟨d4, d5⟩, z4, z5⟩ := facts2 (hkk.trans HV.out)
                clear d0 d1 z0 z1 d2 d3 z2 z3 hkk
                refine wpAnyH_ready (rs := [13]) (by kernel_rfl) (by simp) ?_
                refine' AllReadyH.cons (o := _) ?hiz128 (fun K hK => ?hkAz128) AllReadyH.nil
                case hiz128 => exact rfl
                go_simp
                refine hK.out _ _ ?hS0z128 (fun hHeld => ?restz128)
                case hS0z128 => exact ⟨HE.out.2.2.1.1, HE.out.2.2.1.2.1, HE.out.2.2.1.2.2.1, HE.out.2.2.1.2.2.2.1, HE.out.2.2.1.2.2.2.2.1, HE.out.2.2.1.2.2.2.2.2.1⟩
                clear hK K
                try simp only [Act.put, List.setIfInBounds_toArray, List.set_cons_zero, List.set_cons_succ]
                refine wpAnyH_done (by kernel_rfl) ?_ _
                go_wp2_with fail
                go_meet
                exact ⟨bu, bv, rfl, rfl, HE.out.2⟩
            case hkBz125 =>
              go_simp
              have HU := Lib.hid (heap_alloc_new wqACAA (.cells #[.slice none 0 0, .slice none 0 0] 27))
              have hWu : w4w.heap.size ≤ wqACAA.heap.size := hX.size
              have HNU := Lib.hid (keepT_far hC)
              have hne : wqACAA.heap.size ≠ bv := Nat.ne_of_gt (lt_of_block HV.out)
              have hC' := hC.ext ((Ext.refl wqACAA).alloc (.cells #[.slice none 0 0, .slice none 0 0] 27))
              have hX' := hX.trans ((Ext.refl wqACAA).alloc (.cells #[.slice none 0 0, .slice none 0 0] 27))
              have HV' := Lib.hid ((((Ext.refl wqACAA).alloc (.cells #[.slice none 0 0, .slice none 0 0] 27)).block _ (lt_of_block HV.out)).trans HV.out)
              obtain ⟨bu, hbu⟩ : ∃ b, b = wqACAA.heap.size := ⟨_, rfl⟩
              rw [← hbu] at HU hWu HNU hne ⊢
              generalize wqACAA.alloc (.cells #[.slice none 0 0, .slice none 0 0] 27) = wqACAAB at hC' hX' HU HV' ⊢
              clear hC hX c1 c2 c3 c4 c5 c6 hbu HV
              have hC := hC'
              have hX := hX'
              have HV := HV'
              clear hC' hX' HV'
              obtain ⟨c1, c2, c3, c4, c5, c6, _⟩ := hC.c
              refine hK.out _ _ ?hS0z135 (fun hHeld => ?restz135)
              case hS0z135 => (try dsimp only); go_keep
              clear hK K
              try simp only [Act.put, List.setIfInBounds_toArray, List.set_cons_zero, List.set_cons_succ]
              refine wpAnyH_ready (rs := [9]) (by kernel_rfl) (by simp) ?_
              refine' AllReadyH.cons (o := _) ?hiAz131 (fun K hK => ?hkAz131) AllReadyH.nil
              case hiAz131 => exact rfl
              case hkAz131 =>
                go_simp
                go_at_call 25
                refine (over_any _ _ (overP l m) n _ hC.t.1 hC.t.2.2.2.1 (by omega) (by omega)).mono ?_
                rintro e wqACAABA ⟨vx9, rfl, ht, hb⟩
                obtain ⟨r91, r92, r93, r94, r95, r96, rfl⟩ := ht.open
                have hC' := (hC.ext hb).tab ht
                have hX' := hX.trans hb
                have HU' := Lib.hid ((hb.block _ (lt_of_block HU.out)).trans HU.out)
                have HV' := Lib.hid ((hb.block _ (lt_of_block HV.out)).trans HV.out)
                clear hC hb ht hX c1 c2 c3 c4 c5 c6 HU HV
                have hC := hC'
                have hX := hX'
                have HU := HU'
                have HV := HV'
                clear hC' hX' HU' HV'
                obtain ⟨c1, c2, c3, c4, c5, c6, _⟩ := hC.c
                try go_wp2_with fail
                refine hK.out _ _ ?hS0z134 (fun hHeld => ?restz134)
                case hS0z134 => (try dsimp only); go_keep
                clear hK K
                try simp only [Act.put, List.setIfInBounds_toArray, List.set_cons_zero, List.set_cons_succ]
                obtain ⟨⟨d0, d1⟩, z0, z1⟩ := facts2 HU.out
                obtain ⟨⟨d2, d3⟩, z2, z3⟩ := facts2 HV.out
                have hE := ov_end hX (keepT_c hC) HU.out HV.out hWu hWv hne HNU.out HNV.out hC.t.2.2.1 hC.t.1 hC.t.2.2.2.2.2.2.1 hC.t.2.2.2.2.2.1
                have HE := Lib.hid hE
                have hC1 := hE.1
                have hc3 := hC1
                clear hE
                refine wpAnyH_ready (rs := [12]) (by kernel_rfl) (by simp) ?_
                refine' AllReadyH.cons (o := _) ?hiz132 (fun K hK => ?hkAz132) AllReadyH.nil
                case hiz132 => exact rfl
                go_simp
                refine hK.out _ _ ?hS0z132 (fun hHeld => ?restz132)
                case hS0z132 => exact ⟨hC1.1, hC1.2.1, hC1.2.2.1, hC1.2.2.2.1, hC1.2.2.2.2.1, hC1.2.2.2.2.2.1⟩
                clear hK K
                try simp only [Act.put, List.setIfInBounds_toArray, List.set_cons_zero, List.set_cons_succ]
                have hkk : ((wqACAABA.setCell ⟨bu, 0, none⟩ (.slice r41 r42 r43)).setCell ⟨bu, 1, none⟩ (.slice r44 r45 r46)).heap[bv]? = wqACAABA.heap[bv]? := by rw [heap_setCell_other _ _ _ _ (Ne.symm hne), heap_setCell_other _ _ _ _ (Ne.symm hne)]
                obtain ⟨⟨d4, d5⟩, z4, z5⟩ := facts2 (hkk.trans HV.out)
                clear d0 d1 z0 z1 d2 d3 z2 z3 hkk
                refine wpAnyH_ready (rs := [13]) (by kernel_rfl) (by simp) ?_
                refine' AllReadyH.cons (o := _) ?hiz133 (fun K hK => ?hkAz133) AllReadyH.nil
                case hiz133 => exact rfl
                go_simp
                refine hK.out _ _ ?hS0z133 (fun hHeld => ?restz133)
                case hS0z133 => exact ⟨HE.out.2.2.1.1, HE.out.2.2.1.2.1, HE.out.2.2.1.2.2.1, HE.out.2.2.1.2.2.2.1, HE.out.2.2.1.2.2.2.2.1, HE.out.2.2.1.2.2.2.2.2.1⟩
                clear hK K
                try simp only [Act.put, List.setIfInBounds_toArray, List.set_cons_zero, List.set_cons_succ]
                refine wpAnyH_done (by kernel_rfl) ?_ _
                go_wp2_with fail
                go_meet
                exact ⟨bu, bv, rfl, rfl, HE.out.2⟩
          case hkBz124 =>
            go_simp
            have HU := Lib.hid (heap_alloc_new wqACA (.cells #[.slice none 0 0, .slice none 0 0] 27))
            have hWu : w4w.heap.size ≤ wqACA.heap.size := hX.size
            have HNU := Lib.hid (keepT_far hC)
            have hne : wqACA.heap.size ≠ bv := Nat.ne_of_gt (lt_of_block HV.out)
            have hC' := hC.ext ((Ext.refl wqACA).alloc (.cells #[.slice none 0 0, .slice none 0 0] 27))
            have hX' := hX.trans ((Ext.refl wqACA).alloc (.cells #[.slice none 0 0, .slice none 0 0] 27))
            have HV' := Lib.hid ((((Ext.refl wqACA).alloc (.cells #[.slice none 0 0, .slice none 0 0] 27)).block _ (lt_of_block HV.out)).trans HV.out)
            obtain ⟨bu, hbu⟩ : ∃ b, b = wqACA.heap.size := ⟨_, rfl⟩
            rw [← hbu] at HU hWu HNU hne ⊢
            generalize wqACA.alloc (.cells #[.slice none 0 0, .slice none 0 0] 27) = wqACAB at hC' hX' HU HV' ⊢
            clear hC hX c1 c2 c3 c4 c5 c6 hbu HV
            have hC := hC'
            have hX := hX'
            have HV := HV'
            clear hC' hX' HV'
            obtain ⟨c1, c2, c3, c4, c5, c6, _⟩ := hC.c
            refine hK.out _ _ ?hS0z143 (fun hHeld => ?restz143)
            case hS0z143 => (try dsimp only); go_keep
            clear hK K
            try simp only [Act.put, List.setIfInBounds_toArray, List.set_cons_zero, List.set_cons_succ]
            refine wpAnyH_ready (rs := [7]) (by kernel_rfl) (by simp) ?_
            refine' AllReadyH.cons (o := _) ?hiAz137 (fun K hK => ?hkAz137) AllReadyH.nil
            case hiAz137 => exact rfl
            case hkAz137 =>
              go_simp
              go_at_call 25
              refine (over_any _ _ l m _ hC.t.2.2.2.2.1 hC.t.2.2.2.1 (by omega) (by omega)).mono ?_
              rintro e wqACABA ⟨vx7, rfl, ht, hb⟩
              obtain ⟨r71, r72, r73, r74, r75, r76, rfl⟩ := ht.open
              have hC' := (hC.ext hb).tab ht
              have hX' := hX.trans hb
              have HU' := Lib.hid ((hb.block _ (lt_of_block HU.out)).trans HU.out)
              have HV' := Lib.hid ((hb.block _ (lt_of_block HV.out)).trans HV.out)
              clear hC hb ht hX c1 c2 c3 c4 c5 c6 HU HV
              have hC := hC'
              have hX := hX'
              have HU := HU'
              have HV := HV'
              clear hC' hX' HU' HV'
              obtain ⟨c1, c2, c3, c4, c5, c6, _⟩ := hC.c
              try go_wp2_with fail
              refine hK.out _ _ ?hS0z142 (fun hHeld => ?restz142)
              case hS0z142 => (try dsimp only); go_keep
              clear hK K
              try simp only [Act.put, List.setIfInBounds_toArray, List.set_cons_zero, List.set_cons_succ]
              refine wpAnyH_ready (rs := [9]) (by kernel_rfl) (by simp) ?_
              refine' AllReadyH.cons (o := _) ?hiAz138 (fun K hK => ?hkAz138) AllReadyH.nil
              case hiAz138 => exact rfl
              case hkAz138 =>
                go_simp
                go_at_call 25
                refine (over_any _ _ (overP l m) n _ hC.t.1 hC.t.2.2.2.1 (by omega) (by omega)).mono ?_
                rintro e wqACABAA ⟨vx9, rfl, ht, hb⟩
                obtain ⟨r91, r92, r93, r94, r95, r96, rfl⟩ := ht.open
                have hC' := (hC.ext hb).tab ht
                have hX' := hX.trans hb
                have HU' := Lib.hid ((hb.block _ (lt_of_block HU.out)).trans HU.out)
                have HV' := Lib.hid ((hb.block _ (lt_of_block HV.out)).trans HV.out)
                clear hC hb ht hX c1 c2 c3 c4 c5 c6 HU HV
                have hC := hC'
                have hX := hX'
                have HU := HU'
                have HV := HV'
                clear hC' hX' HU' HV'
                obtain ⟨c1, c2, c3, c4, c5, c6, _⟩ := hC.c
                try go_wp2_with fail
                refine hK.out _ _ ?hS0z141 (fun hHeld => ?restz141)
                case hS0z141 => (try dsimp only); go_keep
                clear hK K
                try simp only [Act.put, List.setIfInBounds_toArray, List.set_cons_zero, List.set_cons_succ]
                obtain ⟨⟨d0, d1⟩, z0, z1⟩ := facts2 HU.out
                obtain ⟨⟨d2, d3⟩, z2, z3⟩ := facts2 HV.out
                have hE := ov_end hX (keepT_c hC) HU.out HV.out hWu hWv hne HNU.out HNV.out hC.t.2.2.1 hC.t.1 hC.t.2.2.2.2.2.2.1 hC.t.2.2.2.2.2.1
                have HE := Lib.hid hE
                have hC1 := hE.1
                have hc3 := hC1
                clear hE
                refine wpAnyH_ready (rs := [12]) (by kernel_rfl) (by simp) ?_
                refine' AllReadyH.cons (o := _) ?hiz139 (fun K hK => ?hkAz139) AllReadyH.nil
                case hiz139 => exact rfl
                go_simp
                refine hK.out _ _ ?hS0z139 (fun hHeld => ?restz139)
                case hS0z139 => exact ⟨hC1.1, hC1.2.1, hC1.2.2.1, hC1.2.2.2.1, hC1.2.2.2.2.1, hC1.2.2.2.2.2.1⟩
                clear hK K
                try simp only [Act.put, List.setIfInBounds_toArray, List.set_cons_zero, List.set_cons_succ]
                have hkk : ((wqACABAA.setCell ⟨bu, 0, none⟩ (.slice r41 r42 r43)).setCell ⟨bu, 1, none⟩ (.slice r44 r45 r46)).heap[bv]? = wqACABAA.heap[bv]? := by rw [heap_setCell_other _ _ _ _ (Ne.symm hne), heap_setCell_other _ _ _ _ (Ne.symm hne)]
                obtain ⟨⟨d4, d5⟩, z4, z5⟩ := facts2 (hkk.trans HV.out)
                clear d0 d1 z0 z1 d2 d3 z2 z3 hkk
                refine wpAnyH_ready (rs := [13]) (by kernel_rfl) (by simp) ?_
                refine' AllReadyH.cons (o := _) ?hiz140 (fun K hK => ?hkAz140) AllReadyH.nil
                case hiz140 => exact rfl
                go_simp
                refine hK.out _ _ ?hS0z140 (fun hHeld => ?restz140)
                case hS0z140 => exact ⟨HE.out.2.2.1.1, HE.out.2.2.1.2.1, HE.out.2.2.1.2.2.1, HE.out.2.2.1.2.2.2.1, HE.out.2.2.1.2.2.2.2.1, HE.out.2.2.1.2.2.2.2.2.1⟩
                clear hK K
                try simp only [Act.put, List.setIfInBounds_toArray, List.set_cons_zero, List.set_cons_succ]
                refine wpAnyH_done (by kernel_rfl) ?_ _
                go_wp2_with fail
                go_meet
                exact ⟨bu, bv, rfl, rfl, HE.out.2⟩
        case hkBz123 =>
          go_simp
          have HU := Lib.hid (heap_alloc_new wqAC (.cells #[.slice none 0 0, .slice none 0 0] 27))
          have hWu : w4w.heap.size ≤ wqAC.heap.size := hX.size
          have HNU := Lib.hid (keepT_far hC)
          have hne : wqAC.heap.size ≠ bv := Nat.ne_of_gt (lt_of_block HV.out)
          have hC' := hC.ext ((Ext.refl wqAC).alloc (.cells #[.slice none 0 0, .slice none 0 0] 27))
          have hX' := hX.trans ((Ext.refl wqAC).alloc (.cells #[.slice none 0 0, .slice none 0 0] 27))
          have HV' := Lib.hid ((((Ext.refl wqAC).alloc (.cells #[.slice none 0 0, .slice none 0 0] 27)).block _ (lt_of_block HV.out)).trans HV.out)
          obtain ⟨bu, hbu⟩ : ∃ b, b = wqAC.heap.size := ⟨_, rfl⟩
          rw [← hbu] at HU hWu HNU hne ⊢
          generalize wqAC.alloc (.cells #[.slice none 0 0, .slice none 0 0] 27) = wqACB at hC' hX' HU HV' ⊢
          clear hC hX c1 c2 c3 c4 c5 c6 hbu HV
          have hC := hC'
          have hX := hX'
          have HV := HV'
          clear hC' hX' HV'
          obtain ⟨c1, c2, c3, c4, c5, c6, _⟩ := hC.c
          refine hK.out _ _ ?hS0z153 (fun hHeld => ?restz153)
          case hS0z153 => (try dsimp only); go_keep
          clear hK K
          try simp only [Act.put, List.setIfInBounds_toArray, List.set_cons_zero, List.set_cons_succ]
          refine wpAnyH_ready (rs := [4]) (by kernel_rfl) (by simp) ?_
          refine' AllReadyH.cons (o := _) ?hiAz145 (fun K hK => ?hkAz145) AllReadyH.nil
          case hiAz145 => exact rfl
          case hkAz145 =>
            go_simp
            go_at_call 25
            refine (over_any _ _ l (overP m n) _ hC.t.2.2.2.1 hC.t.1 (by omega) (by omega)).mono ?_
            rintro e wqACBA ⟨vx4, rfl, ht, hb⟩
            obtain ⟨r41, r42, r43, r44, r45, r46, rfl⟩ := ht.open
            have hC' := (hC.ext hb).tab ht
            have hX' := hX.trans hb
            have HU' := Lib.hid ((hb.block _ (lt_of_block HU.out)).trans HU.out)
            have HV' := Lib.hid ((hb.block _ (lt_of_block HV.out)).trans HV.out)
            clear hC hb ht hX c1 c2 c3 c4 c5 c6 HU HV
            have hC := hC'
            have hX := hX'
            have HU := HU'
            have HV := HV'
            clear hC' hX' HU' HV'
            obtain ⟨c1, c2, c3, c4, c5, c6, _⟩ := hC.c
            try go_wp2_with fail
            refine hK.out _ _ ?hS0z152 (fun hHeld => ?restz152)
            case hS0z152 => (try dsimp only); go_keep
            clear hK K
            try simp only [Act.put, List.setIfInBounds_toArray, List.set_cons_zero, List.set_cons_succ]
            refine wpAnyH_ready (rs := [7]) (by kernel_rfl) (by simp) ?_
            refine' AllReadyH.cons (o := _) ?hiAz146 (fun K hK => ?hkAz146) AllReadyH.nil
            case hiAz146 => exact rfl
            case hkAz146 =>
              go_simp
              go_at_call 25
              refine (over_any _ _ l m _ hC.t.2.2.2.2.1 hC.t.2.2.2.1 (by omega) (by omega)).mono ?_
              rintro e wqACBAA ⟨vx7, rfl, ht, hb⟩
              obtain ⟨r71, r72, r73, r74, r75, r76, rfl⟩ := ht.open
              have hC' := (hC.ext hb).tab ht
              have hX' := hX.trans hb
              have HU' := Lib.hid ((hb.block _ (lt_of_block HU.out)).trans HU.out)
              have HV' := Lib.hid ((hb.block _ (lt_of_block HV.out)).trans HV.out)
              clear hC hb ht hX c1 c2 c3 c4 c5 c6 HU HV
              have hC := hC'
              have hX := hX'
              have HU := HU'
              have HV := HV'
              clear hC' hX' HU' HV'
              obtain ⟨c1, c2, c3, c4, c5, c6, _⟩ := hC.c
              try go_wp2_with fail
              refine hK.out _ _ ?hS0z151 (fun hHeld => ?restz151)
              case hS0z151 => (try dsimp only); go_keep
              clear hK K
              try simp only [Act.put, List.setIfInBounds_toArray, List.set_cons_zero, List.set_cons_succ]
              refine wpAnyH_ready (rs := [9]) (by kernel_rfl) (by simp) ?_
              refine' AllReadyH.cons (o := _) ?hiAz147 (fun K hK => ?hkAz147) AllReadyH.nil
              case hiAz147 => exact rfl
              case hkAz147 =>
                go_simp
                go_at_call 25
                refine (over_any _ _ (overP l m) n _ hC.t.1 hC.t.2.2.2.1 (by omega) (by omega)).mono ?_
                rintro e wqACBAAA ⟨vx9, rfl, ht, hb⟩
                obtain ⟨r91, r92, r93, r94, r95, r96, rfl⟩ := ht.open
                have hC' := (hC.ext hb).tab ht
                have hX' := hX.trans hb
                have HU' := Lib.hid ((hb.block _ (lt_of_block HU.out)).trans HU.out)
                have HV' := Lib.hid ((hb.block _ (lt_of_block HV.out)).trans HV.out)
                clear hC hb ht hX c1 c2 c3 c4 c5 c6 HU HV
                have hC := hC'
                have hX := hX'
                have HU := HU'
                have HV := HV'
                clear hC' hX' HU' HV'
                obtain ⟨c1, c2, c3, c4, c5, c6, _⟩ := hC.c
                try go_wp2_with fail
                refine hK.out _ _ ?hS0z150 (fun hHeld => ?restz150)
                case hS0z150 => (try dsimp only); go_keep
                clear hK K
                try simp only [Act.put, List.setIfInBounds_toArray, List.set_cons_zero, List.set_cons_succ]
                obtain ⟨⟨d0, d1⟩, z0, z1⟩ := facts2 HU.out
                obtain ⟨⟨d2, d3⟩, z2, z3⟩ := facts2 HV.out
                have hE := ov_end hX (keepT_c hC) HU.out HV.out hWu hWv hne HNU.out HNV.out hC.t.2.2.1 hC.t.1 hC.t.2.2.2.2.2.2.1 hC.t.2.2.2.2.2.1
                have HE := Lib.hid hE
                have hC1 := hE.1
                have hc3 := hC1
                clear hE
                refine wpAnyH_ready (rs := [12]) (by kernel_rfl) (by simp) ?_
                refine' AllReadyH.cons (o := _) ?hiz148 (fun K hK => ?hkAz148) AllReadyH.nil
                case hiz148 => exact rfl
                go_simp
                refine hK.out _ _ ?hS0z148 (fun hHeld => ?restz148)
                case hS0z148 => exact ⟨hC1.1, hC1.2.1, hC1.2.2.1, hC1.2.2.2.1, hC1.2.2.2.2.1, hC1.2.2.2.2.2.1⟩
                clear hK K
                try simp only [Act.put, List.setIfInBounds_toArray, List.set_cons_zero, List.set_cons_succ]
                have hkk : ((wqACBAAA.setCell ⟨bu, 0, none⟩ (.slice r41 r42 r43)).setCell ⟨bu, 1, none⟩ (.slice r44 r45 r46)).heap[bv]? = wqACBAAA.heap[bv]? := by rw [heap_setCell_other _ _ _ _ (Ne.symm hne), heap_setCell_other _ _ _ _ (Ne.symm hne)]
                obtain ⟨⟨d4, d5⟩, z4, z5⟩ := facts2 (hkk.trans HV.out)
                clear d0 d1 z0 z1 d2 d3 z2 z3 hkk
                refine wpAnyH_ready (rs := [13]) (by kernel_rfl) (by simp) ?_
                refine' AllReadyH.cons (o := _) ?hiz149 (fun K hK => ?hkAz149) AllReadyH.nil
                case hiz149 => exact rfl
                go_simp
                refine hK.out _ _ ?hS0z149 (fun hHeld => ?restz149)
                case hS0z149 => exact ⟨HE.out.2.2.1.1, HE.out.2.2.1.2.1, HE.out.2.2.1.2.2.1, HE.out.2.2.1.2.2.2.1, HE.out.2.2.1.2.2.2.2.1, HE.out.2.2.1.2.2.2.2.2.1⟩
                clear hK K
                try simp only [Act.put, List.setIfInBounds_toArray, List.set_cons_zero, List.set_cons_succ]
                refine wpAnyH_done (by kernel_rfl) ?_ _
                go_wp2_with fail
                go_meet
                exact ⟨bu, bv, rfl, rfl, HE.out.2⟩
    case hkBz7 =>
      go_simp
      have HU := Lib.hid (heap_alloc_new w5 (.cells #[.slice none 0 0, .slice none 0 0] 27))
      have hWu : w4w.heap.size ≤ w5.heap.size := hX.size
      have HNU := Lib.hid (keepT_far hC)
      have hC' := hC.ext ((Ext.refl w5).alloc (.cells #[.slice none 0 0, .slice none 0 0] 27))
      have hX' := hX.trans ((Ext.refl w5).alloc (.cells #[.slice none 0 0, .slice none 0 0] 27))
      obtain ⟨bu, hbu⟩ : ∃ b, b = w5.heap.size := ⟨_, rfl⟩
      rw [← hbu] at HU hWu HNU ⊢
      generalize w5.alloc (.cells #[.slice none 0 0, .slice none 0 0] 27) = wqB at hC' hX' HU ⊢
      clear hC hX c1 c2 c3 c4 c5 c6 hbu 
      have hC := hC'
      have hX := hX'
      clear hC' hX' 
      obtain ⟨c1, c2, c3, c4, c5, c6, _⟩ := hC.c
      refine hK.out _ _ ?hS0z200 (fun hHeld => ?restz200)
      case hS0z200 => (try dsimp only); go_keep
      clear hK K
      try simp only [Act.put, List.setIfInBounds_toArray, List.set_cons_zero, List.set_cons_succ]
      refine wpAnyH_ready (rs := [3, 11]) (by kernel_rfl) (by simp) ?_
      refine' AllReadyH.cons (o := _) ?hiAz156 (fun K hK => ?hkAz156) (AllReadyH.cons (o := _) ?hiBz156 (fun K hK => ?hkBz156) AllReadyH.nil)
      case hiAz156 => exact rfl
      case hiBz156 => exact rfl
      case hkAz156 =>
        go_simp
        go_at_call 25
        refine (over_any _ _ m n _ hC.t.2.1 hC.t.1 (by omega) (by omega)).mono ?_
        rintro e wqBA ⟨vx3, rfl, ht, hb⟩
        obtain ⟨r31, r32, r33, r34, r35, r36, rfl⟩ := ht.open
        have hC' := (hC.ext hb).tab ht
        have hX' := hX.trans hb
        have HU' := Lib.hid ((hb.block _ (lt_of_block HU.out)).trans HU.out)
        clear hC hb ht hX c1 c2 c3 c4 c5 c6 HU
        have hC := hC'
        have hX := hX'
        have HU := HU'
        clear hC' hX' HU'
        obtain ⟨c1, c2, c3, c4, c5, c6, _⟩ := hC.c
        try go_wp2_with fail
        refine hK.out _ _ ?hS0z188 (fun hHeld => ?restz188)
        case hS0z188 => (try dsimp only); go_keep
        clear hK K
        try simp only [Act.put, List.setIfInBounds_toArray, List.set_cons_zero, List.set_cons_succ]
        refine wpAnyH_ready (rs := [4, 11]) (by kernel_rfl) (by simp) ?_
        refine' AllReadyH.cons (o := _) ?hiAz157 (fun K hK => ?hkAz157) (AllReadyH.cons (o := _) ?hiBz157 (fun K hK => ?hkBz157) AllReadyH.nil)
        case hiAz157 => exact rfl
        case hiBz157 => exact rfl
        case hkAz157 =>
          go_simp
          go_at_call 25
          refine (over_any _ _ l (overP m n) _ hC.t.2.2.2.1 hC.t.1 (by omega) (by omega)).mono ?_
          rintro e wqBAA ⟨vx4, rfl, ht, hb⟩
          obtain ⟨r41, r42, r43, r44, r45, r46, rfl⟩ := ht.open
          have hC' := (hC.ext hb).tab ht
          have hX' := hX.trans hb
          have HU' := Lib.hid ((hb.block _ (lt_of_block HU.out)).trans HU.out)
          clear hC hb ht hX c1 c2 c3 c4 c5 c6 HU
          have hC := hC'
          have hX := hX'
          have HU := HU'
          clear hC' hX' HU'
          obtain ⟨c1, c2, c3, c4, c5, c6, _⟩ := hC.c
          try go_wp2_with fail
          refine hK.out _ _ ?hS0z178 (fun hHeld => ?restz178)
          case hS0z178 => (try dsimp only); go_keep
          clear hK K
          try simp only [Act.put, List.setIfInBounds_toArray, List.set_cons_zero, List.set_cons_succ]
          refine wpAnyH_ready (rs := [7, 11]) (by kernel_rfl) (by simp) ?_
          refine' AllReadyH.cons (o := _) ?hiAz158 (fun K hK => ?hkAz158) (AllReadyH.cons (o := _) ?hiBz158 (fun K hK => ?hkBz158) AllReadyH.nil)
          case hiAz158 => exact rfl
          case hiBz158 => exact rfl
          case hkAz158 =>
            go_simp
            go_at_call 25
            refine (over_any _ _ l m _ hC.t.2.2.2.2.1 hC.t.2.2.2.1 (by omega) (by omega)).mono ?_
            rintro e wqBAAA ⟨vx7, rfl, ht, hb⟩
            obtain ⟨r71, r72, r73, r74, r75, r76, rfl⟩ := ht.open
            have hC' := (hC.ext hb).tab ht
            have hX' := hX.trans hb
            have HU' := Lib.hid ((hb.block _ (lt_of_block HU.out)).trans HU.out)
            clear hC hb ht hX c1 c2 c3 c4 c5 c6 HU
            have hC := hC'
            have hX := hX'
            have HU := HU'
            clear hC' hX' HU'
            obtain ⟨c1, c2, c3, c4, c5, c6, _⟩ := hC.c
            try go_wp2_with fail
            refine hK.out _ _ ?hS0z170 (fun hHeld => ?restz170)
            case hS0z170 => (try dsimp only); go_keep
            clear hK K
            try simp only [Act.put, List.setIfInBounds_toArray, List.set_cons_zero, List.set_cons_succ]
            refine wpAnyH_ready (rs := [9, 11]) (by kernel_rfl) (by simp) ?_
            refine' AllReadyH.cons (o := _) ?hiAz159 (fun K hK => ?hkAz159) (AllReadyH.cons (o := _) ?hiBz159 (fun K hK => ?hkBz159) AllReadyH.nil)
            case hiAz159 => exact rfl
            case hiBz159 => exact rfl
            case hkAz159 =>
              go_simp
              go_at_call 25
              refine (over_any _ _ (overP l m) n _ hC.t.1 hC.t.2.2.2.1 (by omega) (by omega)).mono ?_
              rintro e wqBAAAA ⟨vx9, rfl, ht, hb⟩
              obtain ⟨r91, r92, r93, r94, r95, r96, rfl⟩ := ht.open
              have hC' := (hC.ext hb).tab ht
              have hX' := hX.trans hb
              have HU' := Lib.hid ((hb.block _ (lt_of_block HU.out)).trans HU.out)
              clear hC hb ht hX c1 c2 c3 c4 c5 c6 HU
              have hC := hC'
              have hX := hX'
              have HU := HU'
              clear hC' hX' HU'
              obtain ⟨c1, c2, c3, c4, c5, c6, _⟩ := hC.c
              try go_wp2_with fail
              refine hK.out _ _ ?hS0z164 (fun hHeld => ?restz164)
              case hS0z164 => (try dsimp only); go_keep
              clear hK K
              try simp only [Act.put, List.setIfInBounds_toArray, List.set_cons_zero, List.set_cons_succ]
              refine wpAnyH_ready (rs := [11]) (by kernel_rfl) (by simp) ?_
              refine' AllReadyH.cons (o := _) ?hiAz160 (fun K hK => ?hkAz160) AllReadyH.nil
              case hiAz160 => exact rfl
              case hkAz160 =>
                go_simp
                have HV := Lib.hid (heap_alloc_new wqBAAAA (.cells #[.slice none 0 0, .slice none 0 0] 27))
                have hWv : w4w.heap.size ≤ wqBAAAA.heap.size := hX.size
                have HNV := Lib.hid (keepT_far hC)
                have hne : bu ≠ wqBAAAA.heap.size := Nat.ne_of_lt (lt_of_block HU.out)
                have hC' := hC.ext ((Ext.refl wqBAAAA).alloc (.cells #[.slice none 0 0, .slice none 0 0] 27))
                have hX' := hX.trans ((Ext.refl wqBAAAA).alloc (.cells #[.slice none 0 0, .slice none 0 0] 27))
                have HU' := Lib.hid ((((Ext.refl wqBAAAA).alloc (.cells #[.slice none 0 0, .slice none 0 0] 27)).block _ (lt_of_block HU.out)).trans HU.out)
                obtain ⟨bv, hbv⟩ : ∃ b, b = wqBAAAA.heap.size := ⟨_, rfl⟩
                rw [← hbv] at HV hWv HNV hne ⊢
                generalize wqBAAAA.alloc (.cells #[.slice none 0 0, .slice none 0 0] 27) = wqBAAAAA at hC' hX' HV HU' ⊢
                clear hC hX c1 c2 c3 c4 c5 c6 hbv HU
                have hC := hC'
                have hX := hX'
                have HU := HU'
                clear hC' hX' HU'
                obtain ⟨c1, c2, c3, c4, c5, c6, _⟩ := hC.c
                refine hK.out _ _ ?hS0z163 (fun hHeld => ?restz163)
                case hS0z163 => (try dsimp only); go_keep
                clear hK K
                try simp only [Act.put, List.setIfInBounds_toArray, List.set_cons_zero, List.set_cons_succ]
                obtain ⟨⟨d0, d1⟩, z0, z1⟩ := facts2 HU.out
                obtain ⟨⟨d2, d3⟩, z2, z3⟩ := facts2 HV.out
                have hE := ov_end hX (keepT_c hC) HU.out HV.out hWu hWv hne HNU.out HNV.out hC.t.2.2.1 hC.t.1 hC.t.2.2.2.2.2.2.1 hC.t.2.2.2.2.2.1
                have HE := Lib.hid hE
                have hC1 := hE.1
                have hc3 := hC1
                clear hE
                refine wpAnyH_ready (rs := [12]) (by kernel_rfl) (by simp) ?_
                refine' AllReadyH.cons (o := _) ?hiz161 (fun K hK => ?hkAz161) AllReadyH.nil
                case hiz161 => exact rfl
                go_simp
                refine hK.out _ _ ?hS0z161 (fun hHeld => ?restz161)
                case hS0z161 => exact ⟨hC1.1, hC1.2.1, hC1.2.2.1, hC1.2.2.2.1, hC1.2.2.2.2.1, hC1.2.2.2.2.2.1⟩
                clear hK K
                try simp only [Act.put, List.setIfInBounds_toArray, List.set_cons_zero, List.set_cons_succ]
                have hkk : ((wqBAAAAA.setCell ⟨bu, 0, none⟩ (.slice r41 r42 r43)).setCell ⟨bu, 1, none⟩ (.slice r44 r45 r46)).heap[bv]? = wqBAAAAA.heap[bv]? := by rw [heap_setCell_other _ _ _ _ (Ne.symm hne), heap_setCell_other _ _ _ _ (Ne.symm hne)]
                obtain ⟨⟨d4, d5⟩, z4, z5⟩ := facts2 (hkk.trans HV.out)
                clear d0 d1 z0 z1 d2 d3 z2 z3 hkk
                refine wpAnyH_ready (rs := [13]) (by kernel_rfl) (by simp) ?_
                refine' AllReadyH.cons (o := _) ?hiz162 (fun K hK => ?hkAz162) AllReadyH.nil
                case hiz162 => exact rfl
                go_simp
                refine hK.out _ _ ?hS0z162 (fun hHeld => ?restz162)
                case hS0z162 => exact ⟨HE.out.2.2.1.1, HE.out.2.2.1.2.1, HE.out.2.2.1.2.2.1, HE.out.2.2.1.2.2.2.1, HE.out.2.2.1.2.2.2.2.1, HE.out.2.2.1.2.2.2.2.2.1⟩
                clear hK K
                try simp only [Act.put, List.setIfInBounds_toArray, List.set_cons_zero, List.set_cons_succ]
                refine wpAnyH_done (by kernel_rfl) ?_ _
                go_wp2_with fail
                go_meet
                exact ⟨bu, bv, rfl, rfl, HE.out.2⟩
            case hkBz159 =>
              go_simp
              have HV := Lib.hid (heap_alloc_new wqBAAA (.cells #[.slice none 0 0, .slice none 0 0] 27))
              have hWv : w4w.heap.size ≤ wqBAAA.heap.size := hX.size
              have HNV := Lib.hid (keepT_far hC)
              have hne : bu ≠ wqBAAA.heap.size := Nat.ne_of_lt (lt_of_block HU.out)
              have hC' := hC.ext ((Ext.refl wqBAAA).alloc (.cells #[.slice none 0 0, .slice none 0 0] 27))
              have hX' := hX.trans ((Ext.refl wqBAAA).alloc (.cells #[.slice none 0 0, .slice none 0 0] 27))
              have HU' := Lib.hid ((((Ext.refl wqBAAA).alloc (.cells #[.slice none 0 0, .slice none 0 0] 27)).block _ (lt_of_block HU.out)).trans HU.out)
              obtain ⟨bv, hbv⟩ : ∃ b, b = wqBAAA.heap.size := ⟨_, rfl⟩
              rw [← hbv] at HV hWv HNV hne ⊢
              generalize wqBAAA.alloc (.cells #[.slice none 0 0, .slice none 0 0] 27) = wqBAAAB at hC' hX' HV HU' ⊢
              clear hC hX c1 c2 c3 c4 c5 c6 hbv HU
              have hC := hC'
              have hX := hX'
              have HU := HU'
              clear hC' hX' HU'
              obtain ⟨c1, c2, c3, c4, c5, c6, _⟩ := hC.c
              refine hK.out _ _ ?hS0z169 (fun hHeld => ?restz169)
              case hS0z169 => (try dsimp only); go_keep
              clear hK K
              try simp only [Act.put, List.setIfInBounds_toArray, List.set_cons_zero, List.set_cons_succ]
              refine wpAnyH_ready (rs := [9]) (by kernel_rfl) (by simp) ?_
              refine' AllReadyH.cons (o := _) ?hiAz165 (fun K hK => ?hkAz165) AllReadyH.nil
              case hiAz165 => exact rfl
              case hkAz165 =>
                go_simp
                go_at_call 25
                refine (over_any _ _ (overP l m) n _ hC.t.1 hC.t.2.2.2.1 (by omega) (by omega)).mono ?_
                rintro e wqBAAABA ⟨vx9, rfl, ht, hb⟩
                obtain ⟨r91, r92, r93, r94, r95, r96, rfl⟩ := ht.open
                have hC' := (hC.ext hb).tab ht
                have hX' := hX.trans hb
                have HU' := Lib.hid ((hb.block _ (lt_of_block HU.out)).trans HU.out)
                have HV' := Lib.hid ((hb.block _ (lt_of_block HV.out)).trans HV.out)
                clear hC hb ht hX c1 c2 c3 c4 c5 c6 HU HV
                have hC := hC'
                have hX := hX'
                have HU := HU'
                have HV := HV'
                clear hC' hX' HU' HV'
                obtain ⟨c1, c2, c3, c4, c5, c6, _⟩ := hC.c
                try go_wp2_with fail
                refine hK.out _ _ ?hS0z168 (fun hHeld => ?restz168)
                case hS0z168 => (try dsimp only); go_keep
                clear hK K
                try simp only [Act.put, List.setIfInBounds_toArray, List.set_cons_zero, List.set_cons_succ]
                obtain ⟨⟨d0, d1⟩, z0, z1⟩ := facts2 HU.out
                obtain ⟨⟨d2, d3⟩, z2, z3⟩ := facts2 HV.out
                have hE := ov_end hX (keepT_c hC) HU.out HV.out hWu hWv hne HNU.out HNV.out hC.t.2.2.1 hC.t.1 hC.t.2.2.2.2.2.2.1 hC.t.2.2.2.2.2.1
                have HE := Lib.hid hE
                have hC1 := hE.1
                have hc3 := hC1
                clear hE
                refine wpAnyH_ready (rs := [12]) (by kernel_rfl) (by simp) ?_
                refine' AllReadyH.cons (o := _) ?hiz166 (fun K hK => ?hkAz166) AllReadyH.nil
                case hiz166 => exact rfl
                go_simp
                refine hK.out _ _ ?hS0z166 (fun hHeld => ?restz166)
                case hS0z166 => exact ⟨hC1.1, hC1.2.1, hC1.2.2.1, hC1.2.2.2.1, hC1.2.2.2.2.1, hC1.2.2.2.2.2.1⟩
                clear hK K
                try simp only [Act.put, List.setIfInBounds_toArray, List.set_cons_zero, List.set_cons_succ]
                have hkk : ((wqBAAABA.setCell ⟨bu, 0, none⟩ (.slice r41 r42 r43)).setCell ⟨bu, 1, none⟩ (.slice r44 r45 r46)).heap[bv]? = wqBAAABA.heap[bv]? := by rw [heap_setCell_other _ _ _ _ (Ne.symm hne), heap_setCell_other _ _ _ _ (Ne.symm hne)]
                obtain ⟨⟨d4, d5⟩, z4, z5⟩ := facts2 (hkk.trans HV.out)
                clear d0 d1 z0 z1 d2 d3 z2 z3 hkk
                refine wpAnyH_ready (rs := [13]) (by kernel_rfl) (by simp) ?_
                refine' AllReadyH.cons (o := _) ?hiz167 (fun K hK => ?hkAz167) AllReadyH.nil
                case hiz167 => exact rfl
                go_simp
                refine hK.out _ _ ?hS0z167 (fun hHeld => ?restz167)
                case hS0z167 => exact ⟨HE.out.2.2.1.1, HE.out.2.2.1.2.1, HE.out.2.2.1.2.2.1, HE.out.2.2.1.2.2.2.1, HE.out.2.2.1.2.2.2.2.1, HE.out.2.2.1.2.2.2.2.2.1⟩
                clear hK K
                try simp only [Act.put, List.setIfInBounds_toArray, List.set_cons_zero, List.set_cons_succ]
                refine wpAnyH_done (by kernel_rfl) ?_ _
                go_wp2_with fail
                go_meet
                exact ⟨bu, bv, rfl, rfl, HE.out.2⟩
          case hkBz158 =>
            go_simp
            have HV := Lib.hid (heap_alloc_new wqBAA (.cells #[.slice none 0 0, .slice none 0 0] 27))
            have hWv : w4w.heap.size ≤ wqBAA.heap.size := hX.size
            have HNV := Lib.hid (keepT_far hC)
            have hne : bu ≠ wqBAA.heap.size := Nat.ne_of_lt (lt_of_block HU.out)
            have hC' := hC.ext ((Ext.refl wqBAA).alloc (.cells #[.slice none 0 0, .slice none 0 0] 27))
            have hX' := hX.trans ((Ext.refl wqBAA).alloc (.cells #[.slice none 0 0, .slice none 0 0] 27))
            have HU' := Lib.hid ((((Ext.refl wqBAA).alloc (.cells #[.slice none 0 0, .slice none 0 0] 27)).block _ (lt_of_block HU.out)).trans HU.out)
            obtain ⟨bv, hbv⟩ : ∃ b, b = wqBAA.heap.size := ⟨_, rfl⟩
            rw [← hbv] at HV hWv HNV hne ⊢
            generalize wqBAA.alloc (.cells #[.slice none 0 0, .slice none 0 0] 27) = wqBAAB at hC' hX' HV HU' ⊢
            clear hC hX c1 c2 c3 c4 c5 c6 hbv HU
            have hC := hC'
            have hX := hX'
            have HU := HU'
            clear hC' hX' HU'
            obtain ⟨c1, c2, c3, c4, c5, c6, _⟩ := hC.c
            refine hK.out _ _ ?hS0z177 (fun hHeld => ?restz177)
            case hS0z177 => (try dsimp only); go_keep
            clear hK K
            try simp only [Act.put, List.setIfInBounds_toArray, List.set_cons_zero, List.set_cons_succ]
            refine wpAnyH_ready (rs := [7]) (by kernel_rfl) (by simp) ?_
            refine' AllReadyH.cons (o := _) ?hiAz171 (fun K hK => ?hkAz171) AllReadyH.nil
            case hiAz171 => exact rfl
            case hkAz171 =>
              go_simp
              go_at_call 25
              refine (over_any _ _ l m _ hC.t.2.2.2.2.1 hC.t.2.2.2.1 (by omega) (by omega)).mono ?_
              rintro e wqBAABA ⟨vx7, rfl, ht, hb⟩
              obtain ⟨r71, r72, r73, r74, r75, r76, rfl⟩ := ht.open
              have hC' := (hC.ext hb).tab ht
              have hX' := hX.trans hb
              have HU' := Lib.hid ((hb.block _ (lt_of_block HU.out)).trans HU.out)
              have HV' := Lib.hid ((hb.block _ (lt_of_block HV.out)).trans HV.out)
              clear hC hb ht hX c1 c2 c3 c4 c5 c6 HU HV
              have hC := hC'
              have hX := hX'
              have HU := HU'
              have HV := HV'
              clear hC' hX' HU' HV'
              obtain ⟨c1, c2, c3, c4, c5, c6, _⟩ := hC.c
              try go_wp2_with fail
              refine hK.out _ _ ?hS0z176 (fun hHeld => ?restz176)
              case hS0z176 => (try dsimp only); go_keep
              clear hK K
              try simp only [Act.put, List.setIfInBounds_toArray, List.set_cons_zero, List.set_cons_succ]
              refine wpAnyH_ready (rs := [9]) (by kernel_rfl) (by simp) ?_
              refine' AllReadyH.cons (o := _) ?hiAz172 (fun K hK => ?hkAz172) AllReadyH.nil
              case hiAz172 => exact rfl
              case hkAz172 =>
                go_simp
                go_at_call 25
                refine (over_any _ _ (overP l m) n _ hC.t.1 hC.t.2.2.2.1 (by omega) (by omega)).mono ?_
                rintro e wqBAABAA ⟨vx9, rfl, ht, hb⟩
                obtain ⟨r91, r92, r93, r94, r95, r96, rfl⟩ := ht.open
                have hC' := (hC.ext hb).tab ht
                have hX' := hX.trans hb
                have HU' := Lib.hid ((hb.block _ (lt_of_block HU.out)).trans HU.out)
                have HV' := Lib.hid ((hb.block _ (lt_of_block HV.out)).trans HV.out)
                clear hC hb ht hX c1 c2 c3 c4 c5 c6 HU HV
                have hC := hC'
                have hX := hX'
                have HU := HU'
                have HV := HV'
                clear hC' hX' HU' HV'
                obtain ⟨c1, c2, c3, c4, c5, c6, _⟩ := hC.c
                try go_wp2_with fail
                refine hK.out _ _ ?hS0z175 (fun hHeld => ?restz175)
                case hS0z175 => (try dsimp only); go_keep
                clear hK K
                try simp only [Act.put, List.setIfInBounds_toArray, List.set_cons_zero, List.set_cons_succ]
                obtain ⟨⟨d0, d1⟩, z0, z1⟩ := facts2 HU.out
                obtain ⟨⟨d2, d3⟩, z2, z3⟩ := facts2 HV.out
                have hE := ov_end hX (keepT_c hC) HU.out HV.out hWu hWv hne HNU.out HNV.out hC.t.2.2.1 hC.t.1 hC.t.2.2.2.2.2.2.1 hC.t.2.2.2.2.2.1
                have HE := Lib.hid hE
                have hC1 := hE.1
                have hc3 := hC1
                clear hE
                refine wpAnyH_ready (rs := [12]) (by kernel_rfl) (by simp) ?_
                refine' AllReadyH.cons (o := _) ?hiz173 (fun K hK => ?hkAz173) AllReadyH.nil
                case hiz173 => exact rfl
                go_simp
                refine hK.out _ _ ?hS0z173 (fun hHeld => ?restz173)
                case hS0z173 => exact ⟨hC1.1, hC1.2.1, hC1.2.2.1, hC1.2.2.2.1, hC1.2.2.2.2.1, hC1.2.2.2.2.2.1⟩
                clear hK K
                try simp only [Act.put, List.setIfInBounds_toArray, List.set_cons_zero, List.set_cons_succ]
                have hkk : ((wqBAABAA.setCell ⟨bu, 0, none⟩ (.slice r41 r42 r43)).setCell ⟨bu, 1, none⟩ (.slice r44 r45 r46)).heap[bv]? = wqBAABAA.heap[bv]? := by rw [heap_setCell_other _ _ _ _ (Ne.symm hne), heap_setCell_other _ _ _ _ (Ne.symm hne)]
                obtain ⟨⟨d4, d5⟩, z4, z5⟩ := facts2 (hkk.trans HV.out)
                clear d0 d1 z0 z1 d2 d3 z2 z3 hkk
                refine wpAnyH_ready (rs := [13]) (by kernel_rfl) (by simp) ?_
                refine' AllReadyH.cons (o := _) ?hiz174 (fun K hK => ?hkAz174) AllReadyH.nil
                case hiz174 => exact rfl
                go_simp
                refine hK.out _ _ ?hS0z174 (fun hHeld => ?restz174)
                case hS0z174 => exact ⟨HE.out.2.2.1.1, HE.out.2.2.1.2.1, HE.out.2.2.1.2.2.1, HE.out.2.2.1.2.2.2.1, HE.out.2.2.1.2.2.2.2.1, HE.out.2.2.1.2.2.2.2.2.1⟩
                clear hK K
                try simp only [Act.put, List.setIfInBounds_toArray, List.set_cons_zero, List.set_cons_succ]
                refine wpAnyH_done (by kernel_rfl) ?_ _
                go_wp2_with fail
                go_meet
                exact ⟨bu, bv, rfl, rfl, HE.out.2⟩
        case hkBz157 =>
          go_simp
          have HV := Lib.hid (heap_alloc_new wqBA (.cells #[.slice none 0 0, .slice none 0 0] 27))
          have hWv : w4w.heap.size ≤ wqBA.heap.size := hX.size
          have HNV := Lib.hid (keepT_far hC)
          have hne : bu ≠ wqBA.heap.size := Nat.ne_of_lt (lt_of_block HU.out)
          have hC' := hC.ext ((Ext.refl wqBA).alloc (.cells #[.slice none 0 0, .slice none 0 0] 27))
          have hX' := hX.trans ((Ext.refl wqBA).alloc (.cells #[.slice none 0 0, .slice none 0 0] 27))
          have HU' := Lib.hid ((((Ext.refl wqBA).alloc (.cells #[.slice none 0 0, .slice none 0 0] 27)).block _ (lt_of_block HU.out)).trans HU.out)
          obtain ⟨bv, hbv⟩ : ∃ b, b = wqBA.heap.size := ⟨_, rfl⟩
          rw [← hbv] at HV hWv HNV hne ⊢
          generalize wqBA.alloc (.cells #[.slice none 0 0, .slice none 0 0] 27) = wqBAB at hC' hX' HV HU' ⊢
          clear hC hX c1 c2 c3 c4 c5 c6 hbv HU
          have hC := hC'
          have hX := hX'
          have HU := HU'
          clear hC' hX' HU'
          obtain ⟨c1, c2, c3, c4, c5, c6, _⟩ := hC.c
          refine hK.out _ _ ?hS0z187 (fun hHeld => ?restz187)
          case hS0z187 => (try dsimp only); go_keep
          clear hK K
          try simp only [Act.put, List.setIfInBounds_toArray, List.set_cons_zero, List.set_cons_succ]
          refine wpAnyH_ready (rs := [4]) (by kernel_rfl) (by simp) ?_
          refine' AllReadyH.cons (o := _) ?hiAz179 (fun K hK => ?hkAz179) AllReadyH.nil
          case hiAz179 => exact rfl
          case hkAz179 =>
            go_simp
            go_at_call 25
            refine (over_any _ _ l (overP m n) _ hC.t.2.2.2.1 hC.t.1 (by omega) (by omega)).mono ?_
            rintro e wqBABA ⟨vx4, rfl, ht, hb⟩
            obtain ⟨r41, r42, r43, r44, r45, r46, rfl⟩ := ht.open
            have hC' := (hC.ext hb).tab ht
            have hX' := hX.trans hb
            have HU' := Lib.hid ((hb.block _ (lt_of_block HU.out)).trans HU.out)
            have HV' := Lib.hid ((hb.block _ (lt_of_block HV.out)).trans HV.out)
            clear hC hb ht hX c1 c2 c3 c4 c5 c6 HU HV
            have hC := hC'
            have hX := hX'
            have HU := HU'
            have HV := HV'
            clear hC' hX' HU' HV'
            obtain ⟨c1, c2, c3, c4, c5, c6, _⟩ := hC.c
            try go_wp2_with fail
            refine hK.out _ _ ?hS0z186 (fun hHeld => ?restz186)
            case hS0z186 => (try dsimp only); go_keep
            clear hK K
            try simp only [Act.put, List.setIfInBounds_toArray, List.set_cons_zero, List.set_cons_succ]
            refine wpAnyH_ready (rs := [7]) (by kernel_rfl) (by simp) ?_
            refine' AllReadyH.cons (o := _) ?hiAz180 (fun K hK => ?hkAz180) AllReadyH.nil
            case hiAz180 => exact rfl
            case hkAz180 =>
              go_simp
              go_at_call 25
              refine (over_any _ _ l m _ hC.t.2.2.2.2.1 hC.t.2.2.2.1 (by omega) (by omega)).mono ?_
              rintro e wqBABAA ⟨vx7, rfl, ht, hb⟩
              obtain ⟨r71, r72, r73, r74, r75, r76, rfl⟩ := ht.open
              have hC' := (hC.ext hb).tab ht
              have hX' := hX.trans hb
              have HU' := Lib.hid ((hb.block _ (lt_of_block HU.out)).trans HU.out)
              have HV' := Lib.hid ((hb.block _ (lt_of_block HV.out)).trans HV.out)
              clear hC hb ht hX c1 c2 c3 c4 c5 c6 HU HV
              have hC := hC'
              have hX := hX'
              have HU := HU'
              have HV := HV'
              clear hC' hX' HU' HV'
              obtain ⟨c1, c2, c3, c4, c5, c6, _⟩ := hC.c
              try go_wp2_with fail
              refine hK.out _ _ ?hS0z185 (fun hHeld => ?restz185)
              case hS0z185 => (try dsimp only); go_keep
              clear hK K
              try simp only [Act.put, List.setIfInBounds_toArray, List.set_cons_zero, List.set_cons_succ]
              refine wpAnyH_ready (rs := [9]) (by kernel_rfl) (by simp) ?_
              refine' AllReadyH.cons (o := _) ?hiAz181 (fun K hK => ?hkAz181) AllReadyH.nil
              case hiAz181 => exact rfl
              case hkAz181 =>
                go_simp
                go_at_call 25
                refine (over_any _ _ (overP l m) n _ hC.t.1 hC.t.2.2.2.1 (by omega) (by omega)).mono ?_
                rintro e wqBABAAA ⟨vx9, rfl, ht, hb⟩
                obtain ⟨r91, r92, r93, r94, r95, r96, rfl⟩ := ht.open
                have hC' := (hC.ext hb).tab ht
                have hX' := hX.trans hb
                have HU' := Lib.hid ((hb.block _ (lt_of_block HU.out)).trans HU.out)
                have HV' := Lib.hid ((hb.block _ (lt_of_block HV.out)).trans HV.out)
                clear hC hb ht hX c1 c2 c3 c4 c5 c6 HU HV
                have hC := hC'
                have hX := hX'
                have HU := HU'
                have HV := HV'
                clear hC' hX' HU' HV'
                obtain ⟨c1, c2, c3, c4, c5, c6, _⟩ := hC.c
                try go_wp2_with fail
                refine hK.out _ _ ?hS0z184 (fun hHeld => ?restz184)
                case hS0z184 => (try dsimp only); go_keep
                clear hK K
                try simp only [Act.put, List.setIfInBounds_toArray, List.set_cons_zero, List.set_cons_succ]
                obtain ⟨⟨d0, d1⟩, z0, z1⟩ := facts2 HU.out
                obtain ⟨⟨d2, d3⟩, z2, z3⟩ := facts2 HV.out
                have hE := ov_end hX (keepT_c hC) HU.out HV.out hWu hWv hne HNU.out HNV.out hC.t.2.2.1 hC.t.1 hC.t.2.2.2.2.2.2.1 hC.t.2.2.2.2.2.1
                have HE := Lib.hid hE
                have hC1 := hE.1
                have hc3 := hC1
                clear hE
                refine wpAnyH_ready (rs := [12]) (by kernel_rfl) (by simp) ?_
                refine' AllReadyH.cons (o := _) ?hiz182 (fun K hK => ?hkAz182) AllReadyH.nil
                case hiz182 => exact rfl
                go_simp
                refine hK.out _ _ ?hS0z182 (fun hHeld => ?restz182)
                case hS0z182 => exact ⟨hC1.1, hC1.2.1, hC1.2.2.1, hC1.2.2.2.1, hC1.2.2.2.2.1, hC1.2.2.2.2.2.1⟩
                clear hK K
                try simp only [Act.put, List.setIfInBounds_toArray, List.set_cons_zero, List.set_cons_succ]
                have hkk : ((wqBABAAA.setCell ⟨bu, 0, none⟩ (.slice r41 r42 r43)).setCell ⟨bu, 1, none⟩ (.slice r44 r45 r46)).heap[bv]? = wqBABAAA.heap[bv]? := by rw [heap_setCell_other _ _ _ _ (Ne.symm hne), heap_setCell_other _ _ _ _ (Ne.symm hne)]
                obtain ⟨⟨d4, d5⟩, z4, z5⟩ := facts2 (hkk.trans HV.out)
                clear d0 d1 z0 z1 d2 d3 z2 z3 hkk
                refine wpAnyH_ready (rs := [13]) (by kernel_rfl) (by simp) ?_
                refine' AllReadyH.cons (o := _) ?hiz183 (fun K hK => ?hkAz183) AllReadyH.nil
                case hiz183 => exact rfl
                go_simp
                refine hK.out _ _ ?hS0z183 (fun hHeld => ?restz183)
                case hS0z183 => exact ⟨HE.out.2.2.1.1, HE.out.2.2.1.2.1, HE.out.2.2.1.2.2.1, HE.out.2.2.1.2.2.2.1, HE.out.2.2.1.2.2.2.2.1, HE.out.2.2.1.2.2.2.2.2.1⟩
                clear hK K
                try simp only [Act.put, List.setIfInBounds_toArray, List.set_cons_zero, List.set_cons_succ]
                refine wpAnyH_done (by kernel_rfl) ?_ _
                go_wp2_with fail
                go_meet
                exact ⟨bu, bv, rfl, rfl, HE.out.2⟩
      case hkBz156 =>
        go_simp
        have HV := Lib.hid (heap_alloc_new wqB (.cells #[.slice none 0 0, .slice none 0 0] 27))
        have hWv : w4w.heap.size ≤ wqB.heap.size := hX.size
        have HNV := Lib.hid (keepT_far hC)
        have hne : bu ≠ wqB.heap.size := Nat.ne_of_lt (lt_of_block HU.out)
        have hC' := hC.ext ((Ext.refl wqB).alloc (.cells #[.slice none 0 0, .slice none 0 0] 27))
        have hX' := hX.trans ((Ext.refl wqB).alloc (.cells #[.slice none 0 0, .slice none 0 0] 27))
        have HU' := Lib.hid ((((Ext.refl wqB).alloc (.cells #[.slice none 0 0, .slice none 0 0] 27)).block _ (lt_of_block HU.out)).trans HU.out)
        obtain ⟨bv, hbv⟩ : ∃ b, b = wqB.heap.size := ⟨_, rfl⟩
        rw [← hbv] at HV hWv HNV hne ⊢
        generalize wqB.alloc (.cells #[.slice none 0 0, .slice none 0 0] 27) = wqBB at hC' hX' HV HU' ⊢
        clear hC hX c1 c2 c3 c4 c5 c6 hbv HU
        have hC := hC'
        have hX := hX'
        have HU := HU'
        clear hC' hX' HU'
        obtain ⟨c1, c2, c3, c4, c5, c6, _⟩ := hC.c
        refine hK.out _ _ ?hS0z199 (fun hHeld => ?restz199)
        case hS0z199 => (try dsimp only); go_keep
        clear hK K
        try simp only [Act.put, List.setIfInBounds_toArray, List.set_cons_zero, List.set_cons_succ]
        refine wpAnyH_ready (rs := [3]) (by kernel_rfl) (by simp) ?_
        refine' AllReadyH.cons (o := _) ?hiAz189 (fun K hK => ?hkAz189) AllReadyH.nil
        case hiAz189 => exact rfl
        case hkAz189 =>
          go_simp
          go_at_call 25
          refine (over_any _ _ m n _ hC.t.2.1 hC.t.1 (by omega) (by omega)).mono ?_
          rintro e wqBBA ⟨vx3, rfl, ht, hb⟩
          obtain ⟨r31, r32, r33, r34, r35, r36, rfl⟩ := ht.open
          have hC' := (hC.ext hb).tab ht
          have hX' := hX.trans hb
          have HU' := Lib.hid ((hb.block _ (lt_of_block HU.out)).trans HU.out)
          have HV' := Lib.hid ((hb.block _ (lt_of_block HV.out)).trans HV.out)
          clear hC hb ht hX c1 c2 c3 c4 c5 c6 HU HV
          have hC := hC'
          have hX := hX'
          have HU := HU'
          have HV := HV'
          clear hC' hX' HU' HV'
          obtain ⟨c1, c2, c3, c4, c5, c6, _⟩ := hC.c
          try go_wp2_with fail
          refine hK.out _ _ ?hS0z198 (fun hHeld => ?restz198)
          case hS0z198 => (try dsimp only); go_keep
          clear hK K
          try simp only [Act.put, List.setIfInBounds_toArray, List.set_cons_zero, List.set_cons_succ]
          refine wpAnyH_ready (rs := [4]) (by kernel_rfl) (by simp) ?_
          refine' AllReadyH.cons (o := _) ?hiAz190 (fun K hK => ?hkAz190) AllReadyH.nil
          case hiAz190 => exact rfl
          case hkAz190 =>
            go_simp
            go_at_call 25
            refine (over_any _ _ l (overP m n) _ hC.t.2.2.2.1 hC.t.1 (by omega) (by omega)).mono ?_
            rintro e wqBBAA ⟨vx4, rfl, ht, hb⟩
            obtain ⟨r41, r42, r43, r44, r45, r46, rfl⟩ := ht.open
            have hC' := (hC.ext hb).tab ht
            have hX' := hX.trans hb
            have HU' := Lib.hid ((hb.block _ (lt_of_block HU.out)).trans HU.out)
            have HV' := Lib.hid ((hb.block _ (lt_of_block HV.out)).trans HV.out)
            clear hC hb ht hX c1 c2 c3 c4 c5 c6 HU HV
            have hC := hC'
            have hX := hX'
            have HU := HU'
            have HV := HV'
            clear hC' hX' HU' HV'
            obtain ⟨c1, c2, c3, c4, c5, c6, _⟩ := hC.c
            try go_wp2_with fail
            refine hK.out _ _ ?hS0z197 (fun hHeld => ?restz197)
            case hS0z197 => (try dsimp only); go_keep
            clear hK K
            try simp only [Act.put, List.setIfInBounds_toArray, List.set_cons_zero, List.set_cons_succ]
            refine wpAnyH_ready (rs := [7]) (by kernel_rfl) (by simp) ?_
            refine' AllReadyH.cons (o := _) ?hiAz191 (fun K hK => ?hkAz191) AllReadyH.nil
            case hiAz191 => exact rfl
            case hkAz191 =>
              go_simp
              go_at_call 25
              refine (over_any _ _ l m _ hC.t.2.2.2.2.1 hC.t.2.2.2.1 (by omega) (by omega)).mono ?_
              rintro e wqBBAAA ⟨vx7, rfl, ht, hb⟩
              obtain ⟨r71, r72, r73, r74, r75, r76, rfl⟩ := ht.open
              have hC' := (hC.ext hb).tab ht
              have hX' := hX.trans hb
              have HU' := Lib.hid ((hb.block _ (lt_of_block HU.out)).trans HU.out)
              have HV' := Lib.hid ((hb.block _ (lt_of_block HV.out)).trans HV.out)
              clear hC hb ht hX c1 c2 c3 c4 c5 c6 HU HV
              have hC := hC'
              have hX := hX'
              have HU := HU'
              have HV := HV'
              clear hC' hX' HU' HV'
              obtain ⟨c1, c2, c3, c4, c5, c6, _⟩ := hC.c
              try go_wp2_with fail
              refine hK.out _ _ ?hS0z196 (fun hHeld => ?restz196)
              case hS0z196 => (try dsimp only); go_keep
              clear hK K
              try simp only [Act.put, List.setIfInBounds_toArray, List.set_cons_zero, List.set_cons_succ]
              refine wpAnyH_ready (rs := [9]) (by kernel_rfl) (by simp) ?_
              refine' AllReadyH.cons (o := _) ?hiAz192 (fun K hK => ?hkAz192) AllReadyH.nil
              case hiAz192 => exact rfl
              case hkAz192 =>
                go_simp
                go_at_call 25
                refine (over_any _ _ (overP l m) n _ hC.t.1 hC.t.2.2.2.1 (by omega) (by omega)).mono ?_
                rintro e wqBBAAAA ⟨vx9, rfl, ht, hb⟩
                obtain ⟨r91, r92, r93, r94, r95, r96, rfl⟩ := ht.open
                have hC' := (hC.ext hb).tab ht
                have hX' := hX.trans hb
                have HU' := Lib.hid ((hb.block _ (lt_of_block HU.out)).trans HU.out)
                have HV' := Lib.hid ((hb.block _ (lt_of_block HV.out)).trans HV.out)
                clear hC hb ht hX c1 c2 c3 c4 c5 c6 HU HV
                have hC := hC'
                have hX := hX'
                have HU := HU'
                have HV := HV'
                clear hC' hX' HU' HV'
                obtain ⟨c1, c2, c3, c4, c5, c6, _⟩ := hC.c
                try go_wp2_with fail
                refine hK.out _ _ ?hS0z195 (fun hHeld => ?restz195)
                case hS0z195 => (try dsimp only); go_keep
                clear hK K
                try simp only [Act.put, List.setIfInBounds_toArray, List.set_cons_zero, List.set_cons_succ]
                obtain ⟨⟨d0, d1⟩, z0, z1⟩ := facts2 HU.out
                obtain ⟨⟨d2, d3⟩, z2, z3⟩ := facts2 HV.out
                have hE := ov_end hX (keepT_c hC) HU.out HV.out hWu hWv hne HNU.out HNV.out hC.t.2.2.1 hC.t.1 hC.t.2.2.2.2.2.2.1 hC.t.2.2.2.2.2.1
                have HE := Lib.hid hE
                have hC1 := hE.1
                have hc3 := hC1
                clear hE
                refine wpAnyH_ready (rs := [12]) (by kernel_rfl) (by simp) ?_
                refine' AllReadyH.cons (o := _) ?hiz193 (fun K hK => ?hkAz193) AllReadyH.nil
                case hiz193 => exact rfl
                go_simp
                refine hK.out _ _ ?hS0z193 (fun hHeld => ?restz193)
                case hS0z193 => exact ⟨hC1.1, hC1.2.1, hC1.2.2.1, hC1.2.2.2.1, hC1.2.2.2.2.1, hC1.2.2.2.2.2.1⟩
                clear hK K
                try simp only [Act.put, List.setIfInBounds_toArray, List.set_cons_zero, List.set_cons_succ]
                have hkk : ((wqBBAAAA.setCell ⟨bu, 0, none⟩ (.slice r41 r42 r43)).setCell ⟨bu, 1, none⟩ (.slice r44 r45 r46)).heap[bv]? = wqBBAAAA.heap[bv]? := by rw [heap_setCell_other _ _ _ _ (Ne.symm hne), heap_setCell_other _ _ _ _ (Ne.symm hne)]
                obtain ⟨⟨d4, d5⟩, z4, z5⟩ := facts2 (hkk.trans HV.out)
                clear d0 d1 z0 z1 d2 d3 z2 z3 hkk
                refine wpAnyH_ready (rs := [13]) (by kernel_rfl) (by simp) ?_
                refine' AllReadyH.cons (o := _) ?hiz194 (fun K hK => ?hkAz194) AllReadyH.nil
                case hiz194 => exact rfl
                go_simp
                refine hK.out _ _ ?hS0z194 (fun hHeld => ?restz194)
                case hS0z194 => exact ⟨HE.out.2.2.1.1, HE.out.2.2.1.2.1, HE.out.2.2.1.2.2.1, HE.out.2.2.1.2.2.2.1, HE.out.2.2.1.2.2.2.2.1, HE.out.2.2.1.2.2.2.2.2.1⟩
                clear hK K
                try simp only [Act.put, List.setIfInBounds_toArray, List.set_cons_zero, List.set_cons_succ]
                refine wpAnyH_done (by kernel_rfl) ?_ _
                go_wp2_with fail
                go_meet
                exact ⟨bu, bv, rfl, rfl, HE.out.2⟩
    case hkCz7 =>
      go_simp
      have HV := Lib.hid (heap_alloc_new w5 (.cells #[.slice none 0 0, .slice none 0 0] 27))
      have hWv : w4w.heap.size ≤ w5.heap.size := hX.size
      have HNV := Lib.hid (keepT_far hC)
      have hC' := hC.ext ((Ext.refl w5).alloc (.cells #[.slice none 0 0, .slice none 0 0] 27))
      have hX' := hX.trans ((Ext.refl w5).alloc (.cells #[.slice none 0 0, .slice none 0 0] 27))
      obtain ⟨bv, hbv⟩ : ∃ b, b = w5.heap.size := ⟨_, rfl⟩
      rw [← hbv] at HV hWv HNV ⊢
      generalize w5.alloc (.cells #[.slice none 0 0, .slice none 0 0] 27) = wqC at hC' hX' HV ⊢
      clear hC hX c1 c2 c3 c4 c5 c6 hbv 
      have hC := hC'
      have hX := hX'
      clear hC' hX' 
      obtain ⟨c1, c2, c3, c4, c5, c6, _⟩ := hC.c
      refine hK.out _ _ ?hS0z245 (fun hHeld => ?restz245)
      case hS0z245 => (try dsimp only); go_keep
      clear hK K
      try simp only [Act.put, List.setIfInBounds_toArray, List.set_cons_zero, List.set_cons_succ]
      refine wpAnyH_ready (rs := [3, 10]) (by kernel_rfl) (by simp) ?_
      refine' AllReadyH.cons (o := _) ?hiAz201 (fun K hK => ?hkAz201) (AllReadyH.cons (o := _) ?hiBz201 (fun K hK => ?hkBz201) AllReadyH.nil)
      case hiAz201 => exact rfl
      case hiBz201 => exact rfl
      case hkAz201 =>
        go_simp
        go_at_call 25
        refine (over_any _ _ m n _ hC.t.2.1 hC.t.1 (by omega) (by omega)).mono ?_
        rintro e wqCA ⟨vx3, rfl, ht, hb⟩
        obtain ⟨r31, r32, r33, r34, r35, r36, rfl⟩ := ht.open
        have hC' := (hC.ext hb).tab ht
        have hX' := hX.trans hb
        have HV' := Lib.hid ((hb.block _ (lt_of_block HV.out)).trans HV.out)
        clear hC hb ht hX c1 c2 c3 c4 c5 c6 HV
        have hC := hC'
        have hX := hX'
        have HV := HV'
        clear hC' hX' HV'
        obtain ⟨c1, c2, c3, c4, c5, c6, _⟩ := hC.c
        try go_wp2_with fail
        refine hK.out _ _ ?hS0z233 (fun hHeld => ?restz233)
        case hS0z233 => (try dsimp only); go_keep
        clear hK K
        try simp only [Act.put, List.setIfInBounds_toArray, List.set_cons_zero, List.set_cons_succ]
        refine wpAnyH_ready (rs := [4, 10]) (by kernel_rfl) (by simp) ?_
        refine' AllReadyH.cons (o := _) ?hiAz202 (fun K hK => ?hkAz202) (AllReadyH.cons (o := _) ?hiBz202 (fun K hK => ?hkBz202) AllReadyH.nil)
        case hiAz202 => exact rfl
        case hiBz202 => exact rfl
        case hkAz202 =>
          go_simp
          go_at_call 25
          refine (over_any _ _ l (overP m n) _ hC.t.2.2.2.1 hC.t.1 (by omega) (by omega)).mono ?_
          rintro e wqCAA ⟨vx4, rfl, ht, hb⟩
          obtain ⟨r41, r42, r43, r44, r45, r46, rfl⟩ := ht.open
          have hC' := (hC.ext hb).tab ht
          have hX' := hX.trans hb
          have HV' := Lib.hid ((hb.block _ (lt_of_block HV.out)).trans HV.out)
          clear hC hb ht hX c1 c2 c3 c4 c5 c6 HV
          have hC := hC'
          have hX := hX'
          have HV := HV'
          clear hC' hX' HV'
          obtain ⟨c1, c2, c3, c4, c5, c6, _⟩ := hC.c
          try go_wp2_with fail
          refine hK.out _ _ ?hS0z223 (fun hHeld => ?restz223)
          case hS0z223 => (try dsimp only); go_keep
          clear hK K
          try simp only [Act.put, List.setIfInBounds_toArray, List.set_cons_zero, List.set_cons_succ]
          refine wpAnyH_ready (rs := [7, 10]) (by kernel_rfl) (by simp) ?_
          refine' AllReadyH.cons (o := _) ?hiAz203 (fun K hK => ?hkAz203) (AllReadyH.cons (o := _) ?hiBz203 (fun K hK => ?hkBz203) AllReadyH.nil)
          case hiAz203 => exact rfl
          case hiBz203 => exact rfl
          case hkAz203 =>
            go_simp
            go_at_call 25
            refine (over_any _ _ l m _ hC.t.2.2.2.2.1 hC.t.2.2.2.1 (by omega) (by omega)).mono ?_
            rintro e wqCAAA ⟨vx7, rfl, ht, hb⟩
            obtain ⟨r71, r72, r73, r74, r75, r76, rfl⟩ := ht.open
            have hC' := (hC.ext hb).tab ht
            have hX' := hX.trans hb
            have HV' := Lib.hid ((hb.block _ (lt_of_block HV.out)).trans HV.out)
            clear hC hb ht hX c1 c2 c3 c4 c5 c6 HV
            have hC := hC'
            have hX := hX'
            have HV := HV'
            clear hC' hX' HV'
            obtain ⟨c1, c2, c3, c4, c5, c6, _⟩ := hC.c
            try go_wp2_with fail
            refine hK.out _ _ ?hS0z215 (fun hHeld => ?restz215)
            case hS0z215 => (try dsimp only); go_keep
            clear hK K
            try simp only [Act.put, List.setIfInBounds_toArray, List.set_cons_zero, List.set_cons_succ]
            refine wpAnyH_ready (rs := [9, 10]) (by kernel_rfl) (by simp) ?_
            refine' AllReadyH.cons (o := _) ?hiAz204 (fun K hK => ?hkAz204) (AllReadyH.cons (o := _) ?hiBz204 (fun K hK => ?hkBz204) AllReadyH.nil)
            case hiAz204 => exact rfl
            case hiBz204 => exact rfl
            case hkAz204 =>
              go_simp
              go_at_call 25
              refine (over_any _ _ (overP l m) n _ hC.t.1 hC.t.2.2.2.1 (by omega) (by omega)).mono ?_
              rintro e wqCAAAA ⟨vx9, rfl, ht, hb⟩
              obtain ⟨r91, r92, r93, r94, r95, r96, rfl⟩ := ht.open
              have hC' := (hC.ext hb).tab ht
              have hX' := hX.trans hb
              have HV' := Lib.hid ((hb.block _ (lt_of_block HV.out)).trans HV.out)
              clear hC hb ht hX c1 c2 c3 c4 c5 c6 HV
              have hC := hC'
              have hX := hX'
              have HV := HV'
              clear hC' hX' HV'
              obtain ⟨c1, c2, c3, c4, c5, c6, _⟩ := hC.c
              try go_wp2_with fail
              refine hK.out _ _ ?hS0z209 (fun hHeld => ?restz209)
              case hS0z209 => (try dsimp only); go_keep
              clear hK K
              try simp only [Act.put, List.setIfInBounds_toArray, List.set_cons_zero, List.set_cons_succ]
              refine wpAnyH_ready (rs := [10]) (by kernel_rfl) (by simp) ?_
              refine' AllReadyH.cons (o := _) ?hiAz205 (fun K hK => ?hkAz205) AllReadyH.nil
              case hiAz205 => exact rfl
              case hkAz205 =>
                go_simp
                have HU := Lib.hid (heap_alloc_new wqCAAAA (.cells #[.slice none 0 0, .slice none 0 0] 27))
                have hWu : w4w.heap.size ≤ wqCAAAA.heap.size := hX.size
                have HNU := Lib.hid (keepT_far hC)
                have hne : wqCAAAA.heap.size ≠ bv := Nat.ne_of_gt (lt_of_block HV.out)
                have hC' := hC.ext ((Ext.refl wqCAAAA).alloc (.cells #[.slice none 0 0, .slice none 0 0] 27))
                have hX' := hX.trans ((Ext.refl wqCAAAA).alloc (.cells #[.slice none 0 0, .slice none 0 0] 27))
                have HV' := Lib.hid ((((Ext.refl wqCAAAA).alloc (.cells #[.slice none 0 0, .slice none 0 0] 27)).block _ (lt_of_block HV.out)).trans HV.out)
                obtain ⟨bu, hbu⟩ : ∃ b, b = wqCAAAA.heap.size := ⟨_, rfl⟩
                rw [← hbu] at HU hWu HNU hne ⊢
                generalize wqCAAAA.alloc (.cells #[.slice none 0 0, .slice none 0 0] 27) = wqCAAAAA at hC' hX' HU HV' ⊢
                clear hC hX c1 c2 c3 c4 c5 c6 hbu HV
                have hC := hC'
                have hX := hX'
                have HV := HV'
                clear hC' hX' HV'
                obtain ⟨c1, c2, c3, c4, c5, c6, _⟩ := hC.c
                refine hK.out _ _ ?hS0z208 (fun hHeld => ?restz208)
                case hS0z208 => (try dsimp only); go_keep
                clear hK K
                try simp only [Act.put, List.setIfInBounds_toArray, List.set_cons_zero, List.set_cons_succ]
                obtain ⟨⟨d0, d1⟩, z0, z1⟩ := facts2 HU.out
                obtain ⟨⟨d2, d3⟩, z2, z3⟩ := facts2 HV.out
                have hE := ov_end hX (keepT_c hC) HU.out HV.out hWu hWv hne HNU.out HNV.out hC.t.2.2.1 hC.t.1 hC.t.2.2.2.2.2.2.1 hC.t.2.2.2.2.2.1
                have HE := Lib.hid hE
                have hC1 := hE.1
                have hc3 := hC1
                clear hE
                refine wpAnyH_ready (rs := [12]) (by kernel_rfl) (by simp) ?_
                refine' AllReadyH.cons (o := _) ?hiz206 (fun K hK => ?hkAz206) AllReadyH.nil
                case hiz206 => exact rfl
                go_simp
                refine hK.out _ _ ?hS0z206 (fun hHeld => ?restz206)
                case hS0z206 => exact ⟨hC1.1, hC1.2.1, hC1.2.2.1, hC1.2.2.2.1, hC1.2.2.2.2.1, hC1.2.2.2.2.2.1⟩
                clear hK K
                try simp only [Act.put, List.setIfInBounds_toArray, List.set_cons_zero, List.set_cons_succ]
                have hkk : ((wqCAAAAA.setCell ⟨bu, 0, none⟩ (.slice r41 r42 r43)).setCell ⟨bu, 1, none⟩ (.slice r44 r45 r46)).heap[bv]? = wqCAAAAA.heap[bv]? := by rw [heap_setCell_other _ _ _ _ (Ne.symm hne), heap_setCell_other _ _ _ _ (Ne.symm hne)]
                obtain ⟨⟨d4, d5⟩, z4, z5⟩ := facts2 (hkk.trans HV.out)
                clear d0 d1 z0 z1 d2 d3 z2 z3 hkk
                refine wpAnyH_ready (rs := [13]) (by kernel_rfl) (by simp) ?_
                refine' AllReadyH.cons (o := _) ?hiz207 (fun K hK => ?hkAz207) AllReadyH.nil
                case hiz207 => exact rfl
                go_simp
                refine hK.out _ _ ?hS0z207 (fun hHeld => ?restz207)
                case hS0z207 => exact ⟨HE.out.2.2.1.1, HE.out.2.2.1.2.1, HE.out.2.2.1.2.2.1, HE.out.2.2.1.2.2.2.1, HE.out.2.2.1.2.2.2.2.1, HE.out.2.2.1.2.2.2.2.2.1⟩
                clear hK K
                try simp only [Act.put, List.setIfInBounds_toArray, List.set_cons_zero, List.set_cons_succ]
                refine wpAnyH_done (by kernel_rfl) ?_ _
                go_wp2_with fail
                go_meet
                exact ⟨bu, bv, rfl, rfl, HE.out.2⟩
            case hkBz204 =>
              go_simp
              have HU := Lib.hid (heap_alloc_new wqCAAA (.cells #[.slice none 0 0, .slice none 0 0] 27))
              have hWu : w4w.heap.size ≤ wqCAAA.heap.size := hX.size
              have HNU := Lib.hid (keepT_far hC)
              have hne : wqCAAA.heap.size ≠ bv := Nat.ne_of_gt (lt_of_block HV.out)
              have hC' := hC.ext ((Ext.refl wqCAAA).alloc (.cells #[.slice none 0 0, .slice none 0 0] 27))
              have hX' := hX.trans ((Ext.refl wqCAAA).alloc (.cells #[.slice none 0 0, .slice none 0 0] 27))
              have HV' := Lib.hid ((((Ext.refl wqCAAA).alloc (.cells #[.slice none 0 0, .slice none 0 0] 27)).block _ (lt_of_block HV.out)).trans HV.out)
              obtain ⟨bu, hbu⟩ : ∃ b, b = wqCAAA.heap.size := ⟨_, rfl⟩
              rw [← hbu] at HU hWu HNU hne ⊢
              generalize wqCAAA.alloc (.cells #[.slice none 0 0, .slice none 0 0] 27) = wqCAAAB at hC' hX' HU HV' ⊢
              clear hC hX c1 c2 c3 c4 c5 c6 hbu HV
              have hC := hC'
              have hX := hX'
              have HV := HV'
              clear hC' hX' HV'
              obtain ⟨c1, c2, c3, c4, c5, c6, _⟩ := hC.c
              refine hK.out _ _ ?hS0z214 (fun hHeld => ?restz214)
              case hS0z214 => (try dsimp only); go_keep
              clear hK K
              try simp only [Act.put, List.setIfInBounds_toArray, List.set_cons_zero, List.set_cons_succ]
              refine wpAnyH_ready (rs := [9]) (by kernel_rfl) (by simp) ?_
              refine' AllReadyH.cons (o := _) ?hiAz210 (fun K hK => ?hkAz210) AllReadyH.nil
              case hiAz210 => exact rfl
              case hkAz210 =>
                go_simp
                go_at_call 25
                refine (over_any _ _ (overP l m) n _ hC.t.1 hC.t.2.2.2.1 (by omega) (by omega)).mono ?_
                rintro e wqCAAABA ⟨vx9, rfl, ht, hb⟩
                obtain ⟨r91, r92, r93, r94, r95, r96, rfl⟩ := ht.open
                have hC' := (hC.ext hb).tab ht
                have hX' := hX.trans hb
                have HU' := Lib.hid ((hb.block _ (lt_of_block HU.out)).trans HU.out)
                have HV' := Lib.hid ((hb.block _ (lt_of_block HV.out)).trans HV.out)
                clear hC hb ht hX c1 c2 c3 c4 c5 c6 HU HV
                have hC := hC'
                have hX := hX'
                have HU := HU'
                have HV := HV'
                clear hC' hX' HU' HV'
                obtain ⟨c1, c2, c3, c4, c5, c6, _⟩ := hC.c
                try go_wp2_with fail
                refine hK.out _ _ ?hS0z213 (fun hHeld => ?restz213)
                case hS0z213 => (try dsimp only); go_keep
                clear hK K
                try simp only [Act.put, List.setIfInBounds_toArray, List.set_cons_zero, List.set_cons_succ]
                obtain ⟨⟨d0, d1⟩, z0, z1⟩ := facts2 HU.out
                obtain ⟨⟨d2, d3⟩, z2, z3⟩ := facts2 HV.out
                have hE := ov_end hX (keepT_c hC) HU.out HV.out hWu hWv hne HNU.out HNV.out hC.t.2.2.1 hC.t.1 hC.t.2.2.2.2.2.2.1 hC.t.2.2.2.2.2.1
                have HE := Lib.hid hE
                have hC1 := hE.1
                have hc3 := hC1
                clear hE
                refine wpAnyH_ready (rs := [12]) (by kernel_rfl) (by simp) ?_
                refine' AllReadyH.cons (o := _) ?hiz211 (fun K hK => ?hkAz211) AllReadyH.nil
                case hiz211 => exact rfl
                go_simp
                refine hK.out _ _ ?hS0z211 (fun hHeld => ?restz211)
                case hS0z211 => exact ⟨hC1.1, hC1.2.1, hC1.2.2.1, hC1.2.2.2.1, hC1.2.2.2.2.1, hC1.2.2.2.2.2.1⟩
                clear hK K
                try simp only [Act.put, List.setIfInBounds_toArray, List.set_cons_zero, List.set_cons_succ]
                have hkk : ((wqCAAABA.setCell ⟨bu, 0, none⟩ (.slice r41 r42 r43)).setCell ⟨bu, 1, none⟩ (.slice r44 r45 r46)).heap[bv]? = wqCAAABA.heap[bv]? := by rw [heap_setCell_other _ _ _ _ (Ne.symm hne), heap_setCell_other _ _ _ _ (Ne.symm hne)]
                obtain ⟨⟨d4, d5⟩, z4, z5⟩ := facts2 (hkk.trans HV.out)
                clear d0 d1 z0 z1 d2 d3 z2 z3 hkk
                refine wpAnyH_ready (rs := [13]) (by kernel_rfl) (by simp) ?_
                refine' AllReadyH.cons (o := _) ?hiz212 (fun K hK => ?hkAz212) AllReadyH.nil
                case hiz212 => exact rfl
                go_simp
                refine hK.out _ _ ?hS0z212 (fun hHeld => ?restz212)
                case hS0z212 => exact ⟨HE.out.2.2.1.1, HE.out.2.2.1.2.1, HE.out.2.2.1.2.2.1, HE.out.2.2.1.2.2.2.1, HE.out.2.2.1.2.2.2.2.1, HE.out.2.2.1.2.2.2.2.2.1⟩
                clear hK K
                try simp only [Act.put, List.setIfInBounds_toArray, List.set_cons_zero, List.set_cons_succ]
                refine wpAnyH_done (by kernel_rfl) ?_ _
                go_wp2_with fail
                go_meet
                exact ⟨bu, bv, rfl, rfl, HE.out.2⟩
          case hkBz203 =>
            go_simp
            have HU := Lib.hid (heap_alloc_new wqCAA (.cells #[.slice none 0 0, .slice none 0 0] 27))
            have hWu : w4w.heap.size ≤ wqCAA.heap.size := hX.size
            have HNU := Lib.hid (keepT_far hC)
            have hne : wqCAA.heap.size ≠ bv := Nat.ne_of_gt (lt_of_block HV.out)
            have hC' := hC.ext ((Ext.refl wqCAA).alloc (.cells #[.slice none 0 0, .slice none 0 0] 27))
            have hX' := hX.trans ((Ext.refl wqCAA).alloc (.cells #[.slice none 0 0, .slice none 0 0] 27))
            have HV' := Lib.hid ((((Ext.refl wqCAA).alloc (.cells #[.slice none 0 0, .slice none 0 0] 27)).block _ (lt_of_block HV.out)).trans HV.out)
            obtain ⟨bu, hbu⟩ : ∃ b, b = wqCAA.heap.size := ⟨_, rfl⟩
            rw [← hbu] at HU hWu HNU hne ⊢
            generalize wqCAA.alloc (.cells #[.slice none 0 0, .slice none 0 0] 27) = wqCAAB at hC' hX' HU HV' ⊢
            clear hC hX c1 c2 c3 c4 c5 c6 hbu HV
            have hC := hC'
            have hX := hX'
            have HV := HV'
            clear hC' hX' HV'
            obtain ⟨c1, c2, c3, c4, c5, c6, _⟩ := hC.c
            refine hK.out _ _ ?hS0z222 (fun hHeld => ?restz222)
            case hS0z222 => (try dsimp only); go_keep
            clear hK K
            try simp only [Act.put, List.setIfInBounds_toArray, List.set_cons_zero, List.set_cons_succ]
            refine wpAnyH_ready (rs := [7]) (by kernel_rfl) (by simp) ?_
            refine' AllReadyH.cons (o := _) ?hiAz216 (fun K hK => ?hkAz216) AllReadyH.nil
            case hiAz216 => exact rfl
            case hkAz216 =>
              go_simp
              go_at_call 25
              refine (over_any _ _ l m _ hC.t.2.2.2.2.1 hC.t.2.2.2.1 (by omega) (by omega)).mono ?_
              rintro e wqCAABA ⟨vx7, rfl, ht, hb⟩
              obtain ⟨r71, r72, r73, r74, r75, r76, rfl⟩ := ht.open
              have hC' := (hC.ext hb).tab ht
              have hX' := hX.trans hb
              have HU' := Lib.hid ((hb.block _ (lt_of_block HU.out)).trans HU.out)
              have HV' := Lib.hid ((hb.block _ (lt_of_block HV.out)).trans HV.out)
              clear hC hb ht hX c1 c2 c3 c4 c5 c6 HU HV
              have hC := hC'
              have hX := hX'
              have HU := HU'
              have HV := HV'
              clear hC' hX' HU' HV'
              obtain ⟨c1, c2, c3, c4, c5, c6, _⟩ := hC.c
              try go_wp2_with fail
              refine hK.out _ _ ?hS0z221 (fun hHeld => ?restz221)
              case hS0z221 => (try dsimp only); go_keep
              clear hK K
              try simp only [Act.put, List.setIfInBounds_toArray, List.set_cons_zero, List.set_cons_succ]
              refine wpAnyH_ready (rs := [9]) (by kernel_rfl) (by simp) ?_
              refine' AllReadyH.cons (o := _) ?hiAz217 (fun K hK => ?hkAz217) AllReadyH.nil
              case hiAz217 => exact rfl
              case hkAz217 =>
                go_simp
                go_at_call 25
                refine (over_any _ _ (overP l m) n _ hC.t.1 hC.t.2.2.2.1 (by omega) (by omega)).mono ?_
                rintro e wqCAABAA ⟨vx9, rfl, ht, hb⟩
                obtain ⟨r91, r92, r93, r94, r95, r96, rfl⟩ := ht.open
                have hC' := (hC.ext hb).tab ht
                have hX' := hX.trans hb
                have HU' := Lib.hid ((hb.block _ (lt_of_block HU.out)).trans HU.out)
                have HV' := Lib.hid ((hb.block _ (lt_of_block HV.out)).trans HV.out)
                clear hC hb ht hX c1 c2 c3 c4 c5 c6 HU HV
                have hC := hC'
                have hX := hX'
                have HU := HU'
                have HV := HV'
                clear hC' hX' HU' HV'
                obtain ⟨c1, c2, c3, c4, c5, c6, _⟩ := hC.c
                try go_wp2_with fail
                refine hK.out _ _ ?hS0z220 (fun hHeld => ?restz220)
                case hS0z220 => (try dsimp only); go_keep
                clear hK K
                try simp only [Act.put, List.setIfInBounds_toArray, List.set_cons_zero, List.set_cons_succ]
                obtain ⟨⟨d0, d1⟩, z0, z1⟩ := facts2 HU.out
                obtain ⟨⟨d2, d3⟩, z2, z3⟩ := facts2 HV.out
                have hE := ov_end hX (keepT_c hC) HU.out HV.out hWu hWv hne HNU.out HNV.out hC.t.2.2.1 hC.t.1 hC.t.2.2.2.2.2.2.1 hC.t.2.2.2.2.2.1
                have HE := Lib.hid hE
                have hC1 := hE.1
                have hc3 := hC1
                clear hE
                refine wpAnyH_ready (rs := [12]) (by kernel_rfl) (by simp) ?_
                refine' AllReadyH.cons (o := _) ?hiz218 (fun K hK => ?hkAz218) AllReadyH.nil
                case hiz218 => exact rfl
                go_simp
                refine hK.out _ _ ?hS0z218 (fun hHeld => ?restz218)
                case hS0z218 => exact ⟨hC1.1, hC1.2.1, hC1.2.2.1, hC1.2.2.2.1, hC1.2.2.2.2.1, hC1.2.2.2.2.2.1⟩
                clear hK K
                try simp only [Act.put, List.setIfInBounds_toArray, List.set_cons_zero, List.set_cons_succ]
                have hkk : ((wqCAABAA.setCell ⟨bu, 0, none⟩ (.slice r41 r42 r43)).setCell ⟨bu, 1, none⟩ (.slice r44 r45 r46)).heap[bv]? = wqCAABAA.heap[bv]? := by rw [heap_setCell_other _ _ _ _ (Ne.symm hne), heap_setCell_other _ _ _ _ (Ne.symm hne)]
                obtain ⟨⟨d4, d5⟩, z4, z5⟩ := facts2 (hkk.trans HV.out)
                clear d0 d1 z0 z1 d2 d3 z2 z3 hkk
                refine wpAnyH_ready (rs := [13]) (by kernel_rfl) (by simp) ?_
                refine' AllReadyH.cons (o := _) ?hiz219 (fun K hK => ?hkAz219) AllReadyH.nil
                case hiz219 => exact rfl
                go_simp
                refine hK.out _ _ ?hS0z219 (fun hHeld => ?restz219)
                case hS0z219 => exact ⟨HE.out.2.2.1.1, HE.out.2.2.1.2.1, HE.out.2.2.1.2.2.1, HE.out.2.2.1.2.2.2.1, HE.out.2.2.1.2.2.2.2.1, HE.out.2.2.1.2.2.2.2.2.1⟩
                clear hK K
                try simp only [Act.put, List.setIfInBounds_toArray, List.set_cons_zero, List.set_cons_succ]
                refine wpAnyH_done (by kernel_rfl) ?_ _
                go_wp2_with fail
                go_meet
                exact ⟨bu, bv, rfl, rfl, HE.out.2⟩
        case hkBz202 =>
          go_simp
          have HU := Lib.hid (heap_alloc_new wqCA (.cells #[.slice none 0 0, .slice none 0 0] 27))
          have hWu : w4w.heap.size ≤ wqCA.heap.size := hX.size
          have HNU := Lib.hid (keepT_far hC)
          have hne : wqCA.heap.size ≠ bv := Nat.ne_of_gt (lt_of_block HV.out)
          have hC' := hC.ext ((Ext.refl wqCA).alloc (.cells #[.slice none 0 0, .slice none 0 0] 27))
          have hX' := hX.trans ((Ext.refl wqCA).alloc (.cells #[.slice none 0 0, .slice none 0 0] 27))
          have HV' := Lib.hid ((((Ext.refl wqCA).alloc (.cells #[.slice none 0 0, .slice none 0 0] 27)).block _ (lt_of_block HV.out)).trans HV.out)
          obtain ⟨bu, hbu⟩ : ∃ b, b = wqCA.heap.size := ⟨_, rfl⟩
          rw [← hbu] at HU hWu HNU hne ⊢
          generalize wqCA.alloc (.cells #[.slice none 0 0, .slice none 0 0] 27) = wqCAB at hC' hX' HU HV' ⊢
          clear hC hX c1 c2 c3 c4 c5 c6 hbu HV
          have hC := hC'
          have hX := hX'
          have HV := HV'
          clear hC' hX' HV'
          obtain ⟨c1, c2, c3, c4, c5, c6, _⟩ := hC.c
          refine hK.out _ _ ?hS0z232 (fun hHeld => ?restz232)
          case hS0z232 => (try dsimp only); go_keep
          clear hK K
          try simp only [Act.put, List.setIfInBounds_toArray, List.set_cons_zero, List.set_cons_succ]
          refine wpAnyH_ready (rs := [4]) (by kernel_rfl) (by simp) ?_
          refine' AllReadyH.cons (o := _) ?hiAz224 (fun K hK => ?hkAz224) AllReadyH.nil
          case hiAz224 => exact rfl
          case hkAz224 =>
            go_simp
            go_at_call 25
            refine (over_any _ _ l (overP m n) _ hC.t.2.2.2.1 hC.t.1 (by omega) (by omega)).mono ?_
            rintro e wqCABA ⟨vx4, rfl, ht, hb⟩
            obtain ⟨r41, r42, r43, r44, r45, r46, rfl⟩ := ht.open
            have hC' := (hC.ext hb).tab ht
            have hX' := hX.trans hb
            have HU' := Lib.hid ((hb.block _ (lt_of_block HU.out)).trans HU.out)
            have HV' := Lib.hid ((hb.block _ (lt_of_block HV.out)).trans HV.out)
            clear hC hb ht hX c1 c2 c3 c4 c5 c6 HU HV
            have hC := hC'
            have hX := hX'
            have HU := HU'
            have HV := HV'
            clear hC' hX' HU' HV'
            obtain ⟨c1, c2, c3, c4, c5, c6, _⟩ := hC.c
            try go_wp2_with fail
            refine hK.out _ _ ?hS0z231 (fun hHeld => ?restz231)
            case hS0z231 => (try dsimp only); go_keep
            clear hK K
            try simp only [Act.put, List.setIfInBounds_toArray, List.set_cons_zero, List.set_cons_succ]
            refine wpAnyH_ready (rs := [7]) (by kernel_rfl) (by simp) ?_
            refine' AllReadyH.cons (o := _) ?hiAz225 (fun K hK => ?hkAz225) AllReadyH.nil
            case hiAz225 => exact rfl
            case hkAz225 =>
              go_simp
              go_at_call 25
              refine (over_any _ _ l m _ hC.t.2.2.2.2.1 hC.t.2.2.2.1 (by omega) (by omega)).mono ?_
              rintro e wqCABAA ⟨vx7, rfl, ht, hb⟩
              obtain ⟨r71, r72, r73, r74, r75, r76, rfl⟩ := ht.open
              have hC' := (hC.ext hb).tab ht
              have hX' := hX.trans hb
              have HU' := Lib.hid ((hb.block _ (lt_of_block HU.out)).trans HU.out)
              have HV' := Lib.hid ((hb.block _ (lt_of_block HV.out)).trans HV.out)
              clear hC hb ht hX c1 c2 c3 c4 c5 c6 HU HV
              have hC := hC'
              have hX := hX'
              have HU := HU'
              have HV := HV'
              clear hC' hX' HU' HV'
              obtain ⟨c1, c2, c3, c4, c5, c6, _⟩ := hC.c
              try go_wp2_with fail
              refine hK.out _ _ ?hS0z230 (fun hHeld => ?restz230)
              case hS0z230 => (try dsimp only); go_keep
              clear hK K
              try simp only [Act.put, List.setIfInBounds_toArray, List.set_cons_zero, List.set_cons_succ]
              refine wpAnyH_ready (rs := [9]) (by kernel_rfl) (by simp) ?_
              refine' AllReadyH.cons (o := _) ?hiAz226 (fun K hK => ?hkAz226) AllReadyH.nil
              case hiAz226 => exact rfl
              case hkAz226 =>
                go_simp
                go_at_call 25
                refine (over_any _ _ (overP l m) n _ hC.t.1 hC.t.2.2.2.1 (by omega) (by omega)).mono ?_
                rintro e wqCABAAA ⟨vx9, rfl, ht, hb⟩
                obtain ⟨r91, r92, r93, r94, r95, r96, rfl⟩ := ht.open
                have hC' := (hC.ext hb).tab ht
                have hX' := hX.trans hb
                have HU' := Lib.hid ((hb.block _ (lt_of_block HU.out)).trans HU.out)
                have HV' := Lib.hid ((hb.block _ (lt_of_block HV.out)).trans HV.out)
                clear hC hb ht hX c1 c2 c3 c4 c5 c6 HU HV
                have hC := hC'
                have hX := hX'
                have HU := HU'
                have HV := HV'
                clear hC' hX' HU' HV'
                obtain ⟨c1, c2, c3, c4, c5, c6, _⟩ := hC.c
                try go_wp2_with fail
                refine hK.out _ _ ?hS0z229 (fun hHeld => ?restz229)
                case hS0z229 => (try dsimp only); go_keep
                clear hK K
                try simp only [Act.put, List.setIfInBounds_toArray, List.set_cons_zero, List.set_cons_succ]
                obtain ⟨⟨d0, d1⟩, z0, z1⟩ := facts2 HU.out
                obtain ⟨⟨d2, d3⟩, z2, z3⟩ := facts2 HV.out
                have hE := ov_end hX (keepT_c hC) HU.out HV.out hWu hWv hne HNU.out HNV.out hC.t.2.2.1 hC.t.1 hC.t.2.2.2.2.2.2.1 hC.t.2.2.2.2.2.1
                have HE := Lib.hid hE
                have hC1 := hE.1
                have hc3 := hC1
                clear hE
                refine wpAnyH_ready (rs := [12]) (by kernel_rfl) (by simp) ?_
                refine' AllReadyH.cons (o := _) ?hiz227 (fun K hK => ?hkAz227) AllReadyH.nil
                case hiz227 => exact rfl
                go_simp
                refine hK.out _ _ ?hS0z227 (fun hHeld => ?restz227)
                case hS0z227 => exact ⟨hC1.1, hC1.2.1, hC1.2.2.1, hC1.2.2.2.1, hC1.2.2.2.2.1, hC1.2.2.2.2.2.1⟩
                clear hK K
                try simp only [Act.put, List.setIfInBounds_toArray, List.set_cons_zero, List.set_cons_succ]
                have hkk : ((wqCABAAA.setCell ⟨bu, 0, none⟩ (.slice r41 r42 r43)).setCell ⟨bu, 1, none⟩ (.slice r44 r45 r46)).heap[bv]? = wqCABAAA.heap[bv]? := by rw [heap_setCell_other _ _ _ _ (Ne.symm hne), heap_setCell_other _ _ _ _ (Ne.symm hne)]
                obtain ⟨⟨d4, d5⟩, z4, z5⟩ := facts2 (hkk.trans HV.out)
                clear d0 d1 z0 z1 d2 d3 z2 z3 hkk
                refine wpAnyH_ready (rs := [13]) (by kernel_rfl) (by simp) ?_
                refine' AllReadyH.cons (o := _) ?hiz228 (fun K hK => ?hkAz228) AllReadyH.nil
                case hiz228 => exact rfl
                go_simp
                refine hK.out _ _ ?hS0z228 (fun hHeld => ?restz228)
                case hS0z228 => exact ⟨HE.out.2.2.1.1, HE.out.2.2.1.2.1, HE.out.2.2.1.2.2.1, HE.out.2.2.1.2.2.2.1, HE.out.2.2.1.2.2.2.2.1, HE.out.2.2.1.2.2.2.2.2.1⟩
                clear hK K
                try simp only [Act.put, List.setIfInBounds_toArray, List.set_cons_zero, List.set_cons_succ]
                refine wpAnyH_done (by kernel_rfl) ?_ _
                go_wp2_with fail
                go_meet
                exact ⟨bu, bv, rfl, rfl, HE.out.2⟩
      case hkBz201 =>
        go_simp
        have HU := Lib.hid (heap_alloc_new wqC (.cells #[.slice none 0 0, .slice none 0 0] 27))
        have hWu : w4w.heap.size ≤ wqC.heap.size := hX.size
        have HNU := Lib.hid (keepT_far hC)
        have hne : wqC.heap.size ≠ bv := Nat.ne_of_gt (lt_of_block HV.out)
        have hC' := hC.ext ((Ext.refl wqC).alloc (.cells #[.slice none 0 0, .slice none 0 0] 27))
        have hX' := hX.trans ((Ext.refl wqC).alloc (.cells #[.slice none 0 0, .slice none 0 0] 27))
        have HV' := Lib.hid ((((Ext.refl wqC).alloc (.cells #[.slice none 0 0, .slice none 0 0] 27)).block _ (lt_of_block HV.out)).trans HV.out)
        obtain ⟨bu, hbu⟩ : ∃ b, b = wqC.heap.size := ⟨_, rfl⟩
        rw [← hbu] at HU hWu HNU hne ⊢
        generalize wqC.alloc (.cells #[.slice none 0 0, .slice none 0 0] 27) = wqCB at hC' hX' HU HV' ⊢
        clear hC hX c1 c2 c3 c4 c5 c6 hbu HV
        have hC := hC'
        have hX := hX'
        have HV := HV'
        clear hC' hX' HV'
        obtain ⟨c1, c2, c3, c4, c5, c6, _⟩ := hC.c
        refine hK.out _ _ ?hS0z244 (fun hHeld => ?restz244)
        case hS0z244 => (try dsimp only); go_keep
        clear hK K
        try simp only [Act.put, List.setIfInBounds_toArray, List.set_cons_zero, List.set_cons_succ]
        refine wpAnyH_ready (rs := [3]) (by kernel_rfl) (by simp) ?_
        refine' AllReadyH.cons (o := _) ?hiAz234 (fun K hK => ?hkAz234) AllReadyH.nil
        case hiAz234 => exact rfl
        case hkAz234 =>
          go_simp
          go_at_call 25
          refine (over_any _ _ m n _ hC.t.2.1 hC.t.1 (by omega) (by omega)).mono ?_
          rintro e wqCBA ⟨vx3, rfl, ht, hb⟩
          obtain ⟨r31, r32, r33, r34, r35, r36, rfl⟩ := ht.open
          have hC' := (hC.ext hb).tab ht
          have hX' := hX.trans hb
          have HU' := Lib.hid ((hb.block _ (lt_of_block HU.out)).trans HU.out)
          have HV' := Lib.hid ((hb.block _ (lt_of_block HV.out)).trans HV.out)
          clear hC hb ht hX c1 c2 c3 c4 c5 c6 HU HV
          have hC := hC'
          have hX := hX'
          have HU := HU'
          have HV := HV'
          clear hC' hX' HU' HV'
          obtain ⟨c1, c2, c3, c4, c5, c6, _⟩ := hC.c
          try go_wp2_with fail
          refine hK.out _ _ ?hS0z243 (fun hHeld => ?restz243)
          case hS0z243 => (try dsimp only); go_keep
          clear hK K
          try simp only [Act.put, List.setIfInBounds_toArray, List.set_cons_zero, List.set_cons_succ]
          refine wpAnyH_ready (rs := [4]) (by kernel_rfl) (by simp) ?_
          refine' AllReadyH.cons (o := _) ?hiAz235 (fun K hK => ?hkAz235) AllReadyH.nil
          case hiAz235 => exact rfl
          case hkAz235 =>
            go_simp
            go_at_call 25
            refine (over_any _ _ l (overP m n) _ hC.t.2.2.2.1 hC.t.1 (by omega) (by omega)).mono ?_
            rintro e wqCBAA ⟨vx4, rfl, ht, hb⟩
            obtain ⟨r41, r42, r43, r44, r45, r46, rfl⟩ := ht.open
            have hC' := (hC.ext hb).tab ht
            have hX' := hX.trans hb
            have HU' := Lib.hid ((hb.block _ (lt_of_block HU.out)).trans HU.out)
            have HV' := Lib.hid ((hb.block _ (lt_of_block HV.out)).trans HV.out)
            clear hC hb ht hX c1 c2 c3 c4 c5 c6 HU HV
            have hC := hC'
            have hX := hX'
            have HU := HU'
            have HV := HV'
            clear hC' hX' HU' HV'
            obtain ⟨c1, c2, c3, c4, c5, c6, _⟩ := hC.c
            try go_wp2_with fail
            refine hK.out _ _ ?hS0z242 (fun hHeld => ?restz242)
            case hS0z242 => (try dsimp only); go_keep
            clear hK K
            try simp only [Act.put, List.setIfInBounds_toArray, List.set_cons_zero, List.set_cons_succ]
            refine wpAnyH_ready (rs := [7]) (by kernel_rfl) (by simp) ?_
            refine' AllReadyH.cons (o := _) ?hiAz236 (fun K hK => ?hkAz236) AllReadyH.nil
            case hiAz236 => exact rfl
            case hkAz236 =>
              go_simp
              go_at_call 25
              refine (over_any _ _ l m _ hC.t.2.2.2.2.1 hC.t.2.2.2.1 (by omega) (by omega)).mono ?_
              rintro e wqCBAAA ⟨vx7, rfl, ht, hb⟩
              obtain ⟨r71, r72, r73, r74, r75, r76, rfl⟩ := ht.open
              have hC' := (hC.ext hb).tab ht
              have hX' := hX.trans hb
              have HU' := Lib.hid ((hb.block _ (lt_of_block HU.out)).trans HU.out)
              have HV' := Lib.hid ((hb.block _ (lt_of_block HV.out)).trans HV.out)
              clear hC hb ht hX c1 c2 c3 c4 c5 c6 HU HV
              have hC := hC'
              have hX := hX'
              have HU := HU'
              have HV := HV'
              clear hC' hX' HU' HV'
              obtain ⟨c1, c2, c3, c4, c5, c6, _⟩ := hC.c
              try go_wp2_with fail
              refine hK.out _ _ ?hS0z241 (fun hHeld => ?restz241)
              case hS0z241 => (try dsimp only); go_keep
              clear hK K
              try simp only [Act.put, List.setIfInBounds_toArray, List.set_cons_zero, List.set_cons_succ]
              refine wpAnyH_ready (rs := [9]) (by kernel_rfl) (by simp) ?_
              refine' AllReadyH.cons (o := _) ?hiAz237 (fun K hK => ?hkAz237) AllReadyH.nil
              case hiAz237 => exact rfl
              case hkAz237 =>
                go_simp
                go_at_call 25
                refine (over_any _ _ (overP l m) n _ hC.t.1 hC.t.2.2.2.1 (by omega) (by omega)).mono ?_
                rintro e wqCBAAAA ⟨vx9, rfl, ht, hb⟩
                obtain ⟨r91, r92, r93, r94, r95, r96, rfl⟩ := ht.open
                have hC' := (hC.ext hb).tab ht
                have hX' := hX.trans hb
                have HU' := Lib.hid ((hb.block _ (lt_of_block HU.out)).trans HU.out)
                have HV' := Lib.hid ((hb.block _ (lt_of_block HV.out)).trans HV.out)
                clear hC hb ht hX c1 c2 c3 c4 c5 c6 HU HV
                have hC := hC'
                have hX := hX'
                have HU := HU'
                have HV := HV'
                clear hC' hX' HU' HV'
                obtain ⟨c1, c2, c3, c4, c5, c6, _⟩ := hC.c
                try go_wp2_with fail
                refine hK.out _ _ ?hS0z240 (fun hHeld => ?restz240)
                case hS0z240 => (try dsimp only); go_keep
                clear hK K
                try simp only [Act.put, List.setIfInBounds_toArray, List.set_cons_zero, List.set_cons_succ]
                obtain ⟨⟨d0, d1⟩, z0, z1⟩ := facts2 HU.out
                obtain ⟨⟨d2, d3⟩, z2, z3⟩ := facts2 HV.out
                have hE := ov_end hX (keepT_c hC) HU.out HV.out hWu hWv hne HNU.out HNV.out hC.t.2.2.1 hC.t.1 hC.t.2.2.2.2.2.2.1 hC.t.2.2.2.2.2.1
                have HE := Lib.hid hE
                have hC1 := hE.1
                have hc3 := hC1
                clear hE
                refine wpAnyH_ready (rs := [12]) (by kernel_rfl) (by simp) ?_
                refine' AllReadyH.cons (o := _) ?hiz238 (fun K hK => ?hkAz238) AllReadyH.nil
                case hiz238 => exact rfl
                go_simp
                refine hK.out _ _ ?hS0z238 (fun hHeld => ?restz238)
                case hS0z238 => exact ⟨hC1.1, hC1.2.1, hC1.2.2.1, hC1.2.2.2.1, hC1.2.2.2.2.1, hC1.2.2.2.2.2.1⟩
                clear hK K
                try simp only [Act.put, List.setIfInBounds_toArray, List.set_cons_zero, List.set_cons_succ]
                have hkk : ((wqCBAAAA.setCell ⟨bu, 0, none⟩ (.slice r41 r42 r43)).setCell ⟨bu, 1, none⟩ (.slice r44 r45 r46)).heap[bv]? = wqCBAAAA.heap[bv]? := by rw [heap_setCell_other _ _ _ _ (Ne.symm hne), heap_setCell_other _ _ _ _ (Ne.symm hne)]
                obtain ⟨⟨d4, d5⟩, z4, z5⟩ := facts2 (hkk.trans HV.out)
                clear d0 d1 z0 z1 d2 d3 z2 z3 hkk
                refine wpAnyH_ready (rs := [13]) (by kernel_rfl) (by simp) ?_
                refine' AllReadyH.cons (o := _) ?hiz239 (fun K hK => ?hkAz239) AllReadyH.nil
                case hiz239 => exact rfl
                go_simp
                refine hK.out _ _ ?hS0z239 (fun hHeld => ?restz239)
                case hS0z239 => exact ⟨HE.out.2.2.1.1, HE.out.2.2.1.2.1, HE.out.2.2.1.2.2.1, HE.out.2.2.1.2.2.2.1, HE.out.2.2.1.2.2.2.2.1, HE.out.2.2.1.2.2.2.2.2.1⟩
                clear hK K
                try simp only [Act.put, List.setIfInBounds_toArray, List.set_cons_zero, List.set_cons_succ]
                refine wpAnyH_done (by kernel_rfl) ?_ _
                go_wp2_with fail
                go_meet
                exact ⟨bu, bv, rfl, rfl, HE.out.2⟩
theorem walk_no0 (a0 b0 c0 : Option Addr) (an ac bn bc cn cc : Nat) (code sg : Int) (W : World) (hT : Tabs W)
    (HLa : Hid (∀ w, Ext W w → Calls Tryd.prog 12 #[.slice a0 an ac] w fun e w' => e = .returned (.bool false) ∧ Ext w w'))
    : Calls Tryd.prog 5 #[.slice a0 an ac, .slice b0 bn bc, .slice c0 cn cc, .int .i64 code, .int .i32 sg] W fun e w' => e = .returned (.bool true) ∧ Ext W w' := by
  have hX := Ext.refl W
  have HT := Lib.hid hT
  clear hT
  go_enter Tryd.func5, Tryd.ntmps5
  go_wp2_with (first
    | (go_at_call 12; refine (HLa.out _ hX).mono ?_; rintro e w1a ⟨rfl, hb⟩; have hX' := hX.trans hb; clear hX hb HLa; have hX := hX'; clear hX')
    | (go_at_call 13; refine (awake4 _ (HT.out.ext hX)).mono ?_; rintro e w2 ⟨rfl, hb⟩; have hX' := hX.trans hb; clear hX hb; have hX := hX'; clear hX'))
  go_ret
  exact ⟨rfl, hX⟩
theorem walk_no1 (a0 b0 c0 : Option Addr) (an ac bn bc cn cc : Nat) (code sg : Int) (W : World) (hT : Tabs W)
    (HLa : Hid (∀ w, Ext W w → Calls Tryd.prog 12 #[.slice a0 an ac] w fun e w' => e = .returned (.bool true) ∧ Ext w w'))
    (HLb : Hid (∀ w, Ext W w → Calls Tryd.prog 12 #[.slice b0 bn bc] w fun e w' => e = .returned (.bool false) ∧ Ext w w'))
    : Calls Tryd.prog 5 #[.slice a0 an ac, .slice b0 bn bc, .slice c0 cn cc, .int .i64 code, .int .i32 sg] W fun e w' => e = .returned (.bool true) ∧ Ext W w' := by
  have hX := Ext.refl W
  have HT := Lib.hid hT
  clear hT
  go_enter Tryd.func5, Tryd.ntmps5
  go_wp2_with (first
    | (go_at_call 12; refine (HLa.out _ hX).mono ?_; rintro e w1a ⟨rfl, hb⟩; have hX' := hX.trans hb; clear hX hb HLa; have hX := hX'; clear hX')
    | (go_at_call 12; refine (HLb.out _ hX).mono ?_; rintro e w1b ⟨rfl, hb⟩; have hX' := hX.trans hb; clear hX hb HLb; have hX := hX'; clear hX')
    | (go_at_call 13; refine (awake4 _ (HT.out.ext hX)).mono ?_; rintro e w2 ⟨rfl, hb⟩; have hX' := hX.trans hb; clear hX hb; have hX := hX'; clear hX'))
  go_ret
  exact ⟨rfl, hX⟩
theorem walk_no2 (a0 b0 c0 : Option Addr) (an ac bn bc cn cc : Nat) (code sg : Int) (W : World) (hT : Tabs W)
    (HLa : Hid (∀ w, Ext W w → Calls Tryd.prog 12 #[.slice a0 an ac] w fun e w' => e = .returned (.bool true) ∧ Ext w w'))
    (HLb : Hid (∀ w, Ext W w → Calls Tryd.prog 12 #[.slice b0 bn bc] w fun e w' => e = .returned (.bool true) ∧ Ext w w'))
    (HLc : Hid (∀ w, Ext W w → Calls Tryd.prog 12 #[.slice c0 cn cc] w fun e w' => e = .returned (.bool false) ∧ Ext w w'))
    : Calls Tryd.prog 5 #[.slice a0 an ac, .slice b0 bn bc, .slice c0 cn cc, .int .i64 code, .int .i32 sg] W fun e w' => e = .returned (.bool true) ∧ Ext W w' := by
  have hX := Ext.refl W
  have HT := Lib.hid hT
  clear hT
  go_enter Tryd.func5, Tryd.ntmps5
  go_wp2_with (first
    | (go_at_call 12; refine (HLa.out _ hX).mono ?_; rintro e w1a ⟨rfl, hb⟩; have hX' := hX.trans hb; clear hX hb HLa; have hX := hX'; clear hX')
    | (go_at_call 12; refine (HLb.out _ hX).mono ?_; rintro e w1b ⟨rfl, hb⟩; have hX' := hX.trans hb; clear hX hb HLb; have hX := hX'; clear hX')
    | (go_at_call 12; refine (HLc.out _ hX).mono ?_; rintro e w1c ⟨rfl, hb⟩; have hX' := hX.trans hb; clear hX hb HLc; have hX := hX'; clear hX')
    | (go_at_call 13; refine (awake4 _ (HT.out.ext hX)).mono ?_; rintro e w2 ⟨rfl, hb⟩; have hX' := hX.trans hb; clear hX hb; have hX := hX'; clear hX'))
  go_ret
  exact ⟨rfl, hX⟩
theorem light_at {w0 : World} {a : Option Addr} {len cap : Nat} {l : List Pv} (h : IsPieces w0 a len cap l) (b : Bool) (hb : lightP l = b) : Hid (∀ w, Ext w0 w → Calls Tryd.prog 12 #[.slice a len cap] w fun e w' => e = .returned (.bool b) ∧ Ext w w') := fun w x => by
  have := light_row (h.ext x)
  rwa [hb] at this
theorem table_at {w0 : World} {a : Option Addr} {cap : Nat} {vs : List Pv} (h : IsPieces w0 a vs.length cap vs) (hl : lightP vs = true) (hw : WideP vs) : Hid (∀ w, Tabs w → Ext w0 w → Calls Tryd.prog 23 #[.slice a vs.length cap] w fun e w' => ∃ v, e = .returned v ∧ IsTab w' v (tabL vs) ∧ Ext w w') := fun w hT x => lawtable_any a cap vs w hT (h.ext x) (mid_of hl hw)
theorem made_at {w0 : World} {a : Option Addr} {cap : Nat} {vs : List Pv} (h : IsPieces w0 a vs.length cap vs) (hl : lightP vs = true) : Hid (∀ w, Ext w0 w → Calls Tryd.prog 15 #[.slice a vs.length cap] w fun e w' => ∃ a2 cap2 i, e = .returned (.tuple #[.slice a2 (tabL vs).length cap2, .int .i64 i]) ∧ IsPairs w' a2 (tabL vs).length cap2 (tabL vs) ∧ Ext w w') := fun w x => by
  refine (made_any a cap vs w (h.ext x) hl).mono ?_
  rintro e w' ⟨h1, h2 | h2⟩
  · obtain ⟨_, a2, c2, rfl, h3⟩ := h2
    exact ⟨a2, c2, -1, rfl, h3, h1⟩
  · obtain ⟨hn, rfl⟩ := h2
    have hnil : tabL vs = [] := madeGo_neg vs [] 0 hn
    rw [hnil]
    exact ⟨none, 0, _, rfl, ⟨rfl, .inl rfl⟩, h1⟩
theorem walk (a0 : Option Addr) (an ac : Nat) (va : List Pv) (b0 : Option Addr) (bn bc : Nat) (vb : List Pv) (c0 : Option Addr) (cn cc : Nat) (vc : List Pv) (code sg : Int) {W0 : World} (ha : IsPieces W0 a0 an ac va ∧ WideP va) (hb : IsPieces W0 b0 bn bc vb ∧ WideP vb) (hc : IsPieces W0 c0 cn cc vc ∧ WideP vc) (hs : (Lit.int .i32 sg).wf = true) (W : World) (e : W0 = W) (hT : Tabs W) :
    Calls Tryd.prog 5 #[.slice a0 an ac, .slice b0 bn bc, .slice c0 cn cc, .int .i64 code, .int .i32 sg] W fun e w' => e = .returned (.bool true) ∧ Ext W w' := by
  subst e
  obtain ⟨ha, wa⟩ := ha
  obtain ⟨hb, wb⟩ := hb
  obtain ⟨hc, wc⟩ := hc
  have hs0 : -2147483648 ≤ sg := by
    have := hs
    simp only [Lit.wf, Bool.and_eq_true, decide_eq_true_eq] at this
    have e1 : IntKind.min .i32 = -2147483648 := by decide
    have e2 : IntKind.max .i32 = 2147483647 := by decide
    omega
  have hs1 : sg ≤ 2147483647 := by
    have := hs
    simp only [Lit.wf, Bool.and_eq_true, decide_eq_true_eq] at this
    have e1 : IntKind.min .i32 = -2147483648 := by decide
    have e2 : IntKind.max .i32 = 2147483647 := by decide
    omega
  cases la : lightP va with
  | false => exact walk_no0 a0 b0 c0 an ac bn bc cn cc code sg _ hT (light_at ha _ la)
  | true =>
    cases lb : lightP vb with
    | false => exact walk_no1 a0 b0 c0 an ac bn bc cn cc code sg _ hT (light_at ha _ la) (light_at hb _ lb)
    | true =>
      cases lc : lightP vc with
      | false => exact walk_no2 a0 b0 c0 an ac bn bc cn cc code sg _ hT (light_at ha _ la) (light_at hb _ lb) (light_at hc _ lc)
      | true =>
        obtain rfl : va.length = an := ha.1
        obtain rfl : vb.length = bn := hb.1
        obtain rfl : vc.length = cn := hc.1
        obtain ⟨ra, fa⟩ := madeP_good va
        obtain ⟨rb, fb⟩ := madeP_good vb
        obtain ⟨rc, fc⟩ := madeP_good vc
        replace ra : Rising (tabL va) := ra
        replace rb : Rising (tabL vb) := rb
        replace rc : Rising (tabL vc) := rc
        replace fa : From0 (tabL va) := fa
        replace fb : From0 (tabL vb) := fb
        replace fc : From0 (tabL vc) := fc
        have na : (tabL va).length ≤ 3600 := madeP_len la
        have nb : (tabL vb).length ≤ 3600 := madeP_len lb
        have nc : (tabL vc).length ≤ 3600 := madeP_len lc
        have nbc : (overP (tabL vb) (tabL vc)).length ≤ 7200 := by have := over_len (tabL vb) (tabL vc); omega
        have nabc : (overP (tabL va) (overP (tabL vb) (tabL vc))).length ≤ 10800 := by have := over_len (tabL va) (overP (tabL vb) (tabL vc)); omega
        have rbc := (rising_overP rb rc).1
        have fbc := over_from rb rc fb fc
        have rabc := (rising_overP ra rbc).1
        have fabc := over_from ra rbc fa fbc
        refine walk_pre a0 b0 c0 _ ac _ bc _ cc (tabL va) (tabL vb) (tabL vc) code sg _ hT (light_at ha _ la) (table_at ha la wa) (made_at ha la) (light_at hb _ lb) (table_at hb lb wb) (made_at hb lb) (light_at hc _ lc) (table_at hc lc wc) (made_at hc lc) na nb nc nbc (Lib.hid (over_assoc ra rb rc)) (Lib.hid fabc) nabc (Lib.hid ?_) (Lib.hid ?_) hs0 hs1
        · by_cases hh : 0 ≤ findP (overP (tabL va) (overP (tabL vb) (tabL vc))) code
          · obtain ⟨j, ⟨x, y⟩, hj, hlj, hx⟩ := findP_get hh
            have hx : x = code := hx
            subst hx
            exact .inl ⟨j, y, hlj, hj, (List.getElem?_eq_some_iff.1 hlj).1⟩
          · have hn : ¬ has (overP (tabL va) (overP (tabL vb) (tabL vc))) code := (findP_not _ code).1 (by omega)
            exact .inr ⟨hn, findGo_no code _ 0 (fun i p hp e => hn ⟨p, List.mem_of_getElem? hp, e⟩)⟩
        · rcases revP_iff rabc fabc sg with ⟨_, h2⟩ | ⟨h1, _⟩
          · exact .inr (revP_no sg _ (fun i p hp => h2 p (List.mem_of_getElem? hp)))
          · exact .inl ⟨_, rfl, h1⟩
set_option maxRecDepth 100000 in
theorem lifted (os : Os) (started : os.Started) (H : Type) (enc : TypeId × Value → H) :
    ReturnsInHanded {} Tryd.checked os 5 .any (fun w args => (Rows.runOversSpec.pre enc Tryd.prog Tryd.f5 Rows.runOversRow.domain false w args ∧ laidMetH Tryd.prog Rows.runOversRow.laid w) ∧ sizedMet enc Tryd.prog Tryd.f5 (OpenSpec.ofChange Rows.runOversSpec) false w args)
      (Rows.runOversSpec.post enc Tryd.prog Tryd.f5 false true false false) := by
  refine returnsInHanded_of_change_and (C := Tryd.checked) (X := fun w _ => laidMetH Tryd.prog Rows.runOversRow.laid w) (fun _ _ _ hh h => h.of_heap hh) own started (by kernel_rfl) Tryd.func5
    (ChangeSpec.witness_shaped (enc := enc) (C := Tryd.checked) (os := os) (X := fun w _ => laidMetH Tryd.prog Rows.runOversRow.laid w) false (World.laidAll Tryd.prog os Rows.runOversRow.laid) #[.slice none 0 0, .slice none 0 0, .slice none 0 0, .int .i64 0, .int .i32 0] 8 (World.laidAll_os _ _ _)
      (World.shaped_of_ZipB (by kernel_rfl) (by kernel_rfl)) (by kernel_rfl) (by kernel_rfl) (by kernel_rfl)
      (by rw [MakeChecks.laidMetH_plain _ _ _ (by kernel_rfl)]; exact laidMet_laidAll _ (by kernel_rfl) (by kernel_rfl))) ?_
  intro W base args ds gs before hval0 hW hcnd _ hL _
  have hT : Tabs W := tabs_of hL
  have hval : ∀ (j : Nat) t v, Tryd.f5.params[j]? = some t → args[j]? = some v → Value.okWide Tryd.prog W .any base t v := hval0
  have hW' := hW
  obtain ⟨p, q, hA0, hV, rfl, hfz, hnd⟩ := hW
  have hA : DataW.TrodAll enc Tryd.prog W 0 (fun _ => true) true Tryd.f5.params.toList args.toList ds p := hA0
  rw [Tryd.params5] at hA hval
  obtain ⟨v0, vs0, d0, ds0, p0, q0, hargs, rfl, rfl, h0, r0⟩ := trodAll_cons hA
  obtain ⟨v1, vs1, d1, ds1, p1, q1, rfl, rfl, rfl, h1, r1⟩ := trodAll_cons r0
  obtain ⟨v2, vs2, d2, ds2, p2, q2, rfl, rfl, rfl, h2, r2⟩ := trodAll_cons r1
  obtain ⟨v3, vs3, d3, ds3, p3, q3, rfl, rfl, rfl, h3, r3⟩ := trodAll_cons r2
  obtain ⟨v4, vs4, d4, ds4, p4, q4, rfl, rfl, rfl, h4, r4⟩ := trodAll_cons r3
  obtain ⟨rfl, rfl, rfl⟩ := trodAll_nil r4
  obtain rfl : args = #[v0, v1, v2, v3, v4] := by cases args; simp_all
  obtain ⟨rfl, rfl⟩ := trodVars_none hV
  obtain ⟨a0, len0, cap0, rfl⟩ := okWide_slice Tryd.underlying22 (hval 0 22 v0 rfl rfl)
  have k0 := h0
  have lt0 : ∀ x ∈ p0, x.block < W.heap.size := by obtain ⟨m, hm⟩ := k0; exact DataW.trod_lt m _ _ _ hm
  obtain ⟨z0, w0⟩ : ∃ vs, IsPieces W a0 len0 cap0 vs ∧ WideP vs := by
    obtain ⟨fuel, hf⟩ := h0
    rcases Go.Deep.open_slice Tryd.underlying22 hf with ⟨hcs, _⟩ | ⟨x, len', cap', m, nn, D, Pl, hcs, _, hl, hm, hmm, hx, hi⟩
    · simp [Value.cells] at hcs
      obtain ⟨rfl, rfl, rfl⟩ := hcs
      exact ⟨[], ⟨rfl, .inl rfl⟩, fun p hp => by simp at hp⟩
    · simp [Value.cells] at hcs
      obtain ⟨rfl, rfl, rfl⟩ := hcs
      exact pieces_of hl (fun i hil => by
        have c45 : Tryd.prog.cellsOf 74 = 4 := by kernel_rfl
        have him : i < m := by rw [hmm]; split <;> omega
        obtain ⟨cs', hc, ht'⟩ := hi i him
        rw [c45] at hc
        obtain ⟨_, hcl, hat⟩ := World.cells?_some hc
        obtain ⟨k0, k1, k2, k3, rfl, k5⟩ := piece_read hcl ht'
        have e0 := hat 0 (by omega)
        have e1 := hat 1 (by omega)
        have e2 := hat 2 (by omega)
        have e3 := hat 3 (by omega)
        rw [Go.Deep.add_add] at e0 e1 e2 e3
        exact ⟨k0, k1, k2, k3, k5, e0, e1, e2, e3⟩)
  obtain ⟨a1, len1, cap1, rfl⟩ := okWide_slice Tryd.underlying22 (hval 1 22 v1 rfl rfl)
  have k1 := h1
  have lt1 : ∀ x ∈ p1, x.block < W.heap.size := by obtain ⟨m, hm⟩ := k1; exact DataW.trod_lt m _ _ _ hm
  obtain ⟨z1, w1⟩ : ∃ vs, IsPieces W a1 len1 cap1 vs ∧ WideP vs := by
    obtain ⟨fuel, hf⟩ := h1
    rcases Go.Deep.open_slice Tryd.underlying22 hf with ⟨hcs, _⟩ | ⟨x, len', cap', m, nn, D, Pl, hcs, _, hl, hm, hmm, hx, hi⟩
    · simp [Value.cells] at hcs
      obtain ⟨rfl, rfl, rfl⟩ := hcs
      exact ⟨[], ⟨rfl, .inl rfl⟩, fun p hp => by simp at hp⟩
    · simp [Value.cells] at hcs
      obtain ⟨rfl, rfl, rfl⟩ := hcs
      exact pieces_of hl (fun i hil => by
        have c45 : Tryd.prog.cellsOf 74 = 4 := by kernel_rfl
        have him : i < m := by rw [hmm]; split <;> omega
        obtain ⟨cs', hc, ht'⟩ := hi i him
        rw [c45] at hc
        obtain ⟨_, hcl, hat⟩ := World.cells?_some hc
        obtain ⟨k0, k1, k2, k3, rfl, k5⟩ := piece_read hcl ht'
        have e0 := hat 0 (by omega)
        have e1 := hat 1 (by omega)
        have e2 := hat 2 (by omega)
        have e3 := hat 3 (by omega)
        rw [Go.Deep.add_add] at e0 e1 e2 e3
        exact ⟨k0, k1, k2, k3, k5, e0, e1, e2, e3⟩)
  obtain ⟨a2, len2, cap2, rfl⟩ := okWide_slice Tryd.underlying22 (hval 2 22 v2 rfl rfl)
  have k2 := h2
  have lt2 : ∀ x ∈ p2, x.block < W.heap.size := by obtain ⟨m, hm⟩ := k2; exact DataW.trod_lt m _ _ _ hm
  obtain ⟨z2, w2⟩ : ∃ vs, IsPieces W a2 len2 cap2 vs ∧ WideP vs := by
    obtain ⟨fuel, hf⟩ := h2
    rcases Go.Deep.open_slice Tryd.underlying22 hf with ⟨hcs, _⟩ | ⟨x, len', cap', m, nn, D, Pl, hcs, _, hl, hm, hmm, hx, hi⟩
    · simp [Value.cells] at hcs
      obtain ⟨rfl, rfl, rfl⟩ := hcs
      exact ⟨[], ⟨rfl, .inl rfl⟩, fun p hp => by simp at hp⟩
    · simp [Value.cells] at hcs
      obtain ⟨rfl, rfl, rfl⟩ := hcs
      exact pieces_of hl (fun i hil => by
        have c45 : Tryd.prog.cellsOf 74 = 4 := by kernel_rfl
        have him : i < m := by rw [hmm]; split <;> omega
        obtain ⟨cs', hc, ht'⟩ := hi i him
        rw [c45] at hc
        obtain ⟨_, hcl, hat⟩ := World.cells?_some hc
        obtain ⟨k0, k1, k2, k3, rfl, k5⟩ := piece_read hcl ht'
        have e0 := hat 0 (by omega)
        have e1 := hat 1 (by omega)
        have e2 := hat 2 (by omega)
        have e3 := hat 3 (by omega)
        rw [Go.Deep.add_add] at e0 e1 e2 e3
        exact ⟨k0, k1, k2, k3, k5, e0, e1, e2, e3⟩)
  obtain ⟨a3, rfl, rfl, rfl, w3⟩ := open_int Tryd.underlying3 (hval 3 3 v3 rfl rfl) h3
  obtain ⟨a4, rfl, rfl, rfl, w4⟩ := open_int Tryd.underlying21 (hval 4 21 v4 rfl rfl) h4
  clear hA0 hval0
  refine (walk a0 len0 cap0 z0 a1 len1 cap1 z1 a2 len2 cap2 z2 a3 a4 w0 w1 w2 w4 W rfl hT).mono fun e W' ⟨he, bel⟩ => ?_
  subst he
  exact ⟨_, rfl, _, _, _, [], _, [], hW', trodAll_mk1 (shut_bool Tryd.underlying4 _), (trodAll_cons_mk (Below.trod laidOut (by kernel_rfl) (of_decide_eq_true (by kernel_rfl)) k0 bel lt0) (trodAll_cons_mk (Below.trod laidOut (by kernel_rfl) (of_decide_eq_true (by kernel_rfl)) k1 bel lt1) (trodAll_cons_mk (Below.trod laidOut (by kernel_rfl) (of_decide_eq_true (by kernel_rfl)) k2 bel lt2) (trodAll_cons_mk (shut_int Tryd.underlying3 w3) (trodAll_cons_mk (shut_int Tryd.underlying21 w4) trodAll_mk0))))), rfl, bel.frame _, fun h => by cases h⟩

theorem over : Rows.runOversRow.holds Tryd.pinned (OpenSpec.ofChange Rows.runOversSpec) :=
  OpenClaim.holds_of_wide 5 Tryd.f5 rfl rfl rfl rfl rfl rfl rfl ⟨rfl, rfl, rfl, rfl, rfl⟩ rfl rfl rfl rfl rfl (by kernel_rfl) Tryd.func5 (by kernel_rfl)
    (of_decide_eq_true (by kernel_rfl)) (by unfold Func.isWrapper; first | (rw [if_pos (by decide +kernel)]; kernel_rfl) | (rw [if_neg (by decide +kernel)]; exact ⟨rfl, rfl⟩))
    (fun os started H enc _ => lifted os started H enc)

theorem said : Rows.RunOversSaid := over
theorem plain (f : FuncId) (fn : Func) (hf : Tryd.pinned.checked.prog.funcNamed "diacritic/diacriticlaw04.RunOvers" = some f) (hfn : Tryd.pinned.checked.prog.funcs[f]? = some fn) :
    false = Tryd.pinned.checked.prog.looks [] ∧ ∀ (j : Nat) t, fn.params[j]? = some t → Tryd.pinned.checked.prog.wantsStandIn t = false := by
  obtain rfl : f = 5 := Option.some.inj ((show Tryd.prog.funcNamed "diacritic/diacriticlaw04.RunOvers" = some 5 by kernel_rfl).symm.trans hf) |>.symm
  obtain rfl : fn = Tryd.f5 := (Option.some.inj (Tryd.func5.symm.trans hfn)).symm
  refine ⟨by kernel_rfl, fun j t ht => ?_⟩
  rw [Tryd.params5] at ht
  have hm : t ∈ [22, 22, 22, 3, 21] := by simpa using Array.mem_of_getElem? ht
  have hall : ([22, 22, 22, 3, 21].all fun u => !Tryd.prog.wantsStandIn u) = true := by kernel_rfl
  exact (show Tryd.prog.wantsStandIn t = false by simpa using List.all_eq_true.1 hall t hm)
/-- THE CARD. -/
theorem proved : Rows.RunOversCardSaid :=
  Claim7.holds_tied_plain_at .later [] _ _ _ _ said (fun _ h => by cases h) (by kernel_rfl) (fun _ h => by cases h) runOvers_row_tie rfl ⟨rfl, rfl⟩ (by kernel_rfl) rfl plain (by kernel_rfl)
#print axioms proved

end Go.Proofs.YtjlghdlbkibneaaDoor.runOvers
