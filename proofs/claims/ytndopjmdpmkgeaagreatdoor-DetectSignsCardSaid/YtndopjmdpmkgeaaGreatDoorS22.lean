/-
  What the proof of this claim leans on (S22).
-/
import Derived.Test.YtndopjmdpmkgeaaGreatDoorS16
import Derived.Test.YtndopjmdpmkgeaaGreatDoorS19
import Derived.Deep.RegionWith
namespace Go.Proofs.YtndopjmdpmkgeaaGreatDoor
open Go Go.RowKit
set_option linter.unusedSimpArgs false
set_option linter.unusedVariables false

/-- Does a pair's key lie in none of the rows? -/
def outB (O : List Rw) (q : Pr) : Bool := O.all fun r => decide (q.1 < r.f ∨ r.f + r.n ≤ q.1)
theorem outB_iff {O : List Rw} {q : Pr} : outB O q = true ↔ ∀ o ∈ O, q.1 < o.f ∨ o.f + o.n ≤ q.1 := by simp [outB]
theorem outB_has {O : List Rw} (hg : GoodL O) {q : Pr} : outB O q = true ↔ ¬ has (expL O) q.1 := by
  rw [outB_iff]
  constructor
  · rintro h ⟨p, hp, e⟩
    obtain ⟨r, hr, h1, h2, _⟩ := (mem_expL_good hg).1 hp
    have := h r hr
    omega
  · intro h o ho
    by_cases h1 : q.1 < o.f ∨ o.f + o.n ≤ q.1
    · exact h1
    · exact absurd ⟨(q.1, o.t + (q.1 - o.f)), (mem_expL_good hg).2 ⟨o, ho, by show o.f ≤ q.1; omega, by show q.1 < o.f + o.n; omega, rfl⟩, rfl⟩ h
def WoOut (R O : List Rw) (k d : Nat) (out : List Pr) : Prop :=
  out = (expL (R.take k)).filter (outB O) ∧ ∀ (i : Nat) (o : Rw), i < d → O[i]? = some o → ∀ (j : Nat) (r : Rw), k ≤ j → R[j]? = some r → o.f + o.n ≤ r.f
def WoIn (R O : List Rw) (k d j : Nat) (rr : Rw) (out : List Pr) : Prop :=
  ∃ (r : Rw) (pre : List Pr), R[k]? = some r ∧ expR r = pre ++ expR rr ∧ out = (expL (R.take k) ++ pre).filter (outB O) ∧ rr.f + rr.n = r.f + r.n ∧ Good0 rr ∧ ∀ (i : Nat) (o : Rw), i < d + j → O[i]? = some o → o.f + o.n ≤ rr.f ∨ rr.n = 0
theorem rise_at {R : List Rw} (hr : RisingR R) {i j : Nat} {a b : Rw} (hij : i < j) (hi : R[i]? = some a) (hj : R[j]? = some b) : a.f + a.n ≤ b.f := by
  obtain ⟨h1, rfl⟩ := List.getElem?_eq_some_iff.1 hi
  obtain ⟨h2, rfl⟩ := List.getElem?_eq_some_iff.1 hj
  exact List.pairwise_iff_getElem.1 hr i j h1 h2 hij
theorem wo_start (R O : List Rw) : WoOut R O 0 0 [] := ⟨by simp [expL], fun i o h => by omega⟩
theorem wo_adv {R O : List Rw} {k d : Nat} {out : List Pr} {r o : Rw} (h : WoOut R O k d out) (hg : GoodL R) (hR : RisingR R) (hr : R[k]? = some r) (ho : O[d]? = some o) (hle : o.f + o.n ≤ r.f) : WoOut R O k (d + 1) out := by
  refine ⟨h.1, fun i o2 hi ho2 j r2 hj hr2 => ?_⟩
  by_cases e : i = d
  · subst e
    rw [ho] at ho2
    obtain rfl := Option.some.inj ho2
    rcases Nat.lt_or_eq_of_le hj with hlt | rfl
    · have := rise_at hR hlt hr hr2
      have := hg r (List.mem_of_getElem? hr)
      unfold GoodR at this
      omega
    · rw [hr] at hr2
      obtain rfl := Option.some.inj hr2
      exact hle
  · exact h.2 i o2 (by omega) ho2 j r2 hj hr2
theorem wo_in {R O : List Rw} {k d : Nat} {out : List Pr} {r : Rw} (h : WoOut R O k d out) (hg : GoodL R) (hr : R[k]? = some r) : WoIn R O k d 0 r out :=
  ⟨r, [], hr, rfl, by rw [h.1, List.append_nil], rfl, (hg r (List.mem_of_getElem? hr)).good0, fun i o hi ho => .inl (h.2 i o (by omega) ho k r (Nat.le_refl _) hr)⟩
theorem filter_all {l : List Pr} {p : Pr → Bool} (h : ∀ q ∈ l, p q = true) : l.filter p = l := List.filter_eq_self.2 h
theorem filter_none {l : List Pr} {p : Pr → Bool} (h : ∀ q ∈ l, p q = false) : l.filter p = [] := List.filter_eq_nil_iff.2 (fun q hq => by rw [h q hq]; decide)
/-- What is ahead of o, in a row whose first part is done. -/
theorem wo_step {R O : List Rw} {k d j : Nat} {rr o : Rw} {out : List Pr} (h : WoIn R O k d j rr out) (hg : GoodL O) (hO : RisingR O) (ho : O[d + j]? = some o) (hlt : o.f < rr.f + rr.n) :
    WoIn R O k d (j + 1) (splitB rr (o.f + o.n)) (out ++ expR (splitA rr o.f)) := by
  obtain ⟨r, pre, hr, he, rfl, hend, hgr, hdone⟩ := h
  have hgo := hg o (List.mem_of_getElem? ho)
  unfold GoodR at hgo
  have hk1 := splitK_bd rr o.f hgr.2.2.2.2
  have hk2 := splitK_bd rr (o.f + o.n) hgr.2.2.2.2
  have g2 := splitB_good rr (o.f + o.n) hgr
  have gA := splitA_good rr (o.f + o.n) hgr
  have e1 := split_exp rr (o.f + o.n) hgr
  have e2 := split_exp (splitA rr (o.f + o.n)) o.f gA
  have eA : splitA (splitA rr (o.f + o.n)) o.f = splitA rr o.f := by
    unfold splitA splitK
    congr 1
    simp only
    omega
  rw [eA] at e2
  have hmemA : ∀ q ∈ expR (splitA rr o.f), outB O q = true := by
    intro q hq
    have hm := (mem_expR (r := splitA rr o.f) hk1.1).1 hq
    have hm1 : rr.f ≤ q.1 ∧ q.1 < rr.f + splitK rr o.f := ⟨hm.1, hm.2.1⟩
    have hlo : q.1 < o.f := by
      have : splitK rr o.f ≤ max (o.f - rr.f) 0 := by unfold splitK; omega
      omega
    rw [outB_iff]
    intro p hp
    obtain ⟨i, hi⟩ := List.getElem?_of_mem hp
    rcases Nat.lt_trichotomy i (d + j) with h1 | h1 | h1
    · rcases hdone i p h1 hi with h2 | h2
      · omega
      · have : splitK rr o.f = 0 := by omega
        omega
    · subst h1
      rw [ho] at hi
      obtain rfl := Option.some.inj hi
      omega
    · have := rise_at hO h1 ho hi
      omega
  have hmemB : ∀ q ∈ expR (splitB (splitA rr (o.f + o.n)) o.f), outB O q = false := by
    intro q hq
    have hb := splitK_bd (splitA rr (o.f + o.n)) o.f hk2.1
    have hm := (mem_expR (r := splitB (splitA rr (o.f + o.n)) o.f) (by simp only [splitB]; omega)).1 hq
    simp only [splitB, splitA] at hm
    have hx : splitK ⟨rr.f, rr.t, splitK rr (o.f + o.n)⟩ o.f = splitK rr o.f := by
      unfold splitK
      simp only
      omega
    rw [hx] at hm
    have h5 : splitK rr o.f = min (max (o.f - rr.f) 0) rr.n := rfl
    have h6 : splitK rr (o.f + o.n) = min (max (o.f + o.n - rr.f) 0) rr.n := rfl
    cases hc : outB O q with
    | false => rfl
    | true =>
      have := (outB_iff.1 hc) o (List.mem_of_getElem? ho)
      omega
  refine ⟨r, pre ++ expR (splitA rr (o.f + o.n)), hr, by rw [he, e1, List.append_assoc], ?_, ?_, g2, ?_⟩
  · rw [e2, ← List.append_assoc, List.filter_append (l₂ := expR _ ++ expR _), List.filter_append (l₁ := expR _) (l₂ := expR _), filter_all hmemA, filter_none hmemB, List.append_nil]
  · simp only [splitB]
    omega
  · intro i o2 hi ho2
    by_cases hz : (splitB rr (o.f + o.n)).n = 0
    · exact .inr hz
    · left
      simp only [splitB] at hz ⊢
      have h6 : splitK rr (o.f + o.n) = min (max (o.f + o.n - rr.f) 0) rr.n := rfl
      by_cases e : i = d + j
      · subst e
        rw [ho] at ho2
        obtain rfl := Option.some.inj ho2
        omega
      · have := rise_at hO (show i < d + j by omega) ho2 ho
        have hgo2 := hg o2 (List.mem_of_getElem? ho2)
        omega
theorem wo_out {R O : List Rw} {k d j : Nat} {rr : Rw} {out out0 : List Pr} (h : WoIn R O k d j rr out) (hO : RisingR O) (h0 : WoOut R O k d out0) (hend : ∀ o, O[d + j]? = some o → rr.f + rr.n ≤ o.f) (hgO : GoodL O) : WoOut R O (k + 1) d (out ++ expR rr) := by
  obtain ⟨r, pre, hr, he, rfl, _, hgr, hdone⟩ := h
  refine ⟨?_, fun i o hi ho j2 r2 hj hr2 => h0.2 i o hi ho j2 r2 (by omega) hr2⟩
  have hall : ∀ q ∈ expR rr, outB O q = true := by
    intro q hq
    have hm := (mem_expR hgr.2.2.2.2).1 hq
    rw [outB_iff]
    intro p hp
    obtain ⟨i, hi⟩ := List.getElem?_of_mem hp
    have hil := (List.getElem?_eq_some_iff.1 hi).1
    rcases Nat.lt_trichotomy i (d + j) with h1 | h1 | h1
    · rcases hdone i p h1 hi with h2 | h2
      · omega
      · omega
    · subst h1
      have := hend p hi
      omega
    · have hdl : d + j < O.length := by omega
      have h3 := hend O[d + j] (List.getElem?_eq_getElem hdl)
      have h4 := rise_at hO h1 (List.getElem?_eq_getElem hdl) hi
      have h5 := hgO O[d + j] (List.getElem_mem hdl)
      unfold GoodR at h5
      omega
  have e : expL (R.take (k + 1)) = expL (R.take k) ++ expR r := by
    rw [List.take_add_one, hr, expL_app]
    simp [expL_one]
  rw [e, he, ← List.append_assoc, List.filter_append (l₂ := expR rr), filter_all hall]
theorem wo_len {R O : List Rw} {k d j : Nat} {rr : Rw} {out : List Pr} (h : WoIn R O k d j rr out) : out.length ≤ tot R := by
  obtain ⟨r, pre, hr, he, rfl, _⟩ := h
  refine Nat.le_trans (List.length_filter_le _ _) ?_
  have h1 : (expL (R.take k) ++ expR r).length ≤ tot R := by
    have := tot_take_le R (k + 1)
    unfold tot at this ⊢
    rw [List.take_add_one, hr, expL_app] at this
    simpa [expL_one] using this
  rw [he, List.length_append, List.length_append] at h1
  rw [List.length_append]
  omega
end Go.Proofs.YtndopjmdpmkgeaaGreatDoor
namespace Go.Proofs.YtndopjmdpmkgeaaGreatDoor
open Go Go.ChangeShapes Go.WideShapes Go.ChangeAt Go.RowKit
set_option linter.unusedSimpArgs false
set_option linter.unusedVariables false

theorem IsRws.tail {w : World} {x off n cap : Nat} {l : List Rw} (h : IsRws w (some ⟨x, off, .none⟩) (n + 1) cap l) : IsRws w (some ⟨x, off + 3, .none⟩) n (cap - 1) (l.drop 1) := by
  have := h.drop x off rfl 1 (by omega)
  simpa using this
theorem IsRws.cut {w : World} {x off n cap : Nat} {l : List Rw} (h : IsRws w (some ⟨x, off, .none⟩) (n + 1) cap l) : IsRws w (if cap = 1 then some ⟨x, off, .none⟩ else some ⟨x, off + 3, .none⟩) n (cap - 1) (l.drop 1) := by
  by_cases hc : cap = 1
  · rw [if_pos hc]
    obtain ⟨h1, h2 | ⟨x2, off2, _, h3, _⟩⟩ := h
    · omega
    · exact ⟨by simp [h1], .inl (by omega)⟩
  · rw [if_neg hc]
    exact h.tail
theorem grown_block {w w' : World} {r : Option Nat} {b : Nat} {o : Obj} (h : w.grownBy w' r) (hb : w.heap[b]? = some o) (hne : r ≠ some b) : w'.heap[b]? = some o :=
  (h.block b (lt_of_block hb) (fun e => hne e.symm)).trans hb
theorem end0_at (f t n s : Int) (w : World) (h : Good0 ⟨f, t, n⟩) (e : f + n = s) : Calls Tryz.prog 164 #[.agg #[.int .i64 f, .int .i64 t, .int .i64 n]] w fun e w' => e = .returned (.int .i64 s) ∧ Ext w w' := by
  subst e
  unfold Good0 at h
  obtain ⟨h0, h1, h2, h3, h4⟩ := h
  simp only at h0 h1 h2 h3 h4 ⊢
  go_enter Tryz.func164, Tryz.ntmps164
  go_wp2
  go_ret
  exact ⟨rfl, (Ext.refl w).alloc _⟩
theorem frozen_three {w : World} {b : Nat} {cs : Array Value} {T : TypeId} (h : w.heap[b]? = some (.cells cs T (0, 0))) : w.frozen? ⟨b, 0, none⟩ = false ∧ w.frozen? ⟨b, 1, none⟩ = false ∧ w.frozen? ⟨b, 2, none⟩ = false :=
  ⟨frozen_of_row w b 0 cs T h, frozen_of_row w b 1 cs T h, frozen_of_row w b 2 cs T h⟩
theorem set_three {w : World} {b : Nat} {x y z : Value} {T : TypeId} (h : w.heap[b]? = some (.cells #[x, y, z] T (0, 0))) (u v t : Value) :
    (((w.setCell ⟨b, 0, none⟩ u).setCell ⟨b, 1, none⟩ v).setCell ⟨b, 2, none⟩ t).heap[b]? = some (.cells #[u, v, t] T (0, 0)) :=
  Go.heap_setCell_same _ b 2 _ T t (Go.heap_setCell_same _ b 1 _ T v (Go.heap_setCell_same w b 0 _ T u h))
theorem set_far (w : World) (b c : Nat) (hne : b ≠ c) (u v t : Value) (o : Nat) : (((w.setCell ⟨b, 0, none⟩ u).setCell ⟨b, 1, none⟩ v).setCell ⟨b, 2, none⟩ t).cell? ⟨c, o, none⟩ = w.cell? ⟨c, o, none⟩ := by
  rw [World.cell?_setCell_far _ _ _ _ hne, World.cell?_setCell_far _ _ _ _ hne, World.cell?_setCell_far _ _ _ _ hne]
/-- What the next of the others does to a row: what is ahead of it, and what behind. -/
theorem next_facts {R O : List Rw} {k d j : Nat} {qf qt qn pf pt pn s1 : Int} {out : List Pr} (h : WoIn R O k d j ⟨qf, qt, qn⟩ out) (hg : GoodL O) (hO : RisingR O) (ho : O[d + j]? = some ⟨pf, pt, pn⟩) (hs : s1 = qf + qn) (hbr : pf < s1) :
    ∃ (af at1 an cf ct cn df dt dn ef et en s2 : Int), Good0 ⟨af, at1, an⟩ ∧ WoIn R O k d (j + 1) ⟨ef, et, en⟩ (out ++ expR ⟨af, at1, an⟩) ∧
      (∀ w, Calls Tryz.prog 196 #[.agg #[.int .i64 qf, .int .i64 qt, .int .i64 qn], .int .i64 pf] w fun e w' => e = .returned (.tuple #[.agg #[.int .i64 af, .int .i64 at1, .int .i64 an], .agg #[.int .i64 cf, .int .i64 ct, .int .i64 cn]]) ∧ Ext w w') ∧
      (∀ w, Calls Tryz.prog 196 #[.agg #[.int .i64 qf, .int .i64 qt, .int .i64 qn], .int .i64 s2] w fun e w' => e = .returned (.tuple #[.agg #[.int .i64 df, .int .i64 dt, .int .i64 dn], .agg #[.int .i64 ef, .int .i64 et, .int .i64 en]]) ∧ Ext w w') ∧
      (∀ w, Calls Tryz.prog 164 #[.agg #[.int .i64 pf, .int .i64 pt, .int .i64 pn]] w fun e w' => e = .returned (.int .i64 s2) ∧ Ext w w') := by
  have hq0 : Good0 ⟨qf, qt, qn⟩ := by obtain ⟨_, _, _, _, _, _, hh, _⟩ := h; exact hh
  have hp := hg _ (List.mem_of_getElem? ho)
  have hp0 := hp
  unfold GoodR at hp
  obtain ⟨g0, g1, g2, g3, g4⟩ := hp
  simp only at g0 g1 g2 g3 g4
  have hst := wo_step h hg hO ho (by show pf < qf + qn; omega)
  exact ⟨_, _, _, _, _, _, _, _, _, _, _, _, pf + pn, splitA_good _ pf hq0, hst, fun w => split_any ⟨qf, qt, qn⟩ pf w hq0 g0 (by omega), fun w => split_any ⟨qf, qt, qn⟩ (pf + pn) w hq0 (by omega) g1, fun w => end_at pf pt pn (pf + pn) w hp0 rfl⟩
set_option maxHeartbeats 8000000 in
set_option maxRecDepth 100000 in
theorem without_any (a : Option Addr) (cap : Nat) (R : List Rw) (a2 : Option Addr) (cap2 : Nat) (O : List Rw) (w : World) (h : IsRws w a R.length cap R) (h2 : IsRws w a2 O.length cap2 O) (hg : GoodL R) (hg2 : GoodL O) (hr : RisingR R) (hr2 : RisingR O) (hl : tot R ≤ 100000000) (hl2 : O.length ≤ 100000000) :
    Calls Tryz.prog 162 #[.slice a R.length cap, .slice a2 O.length cap2] w fun e w' => ∃ (v' : Value) (out : List Rw), e = .returned v' ∧ w'.ownsRow w.heap.size 189 3 v' out.length (rowCells out) ∧ GoodL out ∧ expL out = (expL R).filter (outB O) ∧ Ext w w' := by
  have hll : R.length ≤ 100000000 := Nat.le_trans (rows_le hg) hl
  have HG := Lib.hid hg
  have HG2 := Lib.hid hg2
  have HR := Lib.hid hr
  have HR2 := Lib.hid hr2
  have HL := Lib.hid hl
  clear hg hg2 hr hr2 hl
  have ho0 := World.ownsRow_nil w w.heap.size 189 3
  go_enter Tryz.func162, Tryz.ntmps162
  go_wp2
  go_loopw [5, 1, 14] (fun v u i wr => ∃ (k d : Nat) (a' : Option Addr) (cap' : Nat) (out : List Rw), k ≤ R.length ∧ i = .int .i64 k ∧ d ≤ O.length ∧ u = .slice a' (O.length - d) cap' ∧ IsRws w a' (O.length - d) cap' (O.drop d) ∧ wr.ownsRow w.heap.size 189 3 v out.length (rowCells out) ∧ Hid (WoOut R O k d (expL out)) ∧ Hid (GoodL out) ∧ Ext w wr) (fun _ _ i _ => R.length - (intOf i).toNat)
  case atStart => exact ⟨0, 0, a2, cap2, [], by omega, rfl, by omega, by simp, by simpa using h2, ho0, wo_start R O, GoodL.nil, Ext.refl _⟩
  case round =>
    obtain ⟨k, d, a', cap', out, hk, rfl, hd, rfl, hu, ho, HW, HGO, hx⟩ := hrel
    clear ho0
    by_cases hlt : k < R.length
    · obtain ⟨x, off, r, rfl, hxl, hp, hcell⟩ := rws_at h hlt
      obtain ⟨c0, c1, c2⟩ := hcell wr hx
      have HP := Lib.hid hp
      obtain ⟨rf, rt, rn⟩ := r
      have hbox := heap_alloc_new wr (.cells #[.int .i64 rf, .int .i64 rt, .int .i64 rn] 189)
      have hxo := hx.alloc (.cells #[.int .i64 rf, .int .i64 rt, .int .i64 rn] 189)
      have hoo := ho.alloc (.cells #[.int .i64 rf, .int .i64 rt, .int .i64 rn] 189)
      clear hcell hp
      go_wp2
      have hnb : ∀ g, (_ : Value).ownBlock = some g → g < wr.heap.size := fun g hg => (ho.lt g hg).2
      obtain ⟨b, hb⟩ : ∃ b, b = wr.heap.size := ⟨_, rfl⟩
      have hwb0 : w.heap.size ≤ b := by have := hx.size; omega
      rw [← hb] at hbox hnb ⊢
      generalize wr.alloc (.cells #[.int .i64 rf, .int .i64 rt, .int .i64 rn] 189) = wo at hxo hbox hoo ⊢
      clear ho hx hb c0 c1 c2
      go_loopw [1] (fun u wr => ∃ (d : Nat) (a' : Option Addr) (cap' : Nat), d ≤ O.length ∧ u = .slice a' (O.length - d) cap' ∧ IsRws w a' (O.length - d) cap' (O.drop d) ∧ wr.ownsRow w.heap.size 189 3 u5 out.length (rowCells out) ∧ Hid (wr.heap[b]? = some (.cells #[.int .i64 rf, .int .i64 rt, .int .i64 rn] 189 (0, 0))) ∧ Hid (WoOut R O k d (expL out)) ∧ Ext w wr) (fun u _ => match u with | .slice _ n _ => n | _ => 0)
      case atStart => exact ⟨d, a', cap', hd, rfl, hu, hoo, hbox, HW, hxo⟩
      case round =>
        obtain ⟨d, a', cap', hd, rfl, hu, ho, HB, HW2, hx⟩ := hrel
        clear hbox hxo hoo HW
        obtain ⟨d0, d1, d2⟩ := cells_three HB.out
        have hblt := lt_of_block HB.out
        have hcase : ¬ d = O.length ∨ d = O.length := by omega
        rcases hcase with hdl | hdl
        · obtain ⟨m, hm⟩ : ∃ m, O.length - d = m + 1 := ⟨O.length - d - 1, by omega⟩
          rw [hm] at hu ⊢
          obtain ⟨x2, off2, o, rfl, hxl2, hpo, hcell2⟩ := rws_at hu (k := 0) (by omega)
          rw [Nat.zero_mul, Nat.add_zero] at hcell2
          have hod : O[d]? = some o := by simpa using hpo
          have HOD := Lib.hid hod
          have hgo := HG2.out o (List.mem_of_getElem? hod)
          obtain ⟨of, ot, on⟩ := o
          have HGO2 := Lib.hid hgo
          have hCE : ∀ w', Ext w w' → w'.cell? ⟨x2, off2, none⟩ = some (.int .i64 of) ∧ w'.cell? ⟨x2, off2 + 1, none⟩ = some (.int .i64 ot) ∧ w'.cell? ⟨x2, off2 + 2, none⟩ = some (.int .i64 on) := hcell2
          obtain ⟨e0, e1, e2⟩ := hCE wr hx
          have hC0 : Keep wr [(⟨b, 0, none⟩, .int .i64 rf), (⟨x2, off2, none⟩, .int .i64 of), (⟨x2, off2 + 1, none⟩, .int .i64 ot), (⟨x2, off2 + 2, none⟩, .int .i64 on)] wr := ⟨Ext.refl _, d0, e0, e1, e2, trivial⟩
          have HE := Lib.hid (fun w => end_at of ot on _ w hgo rfl)
          have hw3 : (0 : Int) < (m : Int) + 1 := by omega
          have HC := Lib.hid hC0
          have HM := Lib.hid hm
          clear hpo hcell2 hod hgo hC0 d0 d1 d2 e0 e1 e2 hCE hm
          by_cases hle : of + on ≤ rf
          · have HLE := Lib.hid hle
            generalize hsum : of + on = s at HE hle
            clear hsum
            go_wp2
            have hC := HC.out.ext (Ext.drew (Ext.refl _))
            obtain ⟨b0, q0, q1, q2, _⟩ := hC.2
            refine wp_region_held_drew (S := (fun W' => W'.cell? ⟨b, 0, none⟩ = some (.int .i64 rf) ∧ W'.cell? ⟨x2, off2, none⟩ = some (.int .i64 of) ∧ W'.cell? ⟨x2, off2 + 1, none⟩ = some (.int .i64 ot) ∧ W'.cell? ⟨x2, off2 + 2, none⟩ = some (.int .i64 on))) (by kernel_rfl) ?_ (fun hHeld => ?_)
            · (try dsimp only); go_keep
            refine' wpAnyH_take (i := 0) (oi := { dst := some 18, op := _, type := _, pos := _, after := _, guard := _ }) (v := _) ?hixa0 (by kernel_rfl) ?hfxa0 ?hrxa0 ?hqxa0 ?hyxa0 ?hsxa0 ?restxa0
            case hixa0 => exact rfl
            case hfxa0 => kernel_rfl
            case hrxa0 => kernel_rfl
            case hqxa0 => exact fun _ _ _ h => h
            case hsxa0 => assumption
            case hyxa0 =>
              refine Or.inl ⟨by kernel_rfl, ?_⟩
              intro w hSw
              try dsimp only at hSw
              go_simp
              try with_reducible rfl
            try simp only [Act.put, List.setIfInBounds_toArray, List.set_cons_zero, List.set_cons_succ]
            refine' wpAnyH_take (i := 1) (oi := { dst := some 19, op := _, type := _, pos := _, after := _, guard := _ }) (v := _) ?hixa1 (by kernel_rfl) ?hfxa1 ?hrxa1 ?hqxa1 ?hyxa1 ?hsxa1 ?restxa1
            case hixa1 => exact rfl
            case hfxa1 => kernel_rfl
            case hrxa1 => kernel_rfl
            case hqxa1 => exact fun _ _ _ h => h
            case hsxa1 => assumption
            case hyxa1 =>
              refine Or.inl ⟨by kernel_rfl, ?_⟩
              intro w hSw
              try dsimp only at hSw
              go_simp
              try with_reducible rfl
            try simp only [Act.put, List.setIfInBounds_toArray, List.set_cons_zero, List.set_cons_succ]
            refine' wpAnyH_take (i := 2) (oi := { dst := some 20, op := _, type := _, pos := _, after := _, guard := _ }) (v := _) ?hixa2 (by kernel_rfl) ?hfxa2 ?hrxa2 ?hqxa2 ?hyxa2 ?hsxa2 ?restxa2
            case hixa2 => exact rfl
            case hfxa2 => kernel_rfl
            case hrxa2 => kernel_rfl
            case hqxa2 => exact fun _ _ _ h => h
            case hsxa2 => assumption
            case hyxa2 =>
              refine Or.inl ⟨by kernel_rfl, ?_⟩
              intro w hSw
              try dsimp only at hSw
              go_simp
              try with_reducible rfl
            try simp only [Act.put, List.setIfInBounds_toArray, List.set_cons_zero, List.set_cons_succ]
            refine' wpAnyH_take (i := 3) (oi := { dst := some 21, op := _, type := _, pos := _, after := _, guard := _ }) (v := _) ?hixa3 (by kernel_rfl) ?hfxa3 ?hrxa3 ?hqxa3 ?hyxa3 ?hsxa3 ?restxa3
            case hixa3 => exact rfl
            case hfxa3 => kernel_rfl
            case hrxa3 => kernel_rfl
            case hqxa3 => exact fun _ _ _ h => h
            case hsxa3 => assumption
            case hyxa3 =>
              refine Or.inl ⟨by kernel_rfl, ?_⟩
              intro w hSw
              try dsimp only at hSw
              go_simp
              try with_reducible rfl
            try simp only [Act.put, List.setIfInBounds_toArray, List.set_cons_zero, List.set_cons_succ]
            refine' wpAnyH_take (i := 4) (oi := { dst := some 22, op := _, type := _, pos := _, after := _, guard := _ }) (v := _) ?hixa4 (by kernel_rfl) ?hfxa4 ?hrxa4 ?hqxa4 ?hyxa4 ?hsxa4 ?restxa4
            case hixa4 => exact rfl
            case hfxa4 => kernel_rfl
            case hrxa4 => kernel_rfl
            case hqxa4 => exact fun _ _ _ h => h
            case hsxa4 => assumption
            case hyxa4 =>
              refine Or.inl ⟨by kernel_rfl, ?_⟩
              intro w hSw
              try dsimp only at hSw
              go_simp
              try with_reducible rfl
            try simp only [Act.put, List.setIfInBounds_toArray, List.set_cons_zero, List.set_cons_succ]
            refine' wpAnyH_take (i := 5) (oi := { dst := some 23, op := _, type := _, pos := _, after := _, guard := _ }) (v := _) ?hixa5 (by kernel_rfl) ?hfxa5 ?hrxa5 ?hqxa5 ?hyxa5 ?hsxa5 ?restxa5
            case hixa5 => exact rfl
            case hfxa5 => kernel_rfl
            case hrxa5 => kernel_rfl
            case hqxa5 => exact fun _ _ _ h => h
            case hsxa5 => assumption
            case hyxa5 =>
              refine Or.inl ⟨by kernel_rfl, ?_⟩
              intro w hSw
              try dsimp only at hSw
              go_simp
              try with_reducible rfl
            try simp only [Act.put, List.setIfInBounds_toArray, List.set_cons_zero, List.set_cons_succ]
            refine' wpAnyH_take (i := 6) (oi := { dst := some 24, op := _, type := _, pos := _, after := _, guard := _ }) (v := _) ?hixa6 (by kernel_rfl) ?hfxa6 ?hrxa6 ?hqxa6 ?hyxa6 ?hsxa6 ?restxa6
            case hixa6 => exact rfl
            case hfxa6 => kernel_rfl
            case hrxa6 => kernel_rfl
            case hqxa6 => exact fun _ _ _ h => h
            case hsxa6 => assumption
            case hyxa6 =>
              refine Or.inl ⟨by kernel_rfl, ?_⟩
              intro w hSw
              try dsimp only at hSw
              go_simp
              try with_reducible rfl
            try simp only [Act.put, List.setIfInBounds_toArray, List.set_cons_zero, List.set_cons_succ]
            refine' wpAnyH_take (i := 8) (oi := { dst := some 26, op := _, type := _, pos := _, after := _, guard := _ }) (v := _) ?hixa8 (by kernel_rfl) ?hfxa8 ?hrxa8 ?hqxa8 ?hyxa8 ?hsxa8 ?restxa8
            case hixa8 => exact rfl
            case hfxa8 => kernel_rfl
            case hrxa8 => kernel_rfl
            case hqxa8 => exact fun _ _ _ h => h
            case hsxa8 => assumption
            case hyxa8 =>
              refine Or.inl ⟨by kernel_rfl, ?_⟩
              intro w hSw
              try dsimp only at hSw
              go_simp
              try with_reducible rfl
            try simp only [Act.put, List.setIfInBounds_toArray, List.set_cons_zero, List.set_cons_succ]
            refine' wpAnyH_take (i := 9) (oi := { dst := some 27, op := _, type := _, pos := _, after := _, guard := _ }) (v := _) ?hixa9 (by kernel_rfl) ?hfxa9 ?hrxa9 ?hqxa9 ?hyxa9 ?hsxa9 ?restxa9
            case hixa9 => exact rfl
            case hfxa9 => kernel_rfl
            case hrxa9 => kernel_rfl
            case hqxa9 => exact fun _ _ _ h => h
            case hsxa9 => assumption
            case hyxa9 =>
              refine Or.inl ⟨by kernel_rfl, ?_⟩
              intro w hSw
              try dsimp only at hSw
              go_simp
              try with_reducible rfl
            try simp only [Act.put, List.setIfInBounds_toArray, List.set_cons_zero, List.set_cons_succ]
            refine wpAnyH_ready (rs := [7]) (by kernel_rfl) (by simp) ?_
            refine' AllReadyH.cons (o := _) ?hixa7 (fun K hK => ?hk0xa7) AllReadyH.nil
            case hixa7 => exact rfl
            go_simp
            go_at_call 164
            refine (HE.out _).mono ?_
            rintro e wx ⟨rfl, hbx⟩
            have hC' := hC.ext hbx
            clear hC hbx
            have hC := hC'
            clear hC'
            clear b0 q0 q1 q2
            obtain ⟨b0, q0, q1, q2, _⟩ := hC.2
            try go_wp2_with fail
            refine hK.out _ _ ?hS0xa7 (fun hHeld => ?restxa7)
            case hS0xa7 => (try dsimp only); go_keep
            clear hK K
            try simp only [Act.put, List.setIfInBounds_toArray, List.set_cons_zero, List.set_cons_succ]
            refine' wpAnyH_take (i := 10) (oi := { dst := some 28, op := _, type := _, pos := _, after := _, guard := _ }) (v := _) ?hixa10 (by kernel_rfl) ?hfxa10 ?hrxa10 ?hqxa10 ?hyxa10 ?hsxa10 ?restxa10
            case hixa10 => exact rfl
            case hfxa10 => kernel_rfl
            case hrxa10 => kernel_rfl
            case hqxa10 => exact fun _ _ _ h => h
            case hsxa10 => assumption
            case hyxa10 =>
              refine Or.inl ⟨by kernel_rfl, ?_⟩
              intro w hSw
              try dsimp only at hSw
              go_simp
              try with_reducible rfl
            try simp only [Act.put, List.setIfInBounds_toArray, List.set_cons_zero, List.set_cons_succ]
            refine' wpAnyH_take (i := 11) (oi := { dst := some 29, op := _, type := _, pos := _, after := _, guard := _ }) (v := _) ?hixa11 (by kernel_rfl) ?hfxa11 ?hrxa11 ?hqxa11 ?hyxa11 ?hsxa11 ?restxa11
            case hixa11 => exact rfl
            case hfxa11 => kernel_rfl
            case hrxa11 => kernel_rfl
            case hqxa11 => exact fun _ _ _ h => h
            case hsxa11 => assumption
            case hyxa11 =>
              refine Or.inl ⟨by kernel_rfl, ?_⟩
              intro w hSw
              try dsimp only at hSw
              go_simp
              try with_reducible rfl
            try simp only [Act.put, List.setIfInBounds_toArray, List.set_cons_zero, List.set_cons_succ]
            refine wpAnyH_done (by kernel_rfl) ?_ _
            go_wp2
            go_roundw
            case rel =>
              refine ⟨d + 1, _, cap' - 1, by omega, by rw [show O.length - (d + 1) = m by have := HM.out; omega], ?_, own_ext ho hC.1, (hC.1.block b hblt).trans HB.out, wo_adv HW2.out HG.out HR.out HP.out HOD.out HLE.out, hx.trans hC.1⟩
              have e1 : O.length - (d + 1) = m := by have := HM.out; omega
              have e2 : O.drop (d + 1) = (O.drop d).drop 1 := by rw [List.drop_drop]
              rw [e1, e2]
              exact hu.cut
            case measure => simp
          · generalize hsum : of + on = s at HE hle
            clear hsum
            have hle2 : decide (s ≤ rf) = false := decide_eq_false hle
            go_wp2
            have hC := HC.out.ext (Ext.drew (Ext.refl _))
            obtain ⟨b0, q0, q1, q2, _⟩ := hC.2
            refine wp_region_held_drew (S := (fun W' => W'.cell? ⟨b, 0, none⟩ = some (.int .i64 rf) ∧ W'.cell? ⟨x2, off2, none⟩ = some (.int .i64 of) ∧ W'.cell? ⟨x2, off2 + 1, none⟩ = some (.int .i64 ot) ∧ W'.cell? ⟨x2, off2 + 2, none⟩ = some (.int .i64 on))) (by kernel_rfl) ?_ (fun hHeld => ?_)
            · (try dsimp only); go_keep
            refine' wpAnyH_take (i := 0) (oi := { dst := some 18, op := _, type := _, pos := _, after := _, guard := _ }) (v := _) ?hixb0 (by kernel_rfl) ?hfxb0 ?hrxb0 ?hqxb0 ?hyxb0 ?hsxb0 ?restxb0
            case hixb0 => exact rfl
            case hfxb0 => kernel_rfl
            case hrxb0 => kernel_rfl
            case hqxb0 => exact fun _ _ _ h => h
            case hsxb0 => assumption
            case hyxb0 =>
              refine Or.inl ⟨by kernel_rfl, ?_⟩
              intro w hSw
              try dsimp only at hSw
              go_simp
              try with_reducible rfl
            try simp only [Act.put, List.setIfInBounds_toArray, List.set_cons_zero, List.set_cons_succ]
            refine' wpAnyH_take (i := 1) (oi := { dst := some 19, op := _, type := _, pos := _, after := _, guard := _ }) (v := _) ?hixb1 (by kernel_rfl) ?hfxb1 ?hrxb1 ?hqxb1 ?hyxb1 ?hsxb1 ?restxb1
            case hixb1 => exact rfl
            case hfxb1 => kernel_rfl
            case hrxb1 => kernel_rfl
            case hqxb1 => exact fun _ _ _ h => h
            case hsxb1 => assumption
            case hyxb1 =>
              refine Or.inl ⟨by kernel_rfl, ?_⟩
              intro w hSw
              try dsimp only at hSw
              go_simp
              try with_reducible rfl
            try simp only [Act.put, List.setIfInBounds_toArray, List.set_cons_zero, List.set_cons_succ]
            refine' wpAnyH_take (i := 2) (oi := { dst := some 20, op := _, type := _, pos := _, after := _, guard := _ }) (v := _) ?hixb2 (by kernel_rfl) ?hfxb2 ?hrxb2 ?hqxb2 ?hyxb2 ?hsxb2 ?restxb2
            case hixb2 => exact rfl
            case hfxb2 => kernel_rfl
            case hrxb2 => kernel_rfl
            case hqxb2 => exact fun _ _ _ h => h
            case hsxb2 => assumption
            case hyxb2 =>
              refine Or.inl ⟨by kernel_rfl, ?_⟩
              intro w hSw
              try dsimp only at hSw
              go_simp
              try with_reducible rfl
            try simp only [Act.put, List.setIfInBounds_toArray, List.set_cons_zero, List.set_cons_succ]
            refine' wpAnyH_take (i := 3) (oi := { dst := some 21, op := _, type := _, pos := _, after := _, guard := _ }) (v := _) ?hixb3 (by kernel_rfl) ?hfxb3 ?hrxb3 ?hqxb3 ?hyxb3 ?hsxb3 ?restxb3
            case hixb3 => exact rfl
            case hfxb3 => kernel_rfl
            case hrxb3 => kernel_rfl
            case hqxb3 => exact fun _ _ _ h => h
            case hsxb3 => assumption
            case hyxb3 =>
              refine Or.inl ⟨by kernel_rfl, ?_⟩
              intro w hSw
              try dsimp only at hSw
              go_simp
              try with_reducible rfl
            try simp only [Act.put, List.setIfInBounds_toArray, List.set_cons_zero, List.set_cons_succ]
            refine' wpAnyH_take (i := 4) (oi := { dst := some 22, op := _, type := _, pos := _, after := _, guard := _ }) (v := _) ?hixb4 (by kernel_rfl) ?hfxb4 ?hrxb4 ?hqxb4 ?hyxb4 ?hsxb4 ?restxb4
            case hixb4 => exact rfl
            case hfxb4 => kernel_rfl
            case hrxb4 => kernel_rfl
            case hqxb4 => exact fun _ _ _ h => h
            case hsxb4 => assumption
            case hyxb4 =>
              refine Or.inl ⟨by kernel_rfl, ?_⟩
              intro w hSw
              try dsimp only at hSw
              go_simp
              try with_reducible rfl
            try simp only [Act.put, List.setIfInBounds_toArray, List.set_cons_zero, List.set_cons_succ]
            refine' wpAnyH_take (i := 5) (oi := { dst := some 23, op := _, type := _, pos := _, after := _, guard := _ }) (v := _) ?hixb5 (by kernel_rfl) ?hfxb5 ?hrxb5 ?hqxb5 ?hyxb5 ?hsxb5 ?restxb5
            case hixb5 => exact rfl
            case hfxb5 => kernel_rfl
            case hrxb5 => kernel_rfl
            case hqxb5 => exact fun _ _ _ h => h
            case hsxb5 => assumption
            case hyxb5 =>
              refine Or.inl ⟨by kernel_rfl, ?_⟩
              intro w hSw
              try dsimp only at hSw
              go_simp
              try with_reducible rfl
            try simp only [Act.put, List.setIfInBounds_toArray, List.set_cons_zero, List.set_cons_succ]
            refine' wpAnyH_take (i := 6) (oi := { dst := some 24, op := _, type := _, pos := _, after := _, guard := _ }) (v := _) ?hixb6 (by kernel_rfl) ?hfxb6 ?hrxb6 ?hqxb6 ?hyxb6 ?hsxb6 ?restxb6
            case hixb6 => exact rfl
            case hfxb6 => kernel_rfl
            case hrxb6 => kernel_rfl
            case hqxb6 => exact fun _ _ _ h => h
            case hsxb6 => assumption
            case hyxb6 =>
              refine Or.inl ⟨by kernel_rfl, ?_⟩
              intro w hSw
              try dsimp only at hSw
              go_simp
              try with_reducible rfl
            try simp only [Act.put, List.setIfInBounds_toArray, List.set_cons_zero, List.set_cons_succ]
            refine' wpAnyH_take (i := 8) (oi := { dst := some 26, op := _, type := _, pos := _, after := _, guard := _ }) (v := _) ?hixb8 (by kernel_rfl) ?hfxb8 ?hrxb8 ?hqxb8 ?hyxb8 ?hsxb8 ?restxb8
            case hixb8 => exact rfl
            case hfxb8 => kernel_rfl
            case hrxb8 => kernel_rfl
            case hqxb8 => exact fun _ _ _ h => h
            case hsxb8 => assumption
            case hyxb8 =>
              refine Or.inl ⟨by kernel_rfl, ?_⟩
              intro w hSw
              try dsimp only at hSw
              go_simp
              try with_reducible rfl
            try simp only [Act.put, List.setIfInBounds_toArray, List.set_cons_zero, List.set_cons_succ]
            refine' wpAnyH_take (i := 9) (oi := { dst := some 27, op := _, type := _, pos := _, after := _, guard := _ }) (v := _) ?hixb9 (by kernel_rfl) ?hfxb9 ?hrxb9 ?hqxb9 ?hyxb9 ?hsxb9 ?restxb9
            case hixb9 => exact rfl
            case hfxb9 => kernel_rfl
            case hrxb9 => kernel_rfl
            case hqxb9 => exact fun _ _ _ h => h
            case hsxb9 => assumption
            case hyxb9 =>
              refine Or.inl ⟨by kernel_rfl, ?_⟩
              intro w hSw
              try dsimp only at hSw
              go_simp
              try with_reducible rfl
            try simp only [Act.put, List.setIfInBounds_toArray, List.set_cons_zero, List.set_cons_succ]
            refine wpAnyH_ready (rs := [7]) (by kernel_rfl) (by simp) ?_
            refine' AllReadyH.cons (o := _) ?hixb7 (fun K hK => ?hk0xb7) AllReadyH.nil
            case hixb7 => exact rfl
            go_simp
            go_at_call 164
            refine (HE.out _).mono ?_
            rintro e wx ⟨rfl, hbx⟩
            have hC' := hC.ext hbx
            clear hC hbx
            have hC := hC'
            clear hC'
            clear b0 q0 q1 q2
            obtain ⟨b0, q0, q1, q2, _⟩ := hC.2
            try go_wp2_with fail
            refine hK.out _ _ ?hS0xb7 (fun hHeld => ?restxb7)
            case hS0xb7 => (try dsimp only); go_keep
            clear hK K
            try simp only [Act.put, List.setIfInBounds_toArray, List.set_cons_zero, List.set_cons_succ]
            refine' wpAnyH_take (i := 10) (oi := { dst := some 28, op := _, type := _, pos := _, after := _, guard := _ }) (v := _) ?hixb10 (by kernel_rfl) ?hfxb10 ?hrxb10 ?hqxb10 ?hyxb10 ?hsxb10 ?restxb10
            case hixb10 => exact rfl
            case hfxb10 => kernel_rfl
            case hrxb10 => kernel_rfl
            case hqxb10 => exact fun _ _ _ h => h
            case hsxb10 => assumption
            case hyxb10 =>
              refine Or.inl ⟨by kernel_rfl, ?_⟩
              intro w hSw
              try dsimp only at hSw
              go_simp
              try with_reducible rfl
            try simp only [Act.put, List.setIfInBounds_toArray, List.set_cons_zero, List.set_cons_succ]
            refine' wpAnyH_take (i := 11) (oi := { dst := some 29, op := _, type := _, pos := _, after := _, guard := _ }) (v := _) ?hixb11 (by kernel_rfl) ?hfxb11 ?hrxb11 ?hqxb11 ?hyxb11 ?hsxb11 ?restxb11
            case hixb11 => exact rfl
            case hfxb11 => kernel_rfl
            case hrxb11 => kernel_rfl
            case hqxb11 => exact fun _ _ _ h => h
            case hsxb11 => assumption
            case hyxb11 =>
              refine Or.inl ⟨by kernel_rfl, ?_⟩
              intro w hSw
              try dsimp only at hSw
              go_simp
              try with_reducible rfl
            try simp only [Act.put, List.setIfInBounds_toArray, List.set_cons_zero, List.set_cons_succ]
            refine wpAnyH_done (by kernel_rfl) ?_ _
            go_wp2
            obtain ⟨n2, hn2⟩ : ∃ n2, n2 = m + 1 := ⟨_, rfl⟩
            have hn2i : ((m : Int) + 1) = ((n2 : Nat) : Int) := by omega
            rw [← hn2] at hu
            rw [hn2i, ← hn2]
            have hoq := own_ext ho hC.1
            have HBq : Hid (wx.heap[b]? = some (.cells #[.int .i64 rf, .int .i64 rt, .int .i64 rn] 189 (0, 0))) := (hC.1.block b hblt).trans HB.out
            have hxq := hx.trans hC.1
            have hnl : n2 ≤ O.length := by have := HM.out; omega
            have hdn : O.length - d = n2 := by have := HM.out; omega
            have HDN := Lib.hid hdn
            have hbw := hblt
            have hsz := hC.1.size
            have HWS := Lib.hid (wo_in HW2.out HG.out HP.out)
            clear hn2 hn2i HB hx ho hC b0 q0 q1 q2 hdn
            go_loopw [5, 34] (fun v i wr => ∃ (j : Nat) (qf qt qn : Int) (out : List Rw), j ≤ n2 ∧ i = .int .i64 j ∧ wr.ownsRow w.heap.size 189 3 v out.length (rowCells out) ∧ Hid (v.ownBlock ≠ some b) ∧ Hid (wr.heap[b]? = some (.cells #[.int .i64 qf, .int .i64 qt, .int .i64 qn] 189 (0, 0))) ∧ Hid (WoIn R O k d j ⟨qf, qt, qn⟩ (expL out)) ∧ Hid (GoodL out) ∧ Ext w wr) (fun _ i _ => n2 - (intOf i).toNat)
            case atStart => exact ⟨0, rf, rt, rn, out, by omega, rfl, hoq, (fun e => Nat.lt_irrefl _ (hnb b e)), HBq, HWS, HGO, hxq⟩
            case round =>
              obtain ⟨j, qf, qt, qn, outj, hjn, rfl, hoq, HNB, HBj, HWI, HGJ, hxq⟩ := hrel
              clear HBq HWS
              obtain ⟨z0, z1, z2⟩ := cells_three HBj.out
              have hbz := lt_of_block HBj.out
              have hq0 : Good0 ⟨qf, qt, qn⟩ := by obtain ⟨_, _, _, _, _, _, hh, _⟩ := HWI.out; exact hh
              have hlen : outj.length ≤ 1000000000 := by
                have a1 := rows_le HGJ.out
                have a2 := wo_len HWI.out
                have a3 := HL.out
                omega
              by_cases hjl : j < n2
              · obtain ⟨x3, off3, o3, e3, hx3, hp3, hcell3⟩ := rws_at hu hjl
                obtain ⟨rfl, rfl⟩ : x2 = x3 ∧ off2 = off3 := by simpa using e3
                have hod3 : O[d + j]? = some o3 := by rw [List.getElem?_drop] at hp3; exact hp3
                have hg3 := HG2.out o3 (List.mem_of_getElem? hod3)
                obtain ⟨pf, pt, pn⟩ := o3
                have hcell4 : ∀ w', Ext w w' → w'.cell? ⟨x2, off2 + j * 3, none⟩ = some (.int .i64 pf) ∧ w'.cell? ⟨x2, off2 + j * 3 + 1, none⟩ = some (.int .i64 pt) ∧ w'.cell? ⟨x2, off2 + j * 3 + 2, none⟩ = some (.int .i64 pn) := hcell3
                obtain ⟨p0, p1, p2⟩ := hcell4 wr hxq
                have kb := keep_three wr (.int .i64 pf) (.int .i64 pt) (.int .i64 pn) 189
                have hxb := (Ext.refl wr).alloc (.cells #[.int .i64 pf, .int .i64 pt, .int .i64 pn] 189)
                obtain ⟨bo, hbo⟩ : ∃ bo, bo = wr.heap.size := ⟨_, rfl⟩
                rw [← hbo] at kb
                have hC0 : Keep wr [(⟨b, 0, none⟩, .int .i64 qf), (⟨b, 1, none⟩, .int .i64 qt), (⟨b, 2, none⟩, .int .i64 qn), (⟨bo, 0, none⟩, .int .i64 pf), (⟨bo, 1, none⟩, .int .i64 pt), (⟨bo, 2, none⟩, .int .i64 pn)] (wr.alloc (.cells #[.int .i64 pf, .int .i64 pt, .int .i64 pn] 189)) :=
                  ⟨hxb, cell_ext hxb z0, cell_ext hxb z1, cell_ext hxb z2, kb.2.1, kb.2.2.1, kb.2.2.2.1, trivial⟩
                have HCB := Lib.hid hC0
                have HEQ := Lib.hid (fun w => end0_at qf qt qn _ w hq0 rfl)
                have HOD3 := Lib.hid hod3
                have HG3 := Lib.hid hg3
                have HQ0 := Lib.hid hq0
                have hqq := hq0
                unfold Good0 at hqq
                unfold GoodR at hg3
                simp only at hqq hg3
                obtain ⟨u0, u1, u2, u3, u4⟩ := hqq
                obtain ⟨g0, g1, g2, g3, g4⟩ := hg3
                have hbbo : b < bo := by omega
                have HBO := Lib.hid hbo
                clear e3 hp3 hcell3 hcell4 kb hxb hC0 hod3 hq0 z0 z1 z2 hbo
                obtain ⟨s1, hs1⟩ : ∃ s1, s1 = qf + qn := ⟨_, rfl⟩
                rw [← hs1] at HEQ
                have HS1 := Lib.hid hs1
                have hs1b : s1 ≤ 2097152 := by omega
                clear hs1
                by_cases hbr : s1 ≤ pf
                · have HBR := Lib.hid hbr
                  go_wp2
                  rw [← HBO.out]
                  obtain ⟨wa, ha, hC1⟩ := HCB.out.hold
                  rw [← ha]
                  have hC := hC1.ext (Ext.drew (Ext.refl _))
                  clear ha hC1
                  obtain ⟨z0, z1, z2, y0, y1, y2, _⟩ := hC.2
                  refine wp_region_held_drew (S := (fun W' => W'.cell? ⟨bo, 0, none⟩ = some (.int .i64 pf) ∧ W'.cell? ⟨b, 0, none⟩ = some (.int .i64 qf) ∧ W'.cell? ⟨b, 1, none⟩ = some (.int .i64 qt) ∧ W'.cell? ⟨b, 2, none⟩ = some (.int .i64 qn))) (by kernel_rfl) ?_ (fun hHeld => ?_)
                  · (try dsimp only); go_keep
                  refine' wpAnyH_take (i := 0) (oi := { dst := some 38, op := _, type := _, pos := _, after := _, guard := _ }) (v := _) ?hixc0 (by kernel_rfl) ?hfxc0 ?hrxc0 ?hqxc0 ?hyxc0 ?hsxc0 ?restxc0
                  case hixc0 => exact rfl
                  case hfxc0 => kernel_rfl
                  case hrxc0 => kernel_rfl
                  case hqxc0 => exact fun _ _ _ h => h
                  case hsxc0 => assumption
                  case hyxc0 =>
                    refine Or.inl ⟨by kernel_rfl, ?_⟩
                    intro w hSw
                    try dsimp only at hSw
                    go_simp
                    try with_reducible rfl
                  try simp only [Act.put, List.setIfInBounds_toArray, List.set_cons_zero, List.set_cons_succ]
                  refine' wpAnyH_take (i := 1) (oi := { dst := some 39, op := _, type := _, pos := _, after := _, guard := _ }) (v := _) ?hixc1 (by kernel_rfl) ?hfxc1 ?hrxc1 ?hqxc1 ?hyxc1 ?hsxc1 ?restxc1
                  case hixc1 => exact rfl
                  case hfxc1 => kernel_rfl
                  case hrxc1 => kernel_rfl
                  case hqxc1 => exact fun _ _ _ h => h
                  case hsxc1 => assumption
                  case hyxc1 =>
                    refine Or.inl ⟨by kernel_rfl, ?_⟩
                    intro w hSw
                    try dsimp only at hSw
                    go_simp
                    try with_reducible rfl
                  try simp only [Act.put, List.setIfInBounds_toArray, List.set_cons_zero, List.set_cons_succ]
                  refine' wpAnyH_take (i := 2) (oi := { dst := some 40, op := _, type := _, pos := _, after := _, guard := _ }) (v := _) ?hixc2 (by kernel_rfl) ?hfxc2 ?hrxc2 ?hqxc2 ?hyxc2 ?hsxc2 ?restxc2
                  case hixc2 => exact rfl
                  case hfxc2 => kernel_rfl
                  case hrxc2 => kernel_rfl
                  case hqxc2 => exact fun _ _ _ h => h
                  case hsxc2 => assumption
                  case hyxc2 =>
                    refine Or.inl ⟨by kernel_rfl, ?_⟩
                    intro w hSw
                    try dsimp only at hSw
                    go_simp
                    try with_reducible rfl
                  try simp only [Act.put, List.setIfInBounds_toArray, List.set_cons_zero, List.set_cons_succ]
                  refine wpAnyH_ready (rs := [3]) (by kernel_rfl) (by simp) ?_
                  refine' AllReadyH.cons (o := _) ?hixc3 (fun K hK => ?hk0xc3) AllReadyH.nil
                  case hixc3 => exact rfl
                  go_simp
                  go_at_call 164
                  refine (HEQ.out _).mono ?_
                  rintro e wx ⟨rfl, hbx⟩
                  have hC' := hC.ext hbx
                  clear hC hbx
                  have hC := hC'
                  clear hC'
                  clear z0 z1 z2 y0 y1 y2
                  obtain ⟨z0, z1, z2, y0, y1, y2, _⟩ := hC.2
                  try go_wp2_with fail
                  refine hK.out _ _ ?hS0xc3 (fun hHeld => ?restxc3)
                  case hS0xc3 => (try dsimp only); go_keep
                  clear hK K
                  try simp only [Act.put, List.setIfInBounds_toArray, List.set_cons_zero, List.set_cons_succ]
                  refine' wpAnyH_take (i := 4) (oi := { dst := some 42, op := _, type := _, pos := _, after := _, guard := _ }) (v := _) ?hixc4 (by kernel_rfl) ?hfxc4 ?hrxc4 ?hqxc4 ?hyxc4 ?hsxc4 ?restxc4
                  case hixc4 => exact rfl
                  case hfxc4 => kernel_rfl
                  case hrxc4 => kernel_rfl
                  case hqxc4 => exact fun _ _ _ h => h
                  case hsxc4 => assumption
                  case hyxc4 =>
                    refine Or.inl ⟨by kernel_rfl, ?_⟩
                    intro w hSw
                    try dsimp only at hSw
                    go_simp
                    try with_reducible rfl
                  try simp only [Act.put, List.setIfInBounds_toArray, List.set_cons_zero, List.set_cons_succ]
                  refine wpAnyH_done (by kernel_rfl) ?_ _
                  have hoq2 := own_ext hoq hC.1
                  have hxq2 := hxq.trans hC.1
                  clear hoq hxq
                  have hoq := hoq2
                  have hxq := hxq2
                  clear hoq2 hxq2
                  have HEND : Hid (∀ o, O[d + j]? = some o → (⟨qf, qt, qn⟩ : Rw).f + (⟨qf, qt, qn⟩ : Rw).n ≤ o.f) := by
                    intro o ho
                    rw [HOD3.out] at ho
                    obtain rfl := Option.some.inj ho
                    have := HS1.out
                    have := HBR.out
                    show qf + qn ≤ pf
                    omega
                  have hszq := hxq.size
                  have HA := Lib.hid (add_any ⟨qf, qt, qn⟩ u5 w.heap.size outj wx hoq hszq HQ0.out HGJ.out hlen)
                  have huq : IsRws w (some ⟨x2, off2, none⟩) (O.length - d) cap' (O.drop d) := by rw [HDN.out]; exact hu
                  rw [← HDN.out] at hjl ⊢
                  clear hlen
                  go_wp2_with (go_at_call 191; refine HA.out.mono ?_; rintro e w9 ⟨v9, out9, rfl, ho9, he9, hg9, hl9, hgr9, hf9⟩)
                  have hx9 := hxq.own_grown hoq (Nat.le_refl _) hgr9
                  have HE9 := Lib.hid he9
                  have HG9 := Lib.hid hg9
                  clear he9 hg9 hf9 hgr9
                  go_roundw
                  case rel => exact ⟨k + 1, d, _, _, out9, by omega, by go_num, hd, rfl, huq, ho9, by show WoOut _ _ _ _ _; rw [HE9.out]; exact wo_out HWI.out HR2.out HW2.out HEND.out HG2.out, HG9, hx9⟩
                  case measure => simp [intOf]; omega
                · go_wp2
                  rw [← HBO.out]
                  obtain ⟨wa, ha, hC1⟩ := HCB.out.hold
                  rw [← ha]
                  have hC := hC1.ext (Ext.drew (Ext.refl _))
                  clear ha hC1
                  obtain ⟨z0, z1, z2, y0, y1, y2, _⟩ := hC.2
                  refine wp_region_held_drew (S := (fun W' => W'.cell? ⟨bo, 0, none⟩ = some (.int .i64 pf) ∧ W'.cell? ⟨b, 0, none⟩ = some (.int .i64 qf) ∧ W'.cell? ⟨b, 1, none⟩ = some (.int .i64 qt) ∧ W'.cell? ⟨b, 2, none⟩ = some (.int .i64 qn))) (by kernel_rfl) ?_ (fun hHeld => ?_)
                  · (try dsimp only); go_keep
                  refine' wpAnyH_take (i := 0) (oi := { dst := some 38, op := _, type := _, pos := _, after := _, guard := _ }) (v := _) ?hixd0 (by kernel_rfl) ?hfxd0 ?hrxd0 ?hqxd0 ?hyxd0 ?hsxd0 ?restxd0
                  case hixd0 => exact rfl
                  case hfxd0 => kernel_rfl
                  case hrxd0 => kernel_rfl
                  case hqxd0 => exact fun _ _ _ h => h
                  case hsxd0 => assumption
                  case hyxd0 =>
                    refine Or.inl ⟨by kernel_rfl, ?_⟩
                    intro w hSw
                    try dsimp only at hSw
                    go_simp
                    try with_reducible rfl
                  try simp only [Act.put, List.setIfInBounds_toArray, List.set_cons_zero, List.set_cons_succ]
                  refine' wpAnyH_take (i := 1) (oi := { dst := some 39, op := _, type := _, pos := _, after := _, guard := _ }) (v := _) ?hixd1 (by kernel_rfl) ?hfxd1 ?hrxd1 ?hqxd1 ?hyxd1 ?hsxd1 ?restxd1
                  case hixd1 => exact rfl
                  case hfxd1 => kernel_rfl
                  case hrxd1 => kernel_rfl
                  case hqxd1 => exact fun _ _ _ h => h
                  case hsxd1 => assumption
                  case hyxd1 =>
                    refine Or.inl ⟨by kernel_rfl, ?_⟩
                    intro w hSw
                    try dsimp only at hSw
                    go_simp
                    try with_reducible rfl
                  try simp only [Act.put, List.setIfInBounds_toArray, List.set_cons_zero, List.set_cons_succ]
                  refine' wpAnyH_take (i := 2) (oi := { dst := some 40, op := _, type := _, pos := _, after := _, guard := _ }) (v := _) ?hixd2 (by kernel_rfl) ?hfxd2 ?hrxd2 ?hqxd2 ?hyxd2 ?hsxd2 ?restxd2
                  case hixd2 => exact rfl
                  case hfxd2 => kernel_rfl
                  case hrxd2 => kernel_rfl
                  case hqxd2 => exact fun _ _ _ h => h
                  case hsxd2 => assumption
                  case hyxd2 =>
                    refine Or.inl ⟨by kernel_rfl, ?_⟩
                    intro w hSw
                    try dsimp only at hSw
                    go_simp
                    try with_reducible rfl
                  try simp only [Act.put, List.setIfInBounds_toArray, List.set_cons_zero, List.set_cons_succ]
                  refine wpAnyH_ready (rs := [3]) (by kernel_rfl) (by simp) ?_
                  refine' AllReadyH.cons (o := _) ?hixd3 (fun K hK => ?hk0xd3) AllReadyH.nil
                  case hixd3 => exact rfl
                  go_simp
                  go_at_call 164
                  refine (HEQ.out _).mono ?_
                  rintro e wx ⟨rfl, hbx⟩
                  have hC' := hC.ext hbx
                  clear hC hbx
                  have hC := hC'
                  clear hC'
                  clear z0 z1 z2 y0 y1 y2
                  obtain ⟨z0, z1, z2, y0, y1, y2, _⟩ := hC.2
                  try go_wp2_with fail
                  refine hK.out _ _ ?hS0xd3 (fun hHeld => ?restxd3)
                  case hS0xd3 => (try dsimp only); go_keep
                  clear hK K
                  try simp only [Act.put, List.setIfInBounds_toArray, List.set_cons_zero, List.set_cons_succ]
                  refine' wpAnyH_take (i := 4) (oi := { dst := some 42, op := _, type := _, pos := _, after := _, guard := _ }) (v := _) ?hixd4 (by kernel_rfl) ?hfxd4 ?hrxd4 ?hqxd4 ?hyxd4 ?hsxd4 ?restxd4
                  case hixd4 => exact rfl
                  case hfxd4 => kernel_rfl
                  case hrxd4 => kernel_rfl
                  case hqxd4 => exact fun _ _ _ h => h
                  case hsxd4 => assumption
                  case hyxd4 =>
                    refine Or.inl ⟨by kernel_rfl, ?_⟩
                    intro w hSw
                    try dsimp only at hSw
                    go_simp
                    try with_reducible rfl
                  try simp only [Act.put, List.setIfInBounds_toArray, List.set_cons_zero, List.set_cons_succ]
                  refine wpAnyH_done (by kernel_rfl) ?_ _
                  obtain ⟨af, at1, an, cf, ct, cn, df, dt, dn, ef, et, en, s2, nx1, nx2, nx3, nx4, nx5⟩ := next_facts HWI.out HG2.out HR2.out HOD3.out HS1.out hbr
                  have HGA := Lib.hid nx1
                  have HWN := Lib.hid nx2
                  have HSP1 := Lib.hid nx3
                  have HSP2 := Lib.hid nx4
                  have HEP := Lib.hid nx5
                  clear nx1 nx2 nx3 nx4 nx5
                  go_wp2_with (go_at_call 196; refine (HSP1.out _).mono ?_; rintro e wy ⟨rfl, hby⟩; have hCy := hC.ext hby)
                  have hxa := (Ext.refl wy).alloc (.cells #[.int .i64 af, .int .i64 at1, .int .i64 an] 189)
                  have hxc := hxa.alloc (.cells #[.int .i64 cf, .int .i64 ct, .int .i64 cn] 189)
                  have hxd := (Ext.refl (wy.alloc (.cells #[.int .i64 af, .int .i64 at1, .int .i64 an] 189))).alloc (.cells #[.int .i64 cf, .int .i64 ct, .int .i64 cn] 189)
                  obtain ⟨_, k0, k1, k2, _⟩ := keep_three wy (.int .i64 af) (.int .i64 at1) (.int .i64 an) 189
                  obtain ⟨hCy1, z0', z1', z2', y0', y1', y2', _⟩ := hCy
                  obtain ⟨ba, hba⟩ : ∃ ba, ba = wy.heap.size := ⟨_, rfl⟩
                  have hbab : b ≠ ba := by have := hby.size; have := hC.1.size; omega
                  rw [← hba] at k0 k1 k2
                  have hK : Keep wr [(⟨b, 0, none⟩, .int .i64 qf), (⟨b, 1, none⟩, .int .i64 qt), (⟨b, 2, none⟩, .int .i64 qn), (⟨bo, 0, none⟩, .int .i64 pf), (⟨bo, 1, none⟩, .int .i64 pt), (⟨bo, 2, none⟩, .int .i64 pn), (⟨ba, 0, none⟩, .int .i64 af), (⟨ba, 1, none⟩, .int .i64 at1), (⟨ba, 2, none⟩, .int .i64 an)] ((wy.alloc (.cells #[.int .i64 af, .int .i64 at1, .int .i64 an] 189)).alloc (.cells #[.int .i64 cf, .int .i64 ct, .int .i64 cn] 189)) :=
                    ⟨hCy1.trans hxc, cell_ext hxc z0', cell_ext hxc z1', cell_ext hxc z2', cell_ext hxc y0', cell_ext hxc y1', cell_ext hxc y2', cell_ext hxd k0, cell_ext hxd k1, cell_ext hxd k2, trivial⟩
                  obtain ⟨wb, hwb, hK⟩ := hK.hold
                  rw [← hwb, ← hba]
                  clear hwb hxa hxc hxd k0 k1 k2 z0' z1' z2' y0' y1' y2' hba hby hC z0 z1 z2 y0 y1 y2
                  obtain ⟨z0, z1, z2, y0, y1, y2, k0, k1, k2, _⟩ := hK.2
                  clear hCy1
                  go_region_with (first
                    | (go_at_call 164; refine (HEP.out _).mono ?_; rintro e wz ⟨rfl, hbz1⟩; have hK' := hK.ext ((Ext.drew (Ext.refl _)).trans hbz1); clear hK z0 z1 z2 y0 y1 y2 k0 k1 k2; have hK := hK'; obtain ⟨z0, z1, z2, y0, y1, y2, k0, k1, k2, _⟩ := hK.2; clear hK')
                    | (go_at_call 196; refine (HSP2.out _).mono ?_; rintro e wz2 ⟨rfl, hbz2⟩; have hK' := hK.ext hbz2; clear hK z0 z1 z2 y0 y1 y2 k0 k1 k2; have hK := hK'; obtain ⟨z0, z1, z2, y0, y1, y2, k0, k1, k2, _⟩ := hK.2; obtain ⟨f0, f1, f2⟩ := frozen_three ((hK.1.block b hbz).trans HBj.out); clear hK'))
                  all_goals
                    have hHB := (hK.1.block b hbz).trans HBj.out
                    have hF1 := set_three hHB (.int .i64 ef) (.int .i64 et) (.int .i64 en)
                    have hF2 := ownsRow_setCell_other (ownsRow_setCell_other (ownsRow_setCell_other (own_ext hoq hK.1) (a := ⟨b, 0, none⟩) HNB.out (.int .i64 ef)) (a := ⟨b, 1, none⟩) HNB.out (.int .i64 et)) (a := ⟨b, 2, none⟩) HNB.out (.int .i64 en)
                    have hF3 := Ext.setCell (Ext.setCell (Ext.setCell (hxq.trans hK.1) (p := ⟨b, 0, none⟩) hwb0 (.int .i64 ef)) (p := ⟨b, 1, none⟩) hwb0 (.int .i64 et)) (p := ⟨b, 2, none⟩) hwb0 (.int .i64 en)
                    have k0' := (set_far wz2 b ba hbab (.int .i64 ef) (.int .i64 et) (.int .i64 en) 0).trans k0
                    have k1' := (set_far wz2 b ba hbab (.int .i64 ef) (.int .i64 et) (.int .i64 en) 1).trans k1
                    have k2' := (set_far wz2 b ba hbab (.int .i64 ef) (.int .i64 et) (.int .i64 en) 2).trans k2
                    obtain ⟨wf, hwf⟩ : ∃ wf, wf = ((wz2.setCell ⟨b, 0, none⟩ (.int .i64 ef)).setCell ⟨b, 1, none⟩ (.int .i64 et)).setCell ⟨b, 2, none⟩ (.int .i64 en) := ⟨_, rfl⟩
                    rw [← hwf] at hF1 hF2 hF3 k0' k1' k2' ⊢
                    have HF1 := Lib.hid hF1
                    have hbf := lt_of_block hF1
                    have HF2 := Lib.hid hF2
                    have HA := Lib.hid (add_any ⟨af, at1, an⟩ u5 w.heap.size outj wf hF2 hF3.size HGA.out HGJ.out hlen)
                    clear hHB hF1 hF2 hwf z0 z1 z2 y0 y1 y2 k0 k1 k2 f0 f1 f2 hK
                    go_wp2_with (go_at_call 191; refine HA.out.mono ?_; rintro e w9 ⟨v9, out9, rfl, ho9, he9, hg9, hl9, hgr9, hf9⟩)
                    have hx9 := hF3.own_grown HF2.out (Nat.le_refl _) hgr9
                    have HE9 := Lib.hid he9
                    have HG9 := Lib.hid hg9
                    have HB9 := Lib.hid (grown_block hgr9 HF1.out HNB.out)
                    have HN9 : Hid (v9.ownBlock ≠ some b) := by
                      show _ ≠ _
                      rcases hf9 with e | ⟨g, e, hge⟩
                      · rw [e]
                        exact HNB.out
                      · rw [e]
                        intro e2
                        injection e2 with e2
                        omega
                    clear he9 hg9 hf9 hgr9
                    go_roundw
                    case rel => exact ⟨j + 1, ef, et, en, out9, by omega, by go_num, ho9, HN9, HB9, by show WoIn _ _ _ _ _ _ _; rw [HE9.out]; exact HWN.out, HG9, hx9⟩
                    case measure => simp [intOf]; omega
              · have hje : j = n2 := by omega
                have HEND : Hid (∀ o, O[d + j]? = some o → (⟨qf, qt, qn⟩ : Rw).f + (⟨qf, qt, qn⟩ : Rw).n ≤ o.f) := by
                  intro o ho
                  have := (List.getElem?_eq_some_iff.1 ho).1
                  have := HDN.out
                  omega
                have hszq := hxq.size
                have HA := Lib.hid (add_any ⟨qf, qt, qn⟩ u5 w.heap.size outj wr hoq hszq hq0 HGJ.out hlen)
                have huq : IsRws w (some ⟨x2, off2, none⟩) (O.length - d) cap' (O.drop d) := by rw [HDN.out]; exact hu
                rw [← HDN.out] at hjl ⊢
                clear hq0 hlen
                go_wp2_with (go_at_call 191; refine HA.out.mono ?_; rintro e w9 ⟨v9, out9, rfl, ho9, he9, hg9, hl9, hgr9, hf9⟩)
                have hx9 := hxq.own_grown hoq (Nat.le_refl _) hgr9
                have HE9 := Lib.hid he9
                have HG9 := Lib.hid hg9
                clear he9 hg9 hf9 hgr9
                go_roundw
                case rel => exact ⟨k + 1, d, _, _, out9, by omega, by go_num, hd, rfl, huq, ho9, by show WoOut _ _ _ _ _; rw [HE9.out]; exact wo_out HWI.out HR2.out HW2.out HEND.out HG2.out, HG9, hx9⟩
                case measure => simp [intOf]; omega
        · have hz : O.length - d = 0 := by omega
          rw [hz] at hu ⊢
          go_wp2
          go_quiet (fail)
          have hoq := own_ext ho ((Ext.refl wr).drewN nq)
          have hxq := hx.drewN nq
          have hB2 := (((Ext.refl wr).drewN nq).block b hblt).trans HB.out
          generalize wr.drewN nq = wq at hoq hxq hB2 ⊢
          obtain ⟨z0, z1, z2⟩ := cells_three hB2
          clear hB2 d0 d1 d2 ho hx
          go_wp2
          go_loopw [5, 34] (fun v i wr => v = u5 ∧ i = .int .i64 0 ∧ wr = wq) (fun _ _ _ => 0)
          case atStart => exact ⟨rfl, rfl, rfl⟩
          case round =>
            obtain ⟨rfl, rfl, rfl⟩ := hrel
            have HWI := Lib.hid (wo_in HW2.out HG.out HP.out)
            have HEND : Hid (∀ o, O[d + 0]? = some o → (⟨rf, rt, rn⟩ : Rw).f + (⟨rf, rt, rn⟩ : Rw).n ≤ o.f) := by
              intro o ho
              have := (List.getElem?_eq_some_iff.1 ho).1
              omega
            have hlen : out.length ≤ 1000000000 := by
              have a1 := rows_le HGO.out
              have a2 := wo_len HWI.out
              have a3 := HL.out
              omega
            have hszq := hxq.size
            have hq0 : Good0 ⟨rf, rt, rn⟩ := (HG.out _ (List.mem_of_getElem? HP.out)).good0
            have HA := Lib.hid (add_any ⟨rf, rt, rn⟩ _ w.heap.size out _ hoq hszq hq0 HGO.out hlen)
            have huq : IsRws w a' (O.length - d) cap' (O.drop d) := by rw [hz]; exact hu
            have HZ := Lib.hid hz
            clear hq0 hlen hdl hz hu
            go_wp2_with (go_at_call 191; refine HA.out.mono ?_; rintro e w9 ⟨v9, out9, rfl, ho9, he9, hg9, hl9, hgr9, hf9⟩)
            have hx9 := hxq.own_grown hoq (Nat.le_refl _) hgr9
            have HE9 := Lib.hid he9
            have HG9 := Lib.hid hg9
            clear he9 hg9 hf9 hgr9
            go_roundw
            case rel => exact ⟨k + 1, d, a', cap', out9, by omega, by go_num, hd, by rw [HZ.out], huq, ho9, by show WoOut _ _ _ _ _; rw [HE9.out]; exact wo_out HWI.out HR2.out HW2.out HEND.out HG2.out, HG9, hx9⟩
            case measure => simp [intOf]; omega
    · have hkl : k = R.length := by omega
      have hfin : expL out = (expL R).filter (outB O) := by
        have := HW.out.1
        rw [hkl, List.take_length] at this
        exact this
      have HFIN := Lib.hid hfin
      clear hfin
      go_wp2
      go_ret
      exact ⟨_, out, rfl, ho, HGO.out, HFIN.out, hx⟩
end Go.Proofs.YtndopjmdpmkgeaaGreatDoor

