/-
  The document's answers of layer 4 (1): the place of a code, the first code of a sign.
-/
import Derived.Test.YtealeedbkjiabaaDoorRnNum
namespace Go.Proofs.YtealeedbkjiabaaDoor
open Go Go.ChangeShapes Go.WideShapes Go.ChangeAt Go.RowKit
set_option linter.unusedSimpArgs false
set_option linter.unusedVariables false

set_option maxRecDepth 100000 in
set_option maxHeartbeats 1000000 in
theorem rfind (a : Option Addr) (cap : Nat) (l : List Pr) (c : Int) (w : World) (h : IsPairs w a l.length cap l) (hl : l.length ≤ 1099511627776) :
    Calls Tryd.prog 20 #[.slice a l.length cap, .int .i64 c] w fun e w' => e = .returned (.int .i64 (findP l c)) ∧ Ext w w' := by
  go_enter Tryd.func20, Tryd.ntmps20
  go_wp2
  go_loopw [5] (fun i wr => ∃ k : Nat, k ≤ l.length ∧ i = .int .i64 k ∧ Ext w wr ∧ Hid (∀ (i : Nat) (p : Pr), i < k → l[i]? = some p → p.1 ≠ c)) (fun i _ => l.length - (intOf i).toNat)
  case atStart => exact ⟨0, by omega, rfl, Ext.refl _, fun i p h => by omega⟩
  case round =>
    obtain ⟨k, hk, rfl, hx, HN⟩ := hrel
    by_cases hlt : k < l.length
    · obtain ⟨x, off, rfl, hxl, hcell⟩ := pairs_at h (by omega)
      obtain ⟨p, hp⟩ : ∃ p, l[k]? = some p := ⟨l[k], by simp [hlt]⟩
      have hc := (hcell k p hp).1
      have hc0 := (World.cell?_of_block (w := w) (hx.block x hxl)).trans hc
      have HP := Lib.hid hp
      clear hcell hc hp
      by_cases hpc : p.1 = c
      · have HF : Hid (findP l c = (k : Int)) := by
          show findGo c 0 l = _
          rw [findGo_at c l 0 k HN.out p HP.out hpc]
          simp
        have HPC := Lib.hid hpc
        rw [hpc] at hc0
        clear hpc
        go_wp2
        go_ret
        exact ⟨by rw [HF.out]; rfl, hx⟩
      · have hpc2 : (p.1 == c) = false := by simpa using hpc
        have HPC := Lib.hid hpc
        generalize p.1 = q at hc0 hpc hpc2
        go_wp2
        go_roundw
        case rel =>
          refine ⟨k + 1, by omega, by go_num, hx, fun i r hi hr => ?_⟩
          by_cases e : i = k
          · subst e
            rw [HP.out] at hr
            cases hr
            exact HPC.out
          · exact HN.out i r (by omega) hr
        case measure => simp [intOf]; omega
    · have HF : Hid (findP l c = -1) := findGo_no c l 0 (fun i p hp => HN.out i p (by have := (List.getElem?_eq_some_iff.1 hp).1; omega) hp)
      go_wp2
      go_ret
      exact ⟨by rw [HF.out]; rfl, hx⟩
set_option maxRecDepth 100000 in
set_option maxHeartbeats 1000000 in
theorem rrev (a : Option Addr) (cap : Nat) (l : List Pr) (c : Int) (w : World) (h : IsPairs w a l.length cap l) (hl : l.length ≤ 1099511627776) :
    Calls Tryd.prog 22 #[.slice a l.length cap, .int .i32 c] w fun e w' => e = .returned (.int .i64 (revP l c)) ∧ Ext w w' := by
  go_enter Tryd.func22, Tryd.ntmps22
  go_wp2
  go_loopw [5] (fun i wr => ∃ k : Nat, k ≤ l.length ∧ i = .int .i64 k ∧ Ext w wr ∧ Hid (∀ (i : Nat) (p : Pr), i < k → l[i]? = some p → p.2 ≠ c)) (fun i _ => l.length - (intOf i).toNat)
  case atStart => exact ⟨0, by omega, rfl, Ext.refl _, fun i p h => by omega⟩
  case round =>
    obtain ⟨k, hk, rfl, hx, HN⟩ := hrel
    by_cases hlt : k < l.length
    · obtain ⟨x, off, rfl, hxl, hcell⟩ := pairs_at h (by omega)
      obtain ⟨p, hp⟩ : ∃ p, l[k]? = some p := ⟨l[k], by simp [hlt]⟩
      have hc := hcell k p hp
      have hc0 := (World.cell?_of_block (w := w) (hx.block x hxl)).trans hc.1
      have hc1 := (World.cell?_of_block (w := w) (hx.block x hxl)).trans hc.2
      have HP := Lib.hid hp
      clear hcell hc hp
      by_cases hpc : p.2 = c
      · have HF : Hid (revP l c = p.1) := revP_at c l k HN.out p HP.out hpc
        rw [hpc] at hc1
        clear hpc
        go_wp2
        go_ret
        exact ⟨by rw [HF.out]; rfl, hx⟩
      · have hpc2 : (p.2 == c) = false := by simpa using hpc
        have HPC := Lib.hid hpc
        generalize p.2 = q at hc1 hpc hpc2
        go_wp2
        go_roundw
        case rel =>
          refine ⟨k + 1, by omega, by go_num, hx, fun i r hi hr => ?_⟩
          by_cases e : i = k
          · subst e
            rw [HP.out] at hr
            cases hr
            exact HPC.out
          · exact HN.out i r (by omega) hr
        case measure => simp [intOf]; omega
    · have HF : Hid (revP l c = -1) := revP_no c l (fun i p hp => HN.out i p (by have := (List.getElem?_eq_some_iff.1 hp).1; omega) hp)
      go_wp2
      go_ret
      exact ⟨by rw [HF.out]; rfl, hx⟩
theorem own_drewN {w : World} {B : Nat} {e : TypeId} {size : Nat} {v : Value} {n : Nat} {xs : List Value} (h : w.ownsRow B e size v n xs) (k : Nat) : (w.drewN k).ownsRow B e size v n xs := h
/-- How far a pair is put in. -/
def PutTo (l : List Pr) (p : Pr) (k : Nat) (done : Bool) (out : List Pr) : Prop :=
  (done = false ∧ out = l.take k ∧ ∀ (i : Nat) (q : Pr), i < k → l[i]? = some q → ¬ p.1 < q.1) ∨ (done = true ∧ out ++ l.drop k = putP l p)
theorem PutTo.len {l : List Pr} {p : Pr} {k : Nat} {done : Bool} {out : List Pr} (h : PutTo l p k done out) (hk : k ≤ l.length) : out.length ≤ k + 1 := by
  rcases h with ⟨_, rfl, _⟩ | ⟨_, h2⟩
  · rw [List.length_take]; omega
  · have := congrArg List.length h2
    rw [putP_len, List.length_append, List.length_drop] at this
    omega
theorem PutTo.more {l : List Pr} {p : Pr} {k : Nat} {out : List Pr} (h : PutTo l p k true out) {q : Pr} (hq : l[k]? = some q) : PutTo l p (k + 1) true (out ++ [q]) := by
  rcases h with ⟨h1, _⟩ | ⟨_, h2⟩
  · cases h1
  · refine .inr ⟨rfl, ?_⟩
    obtain ⟨hlt, rfl⟩ := List.getElem?_eq_some_iff.1 hq
    rw [← h2, List.drop_eq_getElem_cons hlt, List.append_assoc]
    rfl
theorem PutTo.skip {l : List Pr} {p : Pr} {k : Nat} {out : List Pr} (h : PutTo l p k false out) {q : Pr} (hq : l[k]? = some q) (hn : ¬ p.1 < q.1) : PutTo l p (k + 1) false (out ++ [q]) := by
  rcases h with ⟨_, rfl, h2⟩ | ⟨h1, _⟩
  · refine .inl ⟨rfl, by rw [List.take_add_one, hq]; rfl, fun i r hi hr => ?_⟩
    by_cases e : i = k
    · subst e
      rw [hq] at hr
      cases hr
      exact hn
    · exact h2 i r (by omega) hr
  · cases h1
theorem PutTo.here {l : List Pr} {p : Pr} {k : Nat} {out : List Pr} (h : PutTo l p k false out) (hk : k ≤ l.length) (hq : ∀ q : Pr, l[k]? = some q → p.1 < q.1) : PutTo l p k true (out ++ [p]) := by
  rcases h with ⟨_, rfl, h2⟩ | ⟨h1, _⟩
  · refine .inr ⟨rfl, ?_⟩
    rw [putP_at p l k hk h2 hq, List.append_assoc]
    rfl
  · cases h1
set_option maxRecDepth 100000 in
set_option maxHeartbeats 2000000 in
theorem rput (a : Option Addr) (cap : Nat) (l : List Pr) (p : Pr) (w : World) (h : IsPairs w a l.length cap l) (hl : l.length ≤ 1000000000) :
    Calls Tryd.prog 46 #[.slice a l.length cap, .agg #[.int .i64 p.1, .int .i32 p.2]] w fun e w' => ∃ a' cap', e = .returned (.slice a' (l.length + 1) cap') ∧ IsPairs w' a' (l.length + 1) cap' (putP l p) ∧ Ext w w' := by
  obtain ⟨i0, hi, hz0, hz1, hz2⟩ := info_parts_pair
  obtain ⟨pc, pp⟩ := p
  have hB := heap_alloc_new w (.cells #[.int .i64 pc, .int .i32 pp] 42)
  go_enter Tryd.func46, Tryd.ntmps46
  go_wp2
  go_loopw [5, 6, 7] (fun v d i wr => ∃ (k : Nat) (done : Bool) (out : List Pr), k ≤ l.length ∧ i = .int .i64 k ∧ d = .bool done ∧ Ext (w.alloc (.cells #[.int .i64 pc, .int .i32 pp] 42)) wr ∧ wr.ownsRow (w.heap.size + 1) 42 2 v out.length (pairCells out) ∧ Hid (PutTo l (pc, pp) k done out)) (fun _ _ i _ => l.length - (intOf i).toNat)
  case atStart => exact ⟨0, false, [], by omega, rfl, rfl, Ext.refl _, World.ownsRow_nil _ _ _ _, .inl ⟨rfl, rfl, fun i q h => by omega⟩⟩
  case round =>
    obtain ⟨k, done, out, hk, rfl, rfl, hx, ho, HT⟩ := hrel
    have hol := HT.out.len hk
    have hbox : ∀ w', Ext (w.alloc (.cells #[.int .i64 pc, .int .i32 pp] 42)) w' → w'.cell? ⟨w.heap.size, 0, none⟩ = some (.int .i64 pc) ∧ w'.cell? ⟨w.heap.size, 1, none⟩ = some (.int .i32 pp) ∧ w.heap.size + 1 ≤ w'.heap.size := by
      intro w' hx
      have hb := (hx.block w.heap.size (by simp)).trans hB
      have hz := hx.size
      exact ⟨by simp [World.cell?, hb], by simp [World.cell?, hb], by simpa using hz⟩
    by_cases hlt : k < l.length
    · obtain ⟨x, off, rfl, hxl, hcell⟩ := pairs_at h (by omega)
      obtain ⟨q, hq⟩ : ∃ q, l[k]? = some q := ⟨l[k], by simp [hlt]⟩
      have hc := hcell k q hq
      obtain ⟨qc, qp⟩ := q
      have HC : Hid (∀ w', Ext (w.alloc (.cells #[.int .i64 pc, .int .i32 pp] 42)) w' → w'.cell? ⟨w.heap.size, 0, none⟩ = some (.int .i64 pc) ∧ w'.cell? ⟨w.heap.size, 1, none⟩ = some (.int .i32 pp) ∧ w.heap.size + 1 ≤ w'.heap.size ∧ w'.cell? ⟨x, off + k * 2, none⟩ = some (.int .i64 qc) ∧ w'.cell? ⟨x, off + k * 2 + 1, none⟩ = some (.int .i32 qp)) := by
        intro w' hx
        obtain ⟨b0, b1, b2⟩ := hbox w' hx
        have hxw : Ext w w' := ((Ext.refl w).alloc _).trans hx
        exact ⟨b0, b1, b2, (World.cell?_of_block (w := w) (hxw.block x hxl)).trans hc.1, (World.cell?_of_block (w := w) (hxw.block x hxl)).trans hc.2⟩
      have HQ := Lib.hid hq
      clear hcell hc hq hbox
      obtain ⟨b0, b1, hws, hc0, hc1⟩ := HC.out wr hx
      have hkb : (0 : Int) ≤ k := by omega
      have hkl2 : (k : Int) < l.length := by omega
      cases done
      · by_cases hpq : pc < qc
        · have HN := Lib.hid ((HT.out.here hk (fun r hr => by rw [HQ.out] at hr; cases hr; exact hpq)).more HQ.out)
          go_wp2
          go_quiet (fail)
          obtain ⟨wd, hwd⟩ : ∃ wd, wd = wr.drewN nq := ⟨_, rfl⟩
          have hxd := hx.drewN nq
          have hod := own_drewN ho nq
          rw [← hwd] at hxd hod ⊢
          clear hwd b0 b1 hws hc0 hc1 hx ho
          obtain ⟨b0, b1, hws, hc0, hc1⟩ := HC.out wd hxd
          go_wp2_with (first
            | (at_builtin; refine wpList_append_own _ rfl _ _ 33 rfl (w.heap.size + 1) 42 i0 (.agg #[.int .i64 0, .int .i32 0]) 2 16 Tryd.underlying33 hi hz0 hz1 hz2 rfl (by decide) _ _ _ rfl (hod.alloc _) ⟨wd.heap.size, 0, none⟩ 1 1 [.int .i64 pc, .int .i32 pp] rfl rfl (cell_two_new _ _ _ _) (fun x hx => by simp at hx; rcases hx with rfl | rfl <;> rfl) (by unfold maxLen; omega) (by omega) (by simp; omega) ?_; intro v4 w4 hown4 hgrow4 hnil4; clear hnil4; have hx4 := hxd.own hod (by simp) hgrow4; clear b0 b1 hws hc0 hc1 hgrow4 hod hxd; obtain ⟨b0, b1, hws, hc0, hc1⟩ := HC.out w4 hx4)
            | (at_builtin; refine wpList_append_own _ rfl _ _ 33 rfl (w.heap.size + 1) 42 i0 (.agg #[.int .i64 0, .int .i32 0]) 2 16 Tryd.underlying33 hi hz0 hz1 hz2 rfl (by decide) _ _ _ rfl (hown4.alloc _) ⟨w4.heap.size, 0, none⟩ 1 1 [.int .i64 qc, .int .i32 qp] rfl rfl (cell_two_new _ _ _ _) (fun x hx => by simp at hx; rcases hx with rfl | rfl <;> rfl) (by unfold maxLen; omega) (by omega) (by simp; omega) ?_; intro v5 w5 hown5 hgrow5 hnil5; clear hnil5; have hx5 := hx4.own hown4 (by simp) hgrow5; clear b0 b1 hws hc0 hc1 hgrow5 hown4 hx4))
          go_roundw
          case rel =>
            refine ⟨k + 1, true, out ++ [(pc, pp)] ++ [(qc, qp)], by omega, by go_num, rfl, hx5, ?_, HN.out⟩
            rw [pairCells_app, pairCells_app, pairCells_one, pairCells_one, List.length_append, List.length_append]
            exact hown5
          case measure => simp [intOf]; omega
        · have hpq2 : decide (pc < qc) = false := decide_eq_false hpq
          have HN := Lib.hid (HT.out.skip HQ.out hpq)
          go_wp2
          go_quiet (fail)
          obtain ⟨wd, hwd⟩ : ∃ wd, wd = wr.drewN nq := ⟨_, rfl⟩
          have hxd := hx.drewN nq
          have hod := own_drewN ho nq
          rw [← hwd] at hxd hod ⊢
          clear hwd b0 b1 hws hc0 hc1 hx ho
          obtain ⟨b0, b1, hws, hc0, hc1⟩ := HC.out wd hxd
          go_wp2_with ((at_builtin; refine wpList_append_own _ rfl _ _ 33 rfl (w.heap.size + 1) 42 i0 (.agg #[.int .i64 0, .int .i32 0]) 2 16 Tryd.underlying33 hi hz0 hz1 hz2 rfl (by decide) _ _ _ rfl (hod.alloc _) ⟨wd.heap.size, 0, none⟩ 1 1 [.int .i64 qc, .int .i32 qp] rfl rfl (cell_two_new _ _ _ _) (fun x hx => by simp at hx; rcases hx with rfl | rfl <;> rfl) (by unfold maxLen; omega) (by omega) (by simp; omega) ?_; intro v5 w5 hown5 hgrow5 hnil5; clear hnil5; have hx5 := hxd.own hod (by simp) hgrow5; clear b0 b1 hws hc0 hc1 hgrow5 hod hxd))
          go_roundw
          case rel =>
            refine ⟨k + 1, false, out ++ [(qc, qp)], by omega, by go_num, rfl, hx5, ?_, HN.out⟩
            rw [pairCells_app, pairCells_one, List.length_append]
            exact hown5
          case measure => simp [intOf]; omega
      · have HN := Lib.hid (HT.out.more HQ.out)
        go_wp2
        go_quiet (fail)
        obtain ⟨wd, hwd⟩ : ∃ wd, wd = wr.drewN nq := ⟨_, rfl⟩
        have hxd := hx.drewN nq
        have hod := own_drewN ho nq
        rw [← hwd] at hxd hod ⊢
        clear hwd b0 b1 hws hc0 hc1 hx ho
        obtain ⟨b0, b1, hws, hc0, hc1⟩ := HC.out wd hxd
        go_wp2_with ((at_builtin; refine wpList_append_own _ rfl _ _ 33 rfl (w.heap.size + 1) 42 i0 (.agg #[.int .i64 0, .int .i32 0]) 2 16 Tryd.underlying33 hi hz0 hz1 hz2 rfl (by decide) _ _ _ rfl (hod.alloc _) ⟨wd.heap.size, 0, none⟩ 1 1 [.int .i64 qc, .int .i32 qp] rfl rfl (cell_two_new _ _ _ _) (fun x hx => by simp at hx; rcases hx with rfl | rfl <;> rfl) (by unfold maxLen; omega) (by omega) (by simp; omega) ?_; intro v5 w5 hown5 hgrow5 hnil5; clear hnil5; have hx5 := hxd.own hod (by simp) hgrow5; clear b0 b1 hws hc0 hc1 hgrow5 hod hxd))
        go_roundw
        case rel =>
          refine ⟨k + 1, true, out ++ [(qc, qp)], by omega, by go_num, rfl, hx5, ?_, HN.out⟩
          rw [pairCells_app, pairCells_one, List.length_append]
          exact hown5
        case measure => simp [intOf]; omega
    · have hkl : k = l.length := by omega
      subst hkl
      obtain ⟨b0, b1, hws⟩ := hbox wr hx
      cases done
      · have HN := Lib.hid (HT.out.here hk (fun r hr => by simp at hr))
        have hfin : out ++ [(pc, pp)] = putP l (pc, pp) := by
          rcases HN.out with ⟨h1, _⟩ | ⟨_, h2⟩
          · cases h1
          · rw [List.drop_length, List.append_nil] at h2
            exact h2
        have hln : out.length + 1 = l.length + 1 := by rw [← putP_len l (pc, pp), ← hfin]; simp
        have HF := Lib.hid hfin
        clear hfin hbox
        go_wp2_with ((at_builtin; refine wpList_append_own _ rfl _ _ 33 rfl (w.heap.size + 1) 42 i0 (.agg #[.int .i64 0, .int .i32 0]) 2 16 Tryd.underlying33 hi hz0 hz1 hz2 rfl (by decide) _ _ _ rfl (ho.alloc _) ⟨wr.heap.size, 0, none⟩ 1 1 [.int .i64 pc, .int .i32 pp] rfl rfl (cell_two_new _ _ _ _) (fun x hx => by simp at hx; rcases hx with rfl | rfl <;> rfl) (by unfold maxLen; omega) (by omega) (by simp; omega) ?_; intro v5 w5 hown5 hgrow5 hnil5; clear hnil5; have hx5 := hx.own ho (by simp) hgrow5; clear b0 b1 hws hgrow5 ho hx))
        rw [hln] at hown5
        have hown6 : w5.ownsRow (w.heap.size + 1) 42 2 v5 (l.length + 1) (pairCells (putP l (pc, pp))) := by
          rw [← HF.out, pairCells_app, pairCells_one]
          exact hown5
        obtain ⟨a', cap', rfl, hrow⟩ := own_pairs hown6
        clear hown5 hown6 hln
        go_wp2
        go_ret
        exact ⟨a', cap', rfl, hrow, ((Ext.refl w).alloc _).trans hx5⟩
      · have hfin : out = putP l (pc, pp) := by
          rcases HT.out with ⟨h1, _⟩ | ⟨_, h2⟩
          · cases h1
          · rw [List.drop_length, List.append_nil] at h2
            exact h2
        subst hfin
        rw [putP_len] at ho
        obtain ⟨a', cap', rfl, hrow⟩ := own_pairs ho
        clear ho hbox
        go_wp2
        go_ret
        exact ⟨a', cap', rfl, hrow, ((Ext.refl w).alloc _).trans hx⟩
end Go.Proofs.YtealeedbkjiabaaDoor
