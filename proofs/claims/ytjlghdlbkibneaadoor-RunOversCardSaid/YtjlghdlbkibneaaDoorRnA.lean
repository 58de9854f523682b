/-
  Tables of codes and signs, plainly: pairs by rising codes; lists of pairs in memory.
  The document's answers of layer 4 (1): the place of a code, the first code of a sign.
  The document's answers of layer 4 (2): pairs joined, and one over the other.
  The document's answers of layer 4 (3): a piece's pairs.
  Pieces in memory; which are light; the document's pairs of pieces, or the first that is refused.
-/
import Derived.Test.YtjlghdlbkibneaaDoorPtB
import Derived.Test.YtjlghdlbkibneaaDoorStr
import Derived.Laws.AppendOwn
namespace Go.Proofs.YtjlghdlbkibneaaDoor
open Go Go.ChangeShapes Go.WideShapes Go.ChangeAt Go.RowKit
set_option linter.unusedSimpArgs false
set_option linter.unusedVariables false

/-- The place of a code among pairs, the first one's place being k; -1: it isn't there. -/
def findGo (c : Int) : Nat → List Pr → Int
  | _, [] => -1
  | k, p :: l => if p.1 = c then (k : Int) else findGo c (k + 1) l
def findP (l : List Pr) (c : Int) : Int := findGo c 0 l
/-- With a pair, by rising codes. -/
def putP : List Pr → Pr → List Pr
  | [], p => [p]
  | q :: l, p => if p.1 < q.1 then p :: q :: l else q :: putP l p
/-- Pairs, and others, of which none has a code of the first ones. -/
def joinP (l more : List Pr) : Option (List Pr) := if more.any (fun q => decide (0 ≤ findP l q.1)) then none else some (more.foldl putP l)
def overP (l other : List Pr) : List Pr := other.foldl (fun out q => if findP l q.1 < 0 then putP out q else out) l
/-- The first code of a sign; -1: there is none. -/
def revP (l : List Pr) (p : Int) : Int :=
  match l with
  | [] => -1
  | q :: l => if q.2 = p then q.1 else revP l p
theorem findGo_at (c : Int) : ∀ (l : List Pr) (k j : Nat), (∀ (i : Nat) (p : Pr), i < j → l[i]? = some p → p.1 ≠ c) → ∀ p : Pr, l[j]? = some p → p.1 = c → findGo c k l = ((k + j : Nat) : Int)
  | [], _, _, _, _, h, _ => by simp at h
  | q :: l, k, 0, _, p, h, e => by
    simp at h
    subst h
    rw [findGo, if_pos e]
    rfl
  | q :: l, k, j + 1, hn, p, h, e => by
    have h0 := hn 0 q (by omega) rfl
    rw [findGo, if_neg h0, findGo_at c l (k + 1) j (fun i p hi hp => hn (i + 1) p (by omega) (by simpa using hp)) p (by simpa using h) e]
    omega
theorem findGo_no (c : Int) : ∀ (l : List Pr) (k : Nat), (∀ (i : Nat) (p : Pr), l[i]? = some p → p.1 ≠ c) → findGo c k l = -1
  | [], _, _ => rfl
  | q :: l, k, hn => by
    have h0 := hn 0 q rfl
    rw [findGo, if_neg h0, findGo_no c l (k + 1) (fun i p hp => hn (i + 1) p (by simpa using hp))]
theorem revP_at (c : Int) : ∀ (l : List Pr) (j : Nat), (∀ (i : Nat) (p : Pr), i < j → l[i]? = some p → p.2 ≠ c) → ∀ p : Pr, l[j]? = some p → p.2 = c → revP l c = p.1
  | [], _, _, _, h, _ => by simp at h
  | q :: l, 0, _, p, h, e => by
    simp at h
    subst h
    rw [revP, if_pos e]
  | q :: l, j + 1, hn, p, h, e => by
    have h0 := hn 0 q (by omega) rfl
    rw [revP, if_neg h0, revP_at c l j (fun i p hi hp => hn (i + 1) p (by omega) (by simpa using hp)) p (by simpa using h) e]
theorem revP_no (c : Int) : ∀ (l : List Pr), (∀ (i : Nat) (p : Pr), l[i]? = some p → p.2 ≠ c) → revP l c = -1
  | [], _ => rfl
  | q :: l, hn => by
    have h0 := hn 0 q rfl
    rw [revP, if_neg h0, revP_no c l (fun i p hp => hn (i + 1) p (by simpa using hp))]
theorem putP_len : ∀ (l : List Pr) (p : Pr), (putP l p).length = l.length + 1
  | [], _ => rfl
  | q :: l, p => by
    unfold putP
    split
    · rfl
    · simp [putP_len l p]
/-- Where a pair goes in: behind all whose codes aren't above its own, up to the first whose code is. -/
theorem putP_at (p : Pr) : ∀ (l : List Pr) (j : Nat), j ≤ l.length → (∀ (i : Nat) (q : Pr), i < j → l[i]? = some q → ¬ p.1 < q.1) → (∀ q : Pr, l[j]? = some q → p.1 < q.1) → putP l p = l.take j ++ p :: l.drop j
  | [], 0, _, _, _ => rfl
  | [], j + 1, h, _, _ => by simp at h
  | q :: l, 0, _, _, h => by
    have := h q rfl
    unfold putP
    rw [if_pos this]
    rfl
  | q :: l, j + 1, hj, hn, h => by
    have h0 := hn 0 q (by omega) rfl
    unfold putP
    rw [if_neg h0, putP_at p l j (by simpa using hj) (fun i r hi hr => hn (i + 1) r (by omega) (by simpa using hr)) (fun r hr => h r (by simpa using hr))]
    rfl

/-! ### Pairs in memory -/
theorem own_pairs {w : World} {B : Nat} {v : Value} {n : Nat} {l : List Pr} (h : w.ownsRow B 42 2 v n (pairCells l)) : ∃ a cap, v = .slice a n cap ∧ IsPairs w a n cap l := by
  obtain ⟨hl, ⟨rfl, rfl⟩ | ⟨g, cap, cur, rfl, hg, hh, hn, hm, hs, ht⟩⟩ := h
  · rw [pairCells_len] at hl
    exact ⟨none, 0, rfl, by omega, .inl rfl⟩
  · rw [pairCells_len] at hl
    have hbl : l.length = n := by omega
    refine ⟨some ⟨g, 0, none⟩, cap, rfl, hbl, .inr ⟨g, 0, rfl, hn, lt_of_block hh, fun j z hj => ?_⟩⟩
    have hjl : j < l.length := (List.getElem?_eq_some_iff.1 hj).1
    obtain ⟨e1, e3⟩ := pairCells_get l j z hj
    rw [← ht, List.getElem?_take, if_pos (by omega)] at e1 e3
    have e2 : ∀ o, w.cell? ⟨g, 0 + o, none⟩ = cur.toList[o]? := by intro o; simp [World.cell?, hh]
    exact ⟨(e2 (j * 2)).trans e1, (e2 (j * 2 + 1)).trans e3⟩
theorem info_pair : (Tryd.prog.info? 42).map (fun i => (i.zero, i.size, i.bytes)) = some (some (.agg #[.int .i64 0, .int .i32 0]), 2, 16) := by kernel_rfl
theorem info_parts_pair : ∃ i, Tryd.prog.info? 42 = some i ∧ i.zero = some (.agg #[.int .i64 0, .int .i32 0]) ∧ i.size = 2 ∧ i.bytes = 16 := by
  obtain ⟨i, hi, h2⟩ := Option.map_eq_some_iff.1 info_pair
  obtain ⟨h3, h4⟩ := Prod.mk.inj h2
  obtain ⟨h5, h6⟩ := Prod.mk.inj h4
  exact ⟨i, hi, h3, h5, h6⟩
end Go.Proofs.YtjlghdlbkibneaaDoor
namespace Go.Proofs.YtjlghdlbkibneaaDoor
open Go Go.ChangeShapes Go.WideShapes Go.ChangeAt Go.RowKit
set_option linter.unusedSimpArgs false
set_option linter.unusedVariables false

set_option maxRecDepth 100000 in
set_option maxHeartbeats 1000000 in
theorem rfind (a : Option Addr) (cap : Nat) (l : List Pr) (c : Int) (w : World) (h : IsPairs w a l.length cap l) (hl : l.length ≤ 1099511627776) :
    Calls Tryd.prog 20 #[.slice a l.length cap, .int .i64 c] w fun e w' => e = .returned (.int .i64 (findP l c)) ∧ Ext w w' := by
  go_enter Tryd.func20, Tryd.ntmps20
  go_wp2
  go_loopw [5] (fun i wr => ∃ k : Nat, k ≤ l.length ∧ i = .int .i64 k ∧ Ext w wr ∧ Hid (∀ (i : Nat) (p : Pr), i < k → l[i]? = some p → p.1 ≠ c)) (fun i _ => l.length - (intOf i).toNat)
  case atStart => exact ⟨0, by omega, rfl, Ext.refl _, fun i p h => by omega⟩
  case round =>
    obtain ⟨k, hk, rfl, hx, HN⟩ := hrel
    by_cases hlt : k < l.length
    · obtain ⟨x, off, rfl, hxl, hcell⟩ := pairs_at h (by omega)
      obtain ⟨p, hp⟩ : ∃ p, l[k]? = some p := ⟨l[k], by simp [hlt]⟩
      have hc := (hcell k p hp).1
      have hc0 := (World.cell?_of_block (w := w) (hx.block x hxl)).trans hc
      have HP := Lib.hid hp
      clear hcell hc hp
      by_cases hpc : p.1 = c
      · have HF : Hid (findP l c = (k : Int)) := by
          show findGo c 0 l = _
          rw [findGo_at c l 0 k HN.out p HP.out hpc]
          simp
        have HPC := Lib.hid hpc
        rw [hpc] at hc0
        clear hpc
        go_wp2
        go_ret
        exact ⟨by rw [HF.out]; rfl, hx⟩
      · have hpc2 : (p.1 == c) = false := by simpa using hpc
        have HPC := Lib.hid hpc
        generalize p.1 = q at hc0 hpc hpc2
        go_wp2
        go_roundw
        case rel =>
          refine ⟨k + 1, by omega, by go_num, hx, fun i r hi hr => ?_⟩
          by_cases e : i = k
          · subst e
            rw [HP.out] at hr
            cases hr
            exact HPC.out
          · exact HN.out i r (by omega) hr
        case measure => simp [intOf]; omega
    · have HF : Hid (findP l c = -1) := findGo_no c l 0 (fun i p hp => HN.out i p (by have := (List.getElem?_eq_some_iff.1 hp).1; omega) hp)
      go_wp2
      go_ret
      exact ⟨by rw [HF.out]; rfl, hx⟩
set_option maxRecDepth 100000 in
set_option maxHeartbeats 1000000 in
theorem rrev (a : Option Addr) (cap : Nat) (l : List Pr) (c : Int) (w : World) (h : IsPairs w a l.length cap l) (hl : l.length ≤ 1099511627776) :
    Calls Tryd.prog 22 #[.slice a l.length cap, .int .i32 c] w fun e w' => e = .returned (.int .i64 (revP l c)) ∧ Ext w w' := by
  go_enter Tryd.func22, Tryd.ntmps22
  go_wp2
  go_loopw [5] (fun i wr => ∃ k : Nat, k ≤ l.length ∧ i = .int .i64 k ∧ Ext w wr ∧ Hid (∀ (i : Nat) (p : Pr), i < k → l[i]? = some p → p.2 ≠ c)) (fun i _ => l.length - (intOf i).toNat)
  case atStart => exact ⟨0, by omega, rfl, Ext.refl _, fun i p h => by omega⟩
  case round =>
    obtain ⟨k, hk, rfl, hx, HN⟩ := hrel
    by_cases hlt : k < l.length
    · obtain ⟨x, off, rfl, hxl, hcell⟩ := pairs_at h (by omega)
      obtain ⟨p, hp⟩ : ∃ p, l[k]? = some p := ⟨l[k], by simp [hlt]⟩
      have hc := hcell k p hp
      have hc0 := (World.cell?_of_block (w := w) (hx.block x hxl)).trans hc.1
      have hc1 := (World.cell?_of_block (w := w) (hx.block x hxl)).trans hc.2
      have HP := Lib.hid hp
      clear hcell hc hp
      by_cases hpc : p.2 = c
      · have HF : Hid (revP l c = p.1) := revP_at c l k HN.out p HP.out hpc
        rw [hpc] at hc1
        clear hpc
        go_wp2
        go_ret
        exact ⟨by rw [HF.out]; rfl, hx⟩
      · have hpc2 : (p.2 == c) = false := by simpa using hpc
        have HPC := Lib.hid hpc
        generalize p.2 = q at hc1 hpc hpc2
        go_wp2
        go_roundw
        case rel =>
          refine ⟨k + 1, by omega, by go_num, hx, fun i r hi hr => ?_⟩
          by_cases e : i = k
          · subst e
            rw [HP.out] at hr
            cases hr
            exact HPC.out
          · exact HN.out i r (by omega) hr
        case measure => simp [intOf]; omega
    · have HF : Hid (revP l c = -1) := revP_no c l (fun i p hp => HN.out i p (by have := (List.getElem?_eq_some_iff.1 hp).1; omega) hp)
      go_wp2
      go_ret
      exact ⟨by rw [HF.out]; rfl, hx⟩
theorem own_drewN {w : World} {B : Nat} {e : TypeId} {size : Nat} {v : Value} {n : Nat} {xs : List Value} (h : w.ownsRow B e size v n xs) (k : Nat) : (w.drewN k).ownsRow B e size v n xs := h
/-- How far a pair is put in. -/
def PutTo (l : List Pr) (p : Pr) (k : Nat) (done : Bool) (out : List Pr) : Prop :=
  (done = false ∧ out = l.take k ∧ ∀ (i : Nat) (q : Pr), i < k → l[i]? = some q → ¬ p.1 < q.1) ∨ (done = true ∧ out ++ l.drop k = putP l p)
theorem PutTo.len {l : List Pr} {p : Pr} {k : Nat} {done : Bool} {out : List Pr} (h : PutTo l p k done out) (hk : k ≤ l.length) : out.length ≤ k + 1 := by
  rcases h with ⟨_, rfl, _⟩ | ⟨_, h2⟩
  · rw [List.length_take]; omega
  · have := congrArg List.length h2
    rw [putP_len, List.length_append, List.length_drop] at this
    omega
theorem PutTo.more {l : List Pr} {p : Pr} {k : Nat} {out : List Pr} (h : PutTo l p k true out) {q : Pr} (hq : l[k]? = some q) : PutTo l p (k + 1) true (out ++ [q]) := by
  rcases h with ⟨h1, _⟩ | ⟨_, h2⟩
  · cases h1
  · refine .inr ⟨rfl, ?_⟩
    obtain ⟨hlt, rfl⟩ := List.getElem?_eq_some_iff.1 hq
    rw [← h2, List.drop_eq_getElem_cons hlt, List.append_assoc]
    rfl
theorem PutTo.skip {l : List Pr} {p : Pr} {k : Nat} {out : List Pr} (h : PutTo l p k false out) {q : Pr} (hq : l[k]? = some q) (hn : ¬ p.1 < q.1) : PutTo l p (k + 1) false (out ++ [q]) := by
  rcases h with ⟨_, rfl, h2⟩ | ⟨h1, _⟩
  · refine .inl ⟨rfl, by rw [List.take_add_one, hq]; rfl, fun i r hi hr => ?_⟩
    by_cases e : i = k
    · subst e
      rw [hq] at hr
      cases hr
      exact hn
    · exact h2 i r (by omega) hr
  · cases h1
theorem PutTo.here {l : List Pr} {p : Pr} {k : Nat} {out : List Pr} (h : PutTo l p k false out) (hk : k ≤ l.length) (hq : ∀ q : Pr, l[k]? = some q → p.1 < q.1) : PutTo l p k true (out ++ [p]) := by
  rcases h with ⟨_, rfl, h2⟩ | ⟨h1, _⟩
  · refine .inr ⟨rfl, ?_⟩
    rw [putP_at p l k hk h2 hq, List.append_assoc]
    rfl
  · cases h1
set_option maxRecDepth 100000 in
set_option maxHeartbeats 2000000 in
theorem rput (a : Option Addr) (cap : Nat) (l : List Pr) (p : Pr) (w : World) (h : IsPairs w a l.length cap l) (hl : l.length ≤ 1000000000) :
    Calls Tryd.prog 46 #[.slice a l.length cap, .agg #[.int .i64 p.1, .int .i32 p.2]] w fun e w' => ∃ a' cap', e = .returned (.slice a' (l.length + 1) cap') ∧ IsPairs w' a' (l.length + 1) cap' (putP l p) ∧ Ext w w' := by
  obtain ⟨i0, hi, hz0, hz1, hz2⟩ := info_parts_pair
  obtain ⟨pc, pp⟩ := p
  have hB := heap_alloc_new w (.cells #[.int .i64 pc, .int .i32 pp] 42)
  go_enter Tryd.func46, Tryd.ntmps46
  go_wp2
  go_loopw [5, 6, 7] (fun v d i wr => ∃ (k : Nat) (done : Bool) (out : List Pr), k ≤ l.length ∧ i = .int .i64 k ∧ d = .bool done ∧ Ext (w.alloc (.cells #[.int .i64 pc, .int .i32 pp] 42)) wr ∧ wr.ownsRow (w.heap.size + 1) 42 2 v out.length (pairCells out) ∧ Hid (PutTo l (pc, pp) k done out)) (fun _ _ i _ => l.length - (intOf i).toNat)
  case atStart => exact ⟨0, false, [], by omega, rfl, rfl, Ext.refl _, World.ownsRow_nil _ _ _ _, .inl ⟨rfl, rfl, fun i q h => by omega⟩⟩
  case round =>
    obtain ⟨k, done, out, hk, rfl, rfl, hx, ho, HT⟩ := hrel
    have hol := HT.out.len hk
    have hbox : ∀ w', Ext (w.alloc (.cells #[.int .i64 pc, .int .i32 pp] 42)) w' → w'.cell? ⟨w.heap.size, 0, none⟩ = some (.int .i64 pc) ∧ w'.cell? ⟨w.heap.size, 1, none⟩ = some (.int .i32 pp) ∧ w.heap.size + 1 ≤ w'.heap.size := by
      intro w' hx
      have hb := (hx.block w.heap.size (by simp)).trans hB
      have hz := hx.size
      exact ⟨by simp [World.cell?, hb], by simp [World.cell?, hb], by simpa using hz⟩
    by_cases hlt : k < l.length
    · obtain ⟨x, off, rfl, hxl, hcell⟩ := pairs_at h (by omega)
      obtain ⟨q, hq⟩ : ∃ q, l[k]? = some q := ⟨l[k], by simp [hlt]⟩
      have hc := hcell k q hq
      obtain ⟨qc, qp⟩ := q
      have HC : Hid (∀ w', Ext (w.alloc (.cells #[.int .i64 pc, .int .i32 pp] 42)) w' → w'.cell? ⟨w.heap.size, 0, none⟩ = some (.int .i64 pc) ∧ w'.cell? ⟨w.heap.size, 1, none⟩ = some (.int .i32 pp) ∧ w.heap.size + 1 ≤ w'.heap.size ∧ w'.cell? ⟨x, off + k * 2, none⟩ = some (.int .i64 qc) ∧ w'.cell? ⟨x, off + k * 2 + 1, none⟩ = some (.int .i32 qp)) := by
        intro w' hx
        obtain ⟨b0, b1, b2⟩ := hbox w' hx
        have hxw : Ext w w' := ((Ext.refl w).alloc _).trans hx
        exact ⟨b0, b1, b2, (World.cell?_of_block (w := w) (hxw.block x hxl)).trans hc.1, (World.cell?_of_block (w := w) (hxw.block x hxl)).trans hc.2⟩
      have HQ := Lib.hid hq
      clear hcell hc hq hbox
      obtain ⟨b0, b1, hws, hc0, hc1⟩ := HC.out wr hx
      have hkb : (0 : Int) ≤ k := by omega
      have hkl2 : (k : Int) < l.length := by omega
      cases done
      · by_cases hpq : pc < qc
        · have HN := Lib.hid ((HT.out.here hk (fun r hr => by rw [HQ.out] at hr; cases hr; exact hpq)).more HQ.out)
          go_wp2
          go_quiet (fail)
          obtain ⟨wd, hwd⟩ : ∃ wd, wd = wr.drewN nq := ⟨_, rfl⟩
          have hxd := hx.drewN nq
          have hod := own_drewN ho nq
          rw [← hwd] at hxd hod ⊢
          clear hwd b0 b1 hws hc0 hc1 hx ho
          obtain ⟨b0, b1, hws, hc0, hc1⟩ := HC.out wd hxd
          go_wp2_with (first
            | (at_builtin; refine wpList_append_own _ rfl _ _ 33 rfl (w.heap.size + 1) 42 i0 (.agg #[.int .i64 0, .int .i32 0]) 2 16 Tryd.underlying33 hi hz0 hz1 hz2 rfl (by decide) _ _ _ rfl (hod.alloc _) ⟨wd.heap.size, 0, none⟩ 1 1 [.int .i64 pc, .int .i32 pp] rfl rfl (cell_two_new _ _ _ _) (fun x hx => by simp at hx; rcases hx with rfl | rfl <;> rfl) (by unfold maxLen; omega) (by omega) (by simp; omega) ?_; intro v4 w4 hown4 hgrow4 hnil4; clear hnil4; have hx4 := hxd.own hod (by simp) hgrow4; clear b0 b1 hws hc0 hc1 hgrow4 hod hxd; obtain ⟨b0, b1, hws, hc0, hc1⟩ := HC.out w4 hx4)
            | (at_builtin; refine wpList_append_own _ rfl _ _ 33 rfl (w.heap.size + 1) 42 i0 (.agg #[.int .i64 0, .int .i32 0]) 2 16 Tryd.underlying33 hi hz0 hz1 hz2 rfl (by decide) _ _ _ rfl (hown4.alloc _) ⟨w4.heap.size, 0, none⟩ 1 1 [.int .i64 qc, .int .i32 qp] rfl rfl (cell_two_new _ _ _ _) (fun x hx => by simp at hx; rcases hx with rfl | rfl <;> rfl) (by unfold maxLen; omega) (by omega) (by simp; omega) ?_; intro v5 w5 hown5 hgrow5 hnil5; clear hnil5; have hx5 := hx4.own hown4 (by simp) hgrow5; clear b0 b1 hws hc0 hc1 hgrow5 hown4 hx4))
          go_roundw
          case rel =>
            refine ⟨k + 1, true, out ++ [(pc, pp)] ++ [(qc, qp)], by omega, by go_num, rfl, hx5, ?_, HN.out⟩
            rw [pairCells_app, pairCells_app, pairCells_one, pairCells_one, List.length_append, List.length_append]
            exact hown5
          case measure => simp [intOf]; omega
        · have hpq2 : decide (pc < qc) = false := decide_eq_false hpq
          have HN := Lib.hid (HT.out.skip HQ.out hpq)
          go_wp2
          go_quiet (fail)
          obtain ⟨wd, hwd⟩ : ∃ wd, wd = wr.drewN nq := ⟨_, rfl⟩
          have hxd := hx.drewN nq
          have hod := own_drewN ho nq
          rw [← hwd] at hxd hod ⊢
          clear hwd b0 b1 hws hc0 hc1 hx ho
          obtain ⟨b0, b1, hws, hc0, hc1⟩ := HC.out wd hxd
          go_wp2_with ((at_builtin; refine wpList_append_own _ rfl _ _ 33 rfl (w.heap.size + 1) 42 i0 (.agg #[.int .i64 0, .int .i32 0]) 2 16 Tryd.underlying33 hi hz0 hz1 hz2 rfl (by decide) _ _ _ rfl (hod.alloc _) ⟨wd.heap.size, 0, none⟩ 1 1 [.int .i64 qc, .int .i32 qp] rfl rfl (cell_two_new _ _ _ _) (fun x hx => by simp at hx; rcases hx with rfl | rfl <;> rfl) (by unfold maxLen; omega) (by omega) (by simp; omega) ?_; intro v5 w5 hown5 hgrow5 hnil5; clear hnil5; have hx5 := hxd.own hod (by simp) hgrow5; clear b0 b1 hws hc0 hc1 hgrow5 hod hxd))
          go_roundw
          case rel =>
            refine ⟨k + 1, false, out ++ [(qc, qp)], by omega, by go_num, rfl, hx5, ?_, HN.out⟩
            rw [pairCells_app, pairCells_one, List.length_append]
            exact hown5
          case measure => simp [intOf]; omega
      · have HN := Lib.hid (HT.out.more HQ.out)
        go_wp2
        go_quiet (fail)
        obtain ⟨wd, hwd⟩ : ∃ wd, wd = wr.drewN nq := ⟨_, rfl⟩
        have hxd := hx.drewN nq
        have hod := own_drewN ho nq
        rw [← hwd] at hxd hod ⊢
        clear hwd b0 b1 hws hc0 hc1 hx ho
        obtain ⟨b0, b1, hws, hc0, hc1⟩ := HC.out wd hxd
        go_wp2_with ((at_builtin; refine wpList_append_own _ rfl _ _ 33 rfl (w.heap.size + 1) 42 i0 (.agg #[.int .i64 0, .int .i32 0]) 2 16 Tryd.underlying33 hi hz0 hz1 hz2 rfl (by decide) _ _ _ rfl (hod.alloc _) ⟨wd.heap.size, 0, none⟩ 1 1 [.int .i64 qc, .int .i32 qp] rfl rfl (cell_two_new _ _ _ _) (fun x hx => by simp at hx; rcases hx with rfl | rfl <;> rfl) (by unfold maxLen; omega) (by omega) (by simp; omega) ?_; intro v5 w5 hown5 hgrow5 hnil5; clear hnil5; have hx5 := hxd.own hod (by simp) hgrow5; clear b0 b1 hws hc0 hc1 hgrow5 hod hxd))
        go_roundw
        case rel =>
          refine ⟨k + 1, true, out ++ [(qc, qp)], by omega, by go_num, rfl, hx5, ?_, HN.out⟩
          rw [pairCells_app, pairCells_one, List.length_append]
          exact hown5
        case measure => simp [intOf]; omega
    · have hkl : k = l.length := by omega
      subst hkl
      obtain ⟨b0, b1, hws⟩ := hbox wr hx
      cases done
      · have HN := Lib.hid (HT.out.here hk (fun r hr => by simp at hr))
        have hfin : out ++ [(pc, pp)] = putP l (pc, pp) := by
          rcases HN.out with ⟨h1, _⟩ | ⟨_, h2⟩
          · cases h1
          · rw [List.drop_length, List.append_nil] at h2
            exact h2
        have hln : out.length + 1 = l.length + 1 := by rw [← putP_len l (pc, pp), ← hfin]; simp
        have HF := Lib.hid hfin
        clear hfin hbox
        go_wp2_with ((at_builtin; refine wpList_append_own _ rfl _ _ 33 rfl (w.heap.size + 1) 42 i0 (.agg #[.int .i64 0, .int .i32 0]) 2 16 Tryd.underlying33 hi hz0 hz1 hz2 rfl (by decide) _ _ _ rfl (ho.alloc _) ⟨wr.heap.size, 0, none⟩ 1 1 [.int .i64 pc, .int .i32 pp] rfl rfl (cell_two_new _ _ _ _) (fun x hx => by simp at hx; rcases hx with rfl | rfl <;> rfl) (by unfold maxLen; omega) (by omega) (by simp; omega) ?_; intro v5 w5 hown5 hgrow5 hnil5; clear hnil5; have hx5 := hx.own ho (by simp) hgrow5; clear b0 b1 hws hgrow5 ho hx))
        rw [hln] at hown5
        have hown6 : w5.ownsRow (w.heap.size + 1) 42 2 v5 (l.length + 1) (pairCells (putP l (pc, pp))) := by
          rw [← HF.out, pairCells_app, pairCells_one]
          exact hown5
        obtain ⟨a', cap', rfl, hrow⟩ := own_pairs hown6
        clear hown5 hown6 hln
        go_wp2
        go_ret
        exact ⟨a', cap', rfl, hrow, ((Ext.refl w).alloc _).trans hx5⟩
      · have hfin : out = putP l (pc, pp) := by
          rcases HT.out with ⟨h1, _⟩ | ⟨_, h2⟩
          · cases h1
          · rw [List.drop_length, List.append_nil] at h2
            exact h2
        subst hfin
        rw [putP_len] at ho
        obtain ⟨a', cap', rfl, hrow⟩ := own_pairs ho
        clear ho hbox
        go_wp2
        go_ret
        exact ⟨a', cap', rfl, hrow, ((Ext.refl w).alloc _).trans hx⟩
end Go.Proofs.YtjlghdlbkibneaaDoor
namespace Go.Proofs.YtjlghdlbkibneaaDoor
open Go Go.ChangeShapes Go.WideShapes Go.ChangeAt Go.RowKit
set_option linter.unusedSimpArgs false
set_option linter.unusedVariables false

theorem joinP_some {l more r : List Pr} (h : joinP l more = some r) : (∀ (i : Nat) (q : Pr), more[i]? = some q → findP l q.1 < 0) ∧ more.foldl putP l = r := by
  unfold joinP at h
  split at h
  · cases h
  · rename_i hn
    refine ⟨fun i q hq => ?_, Option.some.inj h⟩
    have : (more.any fun q => decide (0 ≤ findP l q.1)) = false := by simpa using hn
    rw [List.any_eq_false] at this
    have := this q (List.mem_of_getElem? hq)
    simp at this
    omega
theorem joinP_none {l more : List Pr} (h : joinP l more = none) : ∃ (i : Nat) (q : Pr), more[i]? = some q ∧ 0 ≤ findP l q.1 := by
  unfold joinP at h
  split at h
  · rename_i hn
    rw [List.any_eq_true] at hn
    obtain ⟨q, hq, hd⟩ := hn
    obtain ⟨i, hi⟩ := List.getElem?_of_mem hq
    exact ⟨i, q, hi, by simpa using hd⟩
  · cases h
theorem foldl_put_len : ∀ (more l : List Pr), (more.foldl putP l).length = l.length + more.length
  | [], l => rfl
  | q :: more, l => by
    rw [List.foldl_cons, foldl_put_len more, putP_len, List.length_cons]
    omega
theorem foldl_take_succ {f : List Pr → Pr → List Pr} {more l : List Pr} {k : Nat} {q : Pr} (h : more[k]? = some q) : (more.take (k + 1)).foldl f l = f ((more.take k).foldl f l) q := by
  rw [List.take_add_one, h]
  simp
set_option maxRecDepth 100000 in
set_option maxHeartbeats 1000000 in
theorem rjoin_no (a : Option Addr) (cap : Nat) (l : List Pr) (a2 : Option Addr) (cap2 : Nat) (more : List Pr) (w : World) (h : IsPairs w a l.length cap l) (h2 : IsPairs w a2 more.length cap2 more) (hl : l.length ≤ 100000000) (hm : more.length ≤ 100000000) (hj : joinP l more = none) :
    Calls Tryd.prog 43 #[.slice a l.length cap, .slice a2 more.length cap2] w fun e w' => e = .returned (.tuple #[.slice none 0 0, .bool false]) ∧ Ext w w' := by
  have HJ := Lib.hid (joinP_none hj)
  clear hj
  go_enter Tryd.func43, Tryd.ntmps43
  go_wp2
  go_loopw [6] (fun i wr => ∃ k : Nat, k ≤ more.length ∧ i = .int .i64 k ∧ Ext w wr ∧ Hid (∀ (i : Nat) (q : Pr), i < k → more[i]? = some q → findP l q.1 < 0)) (fun i _ => more.length - (intOf i).toNat)
  case atStart => exact ⟨0, by omega, rfl, Ext.refl _, fun i q h => by omega⟩
  case round =>
    obtain ⟨k, hk, rfl, hx, HN⟩ := hrel
    by_cases hlt : k < more.length
    · obtain ⟨x, off, rfl, hxl, hcell⟩ := pairs_at h2 (by omega)
      obtain ⟨q, hq⟩ : ∃ q, more[k]? = some q := ⟨more[k], by simp [hlt]⟩
      have hc0 := (World.cell?_of_block (w := w) (hx.block x hxl)).trans (hcell k q hq).1
      have HQ := Lib.hid hq
      have HFn := Lib.hid (rfind a cap l q.1 wr (h.ext hx) (by omega))
      clear hcell hq
      by_cases hf : findP l q.1 < 0
      · have HX := Lib.hid hf
        generalize findP l q.1 = v at HFn hf
        go_wp2_with (go_at_call 20; refine HFn.out.mono ?_; rintro e w2 ⟨rfl, hb2⟩)
        go_roundw
        case rel =>
          refine ⟨k + 1, by omega, by go_num, hx.trans hb2, fun i r hi hr => ?_⟩
          by_cases e : i = k
          · subst e
            rw [HQ.out] at hr
            cases hr
            exact HX.out
          · exact HN.out i r (by omega) hr
        case measure => simp [intOf]; omega
      · have hf2 : 0 ≤ findP l q.1 := by omega
        generalize findP l q.1 = v at HFn hf hf2
        go_wp2_with (go_at_call 20; refine HFn.out.mono ?_; rintro e w2 ⟨rfl, hb2⟩)
        go_ret2
        exact ⟨rfl, hx.trans hb2⟩
    · exfalso
      obtain ⟨i, q, hq, hf⟩ := HJ.out
      have := HN.out i q (by have := (List.getElem?_eq_some_iff.1 hq).1; omega) hq
      omega
set_option maxRecDepth 100000 in
set_option maxHeartbeats 2000000 in
theorem rjoin_yes (a : Option Addr) (cap : Nat) (l : List Pr) (a2 : Option Addr) (cap2 : Nat) (more r : List Pr) (w : World) (h : IsPairs w a l.length cap l) (h2 : IsPairs w a2 more.length cap2 more) (hl : l.length ≤ 100000000) (hm : more.length ≤ 100000000) (hj : joinP l more = some r) :
    Calls Tryd.prog 43 #[.slice a l.length cap, .slice a2 more.length cap2] w fun e w' => ∃ a' cap', e = .returned (.tuple #[.slice a' r.length cap', .bool true]) ∧ IsPairs w' a' r.length cap' r ∧ Ext w w' := by
  obtain ⟨hn, hr⟩ := joinP_some hj
  have HN := Lib.hid hn
  have HR := Lib.hid hr
  clear hj hn hr
  go_enter Tryd.func43, Tryd.ntmps43
  go_wp2
  go_loopw [6] (fun i wr => ∃ k : Nat, k ≤ more.length ∧ i = .int .i64 k ∧ Ext w wr) (fun i _ => more.length - (intOf i).toNat)
  case atStart => exact ⟨0, by omega, rfl, Ext.refl _⟩
  case round =>
    obtain ⟨k, hk, rfl, hx⟩ := hrel
    by_cases hlt : k < more.length
    · obtain ⟨x, off, rfl, hxl, hcell⟩ := pairs_at h2 (by omega)
      obtain ⟨q, hq⟩ : ∃ q, more[k]? = some q := ⟨more[k], by simp [hlt]⟩
      have hc0 := (World.cell?_of_block (w := w) (hx.block x hxl)).trans (hcell k q hq).1
      have HFn := Lib.hid (rfind a cap l q.1 wr (h.ext hx) (by omega))
      have hf := HN.out k q hq
      clear hcell hq
      generalize findP l q.1 = v at HFn hf
      go_wp2_with (go_at_call 20; refine HFn.out.mono ?_; rintro e w2 ⟨rfl, hb2⟩)
      go_roundw
      case rel => exact ⟨k + 1, by omega, by go_num, hx.trans hb2⟩
      case measure => simp [intOf]; omega
    · obtain ⟨wo, hwo⟩ : ∃ wo, wo = wr := ⟨_, rfl⟩
      have hxo : Ext w wo := by rw [hwo]; exact hx
      rw [← hwo]
      clear hwo hx
      go_wp2
      go_loopw [0, 7] (fun v i wr => ∃ (k : Nat) (a' : Option Addr) (cap' : Nat) (cur : List Pr), k ≤ more.length ∧ i = .int .i64 k ∧ v = .slice a' cur.length cap' ∧ Ext wo wr ∧ IsPairs wr a' cur.length cap' cur ∧ Hid (cur = (more.take k).foldl putP l)) (fun _ i _ => more.length - (intOf i).toNat)
      case atStart => exact ⟨0, a, cap, l, by omega, rfl, rfl, Ext.refl _, h.ext hxo, rfl⟩
      case round =>
        obtain ⟨k2, a', cap', cur, hk2, rfl, rfl, hx, hrow, HC⟩ := hrel
        have hcl : cur.length = l.length + k2 := by rw [HC.out, foldl_put_len, List.length_take]; omega
        have hcb : cur.length ≤ 1000000000 := by omega
        have HCL := Lib.hid hcl
        clear hcl
        by_cases hlt2 : k2 < more.length
        · obtain ⟨x, off, rfl, hxl, hcell⟩ := pairs_at h2 (by omega)
          obtain ⟨q, hq⟩ : ∃ q, more[k2]? = some q := ⟨more[k2], by simp [hlt2]⟩
          have hc := hcell k2 q hq
          have hxw := hxo.trans hx
          have hc0 := (World.cell?_of_block (w := w) (hxw.block x hxl)).trans hc.1
          have hc1 := (World.cell?_of_block (w := w) (hxw.block x hxl)).trans hc.2
          have HP := Lib.hid (rput a' cap' cur q wr hrow hcb)
          have HS : Hid (putP cur q = (more.take (k2 + 1)).foldl putP l) := by show _ = _; rw [foldl_take_succ hq, HC.out]
          have hpl : (putP cur q).length = cur.length + 1 := putP_len cur q
          have HPL := Lib.hid hpl
          clear hcell hc hq hpl
          go_wp2_with (go_at_call 46; refine HP.out.mono ?_; rintro e w3 ⟨a3, cap3, rfl, hrow3, hb3⟩)
          go_roundw
          case rel => exact ⟨k2 + 1, a3, cap3, putP cur q, by omega, by go_num, by rw [HPL.out], hx.trans hb3, by rw [HPL.out]; exact hrow3, HS⟩
          case measure => simp [intOf]; omega
        · have hcr : cur = r := by have := HC.out; rw [List.take_of_length_le (by omega), HR.out] at this; exact this
          subst hcr
          clear HC HCL
          go_wp2
          go_ret2
          exact ⟨a', cap', rfl, hrow, hxo.trans hx⟩
theorem overP_len (l : List Pr) : ∀ (other out : List Pr), (other.foldl (fun out q => if findP l q.1 < 0 then putP out q else out) out).length ≤ out.length + other.length
  | [], out => Nat.le_refl _
  | q :: other, out => by
    have := overP_len l other (if findP l q.1 < 0 then putP out q else out)
    rw [List.foldl_cons, List.length_cons]
    have h2 : (if findP l q.1 < 0 then putP out q else out).length ≤ out.length + 1 := by
      split
      · rw [putP_len]; exact Nat.le_refl _
      · omega
    omega
set_option maxRecDepth 100000 in
set_option maxHeartbeats 2000000 in
theorem rover (a : Option Addr) (cap : Nat) (l : List Pr) (a2 : Option Addr) (cap2 : Nat) (other : List Pr) (w : World) (h : IsPairs w a l.length cap l) (h2 : IsPairs w a2 other.length cap2 other) (hl : l.length ≤ 100000000) (hm : other.length ≤ 100000000) :
    Calls Tryd.prog 24 #[.slice a l.length cap, .slice a2 other.length cap2] w fun e w' => ∃ a' cap', e = .returned (.slice a' (overP l other).length cap') ∧ IsPairs w' a' (overP l other).length cap' (overP l other) ∧ Ext w w' := by
  go_enter Tryd.func24, Tryd.ntmps24
  go_wp2
  go_loopw [5, 6] (fun v i wr => ∃ (k : Nat) (a' : Option Addr) (cap' : Nat) (cur : List Pr), k ≤ other.length ∧ i = .int .i64 k ∧ v = .slice a' cur.length cap' ∧ Ext w wr ∧ IsPairs wr a' cur.length cap' cur ∧ Hid (cur = (other.take k).foldl (fun out q => if findP l q.1 < 0 then putP out q else out) l)) (fun _ i _ => other.length - (intOf i).toNat)
  case atStart => exact ⟨0, a, cap, l, by omega, rfl, rfl, Ext.refl _, h, rfl⟩
  case round =>
    obtain ⟨k, a', cap', cur, hk, rfl, rfl, hx, hrow, HC⟩ := hrel
    have hcb : cur.length ≤ 1000000000 := by
      have := overP_len l (other.take k) l
      rw [← HC.out, List.length_take] at this
      omega
    by_cases hlt : k < other.length
    · obtain ⟨x, off, rfl, hxl, hcell⟩ := pairs_at h2 (by omega)
      obtain ⟨q, hq⟩ : ∃ q, other[k]? = some q := ⟨other[k], by simp [hlt]⟩
      have hc := hcell k q hq
      have HCC : Hid (∀ w', Ext w w' → w'.cell? ⟨x, off + k * 2, none⟩ = some (.int .i64 q.1) ∧ w'.cell? ⟨x, off + k * 2 + 1, none⟩ = some (.int .i32 q.2)) := fun w' hx => ⟨(World.cell?_of_block (w := w) (hx.block x hxl)).trans hc.1, (World.cell?_of_block (w := w) (hx.block x hxl)).trans hc.2⟩
      obtain ⟨hc0, hc1⟩ := HCC.out wr hx
      have HFn := Lib.hid (rfind a cap l q.1 wr (h.ext hx) (by omega))
      by_cases hf : findP l q.1 < 0
      · have HS : Hid (putP cur q = (other.take (k + 1)).foldl (fun out q => if findP l q.1 < 0 then putP out q else out) l) := by show _ = _; rw [foldl_take_succ hq, ← HC.out, if_pos hf]
        have HP : Hid (∀ w', Ext wr w' → _) := fun w' hx' => rput a' cap' cur q w' (hrow.ext hx') hcb
        have HPL := Lib.hid (putP_len cur q)
        clear hcell hc hq
        generalize findP l q.1 = v at HFn hf
        go_wp2_with (first
          | (go_at_call 20; refine HFn.out.mono ?_; rintro e w2 ⟨rfl, hb2⟩; clear hc0 hc1; obtain ⟨hc0, hc1⟩ := HCC.out _ (hx.trans hb2))
          | (go_at_call 46; refine (HP.out _ hb2).mono ?_; rintro e w3 ⟨a3, cap3, rfl, hrow3, hb3⟩))
        go_roundw
        case rel => exact ⟨k + 1, a3, cap3, putP cur q, by omega, by go_num, by rw [HPL.out], (hx.trans hb2).trans hb3, by rw [HPL.out]; exact hrow3, HS⟩
        case measure => simp [intOf]; omega
      · have HS : Hid (cur = (other.take (k + 1)).foldl (fun out q => if findP l q.1 < 0 then putP out q else out) l) := by show _ = _; rw [foldl_take_succ hq, ← HC.out, if_neg hf]
        clear hcell hc hq
        generalize findP l q.1 = v at HFn hf
        go_wp2_with (go_at_call 20; refine HFn.out.mono ?_; rintro e w2 ⟨rfl, hb2⟩)
        go_roundw
        case rel => exact ⟨k + 1, a', cap', cur, by omega, by go_num, rfl, hx.trans hb2, hrow.ext hb2, HS⟩
        case measure => simp [intOf]; omega
    · have hcr : cur = overP l other := by have := HC.out; rw [List.take_of_length_le (by omega)] at this; exact this
      subst hcr
      clear HC
      go_wp2
      go_ret
      exact ⟨a', cap', rfl, hrow, hx⟩
end Go.Proofs.YtjlghdlbkibneaaDoor
namespace Go.Proofs.YtjlghdlbkibneaaDoor
open Go Go.ChangeShapes Go.WideShapes Go.ChangeAt Go.RowKit
set_option linter.unusedSimpArgs false
set_option linter.unusedVariables false

/-- So many codes from one on, with their signs. -/
def pairsN (from0 : Int) (f : Nat → Int) (n : Nat) : List Pr := (List.range n).map fun (i : Nat) => (from0 + (i : Int), f i)
theorem pairsN_succ (from0 : Int) (f : Nat → Int) (n : Nat) : pairsN from0 f (n + 1) = pairsN from0 f n ++ [(from0 + (n : Int), f n)] := by simp [pairsN, List.range_succ]
theorem pairsN_len (from0 : Int) (f : Nat → Int) (n : Nat) : (pairsN from0 f n).length = n := by simp [pairsN]
theorem pairsN_get (from0 : Int) (f : Nat → Int) (n i : Nat) (h : i < n) : (pairsN from0 f n)[i]? = some (from0 + (i : Int), f i) := by
  unfold pairsN
  rw [List.getElem?_map, List.getElem?_range h]
  rfl
theorem row_cell' {w : World} {a : Option Addr} {n cap : Nat} {zs : List Int} (h : IsRow w a n cap zs) {k : Nat} (hk : k < n) : ∃ x off, a = some ⟨x, off, none⟩ ∧ x < w.heap.size ∧ ∃ p, zs[k]? = some p ∧ w.cell? ⟨x, off + k, none⟩ = some (.int .i32 p) := by
  obtain ⟨h1, h2⟩ := h
  rcases h2 with h2 | ⟨x, off, rfl, hc, hcell⟩
  · omega
  · have hkl : k < zs.length := by omega
    have e : zs[k]? = some zs[k] := by simp [hkl]
    exact ⟨x, off, rfl, World.block_lt_of_cell? w _ (hcell k _ e), _, e, hcell k _ e⟩
/-- A text's signs. -/
def sgn (t : ByteArray) : List Int := runesL t.data.toList
theorem sgn_len (t : ByteArray) : (sgn t).length ≤ t.size := by
  have := Lib.runeCount_le t
  rwa [runeCount_eq] at this
/-- A piece's pairs. -/
def pieceP (from0 tz cnt : Int) (t : ByteArray) : Option (List Pr) :=
  if t.data.toList = [] then
    if from0 < 0 ∨ cnt < 1 ∨ 1048576 < cnt ∨ 1048576 - cnt < from0 ∨ isSign tz = false ∨ isSign (tz + cnt - 1) = false ∨ (tz < 55296 ∧ 57343 < tz + cnt - 1) then none
    else some (pairsN from0 (fun (i : Nat) => tz + (i : Int)) cnt.toNat)
  else if ¬ badS t < 0 ∨ from0 < 0 ∨ 1048576 - ((sgn t).length : Int) < from0 then none
  else some (pairsN from0 (fun (i : Nat) => (sgn t).getD i 0) (sgn t).length)
theorem rscalar_at {p : Int} {c : Bool} (h : isSign p = c) (w : World) : Calls Tryd.prog 69 #[.int .i32 p] w fun e w' => e = .returned (.bool c) ∧ w = w' := by
  have := rscalar_any p w
  rwa [h] at this
theorem ne_facts {t : ByteArray} (h : t.data.toList ≠ []) : t.toList.isEmpty = false ∧ (t.toList == []) = false ∧ ¬ t.toList = [] := by
  rw [ByteArray.toList_eq]
  exact ⟨by simpa using h, beq_false_of_ne h, h⟩
set_option maxRecDepth 100000 in
set_option maxHeartbeats 1000000 in
theorem rpiece_tno (from0 tz cnt : Int) (t : ByteArray) (w : World) (ht : t.size ≤ 1000000000) (hn : t.data.toList ≠ []) (h : ¬ badS t < 0 ∨ from0 < 0 ∨ 1048576 - ((sgn t).length : Int) < from0) :
    Calls Tryd.prog 42 #[.int .i64 from0, .int .i32 tz, .int .i64 cnt, .string t] w fun e w' => e = .returned (.tuple #[.slice none 0 0, .bool false]) ∧ Ext w w' := by
  obtain ⟨n1, n2, n3⟩ := ne_facts hn
  clear hn
  by_cases hb : badS t < 0
  · have HP := Lib.hid (fun w => rpoints_ok t w (by omega) hb)
    have hsl := sgn_len t
    have HP : Hid (∀ w, Calls Tryd.prog 33 #[.string t] w fun e w' => ∃ a cap, e = .returned (.tuple #[.slice a (sgn t).length cap, .int .i64 (-1)]) ∧ IsRow w' a (sgn t).length cap (sgn t) ∧ Ext w w') := HP
    generalize sgn t = zs at HP hsl h
    by_cases h0 : from0 < 0
    · clear h
      go_enter Tryd.func42, Tryd.ntmps42
      go_wp2_with (go_at_call 33; refine (HP.out _).mono ?_; rintro e w1 ⟨a, c, rfl, hr, hb1⟩)
      go_ret2
      exact ⟨rfl, hb1⟩
    · have h1 : 1048576 - (zs.length : Int) < from0 := by rcases h with h | h | h <;> first | exact absurd hb h | exact absurd h h0 | exact h
      clear h
      go_enter Tryd.func42, Tryd.ntmps42
      go_wp2_with (go_at_call 33; refine (HP.out _).mono ?_; rintro e w1 ⟨a, c, rfl, hr, hb1⟩)
      go_ret2
      exact ⟨rfl, hb1⟩
  · have HP := Lib.hid (fun w => rpoints_bad t w (by omega) hb)
    clear h
    have hb2 : 0 ≤ badS t := by omega
    generalize badS t = b at HP hb hb2
    go_enter Tryd.func42, Tryd.ntmps42
    go_wp2_with (go_at_call 33; refine (HP.out _).mono ?_; rintro e w1 ⟨rfl, hb1⟩)
    go_ret2
    exact ⟨rfl, hb1⟩
set_option maxRecDepth 100000 in
set_option maxHeartbeats 1000000 in
theorem rpiece_sno (from0 tz cnt : Int) (w : World) (h : from0 < 0 ∨ cnt < 1 ∨ 1048576 < cnt ∨ 1048576 - cnt < from0 ∨ isSign tz = false ∨ isSign (tz + cnt - 1) = false ∨ (tz < 55296 ∧ 57343 < tz + cnt - 1)) :
    Calls Tryd.prog 42 #[.int .i64 from0, .int .i32 tz, .int .i64 cnt, .string ⟨#[]⟩] w fun e w' => e = .returned (.tuple #[.slice none 0 0, .bool false]) ∧ Ext w w' := by
  by_cases h0 : from0 < 0
  · clear h
    go_enter Tryd.func42, Tryd.ntmps42
    go_wp2
    go_ret2
    exact ⟨rfl, Ext.refl _⟩
  by_cases h1 : cnt < 1
  · clear h
    go_enter Tryd.func42, Tryd.ntmps42
    go_wp2
    go_ret2
    exact ⟨rfl, Ext.refl _⟩
  by_cases h2 : 1048576 < cnt
  · clear h
    go_enter Tryd.func42, Tryd.ntmps42
    go_wp2
    go_ret2
    exact ⟨rfl, Ext.refl _⟩
  by_cases h3 : 1048576 - cnt < from0
  · clear h
    go_enter Tryd.func42, Tryd.ntmps42
    go_wp2
    go_ret2
    exact ⟨rfl, Ext.refl _⟩
  cases h4 : isSign tz
  · have HS := Lib.hid (fun w => rscalar_at h4 w)
    clear h h4
    go_enter Tryd.func42, Tryd.ntmps42
    go_wp2_with (go_at_call 69; refine (HS.out _).mono ?_; rintro e w1 ⟨rfl, rfl⟩)
    go_ret2
    exact ⟨rfl, Ext.refl _⟩
  have hto := (isSign_iff tz).1 h4
  have ht0 : 0 ≤ tz := by omega
  have ht1 : tz ≤ 1114111 := by omega
  have HS := Lib.hid (fun w => rscalar_at h4 w)
  cases h5 : isSign (tz + cnt - 1)
  · have HS2 := Lib.hid (fun w => rscalar_at h5 w)
    clear h h4 h5 hto
    go_enter Tryd.func42, Tryd.ntmps42
    go_wp2_with (first
      | (go_at_call 69; refine (HS.out _).mono ?_; rintro e w1 ⟨rfl, rfl⟩; clear HS)
      | (go_at_call 69; refine (HS2.out _).mono ?_; rintro e w1 ⟨rfl, rfl⟩))
    go_ret2
    exact ⟨rfl, Ext.refl _⟩
  · have HS2 := Lib.hid (fun w => rscalar_at h5 w)
    rw [h4, h5] at h
    have h6 : tz < 55296 ∧ 57343 < tz + cnt - 1 := by
      rcases h with h | h | h | h | h | h | h
      · exact absurd h h0
      · exact absurd h h1
      · exact absurd h h2
      · exact absurd h h3
      · cases h
      · cases h
      · exact h
    obtain ⟨h6, h7⟩ := h6
    clear h h4 h5 hto
    go_enter Tryd.func42, Tryd.ntmps42
    go_wp2_with (first
      | (go_at_call 69; refine (HS.out _).mono ?_; rintro e w1 ⟨rfl, rfl⟩; clear HS)
      | (go_at_call 69; refine (HS2.out _).mono ?_; rintro e w1 ⟨rfl, rfl⟩))
    go_ret2
    exact ⟨rfl, Ext.refl _⟩
set_option maxRecDepth 100000 in
set_option maxHeartbeats 2000000 in
theorem rpiece_tyes (from0 tz cnt : Int) (t : ByteArray) (w : World) (ht : t.size ≤ 1000000) (hn : t.data.toList ≠ []) (hb : badS t < 0) (h0 : ¬ from0 < 0) (h1 : ¬ 1048576 - ((sgn t).length : Int) < from0) :
    Calls Tryd.prog 42 #[.int .i64 from0, .int .i32 tz, .int .i64 cnt, .string t] w fun e w' => ∃ a cap, e = .returned (.tuple #[.slice a (sgn t).length cap, .bool true]) ∧ IsPairs w' a (sgn t).length cap (pairsN from0 (fun (i : Nat) => (sgn t).getD i 0) (sgn t).length) ∧ Ext w w' := by
  obtain ⟨n1, n2, n3⟩ := ne_facts hn
  obtain ⟨i0, hi, hz0, hz1, hz2⟩ := info_parts_pair
  have hsl := sgn_len t
  have HP : Hid (∀ w, Calls Tryd.prog 33 #[.string t] w fun e w' => ∃ a cap, e = .returned (.tuple #[.slice a (sgn t).length cap, .int .i64 (-1)]) ∧ IsRow w' a (sgn t).length cap (sgn t) ∧ Ext w w') := fun w => rpoints_ok t w (by omega) hb
  clear hn hb
  generalize sgn t = zs at HP hsl h1 ⊢
  have h2 : 0 ≤ from0 := by omega
  have h3 : from0 + zs.length ≤ 1048576 := by omega
  go_enter Tryd.func42, Tryd.ntmps42
  go_wp2_with (go_at_call 33; refine (HP.out _).mono ?_; rintro e w1 ⟨a, c, rfl, hr, hb1⟩)
  go_loopw [12, 13] (fun v i wr => ∃ k : Nat, k ≤ zs.length ∧ i = .int .i64 k ∧ Ext w1 wr ∧ wr.ownsRow w1.heap.size 42 2 v k (pairCells (pairsN from0 (fun (i : Nat) => zs.getD i 0) k))) (fun _ i _ => zs.length - (intOf i).toNat)
  case atStart => exact ⟨0, by omega, rfl, Ext.refl _, World.ownsRow_nil _ _ _ _⟩
  case round =>
    obtain ⟨k, hk, rfl, hx, ho⟩ := hrel
    have hle := hx.size
    by_cases hlt : k < zs.length
    · obtain ⟨x, off, rfl, hxl, p, hp, hc⟩ := row_cell' hr hlt
      have hc0 := (World.cell?_of_block (w := w1) (hx.block x hxl)).trans hc
      have hpd : zs.getD k 0 = p := by simp [List.getD, hp]
      have HPD := Lib.hid hpd
      clear hc hp hpd
      go_wp2_with ((at_builtin; refine wpList_append_own _ rfl _ _ 33 rfl (w1.heap.size) 42 i0 (.agg #[.int .i64 0, .int .i32 0]) 2 16 Tryd.underlying33 hi hz0 hz1 hz2 rfl (by decide) _ _ _ rfl (ho.alloc _) ⟨wr.heap.size, 0, none⟩ 1 1 [.int .i64 (from0 + (k : Int)), .int .i32 p] rfl rfl (cell_two_new _ _ _ _) (fun x hx => by simp at hx; rcases hx with rfl | rfl <;> rfl) (by unfold maxLen; omega) (by omega) (by simp; omega) ?_; intro v5 w5 hown5 hgrow5 hnil5; clear hnil5; have hx5 := hx.own ho (Nat.le_refl _) hgrow5; clear hgrow5))
      go_roundw
      case rel =>
        refine ⟨k + 1, by omega, by go_num, hx5, ?_⟩
        rw [pairsN_succ, pairCells_app, pairCells_one, HPD.out]
        exact hown5
      case measure => simp [intOf]; omega
    · have hkl : k = zs.length := by omega
      subst hkl
      obtain ⟨a', cap', rfl, hrow⟩ := own_pairs ho
      clear ho
      go_wp2
      go_ret2
      exact ⟨a', cap', rfl, hrow, hb1.trans hx⟩
set_option maxRecDepth 100000 in
set_option maxHeartbeats 2000000 in
theorem rpiece_syes (from0 tz : Int) (n : Nat) (w : World) (h0 : 0 ≤ from0) (h1 : 1 ≤ n) (h2 : n ≤ 1048576) (h3 : from0 + n ≤ 1048576) (h4 : isSign tz = true) (h5 : isSign (tz + n - 1) = true) (h6 : ¬ (tz < 55296 ∧ 57343 < tz + n - 1)) :
    Calls Tryd.prog 42 #[.int .i64 from0, .int .i32 tz, .int .i64 n, .string ⟨#[]⟩] w fun e w' => ∃ a cap, e = .returned (.tuple #[.slice a n cap, .bool true]) ∧ IsPairs w' a n cap (pairsN from0 (fun (i : Nat) => tz + (i : Int)) n) ∧ Ext w w' := by
  obtain ⟨i0, hi, hz0, hz1, hz2⟩ := info_parts_pair
  have hto := (isSign_iff tz).1 h4
  have hto2 := (isSign_iff (tz + n - 1)).1 h5
  have ht0 : 0 ≤ tz := by omega
  have ht1 : tz ≤ 1114111 := by omega
  have ht2 : tz + n ≤ 1114112 := by omega
  have HS := Lib.hid (fun w => rscalar_at h4 w)
  have HS2 := Lib.hid (fun w => rscalar_at h5 w)
  have n0 : ¬ from0 < 0 := by omega
  have n1 : ¬ (n : Int) < 1 := by omega
  have n2 : ¬ 1048576 < (n : Int) := by omega
  have n3 : ¬ 1048576 - (n : Int) < from0 := by omega
  clear h4 h5 hto hto2
  go_enter Tryd.func42, Tryd.ntmps42
  have hcase : ¬ tz < 55296 ∨ (tz < 55296 ∧ ¬ 57343 < tz + n - 1) := by omega
  clear h6
  rcases hcase with h6 | ⟨h6, h7⟩
  all_goals
    go_wp2_with (first
      | (go_at_call 69; refine (HS.out _).mono ?_; rintro e w1 ⟨rfl, rfl⟩; clear HS)
      | (go_at_call 69; refine (HS2.out _).mono ?_; rintro e w1 ⟨rfl, rfl⟩))
    go_loopw [15, 16] (fun v i wr => ∃ k : Nat, k ≤ n ∧ i = .int .i64 k ∧ Ext w wr ∧ wr.ownsRow w.heap.size 42 2 v k (pairCells (pairsN from0 (fun (i : Nat) => tz + (i : Int)) k))) (fun _ i _ => n - (intOf i).toNat)
    case atStart => exact ⟨0, by omega, rfl, Ext.refl _, World.ownsRow_nil _ _ _ _⟩
    case round =>
      obtain ⟨k, hk, rfl, hx, ho⟩ := hrel
      have hle := hx.size
      by_cases hlt : k < n
      · go_wp2_with ((at_builtin; refine wpList_append_own _ rfl _ _ 33 rfl (w.heap.size) 42 i0 (.agg #[.int .i64 0, .int .i32 0]) 2 16 Tryd.underlying33 hi hz0 hz1 hz2 rfl (by decide) _ _ _ rfl (ho.alloc _) ⟨wr.heap.size, 0, none⟩ 1 1 [.int .i64 (from0 + (k : Int)), .int .i32 (tz + (k : Int))] rfl rfl (cell_two_new _ _ _ _) (fun x hx => by simp at hx; rcases hx with rfl | rfl <;> rfl) (by unfold maxLen; omega) (by omega) (by simp; omega) ?_; intro v5 w5 hown5 hgrow5 hnil5; clear hnil5; have hx5 := hx.own ho (Nat.le_refl _) hgrow5; clear hgrow5))
        go_roundw
        case rel =>
          refine ⟨k + 1, by omega, by go_num, hx5, ?_⟩
          rw [pairsN_succ, pairCells_app, pairCells_one]
          exact hown5
        case measure => simp [intOf]; omega
      · have hkl : k = n := by omega
        subst hkl
        obtain ⟨a', cap', rfl, hrow⟩ := own_pairs ho
        clear ho
        go_wp2
        go_ret2
        exact ⟨a', cap', rfl, hrow, hx⟩
end Go.Proofs.YtjlghdlbkibneaaDoor
namespace Go.Proofs.YtjlghdlbkibneaaDoor
open Go Go.ChangeShapes Go.WideShapes Go.ChangeAt Go.RowKit
set_option linter.unusedSimpArgs false
set_option linter.unusedVariables false

/-- A piece: its first code, its first sign's number, how many, its text. -/
structure Pv where
  f : Int
  t : Int
  c : Int
  x : ByteArray
/-- A list of pieces: none, or in memory. -/
def IsPieces (w : World) (a : Option Addr) (len cap : Nat) (l : List Pv) : Prop :=
  l.length = len ∧ (len = 0 ∨ ∃ (x off : Nat), a = some ⟨x, off, none⟩ ∧ len ≤ cap ∧ x < w.heap.size ∧ ∀ (j : Nat) (p : Pv), l[j]? = some p → w.cell? ⟨x, off + j * 4, none⟩ = some (.int .i64 p.f) ∧ w.cell? ⟨x, off + j * 4 + 1, none⟩ = some (.int .i32 p.t) ∧ w.cell? ⟨x, off + j * 4 + 2, none⟩ = some (.int .i64 p.c) ∧ w.cell? ⟨x, off + j * 4 + 3, none⟩ = some (.string p.x))
theorem IsPieces.ext {w w' : World} {a : Option Addr} {len cap : Nat} {l : List Pv} (h : IsPieces w a len cap l) (k : Ext w w') : IsPieces w' a len cap l := by
  obtain ⟨h1, h2⟩ := h
  refine ⟨h1, ?_⟩
  rcases h2 with h2 | ⟨x, off, rfl, hc, hx, hcell⟩
  · exact .inl h2
  · refine .inr ⟨x, off, rfl, hc, Nat.lt_of_lt_of_le hx k.size, fun j z hj => ?_⟩
    obtain ⟨a0, a1, a2, a3⟩ := hcell j z hj
    exact ⟨(World.cell?_of_block (k.block x hx)).trans a0, (World.cell?_of_block (k.block x hx)).trans a1, (World.cell?_of_block (k.block x hx)).trans a2, (World.cell?_of_block (k.block x hx)).trans a3⟩
theorem piece_at {w : World} {a : Option Addr} {n cap : Nat} {l : List Pv} (h : IsPieces w a n cap l) {k : Nat} (hk : k < n) : ∃ x off p, a = some ⟨x, off, none⟩ ∧ x < w.heap.size ∧ l[k]? = some p ∧ ∀ w', Ext w w' → w'.cell? ⟨x, off + k * 4, none⟩ = some (.int .i64 p.f) ∧ w'.cell? ⟨x, off + k * 4 + 1, none⟩ = some (.int .i32 p.t) ∧ w'.cell? ⟨x, off + k * 4 + 2, none⟩ = some (.int .i64 p.c) ∧ w'.cell? ⟨x, off + k * 4 + 3, none⟩ = some (.string p.x) := by
  have h0 := h
  obtain ⟨h1, h2⟩ := h
  rcases h2 with h2 | ⟨x, off, rfl, hc, hx, hcell⟩
  · omega
  · have e : l[k]? = some l[k] := by simp
    refine ⟨x, off, l[k], rfl, hx, e, fun w' hxx => ?_⟩
    obtain ⟨a0, a1, a2, a3⟩ := hcell k _ e
    exact ⟨(World.cell?_of_block (hxx.block x hx)).trans a0, (World.cell?_of_block (hxx.block x hx)).trans a1, (World.cell?_of_block (hxx.block x hx)).trans a2, (World.cell?_of_block (hxx.block x hx)).trans a3⟩
/-- Is a piece light? -/
def lightOne (p : Pv) : Bool := decide (p.c ≤ 100) && decide (p.x.size ≤ 300)
theorem lightOne_iff (p : Pv) : lightOne p = true ↔ p.c ≤ 100 ∧ p.x.size ≤ 300 := by simp [lightOne]
def lightP (l : List Pv) : Bool := decide (l.length ≤ 12) && l.all lightOne
theorem light_many (a : Option Addr) (cap : Nat) (l : List Pv) (w : World) (h : 12 < l.length) :
    Calls Tryd.prog 12 #[.slice a l.length cap] w fun e w' => e = .returned (.bool false) ∧ Ext w w' := by
  have h2 : (12 : Int) < l.length := by omega
  go_enter Tryd.func12, Tryd.ntmps12
  go_wp2
  go_ret
  exact ⟨rfl, Ext.refl _⟩
set_option maxRecDepth 100000 in
set_option maxHeartbeats 1000000 in
theorem light_any (a : Option Addr) (cap : Nat) (l : List Pv) (w : World) (h : IsPieces w a l.length cap l) (hl : l.length ≤ 12) :
    Calls Tryd.prog 12 #[.slice a l.length cap] w fun e w' => e = .returned (.bool (l.all lightOne)) ∧ Ext w w' := by
  have h2 : ¬ (12 : Int) < l.length := by omega
  go_enter Tryd.func12, Tryd.ntmps12
  go_wp2
  go_loopw [10] (fun i wr => ∃ k : Nat, k ≤ l.length ∧ i = .int .i64 k ∧ Ext w wr ∧ Hid (∀ (i : Nat) (p : Pv), i < k → l[i]? = some p → lightOne p = true)) (fun i _ => l.length - (intOf i).toNat)
  case atStart => exact ⟨0, by omega, rfl, Ext.refl _, fun i p h => by omega⟩
  case round =>
    obtain ⟨k, hk, rfl, hx, HN⟩ := hrel
    by_cases hlt : k < l.length
    · obtain ⟨x, off, p, rfl, hxl, hp, hcell⟩ := piece_at h hlt
      obtain ⟨c0, c1, c2, c3⟩ := hcell wr hx
      have HP := Lib.hid hp
      clear hcell hp
      by_cases h1 : 100 < p.c
      · have HF : Hid (l.all lightOne = false) := by
          show _ = _
          rw [List.all_eq_false]
          exact ⟨p, List.mem_of_getElem? HP.out, by simp [lightOne]; omega⟩
        generalize p.c = pc at c2 h1
        go_wp2
        go_ret
        exact ⟨by rw [HF.out]; rfl, hx.alloc _⟩
      · by_cases h3 : (300 : Int) < p.x.size
        · have HF : Hid (l.all lightOne = false) := by
            show _ = _
            rw [List.all_eq_false]
            exact ⟨p, List.mem_of_getElem? HP.out, by simp [lightOne]; omega⟩
          generalize p.c = pc at c2 h1
          generalize p.x = px at c3 h3
          go_wp2
          go_ret
          exact ⟨by rw [HF.out]; rfl, hx.alloc _⟩
        · have HL : Hid (lightOne p = true) := (lightOne_iff p).2 ⟨by omega, by omega⟩
          generalize p.c = pc at c2 h1
          generalize p.x = px at c3 h3
          go_wp2
          go_roundw
          case rel =>
            refine ⟨k + 1, by omega, by go_num, hx.alloc _, fun i r hi hr => ?_⟩
            by_cases e : i = k
            · subst e
              rw [HP.out] at hr
              cases hr
              exact HL.out
            · exact HN.out i r (by omega) hr
          case measure => simp [intOf]; omega
    · have HF : Hid (l.all lightOne = true) := by
        show _ = _
        rw [List.all_eq_true]
        intro p hp
        obtain ⟨i, hi⟩ := List.getElem?_of_mem hp
        exact HN.out i p (by have := (List.getElem?_eq_some_iff.1 hi).1; omega) hi
      go_wp2
      go_ret
      exact ⟨by rw [HF.out]; rfl, hx⟩
theorem light_row {w : World} {a : Option Addr} {len cap : Nat} {l : List Pv} (h : IsPieces w a len cap l) :
    Calls Tryd.prog 12 #[.slice a len cap] w fun e w' => e = .returned (.bool (lightP l)) ∧ Ext w w' := by
  have h0 := h
  obtain ⟨rfl, _⟩ := h
  unfold lightP
  by_cases h1 : l.length ≤ 12
  · have := light_any a cap l w h0 h1
    rwa [show (decide (l.length ≤ 12) && l.all lightOne) = l.all lightOne from by simp [h1]]
  · have := light_many a cap l w (by omega)
    rwa [show (decide (l.length ≤ 12) && l.all lightOne) = false from by simp [h1]]
/-- The pairs of pieces behind some pairs, or the place of the first that is refused. -/
def madeGo : List Pr → Nat → List Pv → List Pr × Int
  | all, _, [] => (all, -1)
  | all, i, v :: vs =>
    match pieceP v.f v.t v.c v.x with
    | none => ([], (i : Int))
    | some more =>
      match joinP all more with
      | none => ([], (i : Int))
      | some all2 => madeGo all2 (i + 1) vs
def madeP (vs : List Pv) : List Pr × Int := madeGo [] 0 vs
theorem madeGo_none {all : List Pr} {i : Nat} {v : Pv} {vs : List Pv} (h : pieceP v.f v.t v.c v.x = none) : madeGo all i (v :: vs) = ([], (i : Int)) := by rw [madeGo, h]
theorem madeGo_no {all more : List Pr} {i : Nat} {v : Pv} {vs : List Pv} (h : pieceP v.f v.t v.c v.x = some more) (k : joinP all more = none) : madeGo all i (v :: vs) = ([], (i : Int)) := by rw [madeGo, h]; simp only [k]
theorem madeGo_some {all more all2 : List Pr} {i : Nat} {v : Pv} {vs : List Pv} (h : pieceP v.f v.t v.c v.x = some more) (k : joinP all more = some all2) : madeGo all i (v :: vs) = madeGo all2 (i + 1) vs := by rw [madeGo, h]; simp only [k]
theorem joinP_len {l more r : List Pr} (h : joinP l more = some r) : r.length = l.length + more.length := by
  rw [← (joinP_some h).2, foldl_put_len]
theorem pieceP_len {f t c : Int} {x : ByteArray} {more : List Pr} (h : pieceP f t c x = some more) (hc : c ≤ 100) (hx : x.size ≤ 300) : more.length ≤ 300 := by
  unfold pieceP at h
  split at h
  · split at h
    · cases h
    · have := Option.some.inj h
      rw [← this, pairsN_len]
      omega
  · split at h
    · cases h
    · have := Option.some.inj h
      rw [← this, pairsN_len]
      have := sgn_len x
      omega
theorem rpiece_none (f t c : Int) (x : ByteArray) (w : World) (hx : x.size ≤ 300) (h : pieceP f t c x = none) :
    Calls Tryd.prog 42 #[.int .i64 f, .int .i32 t, .int .i64 c, .string x] w fun e w' => e = .returned (.tuple #[.slice none 0 0, .bool false]) ∧ Ext w w' := by
  unfold pieceP at h
  split at h
  · rename_i he
    have e : x = ⟨#[]⟩ := bytes_inj he
    subst e
    split at h
    · exact rpiece_sno f t c w (by assumption)
    · cases h
  · split at h
    · exact rpiece_tno f t c x w (by omega) (by assumption) (by assumption)
    · cases h
theorem rpiece_some (f t c : Int) (x : ByteArray) (more : List Pr) (w : World) (hx : x.size ≤ 300) (h : pieceP f t c x = some more) :
    Calls Tryd.prog 42 #[.int .i64 f, .int .i32 t, .int .i64 c, .string x] w fun e w' => ∃ a cap, e = .returned (.tuple #[.slice a more.length cap, .bool true]) ∧ IsPairs w' a more.length cap more ∧ Ext w w' := by
  unfold pieceP at h
  split at h
  · rename_i he
    have e : x = ⟨#[]⟩ := bytes_inj he
    subst e
    split at h
    · cases h
    · rename_i hn
      have := Option.some.inj h
      subst this
      simp only [not_or, Bool.not_eq_false] at hn
      obtain ⟨n1, n2, n3, n4, n5, n6, n7⟩ := hn
      obtain ⟨n, rfl⟩ := Int.eq_ofNat_of_zero_le (show 0 ≤ c by omega)
      rw [Int.toNat_natCast, pairsN_len]
      exact rpiece_syes f t n w (by omega) (by omega) (by omega) (by omega) n5 n6 n7
  · split at h
    · cases h
    · rename_i hn0 hn
      have := Option.some.inj h
      subst this
      simp only [not_or, Decidable.not_not] at hn
      obtain ⟨n1, n2, n3⟩ := hn
      rw [pairsN_len]
      exact rpiece_tyes f t c x w (by omega) hn0 n1 n2 n3
end Go.Proofs.YtjlghdlbkibneaaDoor
