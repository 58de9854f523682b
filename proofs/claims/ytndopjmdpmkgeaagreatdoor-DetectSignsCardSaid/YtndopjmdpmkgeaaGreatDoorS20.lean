/-
  What the proof of this claim leans on (S20).
-/
import Derived.Test.YtndopjmdpmkgeaaGreatDoorS19
namespace Go.Proofs.YtndopjmdpmkgeaaGreatDoor
open Go Go.ChangeShapes Go.WideShapes Go.ChangeAt Go.RowKit
set_option linter.unusedSimpArgs false
set_option linter.unusedVariables false

section
variable {P : Program} (w : World)
theorem zero_cells (z : Value) (m : Nat) (h1 : z.cells = #[z]) : Builtin.zeroCells z.cells m = (List.replicate m z).toArray := by
  rw [h1]
  apply Array.ext
  · simp [Builtin.zeroCells]
  · intro i h2 h3
    simp [Builtin.zeroCells, Nat.mod_one]
theorem run_append_zeros (base : Nat) (t u ty e : TypeId) (k : IntKind) (i : TypeInfo) (z : Value) (ht : P.underlying t = some (.slice e)) (hu : P.underlying u = some (.int k)) (hi : P.info? e = some i) (hz : i.zero = some z)
    (hsize : i.size = 1) (hby : i.bytes = 1) (h1c : z.cells = #[z]) (h1 : z.oneCell' = true)
    (v : Value) (n : Nat) (xs : List Value) (hown : w.ownsRow base e 1 v n xs) (m : Nat) (hm : 0 < m) (hb : n + m ≤ 1000000000) (hbase : base ≤ w.heap.size) :
    ∃ v' w', (Builtin.append_ #[t, u] ty #[v, .int .i64 m]).run P w = .ok v' w' ∧ w'.ownsRow base e 1 v' (n + m) (xs ++ List.replicate m z) ∧ w.grownBy w' v.ownBlock := by
  have wm : IntKind.i64.wrap (m : Int) = (m : Int) := IntWalk.i64_in _ (by omega)
  have n1 : ¬ (m : Int) < 0 := by omega
  have n2 : ¬ (281474976710656 < (m : Int)) := by omega
  have hm0 : m ≠ 0 := by omega
  have hz1 : z.cells.size = 1 := by rw [h1c]; rfl
  have hlen : (xs ++ List.replicate m z).length = (n + m) * 1 := by rw [List.length_append, hown.1, List.length_replicate]; omega
  have grown : ∀ (old : Nat), old < n + m → ∀ (row : Option Nat),
      (w.drew.alloc (.cells (xs.toArray ++ (List.replicate m z).toArray ++ Builtin.zeroCells z.cells (grownCap w (n + m) old e - (n + m))) e)).ownsRow base e 1
        (.slice (some ⟨w.heap.size, 0, none⟩) (n + m) (grownCap w (n + m) old e)) (n + m) (xs ++ List.replicate m z) ∧
      w.grownBy (w.drew.alloc (.cells (xs.toArray ++ (List.replicate m z).toArray ++ Builtin.zeroCells z.cells (grownCap w (n + m) old e - (n + m))) e)) row := by
    intro old ho row
    have hge := grownCap_ge w (n + m) old e
    have hcm : grownCap w (n + m) old e ≤ maxLen := grownCap_le_maxLen w (n + m) old e (by unfold maxLen; omega)
    refine ⟨⟨hlen, .inr ⟨w.heap.size, _, _, rfl, hbase, heap_alloc_new w.drew _, hge, hcm, ?_, ?_⟩⟩, ⟨rfl, rfl, rfl, by simp, fun k hk _ => heap_alloc_old w.drew _ hk⟩⟩
    · simp only [Array.size_append, List.size_toArray, size_zeroCells, hz1, hown.1, List.length_replicate]
      omega
    · simp only [Array.toList_append, List.append_assoc]
      rw [← List.append_assoc, ← hlen]
      exact List.take_left
  have hzc := zero_cells z m h1c
  have hfit : ∀ old, old < n + m → ¬ (281474976710656 < Builtin.nextslicecap (n + m) old) := by
    intro old ho
    have := growslice_fits (bytes := 1) ho (by omega)
    omega
  have h63 : ¬ (9223372036854775807 < (n : Int) + (m : Int)) := by omega
  rcases hown.2 with ⟨rfl, rfl⟩ | ⟨g, cap, cur, rfl, hbg, hg, hnc, hcm, hcs, htake⟩
  · have hx : xs = [] := List.eq_nil_of_length_eq_zero (by simpa using hown.1)
    subst hx
    have hgr := grown 0 (by omega) (Value.ownBlock (.slice none 0 0))
    have hfit0 := hfit 0 (by omega)
    have h63m : ¬ (9223372036854775807 < (m : Int)) := by omega
    simp only [Nat.zero_add, List.nil_append] at hgr hfit0 ⊢
    refine ⟨_, _, ?_, hgr.1, hgr.2⟩
    simp [Builtin.append_, run_underlying ht, run_underlying hu, sizeOf, typeInfo, zeroValue, hi, hz, hsize, hby, asInt, asIntOf, wm, n1, n2, hm0, hfit0, h63m, Question.forced, run_firstCells_none, hzc, newRow, grownCap]
  · by_cases hroom : n + m ≤ cap
    · have hfit2 : n * 1 + (List.replicate m z).length ≤ cur.size := by rw [List.length_replicate, hcs]; omega
      have hst := run_storeCells_at P g (n * 1) e (List.replicate m z) 0 cur w hg (by simpa using hfit2) (fun u hu => by rw [List.eq_of_mem_replicate hu]; exact h1)
      simp only [Nat.add_zero, Nat.mul_one] at hst
      refine ⟨.slice (some ⟨g, 0, none⟩) (n + m) cap, w.setRow g (List.take n cur.toList ++ List.replicate m z ++ List.drop (n + (List.replicate m z).length) cur.toList).toArray, ?_, ⟨hlen, .inr ⟨g, cap, _, rfl, hbg, setRow_heap w g cur _ e _ hg, hroom, hcm, ?_, ?_⟩⟩, ⟨rfl, rfl, rfl, by simp, fun k _ hk => setRow_other w g k _ (fun e => hk (by simp [Value.ownBlock, e]))⟩⟩
      rotate_left
      · simp only [List.size_toArray, List.length_append, List.length_take, List.length_drop, Array.length_toList, List.length_replicate]
        omega
      · rw [← hlen]
        rw [Nat.mul_one] at htake
        rw [htake]
        exact List.take_left
      · simp [Builtin.append_, run_underlying ht, run_underlying hu, sizeOf, typeInfo, zeroValue, hi, hz, hsize, hby, asInt, asIntOf, wm, n1, n2, hm0, hroom, hzc, Addr.add_lit, hst]
    · have holds : ∀ j u, xs[j]? = some u → w.cell? ((⟨g, 0, none⟩ : Addr).add j) = some u := hown.cells (g := g) rfl
      have hgr := grown cap (by omega) (Value.ownBlock (.slice (some ⟨g, 0, none⟩) n cap))
      have hfit0 := hfit cap (by omega)
      have hfo := run_firstCells_some (P := P) w.drew 1 n ⟨g, 0, none⟩ n cap xs hown.1 (by simpa using holds)
      refine ⟨_, _, ?_, hgr.1, hgr.2⟩
      simp [Builtin.append_, run_underlying ht, run_underlying hu, sizeOf, typeInfo, zeroValue, hi, hz, hsize, hby, asInt, asIntOf, wm, n1, n2, hm0, hroom, hfit0, h63, Question.forced, hfo, hzc, newRow, grownCap]
theorem wpList_append_zeros {ops : Array Oper} {rest : List Oper} {o : Oper} {a : Act} {Q : Exit → Act → World → Prop} (hgd : o.guard = none) (s x : Operand) (t u : TypeId)
    (ho : o.op = .call { callee := .builtin .append, args := #[s, x], argTypes := #[t, u] })
    (base : Nat) (e : TypeId) (k : IntKind) (i : TypeInfo) (z : Value) (ht : P.underlying t = some (.slice e)) (hu : P.underlying u = some (.int k)) (hi : P.info? e = some i) (hz : i.zero = some z)
    (hsize : i.size = 1) (hby : i.bytes = 1) (h1c : z.cells = #[z]) (h1 : z.oneCell' = true)
    (v : Value) (n : Nat) (xs : List Value) (hs : a.eval s = v) (hown : w.ownsRow base e 1 v n xs) (m : Nat) (hx : a.eval x = .int .i64 m) (hm : 0 < m) (hb : n + m ≤ 1000000000) (hbase : base ≤ w.heap.size)
    (h : ∀ v' w', w'.ownsRow base e 1 v' (n + m) (xs ++ List.replicate m z) → w.grownBy w' v.ownBlock → wpList P ops Q rest (a.put o.dst v') w') : wpList P ops Q (o :: rest) a w :=
  wpList_plain hgd fun _ hK => by
    obtain ⟨v', w', hr, h2, h3⟩ := run_append_zeros (P := P) w base t u o.type e k i z ht hu hi hz hsize hby h1c h1 v n xs hown m hm hb hbase
    unfold Oper.wp execOp
    simp only [ho, resolve, invoke, builtin, Sem.run_bind, Sem.run_pure, Result.andThen_ok, List.map_toArray, List.map_cons, List.map_nil, hs, hx, hr]
    exact hK _ _ (h v' w' h2 h3)
end
def boolCells (l : List Bool) : List Value := l.map Value.bool
theorem boolCells_len (l : List Bool) : (boolCells l).length = l.length := by simp [boolCells]
theorem info_bool : (Tryz.prog.info? 4).map (fun i => (i.zero, i.size, i.bytes)) = some (some (.bool false), 1, 1) := by kernel_rfl
theorem info_parts_bool : ∃ i, Tryz.prog.info? 4 = some i ∧ i.zero = some (.bool false) ∧ i.size = 1 ∧ i.bytes = 1 := by
  obtain ⟨i, hi, h2⟩ := Option.map_eq_some_iff.1 info_bool
  obtain ⟨h3, h4⟩ := Prod.mk.inj h2
  obtain ⟨h5, h6⟩ := Prod.mk.inj h4
  exact ⟨i, hi, h3, h5, h6⟩
/-- As many as are wanted, from one on some are marked. -/
def longer (l : List Bool) (n : Nat) : List Bool := l ++ List.replicate (n - l.length) false
theorem longer_len (l : List Bool) (n : Nat) : (longer l n).length = max l.length n := by simp [longer]; omega
def marked (l : List Bool) (f : Nat) : Nat → List Bool
  | 0 => l
  | k + 1 => (marked l f k).set (f + k) true
theorem marked_len (l : List Bool) (f : Nat) : ∀ k, (marked l f k).length = l.length
  | 0 => rfl
  | k + 1 => by rw [marked, List.length_set, marked_len]
theorem marked_get (l : List Bool) (f : Nat) : ∀ (k i : Nat), (marked l f k).getD i false = if f ≤ i ∧ i < f + k ∧ i < l.length then true else l.getD i false
  | 0, i => by rw [if_neg (by omega)]; rfl
  | k + 1, i => by
    have ih := marked_get l f k i
    rw [marked, List.getD, List.getElem?_set]
    by_cases e : f + k = i
    · rw [if_pos e, marked_len]
      subst e
      by_cases h : f + k < l.length
      · rw [if_pos h, if_pos ⟨by omega, by omega, h⟩]
        rfl
      · rw [if_neg h, if_neg (by omega)]
        simp [List.getD, List.getElem?_eq_none (Nat.le_of_not_lt h)]
    · rw [if_neg e]
      rw [List.getD] at ih
      rw [ih]
      by_cases h : f ≤ i ∧ i < f + k ∧ i < l.length
      · rw [if_pos h, if_pos (by omega)]
      · rw [if_neg h, if_neg (by omega)]
theorem longer_get (l : List Bool) (n i : Nat) : (longer l n).getD i false = l.getD i false := by
  unfold longer
  simp only [List.getD]
  by_cases h : i < l.length
  · rw [List.getElem?_append_left h]
  · rw [List.getElem?_append_right (by omega), List.getElem?_eq_none (Nat.le_of_not_lt h), List.getElem?_replicate]
    split <;> rfl
/-- A code's mark, in memory. -/
theorem bool_cell {w : World} {B : Nat} {g cap n : Nat} {l : List Bool} (ho : w.ownsRow B 4 1 (.slice (some ⟨g, 0, none⟩) n cap) n (boolCells l)) {i : Nat} (hi : i < n) : w.cell? ⟨g, i, none⟩ = some (.bool (l.getD i false)) := by
  have hl : l.length = n := by have := ho.1; rw [boolCells_len] at this; omega
  have hc := ho.cells (g := g) rfl i (.bool (l.getD i false)) (by
    have hil : i < l.length := by omega
    simp [boolCells, List.getD, hil])
  have e2 : (⟨g, 0, none⟩ : Addr).add i = ⟨g, i, none⟩ := by
    unfold Addr.add
    split <;> simp_all
  rw [e2] at hc
  exact hc
theorem bool_free {w : World} {B g cap n : Nat} {xs : List Value} (ho : w.ownsRow B 4 1 (.slice (some ⟨g, 0, none⟩) n cap) n xs) (o : Nat) : w.frozen? ⟨g, o, none⟩ = false := by
  obtain ⟨hl, h | ⟨g2, cap2, cur, e, hg, hh, hn, hmx, hs, ht⟩⟩ := ho
  · cases h.1
  · obtain ⟨rfl, rfl⟩ : g = g2 ∧ cap = cap2 := by simpa using e
    simp [World.frozen?, hh]
theorem bool_set {w : World} {B g cap n : Nat} {l : List Bool} (ho : w.ownsRow B 4 1 (.slice (some ⟨g, 0, none⟩) n cap) n (boolCells l)) (i : Nat) (b : Bool) :
    (w.setCell ⟨g, i, none⟩ (.bool b)).ownsRow B 4 1 (.slice (some ⟨g, 0, none⟩) n cap) n (boolCells (l.set i b)) := by
  obtain ⟨hl, h | ⟨g2, cap2, cur, e, hg, hh, hn, hmx, hs, ht⟩⟩ := ho
  · cases h.1
  · obtain ⟨rfl, rfl⟩ : g = g2 ∧ cap = cap2 := by simpa using e
    refine ⟨by rw [boolCells_len] at hl ⊢; simpa using hl, .inr ⟨g, cap, cur.setIfInBounds i (.bool b), rfl, hg, Go.heap_setCell_same w g i cur _ _ hh, hn, hmx, by simpa using hs, ?_⟩⟩
    rw [Array.toList_setIfInBounds, List.take_set, ht]
    simp [boolCells, List.map_set]
theorem own_slice {w : World} {B : Nat} {e : TypeId} {size : Nat} {v : Value} {n : Nat} {xs : List Value} (h : w.ownsRow B e size v n xs) : (v = .slice none 0 0 ∧ n = 0) ∨ ∃ g cap, v = .slice (some ⟨g, 0, none⟩) n cap := by
  obtain ⟨_, h | ⟨g, cap, _, e, _⟩⟩ := h
  · exact .inl h
  · exact .inr ⟨g, cap, e⟩
end Go.Proofs.YtndopjmdpmkgeaaGreatDoor
namespace Go.Proofs.YtndopjmdpmkgeaaGreatDoor
open Go Go.ChangeShapes Go.WideShapes Go.ChangeAt Go.RowKit
set_option linter.unusedSimpArgs false
set_option linter.unusedVariables false

/-- Nothing that was there has turned but rows of one type of the call's own. -/
structure Only (T : TypeId) (B : Nat) (w w' : World) : Prop where
  os : w'.os = w.os
  tape : w'.tape = w.tape
  output : w'.output = w.output
  size : w.heap.size ≤ w'.heap.size
  block : ∀ k, k < w.heap.size → (k < B ∨ ∀ cs fr, w.heap[k]? ≠ some (.cells cs T fr)) → w'.heap[k]? = w.heap[k]?
theorem Only.refl (T : TypeId) (B : Nat) (w : World) : Only T B w w := ⟨rfl, rfl, rfl, Nat.le_refl _, fun _ _ _ => rfl⟩
theorem Only.trans {T : TypeId} {B : Nat} {a b c : World} (h : Only T B a b) (k : Only T B b c) : Only T B a c :=
  ⟨k.os.trans h.os, k.tape.trans h.tape, k.output.trans h.output, Nat.le_trans h.size k.size, fun i hi hn => by
    have e := h.block i hi hn
    refine (k.block i (Nat.lt_of_lt_of_le hi h.size) ?_).trans e
    rw [e]
    exact hn⟩
theorem Only.of_grown {T : TypeId} {B size n : Nat} {w w' : World} {v : Value} {xs : List Value} (ho : w.ownsRow B T size v n xs) (h : w.grownBy w' v.ownBlock) : Only T B w w' :=
  ⟨h.os, h.tape, h.output, h.size, fun k hk hn => h.block k hk (by
    intro e
    rcases ho.2 with ⟨rfl, _⟩ | ⟨g, cap, cur, rfl, hg, hh, _⟩
    · cases e
    · have e : k = g := by simpa [Value.ownBlock] using e
      subst e
      rcases hn with hn | hn
      · omega
      · exact hn _ _ hh)⟩
theorem Only.to_ext {T : TypeId} {B : Nat} {W w w' : World} (h : Ext W w) (k : Only T B w w') (hB : W.heap.size ≤ B) : Ext W w' :=
  ⟨k.os.trans h.os, k.tape.trans h.tape, k.output.trans h.output, Nat.le_trans h.size k.size, fun i hi => (k.block i (Nat.lt_of_lt_of_le hi h.size) (.inl (by omega))).trans (h.block i hi)⟩
theorem Only.box {T U : TypeId} {B b : Nat} {w w' : World} {cs : Array Value} {fr : Nat × Nat} (k : Only T B w w') (h : w.heap[b]? = some (.cells cs U fr)) (hne : U ≠ T) : w'.heap[b]? = some (.cells cs U fr) :=
  (k.block b (lt_of_block h) (.inr (fun cs2 fr2 e => by
    rw [h] at e
    injection e with e
    injection e with _ e
    exact hne e))).trans h
theorem Only.own {T U : TypeId} {B C size n : Nat} {w w' : World} {v : Value} {xs : List Value} (k : Only T B w w') (h : w.ownsRow C U size v n xs) (hne : U ≠ T) : w'.ownsRow C U size v n xs := by
  obtain ⟨h1, h2 | ⟨g, cap, cur, e, hg, hh, r⟩⟩ := h
  · exact ⟨h1, .inl h2⟩
  · exact ⟨h1, .inr ⟨g, cap, cur, e, hg, k.box hh hne, r⟩⟩
theorem Only.set {T : TypeId} {B size n g cap : Nat} {w : World} {xs : List Value} (ho : w.ownsRow B T size (.slice (some ⟨g, 0, none⟩) n cap) n xs) (o : Nat) (v : Value) : Only T B w (w.setCell ⟨g, o, none⟩ v) :=
  Only.of_grown ho (by
    have := grown_set w g o v
    simpa [Value.ownBlock] using this)
def TakeOut (w : World) (B : Nat) (bs : List Bool) (f n : Nat) (e : Ending) (w' : World) : Prop :=
  Only 4 B w w' ∧
  (((∀ i, f ≤ i → i < f + n → bs.getD i false = false) ∧ ∃ v', e = .returned (.tuple #[v', .bool true]) ∧ w'.ownsRow B 4 1 v' (max bs.length (f + n)) (boolCells (marked (longer bs (f + n)) f n))) ∨
   ((∃ i, f ≤ i ∧ i < f + n ∧ bs.getD i false = true) ∧ e = .returned (.tuple #[.slice none 0 0, .bool false])))
theorem own_slice_any {w : World} {B : Nat} {e : TypeId} {size : Nat} {v : Value} {n : Nat} {xs : List Value} (h : w.ownsRow B e size v n xs) : ∃ a cap, v = .slice a n cap := by
  rcases own_slice h with ⟨rfl, rfl⟩ | ⟨g, cap, rfl⟩
  · exact ⟨none, 0, rfl⟩
  · exact ⟨some ⟨g, 0, none⟩, cap, rfl⟩
set_option maxHeartbeats 4000000 in
set_option maxRecDepth 100000 in
theorem take_any (v : Value) (B : Nat) (bs : List Bool) (f n : Nat) (w : World) (ho : w.ownsRow B 4 1 v bs.length (boolCells bs)) (hB : B ≤ w.heap.size) (hn : 1 ≤ n) (hf : f + n ≤ 100000000) (hb : bs.length ≤ 100000000) :
    Calls Tryz.prog 158 #[v, .int .i64 f, .int .i64 n] w (TakeOut w B bs f n) := by
  obtain ⟨i1, hj, hj0, hj1, hj2⟩ := info_parts_bool
  have hlg := longer_len bs (f + n)
  obtain ⟨a0, cap0, rfl⟩ := own_slice_any ho
  obtain ⟨L, hL⟩ : ∃ L, L = max bs.length (f + n) := ⟨_, rfl⟩
  have HLL := Lib.hid hL
  by_cases hmore : bs.length < f + n
  · obtain ⟨m, hm⟩ : ∃ m, f + n = bs.length + m := ⟨f + n - bs.length, by omega⟩
    have hlm : boolCells (longer bs (f + n)) = boolCells bs ++ List.replicate m (.bool false) := by
      unfold longer boolCells
      rw [show f + n - bs.length = m by omega]
      simp
    have HO := Lib.hid ho
    have hmi : (f : Int) + n - (bs.length : Int) = (m : Int) := by omega
    have hLm : bs.length + m = L := by omega
    have HM := Lib.hid hm
    have HLM := Lib.hid hlm
    have HLm := Lib.hid hLm
    have hm0 : 0 < m := by omega
    clear hlm hlg hm ho hL hLm
    go_enter Tryz.func158, Tryz.ntmps158
    go_wp2_with (at_builtin; refine wpList_append_zeros _ rfl _ _ 180 3 rfl B 4 .i64 i1 (.bool false) Tryz.underlying180 Tryz.underlying3 hj hj0 hj1 hj2 rfl rfl _ bs.length (boolCells bs) rfl HO.out m rfl hm0 (by omega) hB ?_; intro v5 w5 hown5 hgrow5)
    rw [← HLM.out, HLm.out] at hown5
    have hOn : Only 4 B w w5 := Only.of_grown HO.out hgrow5
    rcases own_slice hown5 with ⟨_, hz⟩ | ⟨g, cap, rfl⟩
    · have := HLL.out
      omega
    have hown6 : w5.ownsRow B 4 1 (.slice (some ⟨g, 0, none⟩) L cap) L (boolCells (marked (longer bs (f + n)) f 0)) := hown5
    clear hown5 hgrow5
    go_loopw [9] (fun i wr => ∃ (p : Nat), f ≤ p ∧ p ≤ f + n ∧ i = .int .i64 p ∧ wr.ownsRow B 4 1 (.slice (some ⟨g, 0, none⟩) L cap) L (boolCells (marked (longer bs (f + n)) f (p - f))) ∧ Only 4 B w wr ∧ Hid (∀ i, f ≤ i → i < p → bs.getD i false = false)) (fun i _ => f + n - (intOf i).toNat)
    case atStart => exact ⟨f, by omega, by omega, rfl, by rw [Nat.sub_self]; exact hown6, hOn, fun i h1 h2 => by omega⟩
    case round =>
      obtain ⟨p, hp1, hp2, rfl, ho, hO2, HN⟩ := hrel
      clear hown6 hOn
      have hpL : p < f + n → p < L := by have := HLL.out; omega
      by_cases hlt : p < f + n
      · have hlt2 : (p : Int) < (f : Int) + (n : Int) := by omega
        have hpl := hpL hlt
        have hc := bool_cell ho hpl
        rw [marked_get, if_neg (by omega), longer_get] at hc
        have hfz := bool_free ho p
        have HO2 := Lib.hid ho
        clear ho hpL
        cases hbt : bs.getD p false with
        | true =>
          rw [hbt] at hc
          have HBT := Lib.hid hbt
          clear hbt
          go_wp2
          go_ret2
          exact ⟨hO2, .inr ⟨⟨p, hp1, hlt, HBT.out⟩, rfl⟩⟩
        | false =>
          rw [hbt] at hc
          have HBT := Lib.hid hbt
          clear hbt
          go_wp2
          go_roundw
          case rel =>
            refine ⟨p + 1, by omega, by omega, by go_num, ?_, hO2.trans (Only.set HO2.out p _), fun i h1 h2 => ?_⟩
            · have := bool_set HO2.out p true
              rw [show p + 1 - f = (p - f) + 1 by omega, marked, show f + (p - f) = p by omega]
              exact this
            · by_cases e : i = p
              · subst e
                exact HBT.out
              · exact HN.out i h1 (by omega)
          case measure => simp [intOf]; omega
      · have hpe : p = f + n := by omega
        have hge : ¬ (p : Int) < (f : Int) + (n : Int) := by omega
        have hno : Hid (∀ i, f ≤ i → i < f + n → bs.getD i false = false) := fun i h1 h2 => HN.out i h1 (by omega)
        have HO3 : Hid (wr.ownsRow B 4 1 (.slice (some ⟨g, 0, none⟩) L cap) (max bs.length (f + n)) (boolCells (marked (longer bs (f + n)) f n))) := by
          show World.ownsRow _ _ _ _ _ _ _
          rw [← HLL.out]
          rw [show p - f = n by omega] at ho
          exact ho
        clear ho hpL hpe
        go_wp2
        go_ret2
        exact ⟨hO2, .inl ⟨hno.out, _, rfl, HO3.out⟩⟩
  · have hlm : longer bs (f + n) = bs := by
      unfold longer
      rw [show f + n - bs.length = 0 by omega]
      simp
    have hLb : L = bs.length := by omega
    have hown6 : w.ownsRow B 4 1 (.slice a0 L cap0) L (boolCells (marked (longer bs (f + n)) f 0)) := by
      rw [hlm, hLb]
      exact ho
    rw [← hLb]
    have hOn := Only.refl 4 B w
    have hmi : ¬ (0 : Int) < (f : Int) + n - (L : Int) := by omega
    rcases own_slice hown6 with ⟨_, hz⟩ | ⟨g, cap, he⟩
    · omega
    obtain ⟨rfl, rfl⟩ : a0 = some ⟨g, 0, none⟩ ∧ cap = cap0 := by have h2 := he; simp at h2; exact ⟨h2.1, h2.2.symm⟩
    have hL2 : L ≤ 100000000 := by omega
    clear hlm hlg ho hL hLb he hmore
    go_enter Tryz.func158, Tryz.ntmps158
    go_wp2
    go_loopw [9] (fun i wr => ∃ (p : Nat), f ≤ p ∧ p ≤ f + n ∧ i = .int .i64 p ∧ wr.ownsRow B 4 1 (.slice (some ⟨g, 0, none⟩) L cap) L (boolCells (marked (longer bs (f + n)) f (p - f))) ∧ Only 4 B w wr ∧ Hid (∀ i, f ≤ i → i < p → bs.getD i false = false)) (fun i _ => f + n - (intOf i).toNat)
    case atStart => exact ⟨f, by omega, by omega, rfl, by rw [Nat.sub_self]; exact hown6, hOn, fun i h1 h2 => by omega⟩
    case round =>
      obtain ⟨p, hp1, hp2, rfl, ho, hO2, HN⟩ := hrel
      clear hown6 hOn
      have hpL : p < f + n → p < L := by have := HLL.out; omega
      by_cases hlt : p < f + n
      · have hlt2 : (p : Int) < (f : Int) + (n : Int) := by omega
        have hpl := hpL hlt
        have hc := bool_cell ho hpl
        rw [marked_get, if_neg (by omega), longer_get] at hc
        have hfz := bool_free ho p
        have HO2 := Lib.hid ho
        clear ho hpL
        cases hbt : bs.getD p false with
        | true =>
          rw [hbt] at hc
          have HBT := Lib.hid hbt
          clear hbt
          go_wp2
          go_ret2
          exact ⟨hO2, .inr ⟨⟨p, hp1, hlt, HBT.out⟩, rfl⟩⟩
        | false =>
          rw [hbt] at hc
          have HBT := Lib.hid hbt
          clear hbt
          go_wp2
          go_roundw
          case rel =>
            refine ⟨p + 1, by omega, by omega, by go_num, ?_, hO2.trans (Only.set HO2.out p _), fun i h1 h2 => ?_⟩
            · have := bool_set HO2.out p true
              rw [show p + 1 - f = (p - f) + 1 by omega, marked, show f + (p - f) = p by omega]
              exact this
            · by_cases e : i = p
              · subst e
                exact HBT.out
              · exact HN.out i h1 (by omega)
          case measure => simp [intOf]; omega
      · have hpe : p = f + n := by omega
        have hge : ¬ (p : Int) < (f : Int) + (n : Int) := by omega
        have hno : Hid (∀ i, f ≤ i → i < f + n → bs.getD i false = false) := fun i h1 h2 => HN.out i h1 (by omega)
        have HO3 : Hid (wr.ownsRow B 4 1 (.slice (some ⟨g, 0, none⟩) L cap) (max bs.length (f + n)) (boolCells (marked (longer bs (f + n)) f n))) := by
          show World.ownsRow _ _ _ _ _ _ _
          rw [← HLL.out]
          rw [show p - f = n by omega] at ho
          exact ho
        clear ho hpL hpe
        go_wp2
        go_ret2
        exact ⟨hO2, .inl ⟨hno.out, _, rfl, HO3.out⟩⟩
end Go.Proofs.YtndopjmdpmkgeaaGreatDoor
namespace Go.Proofs.YtndopjmdpmkgeaaGreatDoor
open Go Go.ChangeShapes Go.WideShapes Go.ChangeAt Go.RowKit
set_option linter.unusedSimpArgs false
set_option linter.unusedVariables false

theorem scalar_at {p : Int} {c : Bool} (h : isSign p = c) (w : World) : Calls Tryz.prog 124 #[.int .i32 p] w fun e w' => e = .returned (.bool c) ∧ w = w' := by
  have := scalar_any p w
  rwa [h] at this
/-- Are so many numbers from one on all signs'? -/
def runZ (t c : Int) : Bool := isSign t && (isSign (t + (c - 1)) && (decide (t < 55296) == decide (t + (c - 1) < 55296)))
theorem all_signs (t : Int) (n : Nat) (w : World) (h1 : 1 ≤ n) (h2 : n ≤ 1048576) :
    Calls Tryz.prog 190 #[.int .i32 t, .int .i64 n] w fun e w' => e = .returned (.bool (runZ t n)) ∧ w = w' := by
  unfold runZ
  cases hs : isSign t with
  | false =>
    have HS := Lib.hid (fun w => scalar_at hs w)
    clear hs
    go_enter Tryz.func190, Tryz.ntmps190
    go_wp2_with (go_at_call 124; refine (HS.out _).mono ?_; rintro e w1 ⟨rfl, rfl⟩)
    go_ret
    exact ⟨rfl, rfl⟩
  | true =>
    have HS := Lib.hid (fun w => scalar_at hs w)
    have hb := (isSign_iff t).1 hs
    have ht0 : 0 ≤ t := by omega
    have ht1 : t ≤ 1114111 := by omega
    cases hs2 : isSign (t + ((n : Int) - 1)) with
    | false =>
      have HS2 := Lib.hid (fun w => scalar_at hs2 w)
      clear hs hs2 hb
      go_enter Tryz.func190, Tryz.ntmps190
      go_wp2_with (first
        | (go_at_call 124; refine (HS.out _).mono ?_; rintro e w1 ⟨rfl, rfl⟩; clear HS)
        | (go_at_call 124; refine (HS2.out _).mono ?_; rintro e w1 ⟨rfl, rfl⟩))
      go_ret
      exact ⟨rfl, rfl⟩
    | true =>
      have HS2 := Lib.hid (fun w => scalar_at hs2 w)
      clear hs hs2 hb
      obtain ⟨b1, hb1⟩ : ∃ b1, decide (t < 55296) = b1 := ⟨_, rfl⟩
      obtain ⟨b2, hb2⟩ : ∃ b2, decide (t + ((n : Int) - 1) < 55296) = b2 := ⟨_, rfl⟩
      rw [hb1, hb2]
      cases b1 <;> cases b2
      all_goals
        go_enter Tryz.func190, Tryz.ntmps190
        go_wp2_with (first
          | (go_at_call 124; refine (HS.out _).mono ?_; rintro e w1 ⟨rfl, rfl⟩; clear HS)
          | (go_at_call 124; refine (HS2.out _).mono ?_; rintro e w1 ⟨rfl, rfl⟩))
        go_ret
        exact ⟨by simp_all, rfl⟩
theorem keepFour (w : World) (x y z u : Value) (T : TypeId) : Keep w [(⟨w.heap.size, 0, none⟩, x), (⟨w.heap.size, 1, none⟩, y), (⟨w.heap.size, 2, none⟩, z), (⟨w.heap.size, 3, none⟩, u)] (w.alloc (.cells #[x, y, z, u] T)) := by
  have h := heap_alloc_new w (.cells #[x, y, z, u] T)
  generalize hb : w.heap.size = b at h ⊢
  have e : ∀ (w : World), w.heap[b]? = some (.cells #[x, y, z, u] T (0, 0)) → w.cell? ⟨b, 0, none⟩ = some x ∧ w.cell? ⟨b, 1, none⟩ = some y ∧ w.cell? ⟨b, 2, none⟩ = some z ∧ w.cell? ⟨b, 3, none⟩ = some u := by
    intro w h
    refine ⟨?_, ?_, ?_, ?_⟩ <;> simp [World.cell?, h]
  obtain ⟨a1, a2, a3, a4⟩ := e _ h
  exact ⟨(Ext.refl w).alloc _, a1, a2, a3, a4, trivial⟩
theorem runZ_iff {t : Int} {n : Nat} (h1 : 1 ≤ n) : runZ t n = true ↔ isSign t = true ∧ isSign (t + n - 1) = true ∧ ¬ (t < 55296 ∧ 57343 < t + n - 1) := by
  have e : t + ((n : Int) - 1) = t + n - 1 := by omega
  unfold runZ
  rw [e, Bool.and_eq_true, Bool.and_eq_true, isSign_iff, isSign_iff, beq_iff_eq]
  constructor
  · rintro ⟨a, b, c⟩
    refine ⟨a, b, fun h => ?_⟩
    have : decide (t < 55296) = true := decide_eq_true h.1
    rw [this] at c
    have := of_decide_eq_true c.symm
    omega
  · rintro ⟨a, b, c⟩
    refine ⟨a, b, ?_⟩
    by_cases h : t < 55296
    · rw [decide_eq_true h, decide_eq_true (show t + (n : Int) - 1 < 55296 by omega)]
    · rw [decide_eq_false h, decide_eq_false (show ¬ t + (n : Int) - 1 < 55296 by omega)]
set_option maxHeartbeats 1000000 in
/-- A piece with a text. -/
theorem size_text (f t c : Int) (x : ByteArray) (N : Nat) (w : World) (hf : f ≤ 9223372036854775807) (hT : Tabs w) (hn : x.data.toList ≠ [])
    (HC : ∀ w, Tabs w → Calls Tryz.prog 134 #[.string x] w fun e w' => e = .returned (.int .i64 N) ∧ Ext w w') :
    Calls Tryz.prog 157 #[.agg #[.int .i64 f, .int .i32 t, .int .i64 c, .string x]] w fun e w' => e = .returned (.tuple #[.int .i64 N, .bool (decide (0 ≤ f ∧ 1 ≤ (N : Int) ∧ (N : Int) ≤ 1048576 - f))]) ∧ Ext w w' := by
  obtain ⟨n1, n2, n3⟩ := ne_facts hn
  have HT := Lib.hid hT
  have HCC := Lib.hid HC
  have hbn := (keepFour w (.int .i64 f) (.int .i32 t) (.int .i64 c) (.string x) 105)
  have HK := Lib.hid hbn
  clear hn hT HC hbn
  by_cases h1 : f < 0
  · have e : decide (0 ≤ f ∧ 1 ≤ (N : Int) ∧ (N : Int) ≤ 1048576 - f) = false := decide_eq_false (by omega)
    have h0 : ¬ 0 ≤ f := by omega
    rw [e]
    clear e
    go_enter Tryz.func157, Tryz.ntmps157
    go_wp2_with (go_at_call 134; refine (HCC.out _ (HT.out.ext HK.out.1)).mono ?_; rintro e w1 ⟨rfl, hb1⟩; have hC := HK.out.ext hb1; obtain ⟨k0, k1, k2, k3, _⟩ := hC.2)
    go_ret2
    exact ⟨rfl, hC.1⟩
  by_cases h2 : (N : Int) < 1
  · have e : decide (0 ≤ f ∧ 1 ≤ (N : Int) ∧ (N : Int) ≤ 1048576 - f) = false := decide_eq_false (by omega)
    have h0 : 0 ≤ f := by omega
    have h3 : ¬ 1 ≤ (N : Int) := by omega
    rw [e]
    clear e
    go_enter Tryz.func157, Tryz.ntmps157
    go_wp2_with (go_at_call 134; refine (HCC.out _ (HT.out.ext HK.out.1)).mono ?_; rintro e w1 ⟨rfl, hb1⟩; have hC := HK.out.ext hb1; obtain ⟨k0, k1, k2, k3, _⟩ := hC.2)
    go_ret2
    exact ⟨rfl, hC.1⟩
  by_cases h3 : (1048576 : Int) - f < N
  · have e : decide (0 ≤ f ∧ 1 ≤ (N : Int) ∧ (N : Int) ≤ 1048576 - f) = false := decide_eq_false (by omega)
    have h0 : 0 ≤ f := by omega
    have h4 : 1 ≤ (N : Int) := by omega
    have h5 : ¬ (N : Int) ≤ 1048576 - f := by omega
    rw [e]
    clear e
    go_enter Tryz.func157, Tryz.ntmps157
    go_wp2_with (go_at_call 134; refine (HCC.out _ (HT.out.ext HK.out.1)).mono ?_; rintro e w1 ⟨rfl, hb1⟩; have hC := HK.out.ext hb1; obtain ⟨k0, k1, k2, k3, _⟩ := hC.2)
    go_ret2
    exact ⟨rfl, hC.1⟩
  · have e : decide (0 ≤ f ∧ 1 ≤ (N : Int) ∧ (N : Int) ≤ 1048576 - f) = true := decide_eq_true (by omega)
    have h0 : 0 ≤ f := by omega
    have h4 : 1 ≤ (N : Int) := by omega
    have h5 : (N : Int) ≤ 1048576 - f := by omega
    have h6 : f ≤ 1048576 := by omega
    rw [e]
    clear e
    go_enter Tryz.func157, Tryz.ntmps157
    go_wp2_with (go_at_call 134; refine (HCC.out _ (HT.out.ext HK.out.1)).mono ?_; rintro e w1 ⟨rfl, hb1⟩; have hC := HK.out.ext hb1; obtain ⟨k0, k1, k2, k3, _⟩ := hC.2)
    go_ret2
    exact ⟨rfl, hC.1⟩
set_option maxHeartbeats 1000000 in
/-- A piece without a text that has no such codes. -/
theorem size_plain_no (f t c : Int) (w : World) (hf : f ≤ 9223372036854775807) (h : f < 0 ∨ c < 1 ∨ 1048576 - f < c) :
    Calls Tryz.prog 157 #[.agg #[.int .i64 f, .int .i32 t, .int .i64 c, .string ⟨#[]⟩]] w fun e w' => e = .returned (.tuple #[.int .i64 c, .bool false]) ∧ Ext w w' := by
  have HK := Lib.hid (keepFour w (.int .i64 f) (.int .i32 t) (.int .i64 c) (.string ⟨#[]⟩) 105)
  by_cases h1 : f < 0
  · have h0 : ¬ 0 ≤ f := by omega
    clear h
    obtain ⟨k0, k1, k2, k3, _⟩ := HK.out.2
    go_enter Tryz.func157, Tryz.ntmps157
    go_wp2
    go_ret2
    exact ⟨rfl, HK.out.1⟩
  by_cases h2 : c < 1
  · have h0 : 0 ≤ f := by omega
    have h3 : ¬ 1 ≤ c := by omega
    clear h
    obtain ⟨k0, k1, k2, k3, _⟩ := HK.out.2
    go_enter Tryz.func157, Tryz.ntmps157
    go_wp2
    go_ret2
    exact ⟨rfl, HK.out.1⟩
  · have h0 : 0 ≤ f := by omega
    have h3 : 1 ≤ c := by omega
    have h4 : ¬ c ≤ 1048576 - f := by omega
    clear h
    obtain ⟨k0, k1, k2, k3, _⟩ := HK.out.2
    go_enter Tryz.func157, Tryz.ntmps157
    go_wp2
    go_ret2
    exact ⟨rfl, HK.out.1⟩
set_option maxHeartbeats 1000000 in
/-- A piece without a text that has such codes. -/
theorem size_plain (f t : Int) (n : Nat) (w : World) (h0 : 0 ≤ f) (h1 : 1 ≤ n) (h2 : (n : Int) ≤ 1048576 - f) :
    Calls Tryz.prog 157 #[.agg #[.int .i64 f, .int .i32 t, .int .i64 n, .string ⟨#[]⟩]] w fun e w' => e = .returned (.tuple #[.int .i64 n, .bool (runZ t n)]) ∧ Ext w w' := by
  have HK := Lib.hid (keepFour w (.int .i64 f) (.int .i32 t) (.int .i64 n) (.string ⟨#[]⟩) 105)
  have HA := Lib.hid (fun w => all_signs t n w h1 (by omega))
  have h3 : 1 ≤ (n : Int) := by omega
  have h4 : f ≤ 1048576 := by omega
  generalize runZ t n = b at HA
  obtain ⟨k0, k1, k2, k3, _⟩ := HK.out.2
  go_enter Tryz.func157, Tryz.ntmps157
  go_wp2_with (go_at_call 190; refine (HA.out _).mono ?_; rintro e w1 ⟨rfl, rfl⟩)
  go_ret2
  exact ⟨rfl, HK.out.1⟩
end Go.Proofs.YtndopjmdpmkgeaaGreatDoor
namespace Go.Proofs.YtndopjmdpmkgeaaGreatDoor
open Go Go.ChangeShapes Go.WideShapes Go.ChangeAt Go.RowKit
set_option linter.unusedSimpArgs false
set_option linter.unusedVariables false

theorem sgn_pos {x : ByteArray} (h : x.data.toList ≠ []) : 1 ≤ (sgn x).length := by
  unfold sgn
  rw [runesL_step _ h, List.length_cons]
  omega
theorem count_ok (x : ByteArray) (w : World) (hT : Tabs w) (hx : x.size ≤ 1000000) (hb : badS x < 0) : Calls Tryz.prog 134 #[.string x] w fun e w' => e = .returned (.int .i64 (sgn x).length) ∧ Ext w w' := by
  have := count_yes x w hT (by omega) (by rw [validS_eq]; exact decide_eq_true hb)
  rwa [runeCount_eq] at this
theorem count_bad (x : ByteArray) (w : World) (hT : Tabs w) (hx : x.size ≤ 1000000) (hb : ¬ badS x < 0) : Calls Tryz.prog 134 #[.string x] w fun e w' => e = .returned (.int .i64 ((0 : Nat) : Int)) ∧ Ext w w' :=
  count_no x w hT (by omega) (by rw [validS_eq]; exact decide_eq_false hb)
theorem piece_size_no (f t c : Int) (x : ByteArray) (w : World) (hT : Tabs w) (hf : f ≤ 9223372036854775807) (hx : x.size ≤ 1000000) (h : pieceP f t c x = none) :
    Calls Tryz.prog 157 #[.agg #[.int .i64 f, .int .i32 t, .int .i64 c, .string x]] w fun e w' => (∃ n : Int, e = .returned (.tuple #[.int .i64 n, .bool false])) ∧ Ext w w' := by
  unfold pieceP at h
  split at h
  · rename_i he
    have e : x = ⟨#[]⟩ := bytes_inj he
    subst e
    split at h
    · rename_i hn
      by_cases h1 : f < 0 ∨ c < 1 ∨ 1048576 - f < c
      · exact (size_plain_no f t c w hf h1).mono fun e w' ⟨h2, h3⟩ => ⟨⟨_, h2⟩, h3⟩
      · simp only [not_or] at h1
        obtain ⟨n, rfl⟩ := Int.eq_ofNat_of_zero_le (show 0 ≤ c by omega)
        have hz : runZ t n = false := by
          cases hr : runZ t n with
          | false => rfl
          | true =>
            have := (runZ_iff (show 1 ≤ n by omega)).1 hr
            rcases hn with hn | hn | hn | hn | hn | hn | hn
            · omega
            · omega
            · omega
            · omega
            · rw [hn] at this; cases this.1
            · rw [hn] at this; cases this.2.1
            · exact absurd hn this.2.2
        have := size_plain f t n w (by omega) (by omega) (by omega)
        rw [hz] at this
        exact this.mono fun e w' ⟨h2, h3⟩ => ⟨⟨_, h2⟩, h3⟩
    · cases h
  · rename_i he
    split at h
    · rename_i hn
      by_cases hb : badS x < 0
      · have hd : decide (0 ≤ f ∧ 1 ≤ (((sgn x).length : Nat) : Int) ∧ (((sgn x).length : Nat) : Int) ≤ 1048576 - f) = false := decide_eq_false (by
          rcases hn with hn | hn | hn
          · exact absurd hb hn
          · omega
          · omega)
        have := size_text f t c x (sgn x).length w hf hT he (fun w hT => count_ok x w hT hx hb)
        rw [hd] at this
        exact this.mono fun e w' ⟨h2, h3⟩ => ⟨⟨_, h2⟩, h3⟩
      · have hd : decide (0 ≤ f ∧ 1 ≤ ((0 : Nat) : Int) ∧ ((0 : Nat) : Int) ≤ 1048576 - f) = false := decide_eq_false (by omega)
        have := size_text f t c x 0 w hf hT he (fun w hT => count_bad x w hT hx hb)
        rw [hd] at this
        exact this.mono fun e w' ⟨h2, h3⟩ => ⟨⟨_, h2⟩, h3⟩
    · cases h
theorem piece_size_yes (f t c : Int) (x : ByteArray) (more : List Pr) (w : World) (hT : Tabs w) (hf : f ≤ 9223372036854775807) (hx : x.size ≤ 1000000) (h : pieceP f t c x = some more) :
    Calls Tryz.prog 157 #[.agg #[.int .i64 f, .int .i32 t, .int .i64 c, .string x]] w fun e w' => e = .returned (.tuple #[.int .i64 more.length, .bool true]) ∧ Ext w w' := by
  unfold pieceP at h
  split at h
  · rename_i he
    have e : x = ⟨#[]⟩ := bytes_inj he
    subst e
    split at h
    · cases h
    · rename_i hn
      have := Option.some.inj h
      subst this
      simp only [not_or, Bool.not_eq_false] at hn
      obtain ⟨n1, n2, n3, n4, n5, n6, n7⟩ := hn
      obtain ⟨n, rfl⟩ := Int.eq_ofNat_of_zero_le (show 0 ≤ c by omega)
      have hz : runZ t n = true := (runZ_iff (show 1 ≤ n by omega)).2 ⟨n5, n6, n7⟩
      have := size_plain f t n w (by omega) (by omega) (by omega)
      rw [hz] at this
      rw [Int.toNat_natCast, pairsN_len]
      exact this
  · rename_i he
    split at h
    · cases h
    · rename_i hn
      have := Option.some.inj h
      subst this
      simp only [not_or, Decidable.not_not] at hn
      obtain ⟨n1, n2, n3⟩ := hn
      have hp := sgn_pos he
      have hd : decide (0 ≤ f ∧ 1 ≤ (((sgn x).length : Nat) : Int) ∧ (((sgn x).length : Nat) : Int) ≤ 1048576 - f) = true := decide_eq_true (by omega)
      have := size_text f t c x (sgn x).length w hf hT he (fun w hT => count_ok x w hT hx n1)
      rw [hd] at this
      rw [pairsN_len]
      exact this
theorem is_one (w : World) (f t n : Int) : IsRws (w.alloc (.cells #[.int .i64 f, .int .i64 t, .int .i64 n] 189)) (some ⟨w.heap.size, 0, none⟩) 1 1 [⟨f, t, n⟩] := by
  obtain ⟨_, h0, h1, h2, _⟩ := keep_three w (.int .i64 f) (.int .i64 t) (.int .i64 n) 189
  refine ⟨rfl, .inr ⟨w.heap.size, 0, rfl, by omega, by simp, fun j r hj => ?_⟩⟩
  match j, hj with
  | 0, hj =>
    simp at hj
    subst hj
    exact ⟨by rw [show 0 + 0 * 3 = 0 from rfl]; exact h0, by rw [show 0 + 0 * 3 + 1 = 1 from rfl]; exact h1, by rw [show 0 + 0 * 3 + 2 = 2 from rfl]; exact h2⟩
  | j + 1, hj => simp at hj
set_option maxHeartbeats 1000000 in
theorem rows_plain (f t n : Int) (w : World) (ht0 : 0 ≤ t) (ht1 : t ≤ 1114111) :
    Calls Tryz.prog 159 #[.agg #[.int .i64 f, .int .i32 t, .int .i64 n, .string ⟨#[]⟩]] w fun e w' => ∃ a, e = .returned (.slice a 1 1) ∧ IsRws w' a 1 1 [⟨f, t, n⟩] ∧ Ext w w' := by
  have HK := Lib.hid (keepFour w (.int .i64 f) (.int .i32 t) (.int .i64 n) (.string ⟨#[]⟩) 105)
  obtain ⟨k0, k1, k2, k3, _⟩ := HK.out.2
  go_enter Tryz.func159, Tryz.ntmps159
  go_wp2
  go_ret
  refine ⟨_, rfl, ?_, HK.out.1.alloc _⟩
  have := is_one (w.alloc (.cells #[.int .i64 f, .int .i32 t, .int .i64 n, .string ⟨#[]⟩] 105)) f t n
  simpa using this
set_option maxHeartbeats 2000000 in
set_option maxRecDepth 100000 in
theorem rows_text (f t n : Int) (x : ByteArray) (w : World) (hT : Tabs w) (hx : x.size ≤ 1000000) (hn : x.data.toList ≠ []) (hb : badS x < 0) (h0 : 0 ≤ f) (h1 : f + (sgn x).length ≤ 1048576) :
    Calls Tryz.prog 159 #[.agg #[.int .i64 f, .int .i32 t, .int .i64 n, .string x]] w fun e w' => ∃ (a : Option Addr) (cap : Nat) (l : List Rw), e = .returned (.slice a l.length cap) ∧ IsRws w' a l.length cap l ∧ expL l = pairsN f (fun (i : Nat) => (sgn x).getD i 0) (sgn x).length ∧ GoodL l ∧ Ext w w' := by
  have HK := Lib.hid (keepFour w (.int .i64 f) (.int .i32 t) (.int .i64 n) (.string x) 105)
  obtain ⟨k0, k1, k2, k3, _⟩ := HK.out.2
  obtain ⟨n1, n2, n3⟩ := ne_facts hn
  have hsg : ∀ i, i < (sgn x).length → 0 ≤ (sgn x).getD i 0 ∧ (sgn x).getD i 0 ≤ 1114111 := by
    intro i hi
    have ha := sgn_signs x
    unfold allSigns at ha
    rw [List.all_eq_true] at ha
    have e : (sgn x).getD i 0 = (sgn x)[i] := by simp [List.getD, hi]
    rw [e]
    have := (isSign_iff _).1 (ha _ (List.getElem_mem hi))
    omega
  have HP : Hid (∀ w, Tabs w → Calls Tryz.prog 104 #[.string x] w fun e w' => ∃ a cap, e = .returned (.tuple #[.slice a (sgn x).length cap, .agg #[.int .i64 0, .int .i64 0]]) ∧ IsRow w' a (sgn x).length cap (sgn x) ∧ Ext w w') := fun w hT => points_ok x w hT (by omega) hb
  have HSG := Lib.hid hsg
  have HT := Lib.hid (hT.ext HK.out.1)
  generalize sgn x = zs at HP HSG h1 ⊢
  clear hn hb hsg hT
  go_enter Tryz.func159, Tryz.ntmps159
  go_wp2_with (go_at_call 104; refine (HP.out _ HT.out).mono ?_; rintro e w1 ⟨a, cap, rfl, hr1, hb1⟩; have hC := HK.out.ext hb1)
  have hx1 := (Ext.refl w1).alloc (.cells #[.int .i64 0, .int .i64 0] 54)
  have ho0 := World.ownsRow_nil (w1.alloc (.cells #[.int .i64 0, .int .i64 0] 54)) w1.heap.size 189 3
  have hzl : zs.length ≤ 1048576 := by omega
  generalize w1.alloc (.cells #[.int .i64 0, .int .i64 0] 54) = w2 at hx1 ho0 ⊢
  have HC := Lib.hid hC
  clear hC hb1 k0 k1 k2 k3
  go_loopw [3, 28] (fun v i wr => ∃ (k : Nat) (out : List Rw), k ≤ zs.length ∧ i = .int .i64 k ∧ wr.ownsRow w1.heap.size 189 3 v out.length (rowCells out) ∧ out.length ≤ k ∧ Hid (expL out = pairsN f (fun (i : Nat) => zs.getD i 0) k) ∧ Hid (GoodL out) ∧ Ext w1 wr) (fun _ i _ => zs.length - (intOf i).toNat)
  case atStart => exact ⟨0, [], by omega, rfl, ho0, Nat.le_refl _, rfl, GoodL.nil, hx1⟩
  case round =>
    obtain ⟨k, out, hk, rfl, ho, hol, HE, HGO, hx⟩ := hrel
    clear ho0 hx1
    by_cases hlt : k < zs.length
    · obtain ⟨y, off, rfl, hyl, p, hp, hc⟩ := row_cell' hr1 hlt
      have hc0 := cell_ext hx hc
      have hpd : zs.getD k 0 = p := by simp [List.getD, hp]
      obtain ⟨p0, p1⟩ := HSG.out k hlt
      rw [hpd] at p0 p1
      have HPD := Lib.hid hpd
      obtain ⟨k0, k1, k2, k3, _⟩ := (HC.out.ext hx).2
      have hsz := hx.size
      have HA := Lib.hid (add_any ⟨f + (k : Int), p, 1⟩ _ w1.heap.size out wr ho hsz (by unfold Good0; simp only; omega) HGO.out (by omega))
      have HO := Lib.hid ho
      clear hc hp hpd ho
      go_wp2_with (go_at_call 191; refine HA.out.mono ?_; rintro e w3 ⟨v3, out3, rfl, ho3, he3, hg3, hl3, hgr3, hf3⟩)
      have hxa := hx.own_grown HO.out (Nat.le_refl _) hgr3
      have HE3 := Lib.hid he3
      have HG3 := Lib.hid hg3
      clear he3 hg3 hf3 hgr3
      go_roundw
      case rel =>
        refine ⟨k + 1, out3, by omega, by go_num, ho3, by omega, ?_, HG3, hxa⟩
        show _ = _
        rw [HE3.out, HE.out, pairsN_succ, HPD.out]
        congr 1
        simp [expR, pairsN]
      case measure => simp [intOf]; omega
    · have hkl : k = zs.length := by omega
      subst hkl
      obtain ⟨a', cap', rfl, hrow⟩ := own_rws ho
      clear ho
      go_wp2
      go_ret
      exact ⟨a', cap', out, rfl, hrow, HE.out, HGO.out, HC.out.1.trans hx⟩
theorem piece_rows (f t c : Int) (x : ByteArray) (more : List Pr) (w : World) (hT : Tabs w) (hx : x.size ≤ 1000000) (h : pieceP f t c x = some more) :
    Calls Tryz.prog 159 #[.agg #[.int .i64 f, .int .i32 t, .int .i64 c, .string x]] w fun e w' => ∃ (a : Option Addr) (cap : Nat) (l : List Rw), e = .returned (.slice a l.length cap) ∧ IsRws w' a l.length cap l ∧ expL l = more ∧ GoodL l ∧ Ext w w' := by
  unfold pieceP at h
  split at h
  · rename_i he
    have e : x = ⟨#[]⟩ := bytes_inj he
    subst e
    split at h
    · cases h
    · rename_i hn
      have := Option.some.inj h
      subst this
      simp only [not_or, Bool.not_eq_false] at hn
      obtain ⟨n1, n2, n3, n4, n5, n6, n7⟩ := hn
      have s1 := (isSign_iff t).1 n5
      have s2 := (isSign_iff _).1 n6
      refine (rows_plain f t c w (by omega) (by omega)).mono ?_
      rintro e w' ⟨a, rfl, h1, h2⟩
      exact ⟨a, 1, [⟨f, t, c⟩], rfl, h1, expL_one _, GoodL.one ⟨by show 0 ≤ f; omega, by show f + c ≤ 2097152; omega, by show 0 ≤ t; omega, by show t + c ≤ 2097152; omega, by show 1 ≤ c; omega⟩, h2⟩
  · rename_i he
    split at h
    · cases h
    · rename_i hn
      have := Option.some.inj h
      subst this
      simp only [not_or, Decidable.not_not] at hn
      obtain ⟨n1, n2, n3⟩ := hn
      exact rows_text f t c x w hT hx he n1 (by omega) (by omega)
end Go.Proofs.YtndopjmdpmkgeaaGreatDoor
namespace Go.Proofs.YtndopjmdpmkgeaaGreatDoor
open Go Go.RowKit
set_option linter.unusedSimpArgs false
set_option linter.unusedVariables false

theorem pieceP_form {f t c : Int} {x : ByteArray} {more : List Pr} (h : pieceP f t c x = some more) : ∃ (g : Nat → Int) (n : Nat), more = pairsN f g n ∧ 0 ≤ f ∧ 1 ≤ n ∧ f + n ≤ 1048576 := by
  unfold pieceP at h
  split at h
  · split at h
    · cases h
    · rename_i hn
      have := Option.some.inj h
      simp only [not_or, Bool.not_eq_false] at hn
      obtain ⟨n1, n2, n3, n4, n5, n6, n7⟩ := hn
      exact ⟨_, _, this.symm, by omega, by omega, by omega⟩
  · rename_i he
    split at h
    · cases h
    · rename_i hn
      have := Option.some.inj h
      simp only [not_or, Decidable.not_not] at hn
      obtain ⟨n1, n2, n3⟩ := hn
      exact ⟨_, _, this.symm, by omega, sgn_pos he, by omega⟩
/-- Which codes are marked. -/
def TakenOk (cur : List Pr) (bs : List Bool) : Prop := ∀ c : Nat, bs.getD c false = true ↔ has cur c
theorem TakenOk.nil : TakenOk [] [] := fun c => by simp [has]
theorem has_pairsN {f : Int} {g : Nat → Int} {n : Nat} {c : Int} : has (pairsN f g n) c ↔ f ≤ c ∧ c < f + n := by
  unfold has pairsN
  constructor
  · rintro ⟨p, hp, rfl⟩
    obtain ⟨i, hi, rfl⟩ := List.mem_map.1 hp
    have := List.mem_range.1 hi
    show f ≤ f + (i : Int) ∧ f + (i : Int) < f + (n : Int)
    omega
  · rintro ⟨h1, h2⟩
    exact ⟨(f + ((c - f).toNat : Int), g (c - f).toNat), List.mem_map.2 ⟨(c - f).toNat, List.mem_range.2 (by omega), rfl⟩, by show f + ((c - f).toNat : Int) = c; omega⟩
theorem join_free {cur more all2 : List Pr} {bs : List Bool} {f n : Nat} {g : Nat → Int} (hm : more = pairsN f g n) (hj : joinP cur more = some all2) (hk : TakenOk cur bs) : ∀ i, f ≤ i → i < f + n → bs.getD i false = false := by
  intro i h1 h2
  cases hb : bs.getD i false with
  | false => rfl
  | true =>
    exfalso
    have hh := (hk i).1 hb
    subst hm
    have h3 := pairsN_get (f : Int) g n (i - f) (by omega)
    have h4 := (joinP_some hj).1 _ _ h3
    have e : (f : Int) + ((i - f : Nat) : Int) = (i : Int) := by omega
    rw [show ((f : Int) + ((i - f : Nat) : Int), g (i - f)).1 = (i : Int) from e] at h4
    exact (findP_not cur i).1 h4 hh
theorem join_taken {cur more : List Pr} {bs : List Bool} {f n : Nat} {g : Nat → Int} (hm : more = pairsN f g n) (hj : joinP cur more = none) (hk : TakenOk cur bs) : ∃ i, f ≤ i ∧ i < f + n ∧ bs.getD i false = true := by
  obtain ⟨j, q, hq, h0⟩ := joinP_none hj
  subst hm
  have hjn : j < n := by
    have := (List.getElem?_eq_some_iff.1 hq).1
    rwa [pairsN_len] at this
  rw [pairsN_get (f : Int) g n j hjn] at hq
  obtain rfl := Option.some.inj hq
  refine ⟨f + j, by omega, by omega, (hk (f + j)).2 ?_⟩
  have := (findP_iff cur _).1 h0
  have e : ((f + j : Nat) : Int) = (f : Int) + (j : Int) := by omega
  rw [e]
  exact this
theorem join_marks {cur more all2 : List Pr} {bs : List Bool} {f n : Nat} {g : Nat → Int} (hc : Rising cur) (hm : more = pairsN f g n) (hj : joinP cur more = some all2) (hk : TakenOk cur bs) : TakenOk all2 (marked (longer bs (f + n)) f n) := by
  have hr := (rising_joinP hc (by rw [hm]; exact rising_pairsN _ _ _) hj).2
  intro c
  rw [marked_get, longer_len, longer_get]
  have hh : has all2 c ↔ has cur c ∨ has more c := by
    unfold has
    constructor
    · rintro ⟨p, hp, e⟩
      rcases (hr p).1 hp with h | h
      · exact .inl ⟨p, h, e⟩
      · exact .inr ⟨p, h, e⟩
    · rintro (⟨p, hp, e⟩ | ⟨p, hp, e⟩)
      · exact ⟨p, (hr p).2 (.inl hp), e⟩
      · exact ⟨p, (hr p).2 (.inr hp), e⟩
  rw [hh, hm, has_pairsN]
  have := hk c
  split
  · constructor
    · intro _
      right
      omega
    · intro _
      rfl
  · rw [this]
    constructor
    · exact .inl
    · rintro (h | h)
      · exact h
      · exfalso
        omega
theorem join_fit {cur more all2 : List Pr} {f t c : Int} {x : ByteArray} (hc : Rising cur) (hf : Fit cur) (hp : pieceP f t c x = some more) (hj : joinP cur more = some all2) : Fit all2 := by
  obtain ⟨g1, g2⟩ := pieceP_good hp
  obtain ⟨g, n, hm, h0, h1, h2⟩ := pieceP_form hp
  have hr := (rising_joinP hc g1 hj).2
  intro q hq
  rcases (hr q).1 hq with h | h
  · exact hf q h
  · have hs := (isSign_iff _).1 (g2 q h).2
    have hb : has more q.1 := ⟨q, h, rfl⟩
    rw [hm, has_pairsN] at hb
    omega
/-- The rows that the pieces have come to, so far. -/
def RowsOk (cur : List Pr) (R : List Rw) : Prop := GoodL R ∧ Once (expL R) ∧ ∀ q, q ∈ expL R ↔ q ∈ cur
theorem RowsOk.nil : RowsOk [] [] := ⟨GoodL.nil, List.Pairwise.nil, fun q => by simp [expL]⟩
theorem join_rows {cur more all2 : List Pr} {R l : List Rw} (hc : Rising cur) (hg : Rising more) (hj : joinP cur more = some all2) (h : RowsOk cur R) (hl : expL l = more) (hgl : GoodL l) : RowsOk all2 (R ++ l) := by
  obtain ⟨h1, h2, h3⟩ := h
  have hr := (rising_joinP hc hg hj).2
  refine ⟨h1.app hgl, ?_, fun q => ?_⟩
  · rw [expL_app, hl]
    refine once_app.2 ⟨h2, hg.once, fun p hp q hq e => ?_⟩
    obtain ⟨i, hi⟩ := List.getElem?_of_mem hq
    have h4 := (joinP_some hj).1 i q hi
    exact (findP_not cur q.1).1 h4 ⟨p, (h3 p).1 hp, e⟩
  · rw [expL_app, List.mem_append, h3, hl, hr]
theorem tab_yes {l : List Pr} {F : List Rw} (he : expL F = l) (hg : GoodL F) {c : Int} {q : Pr} (hq : q ∈ l) (hc : q.1 = c) : ∃ (k : Nat) (r : Rw), F[k]? = some r ∧ r.f ≤ c ∧ c < r.f + r.n ∧ r.t + (c - r.f) = q.2 := by
  subst he hc
  obtain ⟨r, hr, h1, h2, h3⟩ := (mem_expL_good hg).1 hq
  obtain ⟨k, hk⟩ := List.getElem?_of_mem hr
  exact ⟨k, r, hk, h1, h2, h3.symm⟩
theorem tab_no {l : List Pr} {F : List Rw} (he : expL F = l) (hg : GoodL F) {c : Int} (hn : ¬ has l c) : ∀ r ∈ F, ¬ (r.f ≤ c ∧ c < r.f + r.n) := by
  subst he
  intro r hr h
  exact hn ⟨(c, r.t + (c - r.f)), (mem_expL_good hg).2 ⟨r, hr, h.1, h.2, rfl⟩, rfl⟩
/-- What leads back is the least code. -/
theorem rev_yes {l g : List Pr} (h : RevOf l g) (hl : Rising l) (hf : From0 l) {p : Int} (hp : ¬ revP l p < 0) : (p, revP l p) ∈ g := by
  rcases revP_iff hl hf p with ⟨h1, _⟩ | ⟨h1, h2, h3⟩
  · omega
  · exact (h.2 p _).2 ⟨h2, fun c' hc' => h3 _ hc' rfl⟩
theorem rev_no {l g : List Pr} (h : RevOf l g) (hl : Rising l) (hf : From0 l) {p : Int} (hp : revP l p < 0) : ¬ has g p := by
  rcases revP_iff hl hf p with ⟨_, h2⟩ | ⟨h1, _⟩
  · rintro ⟨q, hq, rfl⟩
    exact h2 _ ((h.2 q.1 q.2).1 hq).1 rfl
  · omega
end Go.Proofs.YtndopjmdpmkgeaaGreatDoor

