/-
  Codes that are marked as taken: take.
-/
import Derived.Test.YtealeedbkjiabaaDoorTb14
namespace Go.Proofs.YtealeedbkjiabaaDoor
open Go Go.ChangeShapes Go.WideShapes Go.ChangeAt Go.RowKit
set_option linter.unusedSimpArgs false
set_option linter.unusedVariables false

/-- Nothing that was there has turned but rows of one type of the call's own. -/
structure Only (T : TypeId) (B : Nat) (w w' : World) : Prop where
  os : w'.os = w.os
  tape : w'.tape = w.tape
  output : w'.output = w.output
  size : w.heap.size ≤ w'.heap.size
  block : ∀ k, k < w.heap.size → (k < B ∨ ∀ cs fr, w.heap[k]? ≠ some (.cells cs T fr)) → w'.heap[k]? = w.heap[k]?
theorem Only.refl (T : TypeId) (B : Nat) (w : World) : Only T B w w := ⟨rfl, rfl, rfl, Nat.le_refl _, fun _ _ _ => rfl⟩
theorem Only.trans {T : TypeId} {B : Nat} {a b c : World} (h : Only T B a b) (k : Only T B b c) : Only T B a c :=
  ⟨k.os.trans h.os, k.tape.trans h.tape, k.output.trans h.output, Nat.le_trans h.size k.size, fun i hi hn => by
    have e := h.block i hi hn
    refine (k.block i (Nat.lt_of_lt_of_le hi h.size) ?_).trans e
    rw [e]
    exact hn⟩
theorem Only.of_ext {T : TypeId} {B : Nat} {w w' : World} (h : Ext w w') : Only T B w w' := ⟨h.os, h.tape, h.output, h.size, fun k hk _ => h.block k hk⟩
theorem Only.of_grown {T : TypeId} {B size n : Nat} {w w' : World} {v : Value} {xs : List Value} (ho : w.ownsRow B T size v n xs) (h : w.grownBy w' v.ownBlock) : Only T B w w' :=
  ⟨h.os, h.tape, h.output, h.size, fun k hk hn => h.block k hk (by
    intro e
    rcases ho.2 with ⟨rfl, _⟩ | ⟨g, cap, cur, rfl, hg, hh, _⟩
    · cases e
    · have e : k = g := by simpa [Value.ownBlock] using e
      subst e
      rcases hn with hn | hn
      · omega
      · exact hn _ _ hh)⟩
theorem Only.to_ext {T : TypeId} {B : Nat} {W w w' : World} (h : Ext W w) (k : Only T B w w') (hB : W.heap.size ≤ B) : Ext W w' :=
  ⟨k.os.trans h.os, k.tape.trans h.tape, k.output.trans h.output, Nat.le_trans h.size k.size, fun i hi => (k.block i (Nat.lt_of_lt_of_le hi h.size) (.inl (by omega))).trans (h.block i hi)⟩
theorem Only.box {T U : TypeId} {B b : Nat} {w w' : World} {cs : Array Value} {fr : Nat × Nat} (k : Only T B w w') (h : w.heap[b]? = some (.cells cs U fr)) (hne : U ≠ T) : w'.heap[b]? = some (.cells cs U fr) :=
  (k.block b (lt_of_block h) (.inr (fun cs2 fr2 e => by
    rw [h] at e
    injection e with e
    injection e with _ e
    exact hne e))).trans h
theorem Only.own {T U : TypeId} {B C size n : Nat} {w w' : World} {v : Value} {xs : List Value} (k : Only T B w w') (h : w.ownsRow C U size v n xs) (hne : U ≠ T) : w'.ownsRow C U size v n xs := by
  obtain ⟨h1, h2 | ⟨g, cap, cur, e, hg, hh, r⟩⟩ := h
  · exact ⟨h1, .inl h2⟩
  · exact ⟨h1, .inr ⟨g, cap, cur, e, hg, k.box hh hne, r⟩⟩
theorem Only.set {T : TypeId} {B size n g cap : Nat} {w : World} {xs : List Value} (ho : w.ownsRow B T size (.slice (some ⟨g, 0, none⟩) n cap) n xs) (o : Nat) (v : Value) : Only T B w (w.setCell ⟨g, o, none⟩ v) :=
  Only.of_grown ho (by
    have := grown_set w g o v
    simpa [Value.ownBlock] using this)
def TakeOut (w : World) (B : Nat) (bs : List Bool) (f n : Nat) (e : Ending) (w' : World) : Prop :=
  Only 4 B w w' ∧
  (((∀ i, f ≤ i → i < f + n → bs.getD i false = false) ∧ ∃ v', e = .returned (.tuple #[v', .bool true]) ∧ w'.ownsRow B 4 1 v' (max bs.length (f + n)) (boolCells (marked (longer bs (f + n)) f n))) ∨
   ((∃ i, f ≤ i ∧ i < f + n ∧ bs.getD i false = true) ∧ e = .returned (.tuple #[.slice none 0 0, .bool false])))
theorem own_slice_any {w : World} {B : Nat} {e : TypeId} {size : Nat} {v : Value} {n : Nat} {xs : List Value} (h : w.ownsRow B e size v n xs) : ∃ a cap, v = .slice a n cap := by
  rcases own_slice h with ⟨rfl, rfl⟩ | ⟨g, cap, rfl⟩
  · exact ⟨none, 0, rfl⟩
  · exact ⟨some ⟨g, 0, none⟩, cap, rfl⟩
set_option maxHeartbeats 4000000 in
set_option maxRecDepth 100000 in
theorem take_any (v : Value) (B : Nat) (bs : List Bool) (f n : Nat) (w : World) (ho : w.ownsRow B 4 1 v bs.length (boolCells bs)) (hB : B ≤ w.heap.size) (hn : 1 ≤ n) (hf : f + n ≤ 100000000) (hb : bs.length ≤ 100000000) :
    Calls Tryd.prog 38 #[v, .int .i64 f, .int .i64 n] w (TakeOut w B bs f n) := by
  obtain ⟨i1, hj, hj0, hj1, hj2⟩ := info_parts_bool
  have hlg := longer_len bs (f + n)
  obtain ⟨a0, cap0, rfl⟩ := own_slice_any ho
  obtain ⟨L, hL⟩ : ∃ L, L = max bs.length (f + n) := ⟨_, rfl⟩
  have HLL := Lib.hid hL
  by_cases hmore : bs.length < f + n
  · obtain ⟨m, hm⟩ : ∃ m, f + n = bs.length + m := ⟨f + n - bs.length, by omega⟩
    have hlm : boolCells (longer bs (f + n)) = boolCells bs ++ List.replicate m (.bool false) := by
      unfold longer boolCells
      rw [show f + n - bs.length = m by omega]
      simp
    have HO := Lib.hid ho
    have hmi : (f : Int) + n - (bs.length : Int) = (m : Int) := by omega
    have hLm : bs.length + m = L := by omega
    have HM := Lib.hid hm
    have HLM := Lib.hid hlm
    have HLm := Lib.hid hLm
    have hm0 : 0 < m := by omega
    clear hlm hlg hm ho hL hLm
    go_enter Tryd.func38, Tryd.ntmps38
    go_wp2_with (at_builtin; refine wpList_append_zeros _ rfl _ _ 75 3 rfl B 4 .i64 i1 (.bool false) Tryd.underlying75 Tryd.underlying3 hj hj0 hj1 hj2 rfl rfl _ bs.length (boolCells bs) rfl HO.out m rfl hm0 (by omega) hB ?_; intro v5 w5 hown5 hgrow5)
    rw [← HLM.out, HLm.out] at hown5
    have hOn : Only 4 B w w5 := Only.of_grown HO.out hgrow5
    rcases own_slice hown5 with ⟨_, hz⟩ | ⟨g, cap, rfl⟩
    · have := HLL.out
      omega
    have hown6 : w5.ownsRow B 4 1 (.slice (some ⟨g, 0, none⟩) L cap) L (boolCells (marked (longer bs (f + n)) f 0)) := hown5
    clear hown5 hgrow5
    go_loopw [9] (fun i wr => ∃ (p : Nat), f ≤ p ∧ p ≤ f + n ∧ i = .int .i64 p ∧ wr.ownsRow B 4 1 (.slice (some ⟨g, 0, none⟩) L cap) L (boolCells (marked (longer bs (f + n)) f (p - f))) ∧ Only 4 B w wr ∧ Hid (∀ i, f ≤ i → i < p → bs.getD i false = false)) (fun i _ => f + n - (intOf i).toNat)
    case atStart => exact ⟨f, by omega, by omega, rfl, by rw [Nat.sub_self]; exact hown6, hOn, fun i h1 h2 => by omega⟩
    case round =>
      obtain ⟨p, hp1, hp2, rfl, ho, hO2, HN⟩ := hrel
      clear hown6 hOn
      have hpL : p < f + n → p < L := by have := HLL.out; omega
      by_cases hlt : p < f + n
      · have hlt2 : (p : Int) < (f : Int) + (n : Int) := by omega
        have hpl := hpL hlt
        have hc := bool_cell ho hpl
        rw [marked_get, if_neg (by omega), longer_get] at hc
        have hfz := bool_free ho p
        have HO2 := Lib.hid ho
        clear ho hpL
        cases hbt : bs.getD p false with
        | true =>
          rw [hbt] at hc
          have HBT := Lib.hid hbt
          clear hbt
          go_wp2
          go_ret2
          exact ⟨hO2, .inr ⟨⟨p, hp1, hlt, HBT.out⟩, rfl⟩⟩
        | false =>
          rw [hbt] at hc
          have HBT := Lib.hid hbt
          clear hbt
          go_wp2
          go_roundw
          case rel =>
            refine ⟨p + 1, by omega, by omega, by go_num, ?_, hO2.trans (Only.set HO2.out p _), fun i h1 h2 => ?_⟩
            · have := bool_set HO2.out p true
              rw [show p + 1 - f = (p - f) + 1 by omega, marked, show f + (p - f) = p by omega]
              exact this
            · by_cases e : i = p
              · subst e
                exact HBT.out
              · exact HN.out i h1 (by omega)
          case measure => simp [intOf]; omega
      · have hpe : p = f + n := by omega
        have hge : ¬ (p : Int) < (f : Int) + (n : Int) := by omega
        have hno : Hid (∀ i, f ≤ i → i < f + n → bs.getD i false = false) := fun i h1 h2 => HN.out i h1 (by omega)
        have HO3 : Hid (wr.ownsRow B 4 1 (.slice (some ⟨g, 0, none⟩) L cap) (max bs.length (f + n)) (boolCells (marked (longer bs (f + n)) f n))) := by
          show World.ownsRow _ _ _ _ _ _ _
          rw [← HLL.out]
          rw [show p - f = n by omega] at ho
          exact ho
        clear ho hpL hpe
        go_wp2
        go_ret2
        exact ⟨hO2, .inl ⟨hno.out, _, rfl, HO3.out⟩⟩
  · have hlm : longer bs (f + n) = bs := by
      unfold longer
      rw [show f + n - bs.length = 0 by omega]
      simp
    have hLb : L = bs.length := by omega
    have hown6 : w.ownsRow B 4 1 (.slice a0 L cap0) L (boolCells (marked (longer bs (f + n)) f 0)) := by
      rw [hlm, hLb]
      exact ho
    rw [← hLb]
    have hOn := Only.refl 4 B w
    have hmi : ¬ (0 : Int) < (f : Int) + n - (L : Int) := by omega
    rcases own_slice hown6 with ⟨_, hz⟩ | ⟨g, cap, he⟩
    · omega
    obtain ⟨rfl, rfl⟩ : a0 = some ⟨g, 0, none⟩ ∧ cap = cap0 := by have h2 := he; simp at h2; exact ⟨h2.1, h2.2.symm⟩
    have hL2 : L ≤ 100000000 := by omega
    clear hlm hlg ho hL hLb he hmore
    go_enter Tryd.func38, Tryd.ntmps38
    go_wp2
    go_loopw [9] (fun i wr => ∃ (p : Nat), f ≤ p ∧ p ≤ f + n ∧ i = .int .i64 p ∧ wr.ownsRow B 4 1 (.slice (some ⟨g, 0, none⟩) L cap) L (boolCells (marked (longer bs (f + n)) f (p - f))) ∧ Only 4 B w wr ∧ Hid (∀ i, f ≤ i → i < p → bs.getD i false = false)) (fun i _ => f + n - (intOf i).toNat)
    case atStart => exact ⟨f, by omega, by omega, rfl, by rw [Nat.sub_self]; exact hown6, hOn, fun i h1 h2 => by omega⟩
    case round =>
      obtain ⟨p, hp1, hp2, rfl, ho, hO2, HN⟩ := hrel
      clear hown6 hOn
      have hpL : p < f + n → p < L := by have := HLL.out; omega
      by_cases hlt : p < f + n
      · have hlt2 : (p : Int) < (f : Int) + (n : Int) := by omega
        have hpl := hpL hlt
        have hc := bool_cell ho hpl
        rw [marked_get, if_neg (by omega), longer_get] at hc
        have hfz := bool_free ho p
        have HO2 := Lib.hid ho
        clear ho hpL
        cases hbt : bs.getD p false with
        | true =>
          rw [hbt] at hc
          have HBT := Lib.hid hbt
          clear hbt
          go_wp2
          go_ret2
          exact ⟨hO2, .inr ⟨⟨p, hp1, hlt, HBT.out⟩, rfl⟩⟩
        | false =>
          rw [hbt] at hc
          have HBT := Lib.hid hbt
          clear hbt
          go_wp2
          go_roundw
          case rel =>
            refine ⟨p + 1, by omega, by omega, by go_num, ?_, hO2.trans (Only.set HO2.out p _), fun i h1 h2 => ?_⟩
            · have := bool_set HO2.out p true
              rw [show p + 1 - f = (p - f) + 1 by omega, marked, show f + (p - f) = p by omega]
              exact this
            · by_cases e : i = p
              · subst e
                exact HBT.out
              · exact HN.out i h1 (by omega)
          case measure => simp [intOf]; omega
      · have hpe : p = f + n := by omega
        have hge : ¬ (p : Int) < (f : Int) + (n : Int) := by omega
        have hno : Hid (∀ i, f ≤ i → i < f + n → bs.getD i false = false) := fun i h1 h2 => HN.out i h1 (by omega)
        have HO3 : Hid (wr.ownsRow B 4 1 (.slice (some ⟨g, 0, none⟩) L cap) (max bs.length (f + n)) (boolCells (marked (longer bs (f + n)) f n))) := by
          show World.ownsRow _ _ _ _ _ _ _
          rw [← HLL.out]
          rw [show p - f = n by omega] at ho
          exact ho
        clear ho hpL hpe
        go_wp2
        go_ret2
        exact ⟨hO2, .inl ⟨hno.out, _, rfl, HO3.out⟩⟩
end Go.Proofs.YtealeedbkjiabaaDoor
