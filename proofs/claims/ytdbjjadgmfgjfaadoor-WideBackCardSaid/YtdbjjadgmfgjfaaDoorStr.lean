/-
  Rows of texts that a call owns; texts that are joined.
-/
import Derived.Test.YtdbjjadgmfgjfaaDoorPt8
import Derived.Test.YtdbjjadgmfgjfaaDoorShelf
import Derived.Laws.AppendOwn
namespace Go.Proofs.YtdbjjadgmfgjfaaDoor
open Go Go.ChangeShapes Go.WideShapes Go.ChangeAt Go.RowKit
set_option linter.unusedSimpArgs false
set_option linter.unusedVariables false

/-- Texts, one behind the other. -/
def flat (xs : List ByteArray) : ByteArray := ⟨(xs.map (·.data.toList)).flatten.toArray⟩
theorem flat_list (xs : List ByteArray) : (flat xs).data.toList = (xs.map (·.data.toList)).flatten := rfl
theorem join_flat (xs : List ByteArray) : (⟨(Lib.join (xs.map (·.data.toList)) ByteArray.empty.data.toList).toArray⟩ : ByteArray) = flat xs := by
  unfold flat Lib.join
  congr 2
  generalize xs.map (·.data.toList) = l
  have e : ByteArray.empty.data.toList = [] := rfl
  rw [e]
  induction l with
  | nil => rfl
  | cons a l ih =>
    cases l with
    | nil => simp [List.intercalate]
    | cons b l => simp [List.intercalate, List.intersperse] at ih ⊢; rw [ih]
theorem size_list (s : ByteArray) : s.size = s.data.toList.length := rfl
theorem flat_app (a b : List ByteArray) : (flat (a ++ b)).data.toList = (flat a).data.toList ++ (flat b).data.toList := by
  simp only [flat_list, List.map_append, List.flatten_append]
theorem flat_cons (x : ByteArray) (l : List ByteArray) : (flat (x :: l)).data.toList = x.data.toList ++ (flat l).data.toList := by
  simp only [flat_list, List.map_cons, List.flatten_cons]
theorem flat_nil : (flat []).data.toList = [] := rfl
/-- A list of texts: none, or in memory. -/
def IsTexts (w : World) (a : Option Addr) (len cap : Nat) (xs : List ByteArray) : Prop :=
  xs.length = len ∧ (len = 0 ∨ ∃ (x off : Nat), a = some ⟨x, off, none⟩ ∧ len ≤ cap ∧ ∀ (j : Nat) y, xs[j]? = some y → w.cell? ⟨x, off + j, none⟩ = some (.string y))
theorem IsTexts.ext {w w' : World} {a : Option Addr} {len cap : Nat} {xs : List ByteArray} (h : IsTexts w a len cap xs) (k : Ext w w') : IsTexts w' a len cap xs := by
  obtain ⟨h1, h2⟩ := h
  refine ⟨h1, ?_⟩
  rcases h2 with h2 | ⟨x, off, rfl, hc, hcell⟩
  · exact .inl h2
  · exact .inr ⟨x, off, rfl, hc, fun j z hj => (World.cell?_of_block (k.block x (World.block_lt_of_cell? w _ (hcell j z hj)))).trans (hcell j z hj)⟩
theorem ojoin_in (x off cap : Nat) (xs : List ByteArray) (w : World) (hc : ∀ (j : Nat) y, xs[j]? = some y → w.cell? ⟨x, off + j, none⟩ = some (.string y)) (hx : x < w.heap.size) (hl : xs.length ≤ 140737488355328) (hcap : xs.length ≤ cap) (hz : (flat xs).size ≤ 140737488355328) :
    Calls Tryd.prog 25 #[.slice (some ⟨x, off, none⟩) xs.length cap] w fun e w' => e = .returned (.string (flat xs)) ∧ Ext w w' := by
  have hj := Tryd.strings_Join x off cap xs ByteArray.empty w hc hx hl hcap (by
    have := join_flat xs
    have h2 : (Lib.join (xs.map (·.data.toList)) ByteArray.empty.data.toList).length = (flat xs).size := by rw [← this]; rfl
    omega)
  rw [join_flat] at hj
  have HJ := Lib.hid hj
  clear hj
  go_enter Tryd.func25, Tryd.ntmps25
  go_wp2_with (go_at_call 41; refine HJ.out.mono ?_; rintro e w1 ⟨rfl, hb1⟩)
  go_ret
  exact ⟨rfl, hb1⟩
theorem ojoin_none (a : Option Addr) (cap : Nat) (w : World) : Calls Tryd.prog 25 #[.slice a 0 cap] w fun e w' => e = .returned (.string ⟨#[]⟩) ∧ w = w' := by
  have hj := Tryd.strings_Join_none a cap ByteArray.empty w
  have HJ := Lib.hid hj
  clear hj
  go_enter Tryd.func25, Tryd.ntmps25
  go_wp2_with (go_at_call 41; refine HJ.out.mono ?_; rintro e w1 ⟨rfl, rfl⟩)
  go_ret
  exact ⟨rfl, rfl⟩
theorem ojoin_row {w : World} {a : Option Addr} {len cap : Nat} {xs : List ByteArray} (h : IsTexts w a len cap xs) (hl : len ≤ 140737488355328) (hz : (flat xs).size ≤ 140737488355328) :
    Calls Tryd.prog 25 #[.slice a len cap] w fun e w' => e = .returned (.string (flat xs)) ∧ Ext w w' := by
  obtain ⟨rfl, h2⟩ := h
  by_cases h0 : xs.length = 0
  · have e : xs = [] := List.eq_nil_of_length_eq_zero h0
    subst e
    refine (ojoin_none a cap w).mono ?_
    rintro e w' ⟨rfl, rfl⟩
    exact ⟨rfl, Ext.refl _⟩
  · rcases h2 with h2 | ⟨x, off, rfl, hc, hcell⟩
    · exact absurd h2 h0
    · exact ojoin_in x off cap xs w hcell (World.block_lt_of_cell? w _ (hcell 0 (xs[0]'(by omega)) (by simp))) hl hc hz
/-- Texts as cells. -/
def textCells (l : List ByteArray) : List Value := l.map fun z => .string z
theorem textCells_app (a b : List ByteArray) : textCells (a ++ b) = textCells a ++ textCells b := by simp [textCells]
theorem textCells_len (a : List ByteArray) : (textCells a).length = a.length := by simp [textCells]
theorem info_str : (Tryd.prog.info? 9).map (fun i => (i.zero, i.size, i.bytes)) = some (some (.string ⟨#[]⟩), 1, 16) := by kernel_rfl
theorem info_parts_str : ∃ i, Tryd.prog.info? 9 = some i ∧ i.zero = some (.string ⟨#[]⟩) ∧ i.size = 1 ∧ i.bytes = 16 := by
  obtain ⟨i, hi, h2⟩ := Option.map_eq_some_iff.1 info_str
  obtain ⟨h3, h4⟩ := Prod.mk.inj h2
  obtain ⟨h5, h6⟩ := Prod.mk.inj h4
  exact ⟨i, hi, h3, h5, h6⟩
theorem make_texts (k : Nat) (hk : k ≤ 1099511627776) (w : World) : ∃ w', (Instr.makeSlice 48 (.int .i64 0) (.int .i64 (k : Int))).run Tryd.prog w = .ok (.slice (some ⟨w.heap.size, 0, none⟩) 0 k) w' ∧
    (∀ B, B ≤ w.heap.size → w'.ownsRow B 9 1 (.slice (some ⟨w.heap.size, 0, none⟩) 0 k) 0 []) ∧ w.grownBy w' none := by
  obtain ⟨i, hi, h3, h5, h6⟩ := info_parts_str
  obtain ⟨w', h7, h8, h9⟩ := run_make_own (P := Tryd.prog) (w := w) w.heap.size 48 9 i (.string ⟨#[]⟩) 1 Tryd.underlying48 hi h3 h5 .i64 .i64 k (by rw [h6]; omega) (by simp [maxLen]; omega) (Nat.le_refl _)
  refine ⟨w', h7, fun B hB => ?_, h9⟩
  obtain ⟨a, b⟩ := h8
  refine ⟨a, ?_⟩
  rcases b with b | ⟨g, cap, cur, e1, e2, r⟩
  · exact .inl b
  · exact .inr ⟨g, cap, cur, e1, by omega, r⟩
theorem own_texts {w : World} {B : Nat} {v : Value} {n : Nat} {zs : List ByteArray} (h : w.ownsRow B 9 1 v n (textCells zs)) : ∃ a cap, v = .slice a n cap ∧ IsTexts w a n cap zs := by
  obtain ⟨hl, ⟨rfl, rfl⟩ | ⟨g, cap, cur, rfl, hg, hh, hn, hm, hs, ht⟩⟩ := h
  · exact ⟨none, 0, rfl, by simpa [textCells] using hl, .inl rfl⟩
  · have hbl : zs.length = n := by simpa [textCells] using hl
    refine ⟨some ⟨g, 0, none⟩, cap, rfl, hbl, .inr ⟨g, 0, rfl, hn, fun j z hj => ?_⟩⟩
    have hjl : j < zs.length := (List.getElem?_eq_some_iff.1 hj).1
    have e1 : (textCells zs)[j]? = some (.string z) := by simp [textCells, hj]
    rw [← ht, List.getElem?_take, if_pos (by omega)] at e1
    have e2 : w.cell? ⟨g, 0 + j, none⟩ = cur.toList[j]? := by simp [World.cell?, hh]
    rw [e2, e1]
theorem cell_two_new (w : World) (a b : Value) (t : TypeId) : ∀ j u, [a, b][j]? = some u → (w.alloc (.cells #[a, b] t)).cell? ((⟨w.heap.size, 0, none⟩ : Addr).add j) = some u := by
  intro j u hj
  have h : (w.alloc (.cells #[a, b] t)).heap[w.heap.size]? = some (.cells #[a, b] t (0, 0)) := heap_alloc_new w _
  match j, hj with
  | 0, hj =>
    have e : ((⟨w.heap.size, 0, none⟩ : Addr).add 0) = ⟨w.heap.size, 0, none⟩ := by simp [Addr.add]
    simp at hj; subst hj; rw [e]; simp only [World.cell?, h]; rfl
  | 1, hj =>
    have e : ((⟨w.heap.size, 0, none⟩ : Addr).add 1) = ⟨w.heap.size, 1, none⟩ := by simp [Addr.add]
    simp at hj; subst hj; rw [e]; simp only [World.cell?, h]; rfl
  | j + 2, hj => simp at hj
/-- Two texts in a row that is made at once. -/
theorem two_texts (w : World) (s t : ByteArray) : IsTexts (w.alloc (.cells #[.string s, .string t] 9)) (some ⟨w.heap.size, 0, none⟩) 2 2 [s, t] := by
  have h : (w.alloc (.cells #[.string s, .string t] 9)).heap[w.heap.size]? = some (.cells #[.string s, .string t] 9 (0, 0)) := heap_alloc_new w _
  refine ⟨rfl, .inr ⟨w.heap.size, 0, rfl, by decide, fun j y hj => ?_⟩⟩
  match j, hj with
  | 0, hj => simp at hj; subst hj; simp only [World.cell?, h]; rfl
  | 1, hj => simp at hj; subst hj; simp only [World.cell?, h]; rfl
  | j + 2, hj => simp at hj
end Go.Proofs.YtdbjjadgmfgjfaaDoor
