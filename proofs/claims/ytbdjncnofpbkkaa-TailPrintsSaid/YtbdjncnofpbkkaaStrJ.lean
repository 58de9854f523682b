/-
  Texts that are joined, by the program too.
-/
import Derived.Test.YtbdjncnofpbkkaaStr
import Derived.Test.YtbdjncnofpbkkaaShelf
import Derived.Laws.AppendOwn
import Derived.Lib.Join
namespace Go.Proofs.Ytbdjncnofpbkkaa
open Go Go.ChangeShapes Go.WideShapes Go.ChangeAt Go.RowKit
set_option linter.unusedSimpArgs false
set_option linter.unusedVariables false

theorem join_flat (xs : List ByteArray) : (⟨(Lib.join (xs.map (·.data.toList)) ByteArray.empty.data.toList).toArray⟩ : ByteArray) = flat xs := by
  unfold flat Lib.join
  congr 2
  generalize xs.map (·.data.toList) = l
  have e : ByteArray.empty.data.toList = [] := rfl
  rw [e]
  induction l with
  | nil => rfl
  | cons a l ih =>
    cases l with
    | nil => simp [List.intercalate]
    | cons b l => simp [List.intercalate, List.intersperse] at ih ⊢; rw [ih]
theorem ojoin_in (x off cap : Nat) (xs : List ByteArray) (w : World) (hc : ∀ (j : Nat) y, xs[j]? = some y → w.cell? ⟨x, off + j, none⟩ = some (.string y)) (hx : x < w.heap.size) (hl : xs.length ≤ 140737488355328) (hcap : xs.length ≤ cap) (hz : (flat xs).size ≤ 140737488355328) :
    Calls Try.prog 44 #[.slice (some ⟨x, off, none⟩) xs.length cap] w fun e w' => e = .returned (.string (flat xs)) ∧ Ext w w' := by
  have hj := Try.strings_Join x off cap xs ByteArray.empty w hc hx hl hcap (by
    have := join_flat xs
    have h2 : (Lib.join (xs.map (·.data.toList)) ByteArray.empty.data.toList).length = (flat xs).size := by rw [← this]; rfl
    omega)
  rw [join_flat] at hj
  have HJ := Lib.hid hj
  clear hj
  go_enter Try.func44, Try.ntmps44
  go_wp2_with (go_at_call 62; refine HJ.out.mono ?_; rintro e w1 ⟨rfl, hb1⟩)
  go_ret
  exact ⟨rfl, hb1⟩
theorem ojoin_none (a : Option Addr) (cap : Nat) (w : World) : Calls Try.prog 44 #[.slice a 0 cap] w fun e w' => e = .returned (.string ⟨#[]⟩) ∧ w = w' := by
  have hj := Try.strings_Join_none a cap ByteArray.empty w
  have HJ := Lib.hid hj
  clear hj
  go_enter Try.func44, Try.ntmps44
  go_wp2_with (go_at_call 62; refine HJ.out.mono ?_; rintro e w1 ⟨rfl, rfl⟩)
  go_ret
  exact ⟨rfl, rfl⟩
theorem ojoin_row {w : World} {a : Option Addr} {len cap : Nat} {xs : List ByteArray} (h : IsTexts w a len cap xs) (hl : len ≤ 140737488355328) (hz : (flat xs).size ≤ 140737488355328) :
    Calls Try.prog 44 #[.slice a len cap] w fun e w' => e = .returned (.string (flat xs)) ∧ Ext w w' := by
  obtain ⟨rfl, h2⟩ := h
  by_cases h0 : xs.length = 0
  · have e : xs = [] := List.eq_nil_of_length_eq_zero h0
    subst e
    refine (ojoin_none a cap w).mono ?_
    rintro e w' ⟨rfl, rfl⟩
    exact ⟨rfl, Ext.refl _⟩
  · rcases h2 with h2 | ⟨x, off, rfl, hc, hcell⟩
    · exact absurd h2 h0
    · exact ojoin_in x off cap xs w hcell (World.block_lt_of_cell? w _ (hcell 0 (xs[0]'(by omega)) (by simp))) hl hc hz
theorem info_str : (Try.prog.info? 9).map (fun i => (i.zero, i.size, i.bytes)) = some (some (.string ⟨#[]⟩), 1, 16) := by kernel_rfl
theorem info_parts_str : ∃ i, Try.prog.info? 9 = some i ∧ i.zero = some (.string ⟨#[]⟩) ∧ i.size = 1 ∧ i.bytes = 16 := by
  obtain ⟨i, hi, h2⟩ := Option.map_eq_some_iff.1 info_str
  obtain ⟨h3, h4⟩ := Prod.mk.inj h2
  obtain ⟨h5, h6⟩ := Prod.mk.inj h4
  exact ⟨i, hi, h3, h5, h6⟩
theorem make_texts (k : Nat) (hk : k ≤ 1099511627776) (w : World) : ∃ w', (Instr.makeSlice 63 (.int .i64 0) (.int .i64 (k : Int))).run Try.prog w = .ok (.slice (some ⟨w.heap.size, 0, none⟩) 0 k) w' ∧
    (∀ B, B ≤ w.heap.size → w'.ownsRow B 9 1 (.slice (some ⟨w.heap.size, 0, none⟩) 0 k) 0 []) ∧ w.grownBy w' none := by
  obtain ⟨i, hi, h3, h5, h6⟩ := info_parts_str
  obtain ⟨w', h7, h8, h9⟩ := run_make_own (P := Try.prog) (w := w) w.heap.size 63 9 i (.string ⟨#[]⟩) 1 Try.underlying63 hi h3 h5 .i64 .i64 k (by rw [h6]; omega) (by simp [maxLen]; omega) (Nat.le_refl _)
  refine ⟨w', h7, fun B hB => ?_, h9⟩
  obtain ⟨a, b⟩ := h8
  refine ⟨a, ?_⟩
  rcases b with b | ⟨g, cap, cur, e1, e2, r⟩
  · exact .inl b
  · exact .inr ⟨g, cap, cur, e1, by omega, r⟩
end Go.Proofs.Ytbdjncnofpbkkaa
