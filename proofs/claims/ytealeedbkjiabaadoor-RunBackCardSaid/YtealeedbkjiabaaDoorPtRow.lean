/-
  Lists of numbers in memory, and their text.
-/
import Derived.Test.YtealeedbkjiabaaDoorPtDec
import Derived.Test.YtealeedbkjiabaaDoorPt6
import Derived.Test.YtealeedbkjiabaaDoorPtTabs
namespace Go.Proofs.YtealeedbkjiabaaDoor
open Go Go.ChangeShapes Go.WideShapes Go.ChangeAt Go.RowKit
set_option linter.unusedSimpArgs false
set_option linter.unusedVariables false

/-- What a list of numbers is: none, or in memory. -/
def IsRow (w : World) (a : Option Addr) (len cap : Nat) (zs : List Int) : Prop :=
  zs.length = len ∧ (len = 0 ∨ ∃ (x off : Nat), a = some ⟨x, off, none⟩ ∧ len ≤ cap ∧ ∀ (j : Nat) z, zs[j]? = some z → w.cell? ⟨x, off + j, none⟩ = some (.int .i32 z))
theorem isRow_of {w : World} {x : Addr} {zs : List Int} {len cap : Nat} (hl : len ≤ cap) (hz : zs.length = cap) (hc : ∀ i, i < zs.length → w.cell? (x.add i) = some (.int .i32 (zs.getD i 0))) : IsRow w (some x) len cap (zs.take len) := by
  refine ⟨by simp; omega, ?_⟩
  by_cases h0 : len = 0
  · exact .inl h0
  · obtain ⟨b, off, spot⟩ := x
    have e0 := hc 0 (by omega)
    have hspot : spot = none := by simpa [Addr.add] using World.cell?_spot e0
    subst hspot
    refine .inr ⟨b, off, rfl, hl, fun j y hj => ?_⟩
    have hjl : j < len := by
      rcases Nat.lt_or_ge j len with h | h
      · exact h
      · rw [List.getElem?_eq_none (by simp; omega)] at hj
        cases hj
    have h1 := hc j (by omega)
    rw [Go.WideShapes.add_plain] at h1
    rw [h1]
    rw [List.getElem?_take, if_pos hjl] at hj
    simp [List.getD, hj]
theorem text_row {w0 w : World} {a : Option Addr} {len cap : Nat} {zs : List Int} (h : IsRow w0 a len cap zs) (hx : Ext w0 w) (hl : zs.length ≤ 1099511627776) :
    Calls Tryd.prog 55 #[.slice a len cap] w fun e w' => e = .returned (.tuple #[.string (textOut zs), .bool (allSigns zs)]) ∧ Ext w w' := by
  obtain ⟨h1, h2⟩ := h
  by_cases h0 : len = 0
  · subst h0
    obtain rfl : zs = [] := List.eq_nil_of_length_eq_zero h1
    exact text_none a cap w
  · rcases h2 with h2 | ⟨x, off, rfl, hc, hcell⟩
    · exact absurd h2 h0
    · subst h1
      exact text_in x off cap zs w (fun j z hj => by
        have h3 := hcell j z hj
        exact (World.cell?_of_block (hx.block x (World.block_lt_of_cell? w0 _ h3))).trans h3) (by omega) hl hc
theorem text_size {zs : List Int} (h : allSigns zs = true) : (textOut zs).size ≤ 4 * zs.length := by
  rw [textOut_yes h]
  exact encs_le zs
theorem text_list {zs : List Int} (h : allSigns zs = true) : (textOut zs).data.toList = encs zs := by
  rw [textOut_yes h]
theorem append_list (t s : ByteArray) : (t ++ s).data.toList = t.data.toList ++ s.data.toList := by
  rw [ByteArray.data_append, Array.toList_append]
theorem badL_le : ∀ (n a : Nat) (l : List UInt8), l.length ≤ n → badL a l < a + l.length
  | n, a, [], _ => by rw [badL_nil]; simp; omega
  | 0, a, x :: l, h => by simp at h
  | n + 1, a, x :: l, h => by
    have hne : x :: l ≠ [] := by simp
    have hw := Lib.decodeL_width (x :: l)
    have hq := Lib.decodeL_le (x :: l) hne
    rw [badL_step a _ hne]
    by_cases hb : (Lib.decodeL (x :: l)).1 = 65533 ∧ (Lib.decodeL (x :: l)).2 = 1
    · rw [if_pos hb]; simp; omega
    · rw [if_neg hb]
      have hd : ((x :: l).drop (Lib.decodeL (x :: l)).2).length = (x :: l).length - (Lib.decodeL (x :: l)).2 := List.length_drop
      have h3 := badL_le n (a + (Lib.decodeL (x :: l)).2) ((x :: l).drop (Lib.decodeL (x :: l)).2) (by omega)
      omega
/-- The first place without a sign, of a text. -/
def badS (s : ByteArray) : Int := badL 0 s.data.toList
theorem badS_lt (s : ByteArray) : badS s < s.size := by
  have := badL_le _ 0 s.data.toList (Nat.le_refl _)
  unfold badS
  simpa using this
theorem badS_append {zs : List Int} (h : allSigns zs = true) (s : ByteArray) : badS (textOut zs ++ s) = if badS s < 0 then -1 else (textOut zs).size + badS s := by
  unfold badS
  have e : (textOut zs).size = (encs zs).length := by rw [textOut_yes h]; rfl
  rw [append_list, text_list h, badL_encs zs 0 _ h, badL_shift _ _ _ (Nat.le_refl _), e]
  simp
theorem check_no (s : ByteArray) (w : World) (hT : Tabs w) (hs : s.size ≤ 1099511627776) (h : badS s < 0) : Calls Tryd.prog 56 #[.string s] w fun e w' => e = .returned (.agg #[.int .i64 0, .int .i64 0]) ∧ Ext w w' := by
  have := check_any s w hT hs
  rwa [show badL 0 s.data.toList = badS s from rfl, fNum_no h, fPlace_no h] at this
theorem check_yes (s : ByteArray) (w : World) (hT : Tabs w) (hs : s.size ≤ 1099511627776) (a : Int) (e : badS s = a) (h : ¬ a < 0) : Calls Tryd.prog 56 #[.string s] w fun e w' => e = .returned (.agg #[.int .i64 2, .int .i64 a]) ∧ Ext w w' := by
  have := check_any s w hT hs
  rwa [show badL 0 s.data.toList = badS s from rfl, e, fNum_yes h, fPlace_yes h] at this
end Go.Proofs.YtealeedbkjiabaaDoor
