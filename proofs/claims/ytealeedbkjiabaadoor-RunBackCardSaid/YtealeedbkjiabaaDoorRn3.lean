/-
  The document's answers of layer 4 (3): a piece's pairs.
-/
import Derived.Test.YtealeedbkjiabaaDoorRn2
namespace Go.Proofs.YtealeedbkjiabaaDoor
open Go Go.ChangeShapes Go.WideShapes Go.ChangeAt Go.RowKit
set_option linter.unusedSimpArgs false
set_option linter.unusedVariables false

/-- So many codes from one on, with their signs. -/
def pairsN (from0 : Int) (f : Nat → Int) (n : Nat) : List Pr := (List.range n).map fun (i : Nat) => (from0 + (i : Int), f i)
theorem pairsN_succ (from0 : Int) (f : Nat → Int) (n : Nat) : pairsN from0 f (n + 1) = pairsN from0 f n ++ [(from0 + (n : Int), f n)] := by simp [pairsN, List.range_succ]
theorem pairsN_len (from0 : Int) (f : Nat → Int) (n : Nat) : (pairsN from0 f n).length = n := by simp [pairsN]
theorem pairsN_get (from0 : Int) (f : Nat → Int) (n i : Nat) (h : i < n) : (pairsN from0 f n)[i]? = some (from0 + (i : Int), f i) := by
  unfold pairsN
  rw [List.getElem?_map, List.getElem?_range h]
  rfl
theorem row_cell' {w : World} {a : Option Addr} {n cap : Nat} {zs : List Int} (h : IsRow w a n cap zs) {k : Nat} (hk : k < n) : ∃ x off, a = some ⟨x, off, none⟩ ∧ x < w.heap.size ∧ ∃ p, zs[k]? = some p ∧ w.cell? ⟨x, off + k, none⟩ = some (.int .i32 p) := by
  obtain ⟨h1, h2⟩ := h
  rcases h2 with h2 | ⟨x, off, rfl, hc, hcell⟩
  · omega
  · have hkl : k < zs.length := by omega
    have e : zs[k]? = some zs[k] := by simp [hkl]
    exact ⟨x, off, rfl, World.block_lt_of_cell? w _ (hcell k _ e), _, e, hcell k _ e⟩
/-- A text's signs. -/
def sgn (t : ByteArray) : List Int := runesL t.data.toList
theorem sgn_len (t : ByteArray) : (sgn t).length ≤ t.size := by
  have := Lib.runeCount_le t
  rwa [runeCount_eq] at this
/-- A piece's pairs. -/
def pieceP (from0 tz cnt : Int) (t : ByteArray) : Option (List Pr) :=
  if t.data.toList = [] then
    if from0 < 0 ∨ cnt < 1 ∨ 1048576 < cnt ∨ 1048576 - cnt < from0 ∨ isSign tz = false ∨ isSign (tz + cnt - 1) = false ∨ (tz < 55296 ∧ 57343 < tz + cnt - 1) then none
    else some (pairsN from0 (fun (i : Nat) => tz + (i : Int)) cnt.toNat)
  else if ¬ badS t < 0 ∨ from0 < 0 ∨ 1048576 - ((sgn t).length : Int) < from0 then none
  else some (pairsN from0 (fun (i : Nat) => (sgn t).getD i 0) (sgn t).length)
theorem rscalar_at {p : Int} {c : Bool} (h : isSign p = c) (w : World) : Calls Tryd.prog 69 #[.int .i32 p] w fun e w' => e = .returned (.bool c) ∧ w = w' := by
  have := rscalar_any p w
  rwa [h] at this
theorem ne_facts {t : ByteArray} (h : t.data.toList ≠ []) : t.toList.isEmpty = false ∧ (t.toList == []) = false ∧ ¬ t.toList = [] := by
  rw [ByteArray.toList_eq]
  exact ⟨by simpa using h, beq_false_of_ne h, h⟩
set_option maxRecDepth 100000 in
set_option maxHeartbeats 1000000 in
theorem rpiece_tno (from0 tz cnt : Int) (t : ByteArray) (w : World) (ht : t.size ≤ 1000000000) (hn : t.data.toList ≠ []) (h : ¬ badS t < 0 ∨ from0 < 0 ∨ 1048576 - ((sgn t).length : Int) < from0) :
    Calls Tryd.prog 42 #[.int .i64 from0, .int .i32 tz, .int .i64 cnt, .string t] w fun e w' => e = .returned (.tuple #[.slice none 0 0, .bool false]) ∧ Ext w w' := by
  obtain ⟨n1, n2, n3⟩ := ne_facts hn
  clear hn
  by_cases hb : badS t < 0
  · have HP := Lib.hid (fun w => rpoints_ok t w (by omega) hb)
    have hsl := sgn_len t
    have HP : Hid (∀ w, Calls Tryd.prog 33 #[.string t] w fun e w' => ∃ a cap, e = .returned (.tuple #[.slice a (sgn t).length cap, .int .i64 (-1)]) ∧ IsRow w' a (sgn t).length cap (sgn t) ∧ Ext w w') := HP
    generalize sgn t = zs at HP hsl h
    by_cases h0 : from0 < 0
    · clear h
      go_enter Tryd.func42, Tryd.ntmps42
      go_wp2_with (go_at_call 33; refine (HP.out _).mono ?_; rintro e w1 ⟨a, c, rfl, hr, hb1⟩)
      go_ret2
      exact ⟨rfl, hb1⟩
    · have h1 : 1048576 - (zs.length : Int) < from0 := by rcases h with h | h | h <;> first | exact absurd hb h | exact absurd h h0 | exact h
      clear h
      go_enter Tryd.func42, Tryd.ntmps42
      go_wp2_with (go_at_call 33; refine (HP.out _).mono ?_; rintro e w1 ⟨a, c, rfl, hr, hb1⟩)
      go_ret2
      exact ⟨rfl, hb1⟩
  · have HP := Lib.hid (fun w => rpoints_bad t w (by omega) hb)
    clear h
    have hb2 : 0 ≤ badS t := by omega
    generalize badS t = b at HP hb hb2
    go_enter Tryd.func42, Tryd.ntmps42
    go_wp2_with (go_at_call 33; refine (HP.out _).mono ?_; rintro e w1 ⟨rfl, hb1⟩)
    go_ret2
    exact ⟨rfl, hb1⟩
set_option maxRecDepth 100000 in
set_option maxHeartbeats 1000000 in
theorem rpiece_sno (from0 tz cnt : Int) (w : World) (h : from0 < 0 ∨ cnt < 1 ∨ 1048576 < cnt ∨ 1048576 - cnt < from0 ∨ isSign tz = false ∨ isSign (tz + cnt - 1) = false ∨ (tz < 55296 ∧ 57343 < tz + cnt - 1)) :
    Calls Tryd.prog 42 #[.int .i64 from0, .int .i32 tz, .int .i64 cnt, .string ⟨#[]⟩] w fun e w' => e = .returned (.tuple #[.slice none 0 0, .bool false]) ∧ Ext w w' := by
  by_cases h0 : from0 < 0
  · clear h
    go_enter Tryd.func42, Tryd.ntmps42
    go_wp2
    go_ret2
    exact ⟨rfl, Ext.refl _⟩
  by_cases h1 : cnt < 1
  · clear h
    go_enter Tryd.func42, Tryd.ntmps42
    go_wp2
    go_ret2
    exact ⟨rfl, Ext.refl _⟩
  by_cases h2 : 1048576 < cnt
  · clear h
    go_enter Tryd.func42, Tryd.ntmps42
    go_wp2
    go_ret2
    exact ⟨rfl, Ext.refl _⟩
  by_cases h3 : 1048576 - cnt < from0
  · clear h
    go_enter Tryd.func42, Tryd.ntmps42
    go_wp2
    go_ret2
    exact ⟨rfl, Ext.refl _⟩
  cases h4 : isSign tz
  · have HS := Lib.hid (fun w => rscalar_at h4 w)
    clear h h4
    go_enter Tryd.func42, Tryd.ntmps42
    go_wp2_with (go_at_call 69; refine (HS.out _).mono ?_; rintro e w1 ⟨rfl, rfl⟩)
    go_ret2
    exact ⟨rfl, Ext.refl _⟩
  have hto := (isSign_iff tz).1 h4
  have ht0 : 0 ≤ tz := by omega
  have ht1 : tz ≤ 1114111 := by omega
  have HS := Lib.hid (fun w => rscalar_at h4 w)
  cases h5 : isSign (tz + cnt - 1)
  · have HS2 := Lib.hid (fun w => rscalar_at h5 w)
    clear h h4 h5 hto
    go_enter Tryd.func42, Tryd.ntmps42
    go_wp2_with (first
      | (go_at_call 69; refine (HS.out _).mono ?_; rintro e w1 ⟨rfl, rfl⟩; clear HS)
      | (go_at_call 69; refine (HS2.out _).mono ?_; rintro e w1 ⟨rfl, rfl⟩))
    go_ret2
    exact ⟨rfl, Ext.refl _⟩
  · have HS2 := Lib.hid (fun w => rscalar_at h5 w)
    rw [h4, h5] at h
    have h6 : tz < 55296 ∧ 57343 < tz + cnt - 1 := by
      rcases h with h | h | h | h | h | h | h
      · exact absurd h h0
      · exact absurd h h1
      · exact absurd h h2
      · exact absurd h h3
      · cases h
      · cases h
      · exact h
    obtain ⟨h6, h7⟩ := h6
    clear h h4 h5 hto
    go_enter Tryd.func42, Tryd.ntmps42
    go_wp2_with (first
      | (go_at_call 69; refine (HS.out _).mono ?_; rintro e w1 ⟨rfl, rfl⟩; clear HS)
      | (go_at_call 69; refine (HS2.out _).mono ?_; rintro e w1 ⟨rfl, rfl⟩))
    go_ret2
    exact ⟨rfl, Ext.refl _⟩
set_option maxRecDepth 100000 in
set_option maxHeartbeats 2000000 in
theorem rpiece_tyes (from0 tz cnt : Int) (t : ByteArray) (w : World) (ht : t.size ≤ 1000000) (hn : t.data.toList ≠ []) (hb : badS t < 0) (h0 : ¬ from0 < 0) (h1 : ¬ 1048576 - ((sgn t).length : Int) < from0) :
    Calls Tryd.prog 42 #[.int .i64 from0, .int .i32 tz, .int .i64 cnt, .string t] w fun e w' => ∃ a cap, e = .returned (.tuple #[.slice a (sgn t).length cap, .bool true]) ∧ IsPairs w' a (sgn t).length cap (pairsN from0 (fun (i : Nat) => (sgn t).getD i 0) (sgn t).length) ∧ Ext w w' := by
  obtain ⟨n1, n2, n3⟩ := ne_facts hn
  obtain ⟨i0, hi, hz0, hz1, hz2⟩ := info_parts_pair
  have hsl := sgn_len t
  have HP : Hid (∀ w, Calls Tryd.prog 33 #[.string t] w fun e w' => ∃ a cap, e = .returned (.tuple #[.slice a (sgn t).length cap, .int .i64 (-1)]) ∧ IsRow w' a (sgn t).length cap (sgn t) ∧ Ext w w') := fun w => rpoints_ok t w (by omega) hb
  clear hn hb
  generalize sgn t = zs at HP hsl h1 ⊢
  have h2 : 0 ≤ from0 := by omega
  have h3 : from0 + zs.length ≤ 1048576 := by omega
  go_enter Tryd.func42, Tryd.ntmps42
  go_wp2_with (go_at_call 33; refine (HP.out _).mono ?_; rintro e w1 ⟨a, c, rfl, hr, hb1⟩)
  go_loopw [12, 13] (fun v i wr => ∃ k : Nat, k ≤ zs.length ∧ i = .int .i64 k ∧ Ext w1 wr ∧ wr.ownsRow w1.heap.size 42 2 v k (pairCells (pairsN from0 (fun (i : Nat) => zs.getD i 0) k))) (fun _ i _ => zs.length - (intOf i).toNat)
  case atStart => exact ⟨0, by omega, rfl, Ext.refl _, World.ownsRow_nil _ _ _ _⟩
  case round =>
    obtain ⟨k, hk, rfl, hx, ho⟩ := hrel
    have hle := hx.size
    by_cases hlt : k < zs.length
    · obtain ⟨x, off, rfl, hxl, p, hp, hc⟩ := row_cell' hr hlt
      have hc0 := (World.cell?_of_block (w := w1) (hx.block x hxl)).trans hc
      have hpd : zs.getD k 0 = p := by simp [List.getD, hp]
      have HPD := Lib.hid hpd
      clear hc hp hpd
      go_wp2_with ((at_builtin; refine wpList_append_own _ rfl _ _ 33 rfl (w1.heap.size) 42 i0 (.agg #[.int .i64 0, .int .i32 0]) 2 16 Tryd.underlying33 hi hz0 hz1 hz2 rfl (by decide) _ _ _ rfl (ho.alloc _) ⟨wr.heap.size, 0, none⟩ 1 1 [.int .i64 (from0 + (k : Int)), .int .i32 p] rfl rfl (cell_two_new _ _ _ _) (fun x hx => by simp at hx; rcases hx with rfl | rfl <;> rfl) (by unfold maxLen; omega) (by omega) (by simp; omega) ?_; intro v5 w5 hown5 hgrow5 hnil5; clear hnil5; have hx5 := hx.own ho (Nat.le_refl _) hgrow5; clear hgrow5))
      go_roundw
      case rel =>
        refine ⟨k + 1, by omega, by go_num, hx5, ?_⟩
        rw [pairsN_succ, pairCells_app, pairCells_one, HPD.out]
        exact hown5
      case measure => simp [intOf]; omega
    · have hkl : k = zs.length := by omega
      subst hkl
      obtain ⟨a', cap', rfl, hrow⟩ := own_pairs ho
      clear ho
      go_wp2
      go_ret2
      exact ⟨a', cap', rfl, hrow, hb1.trans hx⟩
set_option maxRecDepth 100000 in
set_option maxHeartbeats 2000000 in
theorem rpiece_syes (from0 tz : Int) (n : Nat) (w : World) (h0 : 0 ≤ from0) (h1 : 1 ≤ n) (h2 : n ≤ 1048576) (h3 : from0 + n ≤ 1048576) (h4 : isSign tz = true) (h5 : isSign (tz + n - 1) = true) (h6 : ¬ (tz < 55296 ∧ 57343 < tz + n - 1)) :
    Calls Tryd.prog 42 #[.int .i64 from0, .int .i32 tz, .int .i64 n, .string ⟨#[]⟩] w fun e w' => ∃ a cap, e = .returned (.tuple #[.slice a n cap, .bool true]) ∧ IsPairs w' a n cap (pairsN from0 (fun (i : Nat) => tz + (i : Int)) n) ∧ Ext w w' := by
  obtain ⟨i0, hi, hz0, hz1, hz2⟩ := info_parts_pair
  have hto := (isSign_iff tz).1 h4
  have hto2 := (isSign_iff (tz + n - 1)).1 h5
  have ht0 : 0 ≤ tz := by omega
  have ht1 : tz ≤ 1114111 := by omega
  have ht2 : tz + n ≤ 1114112 := by omega
  have HS := Lib.hid (fun w => rscalar_at h4 w)
  have HS2 := Lib.hid (fun w => rscalar_at h5 w)
  have n0 : ¬ from0 < 0 := by omega
  have n1 : ¬ (n : Int) < 1 := by omega
  have n2 : ¬ 1048576 < (n : Int) := by omega
  have n3 : ¬ 1048576 - (n : Int) < from0 := by omega
  clear h4 h5 hto hto2
  go_enter Tryd.func42, Tryd.ntmps42
  have hcase : ¬ tz < 55296 ∨ (tz < 55296 ∧ ¬ 57343 < tz + n - 1) := by omega
  clear h6
  rcases hcase with h6 | ⟨h6, h7⟩
  all_goals
    go_wp2_with (first
      | (go_at_call 69; refine (HS.out _).mono ?_; rintro e w1 ⟨rfl, rfl⟩; clear HS)
      | (go_at_call 69; refine (HS2.out _).mono ?_; rintro e w1 ⟨rfl, rfl⟩))
    go_loopw [15, 16] (fun v i wr => ∃ k : Nat, k ≤ n ∧ i = .int .i64 k ∧ Ext w wr ∧ wr.ownsRow w.heap.size 42 2 v k (pairCells (pairsN from0 (fun (i : Nat) => tz + (i : Int)) k))) (fun _ i _ => n - (intOf i).toNat)
    case atStart => exact ⟨0, by omega, rfl, Ext.refl _, World.ownsRow_nil _ _ _ _⟩
    case round =>
      obtain ⟨k, hk, rfl, hx, ho⟩ := hrel
      have hle := hx.size
      by_cases hlt : k < n
      · go_wp2_with ((at_builtin; refine wpList_append_own _ rfl _ _ 33 rfl (w.heap.size) 42 i0 (.agg #[.int .i64 0, .int .i32 0]) 2 16 Tryd.underlying33 hi hz0 hz1 hz2 rfl (by decide) _ _ _ rfl (ho.alloc _) ⟨wr.heap.size, 0, none⟩ 1 1 [.int .i64 (from0 + (k : Int)), .int .i32 (tz + (k : Int))] rfl rfl (cell_two_new _ _ _ _) (fun x hx => by simp at hx; rcases hx with rfl | rfl <;> rfl) (by unfold maxLen; omega) (by omega) (by simp; omega) ?_; intro v5 w5 hown5 hgrow5 hnil5; clear hnil5; have hx5 := hx.own ho (Nat.le_refl _) hgrow5; clear hgrow5))
        go_roundw
        case rel =>
          refine ⟨k + 1, by omega, by go_num, hx5, ?_⟩
          rw [pairsN_succ, pairCells_app, pairCells_one]
          exact hown5
        case measure => simp [intOf]; omega
      · have hkl : k = n := by omega
        subst hkl
        obtain ⟨a', cap', rfl, hrow⟩ := own_pairs ho
        clear ho
        go_wp2
        go_ret2
        exact ⟨a', cap', rfl, hrow, hx⟩
end Go.Proofs.YtealeedbkjiabaaDoor
