/-
  Contracts of package point (3): where a text has no sign.
-/
import Derived.Test.YtealeedbkjiabaaDoorPt2
import Derived.Lib.TrimUEq
import Derived.Lib.MapLaws
import Derived.Lib.ValidLaws
namespace Go.Proofs.YtealeedbkjiabaaDoor
open Go Go.ChangeShapes Go.WideShapes Go.ChangeAt Go.RowKit
set_option linter.unusedSimpArgs false
set_option linter.unusedVariables false

/-- The first place at which there is no sign, a being the place of the first byte; -1: there is none. -/
def badGo : Nat → Nat → List UInt8 → Int
  | 0, _, _ => -1
  | n + 1, a, l => if l = [] then -1 else if (Lib.decodeL l).1 = 65533 ∧ (Lib.decodeL l).2 = 1 then a else badGo n (a + (Lib.decodeL l).2) (l.drop (Lib.decodeL l).2)
def badL (a : Nat) (l : List UInt8) : Int := badGo l.length a l
theorem badGo_nil : ∀ n a, badGo n a [] = -1
  | 0, _ => rfl
  | _ + 1, _ => by rw [badGo, if_pos rfl]
theorem badGo_fuel : ∀ (n m a : Nat) (l : List UInt8), l.length ≤ n → l.length ≤ m → badGo n a l = badGo m a l
  | 0, m, a, l, h, _ => by
    have e : l = [] := List.eq_nil_of_length_eq_zero (by omega)
    subst e
    rw [badGo_nil, badGo_nil]
  | n + 1, 0, a, l, _, h => by
    have e : l = [] := List.eq_nil_of_length_eq_zero (by omega)
    subst e
    rw [badGo_nil, badGo_nil]
  | n + 1, m + 1, a, l, h, h2 => by
    rw [badGo, badGo]
    by_cases e : l = []
    · rw [if_pos e, if_pos e]
    · rw [if_neg e, if_neg e]
      have h1 := Lib.decodeL_width l
      have h3 : 0 < l.length := List.length_pos_iff.2 e
      rw [badGo_fuel n m _ (l.drop _) (by rw [List.length_drop]; omega) (by rw [List.length_drop]; omega)]
theorem badL_nil (a : Nat) : badL a [] = -1 := rfl
theorem badL_step (a : Nat) (l : List UInt8) (h : l ≠ []) : badL a l = if (Lib.decodeL l).1 = 65533 ∧ (Lib.decodeL l).2 = 1 then (a : Int) else badL (a + (Lib.decodeL l).2) (l.drop (Lib.decodeL l).2) := by
  have h1 := Lib.decodeL_width l
  have h3 : 0 < l.length := List.length_pos_iff.2 h
  unfold badL
  obtain ⟨n, hn⟩ : ∃ n, l.length = n + 1 := ⟨l.length - 1, by omega⟩
  rw [hn, badGo, if_neg h, badGo_fuel n (l.drop _).length _ _ (by rw [List.length_drop]; omega) (Nat.le_refl _)]
theorem extract_drop (s : ByteArray) (a : Nat) (h : a ≤ s.size) : (s.extract a s.size).data.toList = s.data.toList.drop a := by
  rw [ByteArray.data_extract, Array.toList_extract]
  apply List.take_of_length_le
  have e : s.data.toList.length = s.size := rfl
  rw [List.length_drop, e]
  exact Nat.le_refl _
theorem decodeGo_drop (s : ByteArray) (a : Nat) (h : a < s.size) : Lib.decodeGo (s.extract a s.size) = Lib.decodeL (s.data.toList.drop a) := by
  have hs : (s.extract a s.size).size ≠ 0 := by simp [ByteArray.size_extract]; omega
  unfold Lib.decodeGo
  rw [if_neg hs, ← extract_drop s a (by omega)]
  rfl
/-- A fault's number and place, by the place; -1: none. -/
def fNum (a : Int) : Int := if a < 0 then 0 else 2
def fPlace (a : Int) : Int := if a < 0 then 0 else a
theorem fNum_no {a : Int} (h : a < 0) : fNum a = 0 := by unfold fNum; rw [if_pos h]
theorem fNum_yes {a : Int} (h : ¬ a < 0) : fNum a = 2 := by unfold fNum; rw [if_neg h]
theorem fPlace_no {a : Int} (h : a < 0) : fPlace a = 0 := by unfold fPlace; rw [if_pos h]
theorem fPlace_yes {a : Int} (h : ¬ a < 0) : fPlace a = a := by unfold fPlace; rw [if_neg h]
/-- The tables of unicode/utf8 stand as they are laid. -/
def Tabs (w : World) : Prop := Lib.Utf8Tabs 0 1 w
theorem Tabs.ext {w w' : World} (h : Tabs w) (k : Ext w w') : Tabs w' := Utf8Tabs_below h k
theorem decode_at (s : ByteArray) (a p q : Nat) (w : World) (hT : Tabs w) (h : a < s.size) (hD : Lib.decodeL (s.data.toList.drop a) = (p, q)) :
    Calls Tryd.prog 78 #[.string (s.extract a s.size)] w fun e w' => e = .returned (.tuple #[.int .i32 p, .int .i64 q]) ∧ Ext w w' := by
  refine (Tryd.utf8_DecodeRuneInString (s.extract a s.size) w hT).mono ?_
  rintro e w' ⟨rfl, hb⟩
  rw [decodeGo_drop s a h, hD]
  exact ⟨rfl, hb⟩

theorem set_two {w : World} {b : Nat} {x y : Value} {T : TypeId} (h : w.heap[b]? = some (.cells #[x, y] T (0, 0))) (u v : Value) :
    ((w.setCell ⟨b, 0, none⟩ u).setCell ⟨b, 1, none⟩ v).heap[b]? = some (.cells #[u, v] T (0, 0)) := by
  have hlt : b < w.heap.size := lt_of_block h
  have h' : w.heap[b] = .cells #[x, y] T (0, 0) := by simpa [Array.getElem?_eq_getElem hlt] using h
  have hm : (w.setCell ⟨b, 0, none⟩ u).heap[b]? = some (.cells #[u, y] T (0, 0)) := by
    show (w.heap.modify b _)[b]? = _
    rw [Array.getElem?_eq_getElem (by simpa using hlt), Array.getElem_modify_self, h']
    rfl
  have hlt2 : b < (w.setCell ⟨b, 0, none⟩ u).heap.size := lt_of_block hm
  have hm' : (w.setCell ⟨b, 0, none⟩ u).heap[b] = .cells #[u, y] T (0, 0) := by simpa [Array.getElem?_eq_getElem hlt2] using hm
  show ((w.setCell ⟨b, 0, none⟩ u).heap.modify b _)[b]? = _
  rw [Array.getElem?_eq_getElem (by simpa using hlt2), Array.getElem_modify_self, hm']
  rfl
set_option maxRecDepth 100000 in
set_option maxHeartbeats 1000000 in
theorem check_any (s : ByteArray) (w : World) (hT : Tabs w) (hs : s.size ≤ 1099511627776) :
    Calls Tryd.prog 56 #[.string s] w fun e w' => e = .returned (.agg #[.int .i64 (fNum (badL 0 s.data.toList)), .int .i64 (fPlace (badL 0 s.data.toList))]) ∧ Ext w w' := by
  obtain ⟨ba, hba⟩ : ∃ ba, ba = badL 0 s.data.toList := ⟨_, rfl⟩
  rw [← hba]
  have HBA := Lib.hid hba
  clear hba
  have hTab := Lib.hid hT
  clear hT
  go_enter Tryd.func56, Tryd.ntmps56
  go_wp2
  go_loopw [3] (fun i wr => ∃ a : Nat, a ≤ s.size ∧ i = .int .i64 a ∧ Ext (w.alloc (.cells #[.int .i64 0, .int .i64 0] 30)) wr ∧ Hid (ba = badL a (s.data.toList.drop a))) (fun i _ => s.size - (intOf i).toNat)
  case atStart => exact ⟨0, by omega, rfl, Ext.refl _, HBA.out⟩
  case round =>
    obtain ⟨a, ha, rfl, hx, HB⟩ := hrel
    obtain ⟨b, hbe⟩ : ∃ b, b = w.heap.size := ⟨_, rfl⟩
    have hblk : wr.heap[b]? = some (.cells #[.int .i64 0, .int .i64 0] 30 (0, 0)) := by
      rw [hbe]
      exact (hx.block w.heap.size (by simp)).trans (heap_alloc_new w _)
    have hxw : Ext w wr := ((Ext.refl w).alloc _).trans hx
    have hlb : w.heap.size ≤ b := by omega
    have hxx : Ext (w.alloc (.cells #[.int .i64 0, .int .i64 0] 30)) wr := hx
    rw [← hbe]
    clear hbe hx
    by_cases hlt : a < s.size
    · have hT2 := hTab.out.ext hxw
      have HT2 := Lib.hid hT2
      clear hT2
      have he1 : (a : Int) ≤ s.size := by omega
      obtain ⟨p, q, hD⟩ : ∃ p q, Lib.decodeL (s.data.toList.drop a) = (p, q) := ⟨_, _, rfl⟩
      have hne : s.data.toList.drop a ≠ [] := by
        intro e
        have h1 := congrArg List.length e
        rw [List.length_drop] at h1
        have e2 : s.data.toList.length = s.size := rfl
        rw [e2, List.length_nil] at h1
        omega
      have hst := badL_step a _ hne
      have hqw := Lib.decodeL_width (s.data.toList.drop a)
      have hql := Lib.decodeL_le _ hne
      rw [hD] at hst hqw hql
      rw [List.length_drop, show s.data.toList.length = s.size from rfl] at hql
      rw [List.drop_drop] at hst
      have hql : q ≤ s.size - a := hql
      have hqw : 1 ≤ q := hqw
      rw [← HB.out] at hst
      have HST := Lib.hid hst
      clear hst hne HB
      have HD := Lib.hid hD
      clear hD
      by_cases hp : p = 65533
      · by_cases hq : q = 1
        · subst hp
          subst hq
          have hba : ba = a := by rw [HST.out]; simp
          have HBA2 := Lib.hid hba
          clear hba HST
          go_wp2_with (go_at_call 78; refine (decode_at s a _ _ _ HT2.out hlt HD.out).mono ?_; rintro e w1 ⟨rfl, hb1⟩; have hblk1 : w1.heap[b]? = some (.cells #[.int .i64 0, .int .i64 0] 30 (0, 0)) := (hb1.block b (lt_of_block hblk)).trans hblk; have hc0 : w1.cell? ⟨b, 0, none⟩ = some (.int .i64 0) := (by simp [World.cell?, hblk1]); have hc1 : w1.cell? ⟨b, 1, none⟩ = some (.int .i64 0) := (by simp [World.cell?, hblk1]); have hf0 : w1.frozen? ⟨b, 0, none⟩ = false := (by simp [World.frozen?, hblk1]); have hf1 : w1.frozen? ⟨b, 1, none⟩ = false := (by simp [World.frozen?, hblk1]))
          have hfin := set_two hblk1 (.int .i64 2) (.int .i64 (a : Int))
          have hxf : Ext w ((w1.setCell ⟨b, 0, none⟩ (.int .i64 2)).setCell ⟨b, 1, none⟩ (.int .i64 (a : Int))) := Ext.setCell (Ext.setCell (hxw.trans hb1) hlb _) hlb _
          generalize (w1.setCell ⟨b, 0, none⟩ (.int .i64 2)).setCell ⟨b, 1, none⟩ (.int .i64 (a : Int)) = wf at hfin hxf ⊢
          have k0 : wf.cell? ⟨b, 0, none⟩ = some (.int .i64 2) := by simp [World.cell?, hfin]
          have k1 : wf.cell? ⟨b, 1, none⟩ = some (.int .i64 (a : Int)) := by simp [World.cell?, hfin]
          refine bodyPost_ret (v := .agg #[.int .i64 2, .int .i64 (a : Int)]) (by simp [results, Tryd.results56, go_sem, k0, k1]) rfl ?_
          have hn : ¬ ((a : Int) < 0) := by omega
          exact ⟨by rw [HBA2.out, fNum_yes hn, fPlace_yes hn], hxf⟩
        · have hq1 : ¬ ((q : Int) = 1) := by omega
          have hq2 : ((q : Int) == 1) = false := by simpa using hq1
          subst hp
          go_wp2_with (go_at_call 78; refine (decode_at s a _ _ _ HT2.out hlt HD.out).mono ?_; rintro e w1 ⟨rfl, hb1⟩)
          go_roundw
          case rel => 
            refine ⟨a + q, by omega, by go_num, hxx.trans hb1, ?_⟩
            show ba = badL (a + q) _
            rw [HST.out, if_neg (fun h => hq h.2)]
          case measure => simp [intOf]; omega
      · have hp1 : ¬ ((p : Int) = 65533) := by omega
        have hp2 : ((p : Int) == 65533) = false := by simpa using hp1
        go_wp2_with (go_at_call 78; refine (decode_at s a _ _ _ HT2.out hlt HD.out).mono ?_; rintro e w1 ⟨rfl, hb1⟩)
        go_roundw
        case rel => 
          refine ⟨a + q, by omega, by go_num, hxx.trans hb1, ?_⟩
          show ba = badL (a + q) _
          rw [HST.out, if_neg (fun h => hp h.1)]
        case measure => simp [intOf]; omega
    · have hblk1 := hblk
      have hc0 : wr.cell? ⟨b, 0, none⟩ = some (.int .i64 0) := by simp [World.cell?, hblk1]
      have hc1 : wr.cell? ⟨b, 1, none⟩ = some (.int .i64 0) := by simp [World.cell?, hblk1]
      have hf0 : wr.frozen? ⟨b, 0, none⟩ = false := by simp [World.frozen?, hblk1]
      have hf1 : wr.frozen? ⟨b, 1, none⟩ = false := by simp [World.frozen?, hblk1]
      go_wp2
      have hfin := set_two hblk1 (.int .i64 0) (.int .i64 0)
      have hxf : Ext w ((wr.setCell ⟨b, 0, none⟩ (.int .i64 0)).setCell ⟨b, 1, none⟩ (.int .i64 0)) := Ext.setCell (Ext.setCell hxw hlb _) hlb _
      generalize (wr.setCell ⟨b, 0, none⟩ (.int .i64 0)).setCell ⟨b, 1, none⟩ (.int .i64 0) = wf at hfin hxf ⊢
      have k0 : wf.cell? ⟨b, 0, none⟩ = some (.int .i64 0) := by simp [World.cell?, hfin]
      have k1 : wf.cell? ⟨b, 1, none⟩ = some (.int .i64 0) := by simp [World.cell?, hfin]
      refine bodyPost_ret (v := .agg #[.int .i64 0, .int .i64 0]) (by simp [results, Tryd.results56, go_sem, k0, k1]) rfl ?_
      have hal : a = s.size := by omega
      have hba : ba = -1 := by
        have e : s.data.toList.drop s.size = [] := List.drop_eq_nil_of_le (Nat.le_of_eq rfl)
        rw [HB.out, hal, e]
        rfl
      exact ⟨by rw [hba]; rfl, hxf⟩
end Go.Proofs.YtealeedbkjiabaaDoor
