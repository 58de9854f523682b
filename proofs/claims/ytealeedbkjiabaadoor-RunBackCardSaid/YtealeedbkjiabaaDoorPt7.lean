/-
  Contracts of package point (6): the signs of a text that is made of signs.
-/
import Derived.Test.YtealeedbkjiabaaDoorPtRunes
import Derived.WalkSmall
import Derived.Lib.OthersKept
namespace Go.Proofs.YtealeedbkjiabaaDoor
open Go Go.ChangeShapes Go.WideShapes Go.ChangeAt Go.RowKit
set_option linter.unusedSimpArgs false
set_option linter.unusedVariables false

/-- Numbers as cells. -/
def runeCellsOf (l : List Int) : List Value := l.map fun z => .int .i32 z
theorem info_i32 : (Tryd.prog.info? 21).map (fun i => (i.zero, i.size, i.bytes)) = some (some (.int .i32 0), 1, 4) := by kernel_rfl
theorem make_runes (k : Nat) (hk : k ≤ 1099511627776) (w : World) : ∃ w', (Instr.makeSlice 65 (.int .i64 0) (.int .i64 (k : Int))).run Tryd.prog w = .ok (.slice (some ⟨w.heap.size, 0, none⟩) 0 k) w' ∧
    (∀ B, B ≤ w.heap.size → w'.ownsRow B 21 1 (.slice (some ⟨w.heap.size, 0, none⟩) 0 k) 0 []) ∧ w.grownBy w' none := by
  obtain ⟨i, hi, h2⟩ := Option.map_eq_some_iff.1 info_i32
  obtain ⟨h3, h4⟩ := Prod.mk.inj h2
  obtain ⟨h5, h6⟩ := Prod.mk.inj h4
  obtain ⟨w', h7, h8, h9⟩ := run_make_own (P := Tryd.prog) (w := w) w.heap.size 65 21 i (.int .i32 0) 1 Tryd.underlying65 hi h3 h5 .i64 .i64 k (by rw [h6]; omega) (by simp [maxLen]; omega) (Nat.le_refl _)
  refine ⟨w', h7, fun B hB => ?_, h9⟩
  obtain ⟨a, b⟩ := h8
  refine ⟨a, ?_⟩
  rcases b with b | ⟨g, cap, cur, e1, e2, r⟩
  · exact .inl b
  · exact .inr ⟨g, cap, cur, e1, by omega, r⟩
theorem own_row {w : World} {B : Nat} {v : Value} {n : Nat} {zs : List Int} (h : w.ownsRow B 21 1 v n (runeCellsOf zs)) : ∃ a cap, v = .slice a n cap ∧ IsRow w a n cap zs := by
  obtain ⟨hl, ⟨rfl, rfl⟩ | ⟨g, cap, cur, rfl, hg, hh, hn, hm, hs, ht⟩⟩ := h
  · exact ⟨none, 0, rfl, by simpa [runeCellsOf] using hl, .inl rfl⟩
  · have hbl : zs.length = n := by simpa [runeCellsOf] using hl
    refine ⟨some ⟨g, 0, none⟩, cap, rfl, hbl, .inr ⟨g, 0, rfl, hn, fun j z hj => ?_⟩⟩
    have hjl : j < zs.length := (List.getElem?_eq_some_iff.1 hj).1
    have e1 : (runeCellsOf zs)[j]? = some (.int .i32 z) := by simp [runeCellsOf, hj]
    rw [← ht, List.getElem?_take, if_pos (by omega)] at e1
    have e2 : w.cell? ⟨g, 0 + j, none⟩ = cur.toList[j]? := by simp [World.cell?, hh]
    rw [e2, e1]
theorem own_iterAt {w : World} {B e size n : Nat} {v : Value} {xs : List Value} {k : Nat} {s : ByteArray} {pos : Nat} (h : w.ownsRow B e size v n xs) (hk : w.heap[k]? = some (.stringIter s pos)) (pos' : Nat) : (w.iterAt k s pos').ownsRow B e size v n xs := by
  obtain ⟨h1, h2⟩ := h
  refine ⟨h1, ?_⟩
  rcases h2 with h2 | ⟨g, cap, cur, a, b, c, d⟩
  · exact .inl h2
  · have hne : g ≠ k := by
      rintro rfl
      rw [hk] at c
      cases c
    exact .inr ⟨g, cap, cur, a, b, by rw [Lib.iterAt_other _ _ _ _ _ hne]; exact c, d⟩
theorem own_ne_iter {w : World} {B e size n : Nat} {v : Value} {xs : List Value} {k : Nat} {s : ByteArray} {pos : Nat} (h : w.ownsRow B e size v n xs) (hk : w.heap[k]? = some (.stringIter s pos)) : some k ≠ v.ownBlock := by
  obtain ⟨h1, h2⟩ := h
  rcases h2 with ⟨rfl, _⟩ | ⟨g, cap, cur, rfl, b, c, d⟩
  · simp [Value.ownBlock]
  · intro e
    obtain rfl : k = g := by simpa [Value.ownBlock] using e
    rw [hk] at c
    cases c
theorem info_parts_i32 : ∃ i, Tryd.prog.info? 21 = some i ∧ i.zero = some (.int .i32 0) ∧ i.size = 1 ∧ i.bytes = 4 := by
  obtain ⟨i, hi, h2⟩ := Option.map_eq_some_iff.1 info_i32
  obtain ⟨h3, h4⟩ := Prod.mk.inj h2
  obtain ⟨h5, h6⟩ := Prod.mk.inj h4
  exact ⟨i, hi, h3, h5, h6⟩
theorem cell_one_new (w : World) (a : Value) (t : TypeId) : ∀ j u, [a][j]? = some u → (w.alloc (.cells #[a] t)).cell? ((⟨w.heap.size, 0, none⟩ : Addr).add j) = some u := by
  intro j u hj
  match j, hj with
  | 0, hj => simp at hj; subst hj; simp [Addr.add]
  | j + 1, hj => simp at hj
theorem decode_pos (s : ByteArray) (pos : Nat) : 1 ≤ (Utf8.decode s pos).2 := by
  rw [← Lib.decodeL_drop]
  exact Lib.decodeL_width _
theorem drop_ne {s : ByteArray} {a : Nat} (h : a < s.size) : s.data.toList.drop a ≠ [] := by
  intro e
  have h1 := congrArg List.length e
  rw [List.length_drop] at h1
  have e2 : s.data.toList.length = s.size := rfl
  rw [e2, List.length_nil] at h1
  omega
theorem decode_end (s : ByteArray) (pos : Nat) (h : pos < s.size) : pos + (Utf8.decode s pos).2 ≤ s.size := by
  have h1 := Lib.decodeL_le _ (drop_ne h)
  rw [Lib.decodeL_drop, List.length_drop] at h1
  have e2 : s.data.toList.length = s.size := rfl
  omega
theorem runes_at (s : ByteArray) (pos : Nat) (h : pos < s.size) : runesL (s.data.toList.drop pos) = ((Utf8.decode s pos).1 : Int) :: runesL (s.data.toList.drop (pos + (Utf8.decode s pos).2)) := by
  rw [runesL_step _ (drop_ne h), Lib.decodeL_drop, List.drop_drop]

set_option maxRecDepth 100000 in
set_option maxHeartbeats 2000000 in
theorem points_ok (s : ByteArray) (w : World) (hT : Tabs w) (hs : s.size ≤ 1099511627776) (hb : badS s < 0) :
    Calls Tryd.prog 63 #[.string s] w fun e w' => ∃ a cap, e = .returned (.tuple #[.slice a (runesL s.data.toList).length cap, .agg #[.int .i64 0, .int .i64 0]]) ∧ IsRow w' a (runesL s.data.toList).length cap (runesL s.data.toList) ∧ Ext w w' := by
  obtain ⟨zs, hzs⟩ : ∃ zs, zs = runesL s.data.toList := ⟨_, rfl⟩
  have hvs : validS s = true := by rw [validS_eq]; exact decide_eq_true hb
  have HC : Hid (∀ w, Tabs w → Calls Tryd.prog 57 #[.string s] w fun e w' => e = .returned (.int .i64 zs.length) ∧ Ext w w') := fun w hT => by
    have := count_yes s w hT hs hvs
    rwa [runeCount_eq, ← hzs] at this
  have hzl : zs.length ≤ s.size := by
    have := Lib.runeCount_le s
    rwa [runeCount_eq, ← hzs] at this
  rw [← hzs]
  have HZ := Lib.hid hzs
  have HT := Lib.hid hT
  have HK : Hid (∀ w, Tabs w → Calls Tryd.prog 56 #[.string s] w fun e w' => e = .returned (.agg #[.int .i64 0, .int .i64 0]) ∧ Ext w w') := fun w hT => check_no s w hT hs hb
  clear hzs hT hb hvs
  go_enter Tryd.func63, Tryd.ntmps63
  go_wp2_with (first | (go_at_call 56; refine (HK.out _ (HT.out.ext ((Ext.refl w).alloc _))).mono ?_; rintro e w1 ⟨rfl, hb1⟩) | (go_at_call 17; refine (bad_no _ _ _ (by decide)).mono ?_; rintro e w2 ⟨rfl, hb2⟩; have hx2 : Ext (w.alloc (.cells #[.int .i64 0, .int .i64 0] 30)) w2 := hb1.trans (((Ext.refl w1).alloc _).trans hb2); have T2 := (HT.out.ext ((Ext.refl w).alloc _)).ext hx2) | (go_at_call 57; refine (HC.out _ T2).mono ?_; rintro e w3 ⟨rfl, hb3⟩; have hx3 := hx2.trans hb3; obtain ⟨wm, hmk, hown, hgm⟩ := make_runes zs.length (by omega) w3; clear hb1 hb2 hb3 hx2 T2))
  obtain ⟨i0, hi, hz0, hz1, hz2⟩ := info_parts_i32
  have hs3 : w.heap.size + 1 ≤ w3.heap.size := by have := hx3.size; simpa using this
  have hsm := hgm.size
  have hxm : Ext (w.alloc (.cells #[.int .i64 0, .int .i64 0] 30)) wm := Below.grown hx3 hgm hx3.size (by rintro k ⟨⟩)
  have hit0 := World.iter_heap wm s 0
  have hx0 := hxm.alloc (.stringIter s 0)
  have ho0 := (hown (w.heap.size + 1) hs3).alloc (.stringIter s 0)
  obtain ⟨k, hk⟩ : ∃ k, k = wm.heap.size := ⟨_, rfl⟩
  have hkl : w.heap.size + 1 ≤ k := by omega
  rw [← hk] at hit0 ⊢
  clear hown hgm hmk hx3 hxm hs3 hsm
  go_loopw [5] (fun v wr => ∃ (pos : Nat) (dn : List Int), wr.heap[k]? = some (.stringIter s pos) ∧ Ext (w.alloc (.cells #[.int .i64 0, .int .i64 0] 30)) wr ∧ Hid (dn ++ runesL (s.data.toList.drop pos) = zs) ∧ wr.ownsRow (w.heap.size + 1) 21 1 v dn.length (runeCellsOf dn) ∧ pos ≤ s.size) (fun _ wr => s.size - wr.iterPos k)
  case atStart => exact ⟨0, [], hit0, hx0, HZ.out.symm, ho0, by omega⟩
  case round =>
    obtain ⟨pos, dn, hit, hx, HS, hown, hple⟩ := hrel
    clear hit0 hx0 ho0 hk
    have hpos0 := iterPos_of hit
    have hdl : dn.length ≤ zs.length := by rw [← HS.out, List.length_append]; omega
    by_cases hp : pos < s.size
    · have hnx : ∀ ty, (Instr.next (.pointer (some ⟨k, 0, none⟩)) true ty).run Tryd.prog wr = _ := fun ty => Lib.run_next_any_at wr k s pos ty hit hp
      have hwd := decode_pos s pos
      have hwe := decode_end s pos hp
      have hrs := runes_at s pos hp
      have hit2 := Lib.iterAt_heap wr k s pos (pos + (Utf8.decode s pos).2) hit
      have hx2 : Ext (w.alloc (.cells #[.int .i64 0, .int .i64 0] 30)) (wr.iterAt k s (pos + (Utf8.decode s pos).2)) := Lib.below_iterAt hx (k := k) (by simpa using hkl) s (pos + (Utf8.decode s pos).2)
      have hown2 := own_iterAt hown hit (pos + (Utf8.decode s pos).2)
      have HR := Lib.hid hrs
      clear hrs
      generalize (Utf8.decode s pos).1 = p at hnx HR
      generalize (Utf8.decode s pos).2 = q at hnx HR hwd hwe hit2 hx2 hown2
      obtain ⟨W1, hW1⟩ : ∃ W1, W1 = wr.iterAt k s (pos + q) := ⟨_, rfl⟩
      rw [← hW1] at hnx hit2 hx2 hown2
      have hBlt := lt_of_block hit2
      have hne2 := own_ne_iter hown2 hit2
      clear hW1 hit hown hx
      go_wp2_with (first
        | (at_builtin; refine wpList_append_own _ rfl _ _ 65 rfl (w.heap.size + 1) 21 i0 (.int .i32 0) 1 4 Tryd.underlying65 hi hz0 hz1 hz2 rfl (by decide) _ _ _ rfl (hown2.alloc _) ⟨W1.heap.size, 0, none⟩ 1 1 [.int .i32 (p : Int)] rfl rfl (cell_one_new _ _ _) (fun x hx => by simp at hx; subst hx; rfl) (by unfold maxLen; omega) (by omega) (by simp; omega) ?_; intro v' w3 hown' hgrow3 hnil3
           have hit3 : w3.heap[k]? = some (.stringIter s (pos + q)) := by
             rw [hgrow3.block k (by simp; omega) hne2, Below.heap_alloc _ _ _ hBlt]; exact hit2
           have hx3 : Ext (w.alloc (.cells #[.int .i64 0, .int .i64 0] 30)) w3 := Below.grown (hx2.alloc _) hgrow3 (by have := hx2.size; simp at this ⊢; omega) (fun j hj => by have := (hown2.lt _ hj).1; simpa using this)
           clear hgrow3 hnil3))
      go_roundw
      case rel =>
        refine ⟨pos + q, dn ++ [(p : Int)], hit3, hx3, ?_, ?_, hwe⟩
        · show _ = zs
          rw [← HS.out, HR.out, List.append_assoc]
          rfl
        · have e : runeCellsOf (dn ++ [(p : Int)]) = runeCellsOf dn ++ [.int .i32 (p : Int)] := by simp [runeCellsOf]
          rw [e, List.length_append]
          exact hown'
      case measure =>
        rw [iterPos_of hit3, hpos0]
        omega
    · have hnx : ∀ ty, (Instr.next (.pointer (some ⟨k, 0, none⟩)) true ty).run Tryd.prog wr = _ := fun ty => Lib.run_next_end_at wr k s pos ty hit hp
      have hdz : dn = zs := by
        have e : s.data.toList.drop pos = [] := List.drop_eq_nil_of_le (by have e2 : s.data.toList.length = s.size := rfl; omega)
        have h1 := HS.out
        rw [e, runesL_nil, List.append_nil] at h1
        exact h1
      subst hdz
      obtain ⟨b, hbe⟩ : ∃ b, b = w.heap.size := ⟨_, rfl⟩
      have hblk : wr.heap[b]? = some (.cells #[.int .i64 0, .int .i64 0] 30 (0, 0)) := by
        rw [hbe]
        exact (hx.block w.heap.size (by simp)).trans (heap_alloc_new w _)
      have hxw : Ext w wr := ((Ext.refl w).alloc _).trans hx
      have hlb : w.heap.size ≤ b := by omega
      have hbb : b < w.heap.size + 1 := by omega
      have hof := ownsRow_setCell_below (ownsRow_setCell_below hown (a := ⟨b, 0, none⟩) hbb (.int .i64 0)) (a := ⟨b, 1, none⟩) hbb (.int .i64 0)
      have hfin := set_two hblk (.int .i64 0) (.int .i64 0)
      have hxf : Ext w ((wr.setCell ⟨b, 0, none⟩ (.int .i64 0)).setCell ⟨b, 1, none⟩ (.int .i64 0)) := Ext.setCell (Ext.setCell hxw hlb _) hlb _
      have hc0 : wr.cell? ⟨b, 0, none⟩ = some (.int .i64 0) := by simp [World.cell?, hblk]
      have hc1 : wr.cell? ⟨b, 1, none⟩ = some (.int .i64 0) := by simp [World.cell?, hblk]
      have hf0 : wr.frozen? ⟨b, 0, none⟩ = false := by simp [World.frozen?, hblk]
      have hf1 : wr.frozen? ⟨b, 1, none⟩ = false := by simp [World.frozen?, hblk]
      rw [← hbe]
      clear hbe hx hown
      have hwf := Lib.hid hof
      clear hof
      go_wp2
      generalize (wr.setCell ⟨b, 0, none⟩ (.int .i64 0)).setCell ⟨b, 1, none⟩ (.int .i64 0) = wf at hfin hxf hwf ⊢
      obtain ⟨a, cap, he, hrow⟩ := own_row hwf.out
      have k0 : wf.cell? ⟨b, 0, none⟩ = some (.int .i64 0) := by simp [World.cell?, hfin]
      have k1 : wf.cell? ⟨b, 1, none⟩ = some (.int .i64 0) := by simp [World.cell?, hfin]
      refine bodyPost_ret (v := .tuple #[.slice a dn.length cap, .agg #[.int .i64 0, .int .i64 0]]) (by simp [results, Tryd.results63, go_sem, k0, k1, he]) rfl ?_
      exact ⟨a, cap, rfl, hrow, hxf⟩
end Go.Proofs.YtealeedbkjiabaaDoor
