/-
  What the proof of this claim leans on (S25).
-/
import Derived.Test.YtndopjmdpmkgeaaGreatDoorS1
import Derived.Test.YtndopjmdpmkgeaaGreatDoorS6
import Derived.Test.YtndopjmdpmkgeaaGreatDoorS23
import Derived.Test.YtndopjmdpmkgeaaGreatDoorS24
import Derived.Deep.MidRow
import Derived.Deep.WholeRow
namespace Go.Proofs.YtndopjmdpmkgeaaGreatDoor
open Go Go.ChangeShapes Go.WideShapes Go.ChangeAt Go.RowKit
set_option linter.unusedSimpArgs false
set_option linter.unusedVariables false

theorem blist (f : Int) (x : ByteArray) (w : World) : Calls Tryz.prog 121 #[.int .i64 f, .string x] w fun e w' => e = .returned (.agg #[.int .i64 f, .int .i32 0, .int .i64 0, .string x]) ∧ Ext w w' := by
  go_enter Tryz.func121, Tryz.ntmps121
  go_wp2
  refine bodyPost_ret (v := .agg #[.int .i64 f, .int .i32 0, .int .i64 0, .string x]) (by simp [results, Tryz.results121, go_sem]) rfl ?_
  exact ⟨rfl, (by repeat (first | exact Ext.refl _ | refine Ext.alloc ?_ _ | refine Ext.setCell ?_ (Nat.le_refl _) _))⟩
/-- The pieces' cells. -/
def bgC : Array Value := (pvCells bgV).toArray
/-- A whole array into a block. -/
theorem wpList_store_row {P : Program} {w : World} {ops : Array Oper} {rest : List Oper} {o : Oper} {a : Act} {Q : Exit → Act → World → Prop} (hgd : o.guard = none) (ty : TypeId) (x y : Operand) (ho : o.op = .store ty x y)
    (b : Nat) (c cells : Array Value) (hx : a.eval x = .pointer (some ⟨b, 0, none⟩)) (hy : a.eval y = .agg cells) (hg : w.heap[b]? = some (.cells c ty (0, 0))) (hi : (P.info? ty).map (·.size) = some cells.size) (hs : c.size = cells.size) (h1 : cells.all (·.oneCell') = true)
    (h : wpList P ops Q rest (a.put o.dst undef) (w.setRow b cells)) : wpList P ops Q (o :: rest) a w :=
  wpList_plain hgd fun _ hK => by
    unfold Oper.wp execOp
    simp only [ho, hx, hy, Instr.storeAt, Instr.sureAddr, Sem.run_bind, Sem.run_pure, Result.andThen_ok, run_storeVar_row _ _ ty ty c cells hg hi hs h1]
    exact hK _ _ h
theorem bgC_one : bgC.all (·.oneCell') = true := by kernel_rfl
theorem bgC_info : (Tryz.prog.info? 205).map (·.size) = some bgC.size := by kernel_rfl
theorem ext_row {W w : World} {g : Nat} (h : Ext W w) (hg : W.heap.size ≤ g) (c : Array Value) : Ext W (w.setRow g c) :=
  ⟨h.os, h.tape, h.output, by rw [size_setRow]; exact h.size, fun k hk => (setRow_other w g k c (by omega)).trans (h.block k hk)⟩
set_option maxRecDepth 100000 in
set_option maxHeartbeats 4000000 in
theorem blists (w : World) : Calls Tryz.prog 186 #[] w fun e w' => e = .returned (.agg bgC) ∧ Ext w w' := by
  have HS := Lib.hid (fun (f : Int) (x : ByteArray) w => blist f x w)
  have HZ : Hid (∀ Z w1, Ext (w.alloc (.cells Z 205)) w1 → w1.heap[w.heap.size]? = some (.cells Z 205 (0, 0))) := fun Z w1 x => (x.block w.heap.size (by simp)).trans (heap_alloc_new w _)
  go_enter Tryz.func186, Tryz.ntmps186
  go_wp2_with (first
    | (go_at_call 121; refine (HS.out _ _ _).mono ?_; first
      | (rintro e w1 ⟨rfl, hb1⟩; have hC' := hC.trans hb1; clear hC hb1; have hC := hC'; clear hC')
      | rintro e w1 ⟨rfl, hC⟩)
    | (refine wpList_store_row rfl _ _ _ rfl w.heap.size _ bgC rfl (by kernel_rfl) (HZ.out _ _ hC) bgC_info (by kernel_rfl) bgC_one ?_))
  have hg2 := setRow_heap w1 w.heap.size _ bgC _ _ (HZ.out _ _ hC)
  refine bodyPost_ret (v := .agg bgC) ?_ rfl ⟨rfl, ext_row (((Ext.refl w).alloc _).trans hC) (Nat.le_refl _) _⟩
  exact results_cell_row rfl _ _ _ _ _ _ _ rfl hg2 Tryz.underlying205 rfl (by kernel_rfl)
theorem at_big (i : Nat) (hi : i < 14) (w : World) : (Instr.index 205 (.agg bgC) (.int .i64 i)).run Tryz.prog w = .ok (.agg #[.int .i64 (bgF i), .int .i32 0, .int .i64 0, .string (txt (bgS i))]) w := by
  have : i = 0 ∨ i = 1 ∨ i = 2 ∨ i = 3 ∨ i = 4 ∨ i = 5 ∨ i = 6 ∨ i = 7 ∨ i = 8 ∨ i = 9 ∨ i = 10 ∨ i = 11 ∨ i = 12 ∨ i = 13 := by omega
  rcases this with rfl | rfl | rfl | rfl | rfl | rfl | rfl | rfl | rfl | rfl | rfl | rfl | rfl | rfl
  all_goals
    clear hi
    show _ = _
    kernel_rfl
set_option maxRecDepth 100000 in
set_option maxHeartbeats 2000000 in
theorem bnth_sign (zs : List Int) (hs : allSigns zs = true) (n : Int) (w : World) (hz : zs.length ≤ 1000) (h0 : -1000000 ≤ n) (h1 : n ≤ 1000000) :
    Calls Tryz.prog 187 #[.string (txt zs), .int .i64 n] w fun e w' => e = .returned (.tuple #[.int .i32 (nthS zs n), .bool (decide (0 ≤ n ∧ n < zs.length))]) ∧ Ext w w' := by
  unfold nthS
  have HSZ : Hid ((txt zs).size = (encs zs).length) := rfl
  have hsz : (encs zs).length ≤ 4 * zs.length := encs_le zs
  have HAT := Lib.hid (fun k p hp => txt_at zs hs k p hp)
  obtain ⟨R, hR⟩ : ∃ R : Int × Bool, R = ((if 0 ≤ n then zs.getD n.toNat 0 else 0), decide (0 ≤ n ∧ n < zs.length)) := ⟨_, rfl⟩
  have HR : Hid (R = ((if 0 ≤ n then zs.getD n.toNat 0 else 0), decide (0 ≤ n ∧ n < zs.length))) := hR
  rw [show (if 0 ≤ n then zs.getD n.toNat 0 else 0) = R.1 from by rw [hR], show decide (0 ≤ n ∧ n < zs.length) = R.2 from by rw [hR]]
  clear hR
  generalize txt zs = s at HSZ HAT ⊢
  have hss : s.size ≤ 4000 := by have := HSZ.out; omega
  have hit0 := World.iter_heap w s 0
  have hx0 := (Ext.refl w).alloc (.stringIter s 0)
  obtain ⟨k, hk⟩ : ∃ k, k = w.heap.size := ⟨_, rfl⟩
  have hkl : w.heap.size ≤ k := by omega
  go_enter Tryz.func187, Tryz.ntmps187
  go_wp2
  rw [← hk] at hit0 ⊢
  go_loopw [1, 7] (fun m _ wr => ∃ j : Nat, j ≤ zs.length ∧ m = .int .i64 (n - j) ∧ wr.heap[k]? = some (.stringIter s (encs (zs.take j)).length) ∧ Ext w wr ∧ (n < 0 ∨ (j : Int) ≤ n)) (fun _ _ wr => s.size - wr.iterPos k)
  case atStart => exact ⟨0, by omega, by simp, hit0, hx0, by omega⟩
  case round =>
    obtain ⟨j, hj, rfl, hit, hx, hnj⟩ := hrel
    clear hit0 hx0 hk
    have hpos0 := iterPos_of hit
    have hji : (j : Int) ≤ 1000 := by omega
    by_cases hlt : j < zs.length
    · have hpj : zs[j]? = some zs[j] := List.getElem?_eq_getElem hlt
      obtain ⟨p, hpz⟩ : ∃ p, p = zs[j] := ⟨_, rfl⟩
      rw [← hpz] at hpj
      obtain ⟨a1, a2, a3, a4, a5, a6⟩ := HAT.out j p hpj
      have hpb := (isSign_iff p).1 a4
      have p0 : 0 ≤ p := by omega
      have p1 : p ≤ 1114111 := by omega
      have HA5 := Lib.hid a5
      have HPJ := Lib.hid hpj
      obtain ⟨pos, hpos⟩ : ∃ pos, pos = (encs (zs.take j)).length := ⟨_, rfl⟩
      rw [← hpos] at a1 a2 hit hpos0
      have HPOS := Lib.hid hpos
      have hnx : ∀ ty, (Instr.next (.pointer (some ⟨k, 0, none⟩)) true ty).run Tryz.prog wr = _ := fun ty => Lib.run_next_any_at wr k s pos ty hit a1
      simp only [a2, a3] at hnx
      have hit2 := Lib.iterAt_heap wr k s pos (pos + (Lib.encodeRune p).length) hit
      have hx2 : Ext w (wr.iterAt k s (pos + (Lib.encodeRune p).length)) := Lib.below_iterAt hx (k := k) hkl s (pos + (Lib.encodeRune p).length)
      obtain ⟨q, hq⟩ : ∃ q, q = (Lib.encodeRune p).length := ⟨_, rfl⟩
      rw [← hq] at hnx hit2 hx2 a6
      have HQ := Lib.hid hq
      obtain ⟨W1, hW1⟩ : ∃ W1, W1 = wr.iterAt k s (pos + q) := ⟨_, rfl⟩
      rw [← hW1] at hnx hit2 hx2
      have hpi : (pos : Int) ≤ 400000 := by omega
      clear hW1 hit hx hpz hpj a2 a3 a4 a5 hpb hpos hq
      have hm0 : -2000000 ≤ n - (j : Int) := by omega
      have hm1 : n - (j : Int) ≤ 2000000 := by omega
      by_cases hnz : n = (j : Int)
      · have HF : Hid (R = (p, true)) := by
          show _ = _
          rw [HR.out, if_pos (by omega), hnz, Int.toNat_natCast, List.getD_eq_getElem?_getD, HPJ.out, decide_eq_true (by omega)]
          rfl
        have hd : n - (j : Int) = 0 := by omega
        rw [hd]
        clear hnj hm0 hm1 hd
        go_wp2
        go_ret2
        exact ⟨by rw [HF.out]; rfl, hx2⟩
      · have hg : (n - (j : Int) == 0) = false := beq_false_of_ne (by omega)
        have hn1 : n - (j : Int) - 1 = n - ((j + 1 : Nat) : Int) := by omega
        have hnj2 : n < 0 ∨ ((j + 1 : Nat) : Int) ≤ n := by omega
        have HM := Lib.hid hn1
        have HJ := Lib.hid hnj2
        obtain ⟨m, hm⟩ : ∃ m, m = n - (j : Int) := ⟨_, rfl⟩
        rw [← hm] at hg HM hm0 hm1 ⊢
        clear hn1 hnj2 hm hnz hnj
        go_wp2
        go_roundw
        case rel =>
          have e1 : (encs (zs.take (j + 1))).length = pos + q := by rw [HA5.out, ← HPOS.out, ← HQ.out]
          exact ⟨j + 1, by omega, by rw [← HM.out], by rw [e1]; exact hit2, hx2, HJ.out⟩
        case measure =>
          rw [iterPos_of hit2, hpos0]
          omega
    · have hjl : j = zs.length := by omega
      subst hjl
      rw [List.take_length] at hit
      have hnp : ¬ (encs zs).length < s.size := by have := HSZ.out; omega
      have hnx : ∀ ty, (Instr.next (.pointer (some ⟨k, 0, none⟩)) true ty).run Tryz.prog wr = _ := fun ty => Lib.run_next_end_at wr k s _ ty hit hnp
      have HF : Hid (R = (0, false)) := by
        show _ = _
        rw [HR.out, decide_eq_false (by omega)]
        by_cases h : 0 ≤ n
        · rw [if_pos h, List.getD_eq_getElem?_getD, List.getElem?_eq_none (by omega)]
          rfl
        · rw [if_neg h]
      clear hit hpos0 hnj
      go_wp2
      go_ret2
      exact ⟨by rw [HF.out]; rfl, hx⟩
/-- The cells of the last piece so far. -/
def lastC (q : Nat × List Int) : Array Value := #[.int .i64 (q.1 : Int), .int .i32 0, .int .i64 0, .string (txt q.2)]
set_option maxRecDepth 100000 in
set_option maxHeartbeats 2000000 in
theorem bsign_of (c : Int) (w : World) (h0 : 0 ≤ c) (h1 : c < 65536) (R : Int) (hR : soB c = R) :
    Calls Tryz.prog 149 #[.int .i64 c] w fun e w' => e = .returned (.tuple #[.int .i32 R, .bool (decide (R ≠ 0))]) ∧ Ext w w' := by
  have HS := Lib.hid (fun w => blists w)
  obtain ⟨q, hq⟩ : ∃ q, q = lastGo c 14 0 (0, []) := ⟨_, rfl⟩
  have H0 : Hid (lastGo c (14 - 0) 0 (0, []) = q) := hq.symm
  have HN : Hid (∀ w, Calls Tryz.prog 187 #[.string (txt q.2), .int .i64 (c - q.1)] w fun e w' => e = .returned (.tuple #[.int .i32 R, .bool (decide (R ≠ 0))]) ∧ Ext w w') := fun w => by
    have hb : allSigns q.2 = true ∧ q.2.length ≤ 100 ∧ q.2.all (fun z => decide (z ≠ 0)) = true ∧ q.1 ≤ 42401 := by
      rw [hq]
      rcases lastGo_in c 14 0 (0, []) with e | ⟨j, _, _, _, e⟩
      · rw [e]
        exact ⟨rfl, by decide, rfl, by decide⟩
      · rw [e]
        obtain ⟨a1, a2, a3⟩ := bgS_ok j
        exact ⟨a1, a2, a3, bgF_bd j⟩
    obtain ⟨a1, a2, a3, a4⟩ := hb
    have h := bnth_sign q.2 a1 (c - q.1) w (by omega) (by omega) (by omega)
    have e1 : nthS q.2 (c - q.1) = R := by rw [← hR, hq]; rfl
    have e2 : decide (0 ≤ c - (q.1 : Int) ∧ c - (q.1 : Int) < q.2.length) = decide (R ≠ 0) := by
      rw [← e1]
      unfold nthS
      by_cases hc : 0 ≤ c - (q.1 : Int) ∧ c - (q.1 : Int) < q.2.length
      · have hlt : (c - (q.1 : Int)).toNat < q.2.length := by omega
        rw [decide_eq_true hc, if_pos hc.1, List.getD_eq_getElem?_getD, List.getElem?_eq_getElem hlt, Option.getD_some]
        have := List.all_eq_true.1 a3 _ (List.getElem_mem hlt)
        exact this.symm
      · rw [decide_eq_false hc]
        by_cases hz : 0 ≤ c - (q.1 : Int)
        · rw [if_pos hz, List.getD_eq_getElem?_getD, List.getElem?_eq_none (by omega)]
          rfl
        · rw [if_neg hz]
          rfl
    rw [e1, e2] at h
    exact h
  have HQ1 : Hid (q.1 ≤ 42401) := by
    show q.1 ≤ 42401
    rw [hq]
    rcases lastGo_in c 14 0 (0, []) with e | ⟨j, _, _, _, e⟩
    · rw [e]
      decide
    · rw [e]
      exact bgF_bd j
  clear hR hq
  generalize decide (R ≠ 0) = d at HN ⊢
  have HB0 := Lib.hid (heap_alloc_new w (.cells (lastC (0, [])) 105))
  have hx0 := (Ext.refl w).alloc (.cells (lastC (0, [])) 105)
  go_enter Tryz.func149, Tryz.ntmps149
  go_wp2_with (go_at_call 186; refine (HS.out _).mono ?_; rintro e w1 ⟨rfl, hb1⟩)
  obtain ⟨C, hC⟩ : ∃ C, C = bgC := ⟨_, rfl⟩
  rw [← hC]
  have HX := Lib.hid (fun i hi w => at_big i hi w)
  rw [← hC] at HX
  clear hC
  have hB1 := (hb1.block w.heap.size (by simp)).trans HB0.out
  have hx1 := hx0.trans hb1
  obtain ⟨g, hg⟩ : ∃ g, g = w.heap.size := ⟨_, rfl⟩
  have hgl : w.heap.size ≤ g := by omega
  rw [← hg] at hB1 ⊢
  clear hg hb1 HB0 hx0
  go_loopw [8] (fun v wr => ∃ (i : Nat) (r : Nat × List Int), i ≤ 14 ∧ v = .int .i64 i ∧ wr.heap[g]? = some (.cells (lastC r) 105 (0, 0)) ∧ Ext w wr ∧ Hid (lastGo c (14 - i) i r = q)) (fun v _ => 14 - (intOf v).toNat)
  case atStart => exact ⟨0, (0, []), by omega, rfl, hB1, hx1, H0⟩
  case round =>
    obtain ⟨i, ⟨rf, rs⟩, hi, rfl, hB, hx, HI⟩ := hrel
    clear H0 hB1 hx1
    by_cases hlt : i < 14
    · have hli : (i : Int) < 14 := by omega
      have hix := fun w2 => HX.out i hlt w2
      have hfb := bgF_bd i
      have e0 : lastGo c (14 - i) i (rf, rs) = lastGo c (14 - (i + 1)) (i + 1) (if (bgF i : Int) ≤ c then (bgF i, bgS i) else (rf, rs)) := by
        rw [show 14 - i = (14 - (i + 1)) + 1 from by omega]
        rfl
      have HJ : Hid (lastGo c (14 - (i + 1)) (i + 1) (if (bgF i : Int) ≤ c then (bgF i, bgS i) else (rf, rs)) = q) := e0.symm.trans HI.out
      clear e0 HI
      generalize bgF i = f at hix hfb HJ
      generalize bgS i = zs at hix HJ
      have hf1 : (f : Int) ≤ 42401 := by omega
      have hBn := heap_alloc_new wr (.cells #[.int .i64 (f : Int), .int .i32 0, .int .i64 0, .string (txt zs)] 105)
      have hxn := hx.alloc (.cells #[.int .i64 (f : Int), .int .i32 0, .int .i64 0, .string (txt zs)] 105)
      have hBk := (((Ext.refl wr).alloc (.cells #[.int .i64 (f : Int), .int .i32 0, .int .i64 0, .string (txt zs)] 105)).block g (lt_of_block hB)).trans hB
      obtain ⟨⟨c0, c1, c2, c3⟩, z0, z1, z2, z3⟩ := facts4 hBk
      obtain ⟨⟨d0, d1, d2, d3⟩, _⟩ := facts4 hBn
      by_cases hin : (f : Int) ≤ c
      · have HF : Hid (lastGo c (14 - (i + 1)) (i + 1) (f, zs) = q) := by
          have := HJ.out
          rw [if_pos hin] at this
          exact this
        clear HJ
        go_wp2
        obtain ⟨wf, hwf, hxf, hBf, _, _⟩ := put4 hBk hxn hgl (.int .i64 (f : Int)) (.int .i32 0) (.int .i64 0) (.string (txt zs))
        rw [← hwf]
        clear hwf c0 c1 c2 c3 d0 d1 d2 d3 z0 z1 z2 z3
        go_roundw
        case rel => exact ⟨i + 1, (f, zs), by omega, by go_num, hBf, hxf, HF⟩
        case measure => simp [intOf]; omega
      · have HF : Hid (lastGo c (14 - (i + 1)) (i + 1) (rf, rs) = q) := by
          have := HJ.out
          rw [if_neg hin] at this
          exact this
        clear HJ
        go_wp2
        go_roundw
        case rel => exact ⟨i + 1, (rf, rs), by omega, by go_num, hBk, hxn, HF⟩
        case measure => simp [intOf]; omega
    · have hie : i = 14 := by omega
      subst hie
      have e : (rf, rs) = q := HI.out
      clear HI
      obtain ⟨⟨c0, c1, c2, c3⟩, _⟩ := facts4 hB
      rw [← e] at HN HQ1
      have hrf : (rf : Int) ≤ 42401 := by have := HQ1.out; dsimp only at this; omega
      dsimp only at HN c0 c3
      clear e HS HX hB hgl HQ1 hi hlt
      go_wp2_with (go_at_call 187; refine (HN.out _).mono ?_; rintro e w4 ⟨rfl, hb4⟩)
      go_ret2
      exact ⟨rfl, hx.trans hb4⟩
end Go.Proofs.YtndopjmdpmkgeaaGreatDoor

namespace Go.Proofs.YtndopjmdpmkgeaaGreatDoor
open Go Go.ChangeShapes Go.WideShapes Go.ChangeAt Go.RowKit
set_option linter.unusedSimpArgs false
set_option linter.unusedVariables false

/-- The codes that stand for two signs, and these. -/
def twF (i : Nat) : Nat := [34914, 34916, 34979, 34981].getD i 0
def twP (i : Nat) : Nat := [202, 202, 234, 234].getD i 0
def twQ (i : Nat) : Nat := [772, 780, 772, 780].getD i 0
def twL : List Value := [.int .i64 34914, .int .i32 202, .int .i32 772, .int .i64 34916, .int .i32 202, .int .i32 780, .int .i64 34979, .int .i32 234, .int .i32 772, .int .i64 34981, .int .i32 234, .int .i32 780]
/-- What the variable holds. -/
def Tab8 (w : World) : Prop := w.rangeAt 3 0 twL
theorem Tab8.ext {w w' : World} (h : Tab8 w) (k : Ext w w') : Tab8 w' := fun j v hj => (World.cell?_of_block (k.block _ (World.block_lt_of_cell? w _ (h j v hj)))).trans (h j v hj)
theorem load_twins_var (w : World) (h : Tab8 w) : (loadVar 173 ⟨3, 0, none⟩).run Tryz.prog w = .ok (.agg twL.toArray) w :=
  run_loadVar_mid w _ 0 _ twL _ h Tryz.underlying173 rfl (by kernel_rfl)
theorem at_twin (i : Nat) (hi : i < 4) (w : World) : (Instr.index 173 (.agg twL.toArray) (.int .i64 i)).run Tryz.prog w = .ok (.agg #[.int .i64 (twF i), .int .i32 (twP i), .int .i32 (twQ i)]) w := by
  have : i = 0 ∨ i = 1 ∨ i = 2 ∨ i = 3 := by omega
  rcases this with rfl | rfl | rfl | rfl
  all_goals
    clear hi
    show _ = _
    kernel_rfl
theorem tw_bd (i : Nat) (hi : i < 4) : 34914 ≤ twF i ∧ twF i ≤ 34981 ∧ 202 ≤ twP i ∧ twP i ≤ 234 ∧ 772 ≤ twQ i ∧ twQ i ≤ 780 := by
  have : i = 0 ∨ i = 1 ∨ i = 2 ∨ i = 3 := by omega
  rcases this with rfl | rfl | rfl | rfl <;> decide
theorem tw_hit (a b i : Nat) (hi : i < 4) (h : twF i = a * 256 + b) : signsB a b = [(twP i : Int), (twQ i : Int)] := by
  unfold signsB
  rw [← h]
  have : i = 0 ∨ i = 1 ∨ i = 2 ∨ i = 3 := by omega
  rcases this with rfl | rfl | rfl | rfl
  · rw [if_pos (show (twoS ((twF 0 : Nat) : Int)).1 ≠ 0 by decide)]; decide
  · rw [if_pos (show (twoS ((twF 1 : Nat) : Int)).1 ≠ 0 by decide)]; decide
  · rw [if_pos (show (twoS ((twF 2 : Nat) : Int)).1 ≠ 0 by decide)]; decide
  · rw [if_pos (show (twoS ((twF 3 : Nat) : Int)).1 ≠ 0 by decide)]; decide
/-- A load whose run is known. -/
theorem wpList_load_known {P : Program} {w : World} {ops : Array Oper} {rest : List Oper} {o : Oper} {a : Act} {Q : Exit → Act → World → Prop} (hgd : o.guard = none) (ty : TypeId) (x : Operand) (ho : o.op = .load ty x)
    (b : Nat) (v : Value) (hx : a.eval x = .pointer (some ⟨b, 0, none⟩)) (hr : (loadVar ty ⟨b, 0, none⟩).run P w = .ok v w) (h : wpList P ops Q rest (a.put o.dst v) w) : wpList P ops Q (o :: rest) a w :=
  wpList_plain hgd fun _ hK => by
    unfold Oper.wp execOp
    simp only [ho, hx, Instr.loadAt, Instr.sureAddr, Sem.run_bind, Sem.run_pure, Result.andThen_ok, hr]
    exact hK _ _ h
theorem tw_miss (a b : Nat) (h : ∀ i, i < 4 → twF i ≠ a * 256 + b) : signsB a b = if oneB a b ≠ 0 then [oneB a b] else [] := by
  unfold signsB
  have h0 := h 0 (by omega)
  have h1 := h 1 (by omega)
  have h2 := h 2 (by omega)
  have h3 := h 3 (by omega)
  have e0 : twF 0 = 34914 := rfl
  have e1 : twF 1 = 34916 := rfl
  have e2 : twF 2 = 34979 := rfl
  have e3 : twF 3 = 34981 := rfl
  have e : twoS ((a * 256 + b : Nat) : Int) = (0, 0) := by
    unfold twoS
    rw [if_neg (by omega), if_neg (by omega), if_neg (by omega), if_neg (by omega)]
  rw [e, if_neg (by decide)]
theorem sig_out (a b : Nat) : textOut (signsB a b) = sigT a b := textOut_yes (signsB_all a b)
theorem bor_i64_nat (a b : Nat) (ha : a < 256) (hb : b < 256) : bits .or .i64 ((a : Int) * 256) (b : Int) = ((a * 256 + b : Nat) : Int) := by
  have hab : a * 256 ||| b = a * 256 + b := by
    have := Nat.two_pow_add_eq_or_of_lt (i := 8) (b := b) (by omega) a
    rw [show (2 : Nat) ^ 8 = 256 from rfl, Nat.mul_comm] at this
    exact this.symm
  have h1 : (BitVec.ofInt 64 ((a * 256 : Nat) : Int)).toNat = a * 256 := by
    rw [BitVec.ofInt_natCast, BitVec.toNat_ofNat]; exact Nat.mod_eq_of_lt (by omega)
  have h2 : (BitVec.ofInt 64 (b : Int)).toNat = b := by
    rw [BitVec.ofInt_natCast, BitVec.toNat_ofNat]; exact Nat.mod_eq_of_lt (by omega)
  rw [show ((a : Int) * 256) = ((a * 256 : Nat) : Int) by omega]
  show IntKind.i64.wrap ((BitVec.ofInt 64 ((a * 256 : Nat) : Int) ||| BitVec.ofInt 64 (b : Int)).toNat : Int) = _
  rw [BitVec.toNat_or, h1, h2, hab]
  exact IntWalk.i64_in _ (by omega)
theorem twin_row {w : World} {g : Nat} {c p q : Int} {T : TypeId} (h : w.heap[g]? = some (.cells #[.int .i64 c, .int .i32 p, .int .i32 q] T (0, 0))) : IsRow w (some ⟨g, 1, none⟩) 2 2 [p, q] := by
  obtain ⟨⟨h0, h1, h2⟩, _⟩ := facts3 h
  refine ⟨rfl, .inr ⟨g, 1, rfl, by omega, fun j z hj => ?_⟩⟩
  match j, hj with
  | 0, hj =>
    simp at hj
    subst hj
    exact h1
  | 1, hj =>
    simp at hj
    subst hj
    exact h2
set_option maxRecDepth 100000 in
set_option maxHeartbeats 2000000 in
/-- The signs of any two bytes. -/
theorem big_signs (u v : UInt8) (w : World) (hT : Tab8 w) : Calls Tryz.prog 111 #[.int .u8 u.toNat, .int .u8 v.toNat] w fun e w' => e = .returned (.tuple #[.string (sigT u.toNat v.toNat), .bool (decide (signsB u.toNat v.toNat ≠ []))]) ∧ Ext w w' := by
  have ha := u.toNat_lt
  have hb := v.toNat_lt
  generalize u.toNat = a at ha ⊢
  generalize v.toNat = b at hb ⊢
  have HT := Lib.hid hT
  clear hT
  have ha2 : (a : Int) ≤ 255 := by omega
  have hb2 : (b : Int) ≤ 255 := by omega
  have hor := bor_i64_nat a b ha hb
  have hwa : ((a : Int) * 256) < 65536 := by omega
  obtain ⟨c, hc⟩ : ∃ c, c = a * 256 + b := ⟨_, rfl⟩
  rw [← hc] at hor
  have hcb : c < 65536 := by omega
  have hci : (c : Int) < 65536 := by omega
  have HOut : Hid (textOut (signsB a b) = sigT a b) := sig_out a b
  have HAll : Hid (allSigns (signsB a b) = true) := signsB_all a b
  have HHit := Lib.hid (fun i hi h => tw_hit a b i hi h)
  have HMiss := Lib.hid (fun h => tw_miss a b h)
  have HSO := Lib.hid (fun w => bsign_of ((a * 256 + b : Nat) : Int) w (by omega) (by omega) (oneB a b) (soB_one a b hb))
  have HPB := Lib.hid (oneB_bd a b)
  rw [← hc] at HHit HMiss HSO
  obtain ⟨p, hp⟩ : ∃ p, p = oneB a b := ⟨_, rfl⟩
  rw [← hp] at HMiss HSO HPB
  obtain ⟨zs, hzs⟩ : ∃ zs, zs = signsB a b := ⟨_, rfl⟩
  rw [← hzs] at HOut HAll HHit HMiss ⊢
  generalize sigT a b = s at HOut ⊢
  clear hp hzs hc
  have HL : Hid (∀ w2, Ext w w2 → (loadVar 173 ⟨3, 0, none⟩).run Tryz.prog w2 = .ok (.agg twL.toArray) w2) := fun w2 x => load_twins_var w2 (HT.out.ext x)
  obtain ⟨C, hC⟩ : ∃ C, C = twL.toArray := ⟨_, rfl⟩
  have HX := Lib.hid (fun i hi w => at_twin i hi w)
  rw [← hC] at HX HL
  clear hC
  go_enter Tryz.func111, Tryz.ntmps111
  go_wp2_with (refine wpList_load_known rfl 173 _ rfl 3 (.agg C) rfl (HL.out _ (Ext.refl _)) ?_)
  go_loopw [18] (fun v wr => ∃ i : Nat, i ≤ 4 ∧ v = .int .i64 i ∧ Ext w wr ∧ Hid (∀ j, j < i → twF j ≠ c)) (fun v _ => 4 - (intOf v).toNat)
  case atStart => exact ⟨0, by omega, rfl, Ext.refl _, fun j h => absurd h (by omega)⟩
  case round =>
    obtain ⟨i, hi, rfl, hx, HJ⟩ := hrel
    by_cases hlt : i < 4
    · have hli : (i : Int) < 4 := by omega
      have hix := fun w2 => HX.out i hlt w2
      obtain ⟨b1, b2, b3, b4, b5, b6⟩ := tw_bd i hlt
      have HH := Lib.hid (HHit.out i hlt)
      have HK : Hid (twF i ≠ c → ∀ j, j < i + 1 → twF j ≠ c) := fun h j hj => by
        by_cases e : j = i
        · subst e; exact h
        · exact HJ.out j (by omega)
      clear HHit HMiss HJ HX
      generalize twF i = f at hix b1 b2 HH HK
      generalize twP i = tp at hix b3 b4 HH
      generalize twQ i = tq at hix b5 b6 HH
      have f1 : (f : Int) ≤ 34981 := by omega
      have p1 : (tp : Int) ≤ 234 := by omega
      have q1 : (tq : Int) ≤ 780 := by omega
      have hBn := heap_alloc_new wr (.cells #[.int .i64 (f : Int), .int .i32 (tp : Int), .int .i32 (tq : Int)] 172)
      have hxn := hx.alloc (.cells #[.int .i64 (f : Int), .int .i32 (tp : Int), .int .i32 (tq : Int)] 172)
      obtain ⟨⟨d0, d1, d2⟩, _⟩ := facts3 hBn
      by_cases hin : f = c
      · have ez := HH.out hin
        have HTX := Lib.hid (text_row (twin_row hBn) (Ext.refl _) (by simp))
        rw [ez] at HOut HAll
        rw [HOut.out, HAll.out] at HTX
        have EZ := Lib.hid ez
        have hfc : ((f : Int) == (c : Int)) = true := by rw [hin]; simp
        clear HH HK hin ez hBn HOut HAll HPB HSO
        go_wp2_with (go_at_call 76; refine HTX.out.mono ?_; rintro e w4 ⟨rfl, hb4⟩)
        go_ret2
        exact ⟨by rw [EZ.out]; rfl, hxn.trans hb4⟩
      · have HF := Lib.hid (HK.out hin)
        have hfc : ((f : Int) == (c : Int)) = false := beq_false_of_ne (by omega)
        clear HH HK hin hBn
        go_wp2
        go_roundw
        case rel => exact ⟨i + 1, by omega, by go_num, hxn, HF⟩
        case measure => simp [intOf]; omega
    · have hie : i = 4 := by omega
      subst hie
      have ez := HMiss.out HJ.out
      clear HHit HMiss HJ HX HL
      by_cases hp0 : p = 0
      · rw [if_neg (by simpa using hp0)] at ez
        subst hp0
        rw [decide_eq_false (by simp)] at HSO
        rw [ez] at HOut
        have es : s = ⟨#[]⟩ := HOut.out.symm.trans (by rfl)
        have ES := Lib.hid es
        have EZ := Lib.hid ez
        clear HOut HAll HPB ez es
        go_wp2_with (go_at_call 149; refine (HSO.out _).mono ?_; rintro e w3 ⟨rfl, hb3⟩)
        go_ret2
        exact ⟨by rw [EZ.out, ES.out]; rfl, hx.trans hb3⟩
      · rw [if_pos hp0] at ez
        rw [decide_eq_true hp0] at HSO
        have HTX := Lib.hid (fun w => text_one p w)
        rw [ez] at HOut HAll
        rw [HOut.out, HAll.out] at HTX
        obtain ⟨pb1, pb2, _⟩ := HPB.out
        have EZ := Lib.hid ez
        clear HOut HAll HPB ez
        go_wp2_with (first
          | (go_at_call 149; refine (HSO.out _).mono ?_; rintro e w3 ⟨rfl, hb3⟩)
          | (go_at_call 76; refine (HTX.out _).mono ?_; rintro e w4 ⟨rfl, hb4⟩))
        go_ret2
        exact ⟨by rw [EZ.out]; rfl, (hx.trans hb3).trans hb4⟩
end Go.Proofs.YtndopjmdpmkgeaaGreatDoor

