/-
  Layer 12, the program (2): Split, Check.
-/
import Derived.Test.YtbdjncnofpbkkaaTaR
import Derived.Test.YtbdjncnofpbkkaaTa1
namespace Go.Proofs.Ytbdjncnofpbkkaa
open Go Go.ChangeShapes Go.WideShapes Go.ChangeAt Go.RowKit
set_option linter.unusedSimpArgs false
set_option linter.unusedVariables false

/-- Do bytes look like a tail, from a place on? -/
def tagAt (b : ByteArray) (n : Nat) : Prop := b.size = n + 128 ∧ (b.data.toList.drop n).take 3 = [84, 65, 71]
def noT : TailZ := ⟨⟨#[]⟩, ⟨#[]⟩, ⟨#[]⟩, ⟨#[]⟩, ⟨#[]⟩, 0, 0⟩
def ByT (T : TailZ) : Prop := 0 ≤ T.track ∧ T.track < 256 ∧ 0 ≤ T.genre ∧ T.genre < 256
theorem pre_tag (l : List UInt8) : Lib.hasPrefix l [84, 65, 71] = decide (l.take 3 = [84, 65, 71]) := by
  rw [← Lib.hasPrefix_of_take]
  by_cases h : l.take 3 = [84, 65, 71]
  · have h2 : 3 ≤ l.length := by
      have := congrArg List.length h
      rw [List.length_take] at this
      simp at this
      omega
    simp [h, h2]
  · simp [h]
theorem ext_tail (b : ByteArray) (n : Nat) : (b.extract n b.size).data.toList = b.data.toList.drop n := by
  rw [ext_list, List.take_of_length_le]
  rw [List.length_drop]
  exact Nat.le_refl _
set_option maxRecDepth 100000 in
set_option maxHeartbeats 1000000 in
theorem csplit_yes (b : ByteArray) (n : Nat) (w : World) (hs : b.size ≤ 100000) (h : tagAt b n) : Calls Try.prog 21 #[.string b] w fun e w' => e = .returned (.tuple #[.string (b.extract 0 n), .string (b.extract n b.size)]) ∧ Ext w w' := by
  obtain ⟨h1, h2⟩ := h
  have HP : Hid (∀ w, Calls Try.prog 40 #[.string (b.extract n b.size), .string ⟨#[84, 65, 71]⟩] w fun e w' => e = .returned (.bool true) ∧ w' = w) := fun w => by
    have := Try.strings_HasPrefix (b.extract n b.size) ⟨#[84, 65, 71]⟩ w
    rw [ext_tail, show (⟨#[84, 65, 71]⟩ : ByteArray).data.toList = [84, 65, 71] from rfl, pre_tag, h2] at this
    exact this
  have q1 : (b.size : Int) - 128 = (n : Int) := by omega
  have hw : IntKind.i64.wrap ((b.size : Int) - 128) = (n : Int) := by rw [q1]; exact IntWalk.i64_in _ (by omega)
  have q2 : (n : Int) ≤ b.size := by omega
  have q3 : ¬ (n : Int) < 0 := by omega
  clear h1 h2 q1
  go_enter Try.func21, Try.ntmps21
  go_wp2_with (go_at_call 40; refine (HP.out _).mono ?_; rintro e w1 ⟨rfl, rfl⟩)
  go_region
  go_wp2
  go_ret2
  exact ⟨rfl, (Ext.refl _).drew⟩
set_option maxRecDepth 100000 in
set_option maxHeartbeats 1000000 in
theorem csplit_no (b : ByteArray) (w : World) (hs : b.size ≤ 100000) (h : ∀ n, ¬ tagAt b n) : Calls Try.prog 21 #[.string b] w fun e w' => e = .returned (.tuple #[.string b, .string ⟨#[]⟩]) ∧ Ext w w' := by
  by_cases hz : b.size < 128
  · have hw : IntKind.i64.wrap ((b.size : Int) - 128) = (b.size : Int) - 128 := IntWalk.i64_in _ (by omega)
    have q : (b.size : Int) - 128 < 0 := by omega
    clear h hz
    go_enter Try.func21, Try.ntmps21
    go_wp2
    go_ret2
    exact ⟨rfl, Ext.refl _⟩
  · obtain ⟨n, hn⟩ : ∃ n, b.size = n + 128 := ⟨b.size - 128, by omega⟩
    have h2 : ¬ (b.data.toList.drop n).take 3 = [84, 65, 71] := fun e => h n ⟨hn, e⟩
    have HP : Hid (∀ w, Calls Try.prog 40 #[.string (b.extract n b.size), .string ⟨#[84, 65, 71]⟩] w fun e w' => e = .returned (.bool false) ∧ w' = w) := fun w => by
      have := Try.strings_HasPrefix (b.extract n b.size) ⟨#[84, 65, 71]⟩ w
      rw [ext_tail, show (⟨#[84, 65, 71]⟩ : ByteArray).data.toList = [84, 65, 71] from rfl, pre_tag, decide_eq_false h2] at this
      exact this
    have q1 : (b.size : Int) - 128 = (n : Int) := by omega
    have hw : IntKind.i64.wrap ((b.size : Int) - 128) = (n : Int) := by rw [q1]; exact IntWalk.i64_in _ (by omega)
    have q2 : (n : Int) ≤ b.size := by omega
    have q3 : ¬ (n : Int) < 0 := by omega
    clear h h2 q1 hn hz
    go_enter Try.func21, Try.ntmps21
    go_wp2_with (go_at_call 40; refine (HP.out _).mono ?_; rintro e w1 ⟨rfl, rfl⟩)
    go_ret2
    exact ⟨rfl, Ext.refl _⟩
/-! ### Check -/
theorem check_step9 (T : TailZ) (z : Int) (h0 : 0 ≤ z) (h5 : z < 5) : checkFrom T (5 - z).toNat z = if cutZ (T.tx z) ≠ T.tx z then (5, z) else if widthZ z T.track < (T.tx z).size then (4, z) else checkFrom T (5 - (z + 1)).toNat (z + 1) := by
  obtain ⟨n, hn⟩ : ∃ n, (5 - z).toNat = n + 1 := ⟨(4 - z).toNat, by omega⟩
  rw [hn, show (5 - (z + 1)).toNat = n by omega]
  rfl
/-- How many bytes there are for a comment. -/
def lastZ (k : Int) : Int := if k = 0 then 30 else 28
theorem room_at (k z : Int) (h0 : 0 ≤ z) (h5 : z < 5) : (#[.int .i64 30, .int .i64 30, .int .i64 30, .int .i64 4, .int .i64 (lastZ k)] : Array Value)[z.toNat]? = some (.int .i64 (widthZ z k)) := by
  obtain rfl | rfl | rfl | rfl | rfl : z = 0 ∨ z = 1 ∨ z = 2 ∨ z = 3 ∨ z = 4 := by omega
  · rfl
  · rfl
  · rfl
  · rfl
  · unfold lastZ widthZ
    by_cases h : k = 0 <;> simp [h]
theorem crooms9 (k : Int) (w : World) : Calls Try.prog 33 #[.int .u8 k] w fun e w' => e = .returned (.agg #[.int .i64 30, .int .i64 30, .int .i64 30, .int .i64 4, .int .i64 (lastZ k)]) ∧ Ext w w' := crooms k w
theorem idx_lit (s : ByteArray) (w : World) : Calls Try.prog 45 #[.string s, .int .u8 0] w fun e w' => e = .returned (.int .i64 (Lib.indexByte s.data.toList 0)) ∧ w' = w := Try.strings_IndexByte s 0 w
set_option maxRecDepth 100000 in
set_option maxHeartbeats 4000000 in
theorem ccheck12 (T : TailZ) (w : World) (hb : ByT T) : Calls Try.prog 24 #[.agg (tailA T)] w fun e w' => e = .returned (.agg #[.int .i64 (checkZ T).1, .int .i64 (checkZ T).2]) ∧ Ext w w' := by
  have HS := Lib.hid (fun z h0 h5 => check_step9 T z h0 h5)
  have HRm := Lib.hid (fun w => crooms9 T.track w)
  have HTx := Lib.hid (fun w => ctexts T.t0 T.t1 T.t2 T.t3 T.t4 w)
  have HAt := Lib.hid (fun z h0 h5 => room_at T.track z h0 h5)
  generalize lastZ T.track = L at HRm HAt
  obtain ⟨R, hR⟩ : ∃ R, R = checkZ T := ⟨_, rfl⟩
  have H0 : Hid (checkFrom T (5 - (0 : Int)).toNat 0 = R) := hR.symm
  rw [← hR]
  clear hR
  obtain ⟨b0, hb0⟩ : ∃ b0, b0 = w.heap.size := ⟨_, rfl⟩
  obtain ⟨b1, hb1⟩ : ∃ b1, b1 = w.heap.size + 1 := ⟨_, rfl⟩
  have hl1 : w.heap.size ≤ b1 := by omega
  have HA0 := Lib.hid (heap_alloc_new w (.cells #[.string T.t0, .string T.t1, .string T.t2, .string T.t3, .string T.t4, .int .u8 T.track, .int .u8 T.genre] 31))
  obtain ⟨a0, a1, a2, a3, a4, a5, a6⟩ := facts7 HA0.out
  have HN1 : Hid (∀ o, ((w.alloc (.cells #[.string T.t0, .string T.t1, .string T.t2, .string T.t3, .string T.t4, .int .u8 T.track, .int .u8 T.genre] 31)).alloc o).heap[b1]? = some o) := fun o => by
    have := heap_alloc_new (w.alloc (.cells #[.string T.t0, .string T.t1, .string T.t2, .string T.t3, .string T.t4, .int .u8 T.track, .int .u8 T.genre] 31)) o
    rw [hb1]
    rwa [show (w.alloc (.cells #[.string T.t0, .string T.t1, .string T.t2, .string T.t3, .string T.t4, .int .u8 T.track, .int .u8 T.genre] 31)).heap.size = w.heap.size + 1 by simp] at this
  have HX0 : Hid (∀ o, Ext w ((w.alloc (.cells #[.string T.t0, .string T.t1, .string T.t2, .string T.t3, .string T.t4, .int .u8 T.track, .int .u8 T.genre] 31)).alloc o)) := fun o => ((Ext.refl w).alloc _).alloc _
  have HB0 := Lib.hid hb0
  have HB1 := Lib.hid hb1
  clear hb0 hb1
  unfold tailA
  go_enter Try.func24, Try.ntmps24
  go_wp2_with (first
    | (go_at_call 33; refine (HRm.out _).mono ?_; rintro e w1 ⟨rfl, hb1⟩; have HF := Lib.hid ((hb1.block b1 (by rw [HB1.out]; simp)).trans (HN1.out _)); have HX1 := Lib.hid ((HX0.out _).trans hb1); have HRow := Lib.hid (heap_alloc_new w1 (.cells #[.int .i64 30, .int .i64 30, .int .i64 30, .int .i64 4, .int .i64 L] 55)); obtain ⟨r0, r1, r2, r3, r4, r5, r6⟩ := facts7 (((hb1.alloc (.cells #[.int .i64 30, .int .i64 30, .int .i64 30, .int .i64 4, .int .i64 L] 55)).block w.heap.size (by simp; omega)).trans ((heap_alloc_old _ _ (by simp)).trans HA0.out)); clear a0 a1 a2 a3 a4 a5 a6)
    | (go_at_call 41; refine (HTx.out _).mono ?_; rintro e w2 ⟨rfl, hb2⟩))
  rw [← HB1.out]
  obtain ⟨b2, hb2e⟩ : ∃ b2, b2 = w1.heap.size := ⟨_, rfl⟩
  rw [← hb2e]
  have hx0 : Ext w w2 := (HX1.out.alloc _).trans hb2
  have hF0 : w2.heap[b1]? = some (.cells #[.int .i64 0, .int .i64 0] 43 (0, 0)) := (hb2.block b1 (by have := lt_of_block HF.out; simp; omega)).trans ((heap_alloc_old _ _ (lt_of_block HF.out)).trans HF.out)
  have hR0 : w2.heap[b2]? = some (.cells #[.int .i64 30, .int .i64 30, .int .i64 30, .int .i64 4, .int .i64 L] 55 (0, 0)) := by rw [hb2e]; exact (hb2.block w1.heap.size (by simp)).trans HRow.out
  have hlF : b1 < w2.heap.size := lt_of_block hF0
  have hlR : b2 < w2.heap.size := lt_of_block hR0
  have HFF := Lib.hid hF0
  have HRR := Lib.hid hR0
  have HXX := Lib.hid hx0
  have HIx := Lib.hid (fun z h0 h5 w => index_five T z w h0 h5)
  clear hF0 hR0 hx0 hb1 hb2 hb2e r0 r1 r2 r3 r4 r5 r6 HF HRow HX1 HA0 HN1 HX0 HB0 HB1 HRm HTx hb
  go_loopw [12] (fun i wr => ∃ z : Int, 0 ≤ z ∧ z ≤ 5 ∧ i = .int .i64 z ∧ Ext w2 wr ∧ Hid (checkFrom T (5 - z).toNat z = R)) (fun i _ => 5 - (intOf i).toNat)
  case atStart => exact ⟨0, by omega, by omega, rfl, Ext.refl _, H0⟩
  case round =>
    obtain ⟨z, hz0, hz5, rfl, hx, HR⟩ := hrel
    clear H0
    have HFw := Lib.hid ((hx.block b1 hlF).trans HFF.out)
    have hxw := HXX.out.trans hx
    obtain ⟨⟨c0, c1⟩, f0, f1⟩ := facts2 HFw.out
    by_cases hz : z < 5
    · have hst := HS.out z hz0 hz
      rw [HR.out] at hst
      have hix := fun w => HIx.out z hz0 hz w
      have hrow : wr.cell? ⟨b2, z.toNat, none⟩ = some (.int .i64 (widthZ z T.track)) := by rw [cell_of5 ((hx.block b2 hlR).trans HRR.out)]; exact HAt.out z hz0 hz
      have hnz : ¬ z < 0 := by omega
      have HI := Lib.hid (fun w => idx_lit (T.tx z) w)
      have HST := Lib.hid hst
      clear hst HS HR HAt HIx
      generalize widthZ z T.track = wd at HST hrow
      by_cases hm : Lib.indexByte (T.tx z).data.toList 0 < 0
      · have hcut := idx_neg hm
        have HST1 : Hid (R = if wd < ((T.tx z).size : Int) then (4, z) else checkFrom T (5 - (z + 1)).toNat (z + 1)) := by
          show _ = _
          rw [HST.out, if_neg (fun h => h hcut)]
        have hm2 : ¬ (0 : Int) ≤ Lib.indexByte (T.tx z).data.toList 0 := by omega
        generalize Lib.indexByte (T.tx z).data.toList 0 = m at HI hm2
        clear HST hcut hm
        generalize T.tx z = x at HST1 hix HI
        by_cases hwd : wd < (x.size : Int)
        · have HR2 : Hid (R = (4, z)) := by show _ = _; rw [HST1.out, if_pos hwd]
          obtain ⟨wf, hwf, hxf, hBf, _, _⟩ := put2 HFw.out hxw hl1 (.int .i64 4) (.int .i64 z)
          have HWF := Lib.hid hwf
          have HBF := Lib.hid hBf
          clear HST1 hwf hBf
          go_wp2_with (go_at_call 45; refine (HI.out _).mono ?_; rintro e w3 ⟨rfl, rfl⟩)
          rw [← HWF.out]
          obtain ⟨⟨n0, n1⟩, _, _⟩ := facts2 HBF.out
          clear c0 c1 f0 f1
          refine bodyPost_ret (v := .agg #[.int .i64 4, .int .i64 z]) (by simp [results, Try.results24, go_sem, n0, n1]) rfl ?_
          exact ⟨by rw [HR2.out], hxf⟩
        · have HR2 : Hid (checkFrom T (5 - (z + 1)).toNat (z + 1) = R) := by show _ = _; rw [HST1.out, if_neg hwd]
          clear HST1
          go_wp2_with (go_at_call 45; refine (HI.out _).mono ?_; rintro e w3 ⟨rfl, rfl⟩)
          go_roundw
          case rel => exact ⟨z + 1, by omega, by omega, by first | rfl | go_num, hx, HR2⟩
          case measure => simp [intOf]; omega
      · obtain ⟨o, ho⟩ : ∃ o : Nat, Lib.indexByte (T.tx z).data.toList 0 = o := ⟨(Lib.indexByte (T.tx z).data.toList 0).toNat, by omega⟩
        have HR2 : Hid (R = (5, z)) := by show _ = _; rw [HST.out, if_pos (idx_cut ho)]
        rw [ho] at HI
        have hm2 : (0 : Int) ≤ (o : Int) := by omega
        obtain ⟨wf, hwf, hxf, hBf, _, _⟩ := put2 HFw.out hxw hl1 (.int .i64 5) (.int .i64 z)
        have HWF := Lib.hid hwf
        have HBF := Lib.hid hBf
        clear HST hm ho hwf hBf
        generalize T.tx z = x at hix HI
        go_wp2_with (go_at_call 45; refine (HI.out _).mono ?_; rintro e w3 ⟨rfl, rfl⟩)
        rw [← HWF.out]
        obtain ⟨⟨n0, n1⟩, _, _⟩ := facts2 HBF.out
        clear c0 c1 f0 f1
        refine bodyPost_ret (v := .agg #[.int .i64 5, .int .i64 z]) (by simp [results, Try.results24, go_sem, n0, n1]) rfl ?_
        exact ⟨by rw [HR2.out], hxf⟩
    · have hze : z = 5 := by omega
      subst hze
      have HR2 : Hid (R = (0, 0)) := HR.out.symm
      obtain ⟨wf, hwf, hxf, hBf, _, _⟩ := put2 HFw.out hxw hl1 (.int .i64 0) (.int .i64 0)
      have HWF := Lib.hid hwf
      have HBF := Lib.hid hBf
      clear HR HS HAt HIx hwf hBf
      go_wp2
      rw [← HWF.out]
      obtain ⟨⟨n0, n1⟩, _, _⟩ := facts2 HBF.out
      clear c0 c1 f0 f1
      refine bodyPost_ret (v := .agg #[.int .i64 0, .int .i64 0]) (by simp [results, Try.results24, go_sem, n0, n1]) rfl ?_
      exact ⟨by rw [HR2.out], hxf⟩
end Go.Proofs.Ytbdjncnofpbkkaa
