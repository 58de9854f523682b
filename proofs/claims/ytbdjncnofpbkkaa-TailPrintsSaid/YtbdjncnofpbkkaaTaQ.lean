/-
  Layer 12, the program (3): Print.
-/
import Derived.Test.YtbdjncnofpbkkaaTaP
import Derived.Test.YtbdjncnofpbkkaaStrJ
import Derived.Test.YtbdjncnofpbkkaaOct5
import Derived.Laws.OwnMore
namespace Go.Proofs.Ytbdjncnofpbkkaa
open Go Go.ChangeShapes Go.WideShapes Go.ChangeAt Go.RowKit
set_option linter.unusedSimpArgs false
set_option linter.unusedVariables false

theorem repeat_zero (c : Nat) : Lib.repeatL [0] c = List.replicate c 0 := by
  induction c with
  | zero => rfl
  | succ c ih => rw [List.replicate_succ, ← ih]; rfl
theorem crepeat (c : Nat) (w : World) (h : c ≤ 1000) : Calls Try.prog 42 #[.string ⟨#[0]⟩, .int .i64 c] w fun e w' => e = .returned (.string (bsU (List.replicate c 0))) ∧ Ext w w' := by
  have := Try.strings_Repeat ⟨#[0]⟩ c w (by omega) (by show 1 * c ≤ _; omega)
  rw [show (⟨#[0]⟩ : ByteArray).data.toList = [0] from rfl, repeat_zero] at this
  exact this
theorem big_two (i : Int) (w : World) (h0 : 0 ≤ i) (h1 : i < 256) : Calls Try.prog 43 #[.int .u64 i, .int .i64 2] w fun e w' => e = .returned (.string (strOfNums [0, i % 256])) ∧ Ext w w' := by
  obtain ⟨n, rfl⟩ := Int.eq_ofNat_of_zero_le h0
  have hn : n < 256 := by omega
  have h := wbig n 2 w (by omega)
  have e : bytesBy (cw 2).toNat (bigAt n (cw 2).toNat) = strOfNums [0, (n : Int) % 256] := by
    show strOfNums [((bigAt n 2 0 : Nat) : Int), ((bigAt n 2 1 : Nat) : Int)] = _
    rw [show bigAt n 2 0 = 0 by unfold bigAt; simp; omega, show bigAt n 2 1 = n % 256 by unfold bigAt; simp]
    rfl
  rw [e] at h
  exact h
theorem big_one (i : Int) (w : World) (h0 : 0 ≤ i) (h1 : i < 256) : Calls Try.prog 43 #[.int .u64 i, .int .i64 1] w fun e w' => e = .returned (.string (byteZ8 i)) ∧ Ext w w' := by
  obtain ⟨n, rfl⟩ := Int.eq_ofNat_of_zero_le h0
  have hn : n < 256 := by omega
  have h := wbig n 1 w (by omega)
  have e : bytesBy (cw 1).toNat (bigAt n (cw 1).toNat) = byteZ8 (n : Int) := by
    show strOfNums [((bigAt n 1 0 : Nat) : Int)] = _
    rw [show bigAt n 1 0 = n % 256 by unfold bigAt; simp]
    rfl
  rw [e] at h
  exact h
theorem flat_snoc (xs : List ByteArray) (y : ByteArray) : flat (xs ++ [y]) = flat xs ++ y := by
  apply ByteArray.ext
  apply Array.toList_inj.1
  rw [flat_app, flat_cons, flat_nil, List.append_nil, app_list]
theorem flat_snoc2 (xs : List ByteArray) (y z : ByteArray) : flat (xs ++ [y, z]) = flat xs ++ (y ++ z) := by
  apply ByteArray.ext
  apply Array.toList_inj.1
  rw [flat_app, flat_cons, flat_cons, flat_nil, List.append_nil, app_list, app_list]
theorem flat_one (y : ByteArray) : flat [y] = y := by
  apply ByteArray.ext
  apply Array.toList_inj.1
  rw [flat_cons, flat_nil, List.append_nil]
theorem printFrom_step (T : TailZ) (z : Int) (s : ByteArray) (h0 : 0 ≤ z) (h5 : z < 5) : printFrom T (5 - z).toNat z s = printFrom T (5 - (z + 1)).toNat (z + 1) (s ++ padZ (T.tx z) (widthZ z T.track)) := by
  obtain ⟨n, hn⟩ : ∃ n, (5 - z).toNat = n + 1 := ⟨(4 - z).toNat, by omega⟩
  rw [hn, show (5 - (z + 1)).toNat = n by omega]
  rfl
theorem good_width {T : TailZ} (h : GoodT T) (z : Int) (h0 : 0 ≤ z) (h5 : z < 5) : ((T.tx z).size : Int) ≤ widthZ z T.track :=
  ((checkFrom_good T 5 0).1 ((check_good T).2 h) z h0 (by omega)).2
theorem pad_size {x : ByteArray} {n : Int} (h : (x.size : Int) ≤ n) : ((padZ x n).size : Int) = n := by
  have : (padZ x n).size = n.toNat := by
    show (padZ x n).data.toList.length = _
    rw [padZ_list, padL_len _ _ (by omega)]
  omega
/-- What stands behind the texts. -/
def lastP (T : TailZ) : List ByteArray := (if T.track ≠ 0 then [strOfNums [0, (T.track % 256)]] else []) ++ [byteZ8 T.genre]
theorem print_last (T : TailZ) (xs : List ByteArray) (h : flat xs = printFrom T 5 0 ⟨#[84, 65, 71]⟩) : flat (xs ++ lastP T) = printZ T := by
  have e : printZ T = (if T.track ≠ 0 then printFrom T 5 0 ⟨#[84, 65, 71]⟩ ++ strOfNums [0, (T.track % 256)] else printFrom T 5 0 ⟨#[84, 65, 71]⟩) ++ byteZ8 T.genre := rfl
  rw [e, ← h]
  unfold lastP
  by_cases hk : T.track ≠ 0
  · rw [if_pos hk, if_pos hk, ← List.append_assoc, flat_snoc, flat_snoc]
  · rw [if_neg hk, if_neg hk, List.nil_append, flat_snoc]
set_option maxRecDepth 100000 in
set_option maxHeartbeats 4000000 in
theorem cprint_ok (T : TailZ) (w : World) (hb : ByT T) (h : GoodT T) : Calls Try.prog 22 #[.agg (tailA T)] w fun e w' => e = .returned (.tuple #[.string (printZ T), .agg #[.int .i64 0, .int .i64 0]]) ∧ Ext w w' := by
  obtain ⟨ht0, ht1, hg0, hg1⟩ := hb
  have hz := check_zero T h
  have HC : Hid (∀ w, Calls Try.prog 24 #[.agg #[.string T.t0, .string T.t1, .string T.t2, .string T.t3, .string T.t4, .int .u8 T.track, .int .u8 T.genre]] w fun e w' => e = .returned (.agg #[.int .i64 0, .int .i64 0]) ∧ Ext w w') := fun w => by
    have := ccheck12 T w ⟨ht0, ht1, hg0, hg1⟩
    rw [hz] at this
    exact this
  have HBad := Lib.hid (fun w => bad_no 0 0 w (by decide))
  have HRm := Lib.hid (fun w => crooms9 T.track w)
  have HTx := Lib.hid (fun w => ctexts T.t0 T.t1 T.t2 T.t3 T.t4 w)
  have HAt := Lib.hid (fun z h0 h5 => room_at T.track z h0 h5)
  have HGood := Lib.hid (fun z h0 h5 => good_width h z h0 h5)
  have HStep := Lib.hid (fun z s h0 h5 => printFrom_step T z s h0 h5)
  have HLast := Lib.hid (fun xs h => print_last T xs h)
  have HB2 := Lib.hid (fun w => big_two T.track w ht0 ht1)
  have HB1 := Lib.hid (fun w => big_one T.genre w hg0 hg1)
  have hgood := h
  clear hz h
  generalize lastZ T.track = L at HRm HAt
  have hwt : IntKind.u64.wrap T.track = T.track := IntWalk.u64_in _ (by omega)
  have hwg : IntKind.u64.wrap T.genre = T.genre := IntWalk.u64_in _ (by omega)
  have HA0 := Lib.hid (heap_alloc_new w (.cells #[.string T.t0, .string T.t1, .string T.t2, .string T.t3, .string T.t4, .int .u8 T.track, .int .u8 T.genre] 31))
  obtain ⟨a0, a1, a2, a3, a4, a5, a6⟩ := facts7 ((heap_alloc_old (w.alloc (.cells #[.string T.t0, .string T.t1, .string T.t2, .string T.t3, .string T.t4, .int .u8 T.track, .int .u8 T.genre] 31)) (.cells #[.int .i64 0, .int .i64 0] 43) (by simp)).trans HA0.out)
  have HA1 := Lib.hid (heap_alloc_new (w.alloc (.cells #[.string T.t0, .string T.t1, .string T.t2, .string T.t3, .string T.t4, .int .u8 T.track, .int .u8 T.genre] 31)) (.cells #[.int .i64 0, .int .i64 0] 43))
  unfold tailA
  go_enter Try.func22, Try.ntmps22
  go_wp2_with (first
    | (go_at_call 24; refine (HC.out _).mono ?_; rintro e w1 ⟨rfl, hb1⟩; obtain ⟨⟨q0, q1⟩, _, _⟩ := facts2 (heap_alloc_new w1 (.cells #[.int .i64 0, .int .i64 0] 43)); clear a0 a1 a2 a3 a4 a5 a6)
    | (go_at_call 26; refine (HBad.out _).mono ?_; rintro e w2 ⟨rfl, hb2⟩; clear q0 q1; have hx2 := (hb1.alloc (.cells #[.int .i64 0, .int .i64 0] 43)).trans hb2; have hT := (hx2.block w.heap.size (by simp; omega)).trans ((heap_alloc_old (w.alloc (.cells #[.string T.t0, .string T.t1, .string T.t2, .string T.t3, .string T.t4, .int .u8 T.track, .int .u8 T.genre] 31)) (.cells #[.int .i64 0, .int .i64 0] 43) (by simp)).trans HA0.out); have hF := (hx2.block (w.alloc (.cells #[.string T.t0, .string T.t1, .string T.t2, .string T.t3, .string T.t4, .int .u8 T.track, .int .u8 T.genre] 31)).heap.size (by simp)).trans HA1.out; obtain ⟨a0, a1, a2, a3, a4, a5, a6⟩ := facts7 hT)
    | (go_at_call 33; refine (HRm.out _).mono ?_; rintro e w3 ⟨rfl, hb3⟩; clear a0 a1 a2 a3 a4 a5 a6; have hx3 := (hb3.alloc (.cells #[.int .i64 30, .int .i64 30, .int .i64 30, .int .i64 4, .int .i64 L] 55)).alloc (.cells #[.string ⟨#[84, 65, 71]⟩] 9); have hT3 := (hx3.block w.heap.size (lt_of_block hT)).trans hT; obtain ⟨a0, a1, a2, a3, a4, a5, a6⟩ := facts7 hT3)
    | (go_at_call 41; refine (HTx.out _).mono ?_; rintro e w4 ⟨rfl, hb4⟩))
  obtain ⟨bF, hbF⟩ : ∃ bF, bF = w.heap.size + 1 := ⟨_, rfl⟩
  obtain ⟨bR, hbR⟩ : ∃ bR, bR = w3.heap.size := ⟨_, rfl⟩
  obtain ⟨B, hB⟩ : ∃ B, B = w3.heap.size + 1 := ⟨_, rfl⟩
  obtain ⟨W5, hW5⟩ : ∃ W5, W5 = w3.alloc (.cells #[.int .i64 30, .int .i64 30, .int .i64 30, .int .i64 4, .int .i64 L] 55) := ⟨_, rfl⟩
  have hB5 : W5.heap.size = B := by rw [hW5, hB]; simp
  have hx4 : Ext W5 w4 := by rw [hW5]; exact ((Ext.refl _).alloc _).trans hb4
  have hs1 : (w.alloc (.cells #[.string T.t0, .string T.t1, .string T.t2, .string T.t3, .string T.t4, .int .u8 T.track, .int .u8 T.genre] 31)).heap.size = w.heap.size + 1 := by simp
  rw [hs1, ← hbF] at hF
  have hTw : w3.heap[w.heap.size]? = some (.cells #[.string T.t0, .string T.t1, .string T.t2, .string T.t3, .string T.t4, .int .u8 T.track, .int .u8 T.genre] 31 (0, 0)) := (hb3.block _ (lt_of_block hT)).trans hT
  have hFw : w3.heap[bF]? = some (.cells #[.int .i64 0, .int .i64 0] 43 (0, 0)) := (hb3.block _ (lt_of_block hF)).trans hF
  have hT5 : W5.heap[w.heap.size]? = some (.cells #[.string T.t0, .string T.t1, .string T.t2, .string T.t3, .string T.t4, .int .u8 T.track, .int .u8 T.genre] 31 (0, 0)) := by rw [hW5]; exact (heap_alloc_old _ _ (lt_of_block hTw)).trans hTw
  have hF5 : W5.heap[bF]? = some (.cells #[.int .i64 0, .int .i64 0] 43 (0, 0)) := by rw [hW5]; exact (heap_alloc_old _ _ (lt_of_block hFw)).trans hFw
  have hR5 : W5.heap[bR]? = some (.cells #[.int .i64 30, .int .i64 30, .int .i64 30, .int .i64 4, .int .i64 L] 55 (0, 0)) := by rw [hW5, hbR]; exact heap_alloc_new w3 _
  have hxw : Ext w W5 := by
    rw [hW5]
    exact (((((Ext.refl w).alloc (.cells #[.string T.t0, .string T.t1, .string T.t2, .string T.t3, .string T.t4, .int .u8 T.track, .int .u8 T.genre] 31)).alloc (.cells #[.int .i64 0, .int .i64 0] 43)).trans hx2).trans hb3).alloc _
  have HTT : Hid (∀ w', Ext W5 w' → w'.heap[w.heap.size]? = some (.cells #[.string T.t0, .string T.t1, .string T.t2, .string T.t3, .string T.t4, .int .u8 T.track, .int .u8 T.genre] 31 (0, 0))) := fun w' k => (k.block _ (lt_of_block hT5)).trans hT5
  have HFF : Hid (∀ w', Ext W5 w' → w'.heap[bF]? = some (.cells #[.int .i64 0, .int .i64 0] 43 (0, 0))) := fun w' k => (k.block _ (lt_of_block hF5)).trans hF5
  have HRR : Hid (∀ w', Ext W5 w' → w'.heap[bR]? = some (.cells #[.int .i64 30, .int .i64 30, .int .i64 30, .int .i64 4, .int .i64 L] 55 (0, 0))) := fun w' k => (k.block _ (lt_of_block hR5)).trans hR5
  have hbFw : w.heap.size ≤ bF := by omega
  have ho4 : w4.ownsRow B 9 1 (.slice (some ⟨w3.heap.size + 1, 0, none⟩) 1 1) 1 (textCells [⟨#[84, 65, 71]⟩]) := by
    refine own_ext ?_ hb4
    have h := World.ownsRow_lit (e := 9) (size := 1) (base := B) (w3.alloc (.cells #[.int .i64 30, .int .i64 30, .int .i64 30, .int .i64 4, .int .i64 L] 55)) #[.string ⟨#[84, 65, 71]⟩] 1 (by rw [hB]; simp) (by unfold maxLen; omega) rfl
    rwa [show (w3.alloc (.cells #[.int .i64 30, .int .i64 30, .int .i64 30, .int .i64 4, .int .i64 L] 55)).heap.size = w3.heap.size + 1 by simp] at h
  have HX5 := Lib.hid hxw
  rw [← hbR] at ho4
  rw [← hbF, ← hbR]
  clear hbF hbR hB hW5 hb4 hs1 hTw hFw hT5 hF5 hR5 hxw hT hF hT3 hx3 hx2 hb3 hb2 hb1 HA0 HA1 a0 a1 a2 a3 a4 a5 a6 HC HBad HRm HTx
  obtain ⟨i0, hi, hz0, hz1, hz2⟩ := info_parts_str
  obtain ⟨R, hR⟩ : ∃ R, R = printFrom T 5 0 ⟨#[84, 65, 71]⟩ := ⟨_, rfl⟩
  have H0 : Hid (printFrom T (5 - (0 : Int)).toNat 0 (flat [⟨#[84, 65, 71]⟩]) = R) := by show _ = _; rw [flat_one, hR]; rfl
  rw [← hR] at HLast
  have HIx := Lib.hid (fun z h0 h5 w => index_five T z w h0 h5)
  have HWd := Lib.hid (fun z => widthZ_bd z T.track)
  clear hR
  go_loopw [6, 21] (fun v i wr => ∃ (z : Int) (xs : List ByteArray), 0 ≤ z ∧ z ≤ 5 ∧ i = .int .i64 z ∧ wr.ownsRow B 9 1 v xs.length (textCells xs) ∧ Ext W5 wr ∧ (xs.length : Int) = 1 + 2 * z ∧ Hid (printFrom T (5 - z).toNat z (flat xs) = R)) (fun _ i _ => 5 - (intOf i).toNat)
  case atStart => exact ⟨0, [⟨#[84, 65, 71]⟩], by omega, by omega, rfl, ho4, hx4, rfl, H0⟩
  case round =>
    obtain ⟨z, xs, hz0', hz5, rfl, ho, hx, hlen, HR⟩ := hrel
    clear H0 ho4 hx4
    have hle := hx.size
    by_cases hz : z < 5
    · have hix := fun w => HIx.out z hz0' hz w
      have hrow : wr.cell? ⟨bR, z.toNat, none⟩ = some (.int .i64 (widthZ z T.track)) := by rw [cell_of5 (HRR.out wr hx)]; exact HAt.out z hz0' hz
      have hnz : ¬ z < 0 := by omega
      have hgd := HGood.out z hz0' hz
      have hwd := HWd.out z
      have hst := HStep.out z (flat xs) hz0' hz
      rw [HR.out] at hst
      have HST := Lib.hid hst
      clear hst HR HAt HGood HStep HIx HWd HLast HB1 HB2
      generalize T.tx z = x at hix hgd HST
      generalize widthZ z T.track = wd at hrow hgd hwd HST
      obtain ⟨c, hc⟩ : ∃ c, c = (wd - x.size).toNat := ⟨_, rfl⟩
      have hw : IntKind.i64.wrap (wd - (x.size : Int)) = (c : Int) := by rw [IntWalk.i64_in _ (by omega), hc]; omega
      have HRep := Lib.hid (fun w => crepeat c w (by omega))
      have HPad : Hid (padZ x wd = x ++ bsU (List.replicate c 0)) := by
        show x ++ bsU (List.replicate (wd.toNat - x.size) 0) = _
        rw [show wd.toNat - x.size = c by omega]
      clear hc
      generalize bsU (List.replicate c 0) = pd at HRep HPad
      go_wp2_with (first
        | (go_at_call 42; refine (HRep.out _).mono ?_; rintro e w5 ⟨rfl, hb5⟩; have ho5 := own_ext ho hb5; have hx5 := hx.trans hb5; have hle5 := hx5.size)
        | (at_builtin; refine wpList_append_own _ rfl _ _ 63 rfl B 9 i0 (.string ⟨#[]⟩) 1 16 Try.underlying63 hi hz0 hz1 hz2 rfl (by decide) _ _ _ rfl (ho5.alloc _) ⟨w5.heap.size, 0, none⟩ 2 2 [.string x, .string pd] rfl rfl (cell_two_new _ _ _ _) (fun x hx => by simp at hx; rcases hx with rfl | rfl <;> rfl) (by unfold maxLen; omega) (by omega) (by simp; omega) ?_; intro v6 w6 ho6 hgrow6 hnil6; clear hnil6; have hx6 := hx5.own ho5 (by omega) hgrow6; clear hgrow6))
      go_roundw
      case rel =>
        refine ⟨z + 1, xs ++ [x, pd], by omega, by omega, by first | rfl | go_num, ?_, hx6, by rw [List.length_append]; simp; omega, ?_⟩
        · rw [textCells_app, List.length_append]
          exact ho6
        · show _ = _
          rw [flat_snoc2, ← HPad.out, HST.out]
      case measure => simp [intOf]; omega
    · have hze : z = 5 := by omega
      subst hze
      have hfl : flat xs = R := HR.out
      have hend := HLast.out xs hfl
      have HSz : Hid ((printZ T).size = 128) := print_size T hgood
      have hlen2 : xs.length ≤ 11 := by omega
      clear hlen
      obtain ⟨a0, a1, a2, a3, a4, a5, a6⟩ := facts7 (HTT.out wr hx)
      clear HR HAt HGood HStep HIx HWd HLast HRR hfl hz
      by_cases hk : T.track = 0
      · have gk : (T.track != 0) = false := by rw [hk]; rfl
        have HEnd : Hid (flat (xs ++ [byteZ8 T.genre]) = printZ T) := by
          show _ = _
          rw [← hend]
          unfold lastP
          rw [if_neg (fun h => h hk), List.nil_append]
        generalize byteZ8 T.genre = y at HB1 HEnd
        clear hend hk HB2
        go_wp2_with (first
          | (go_at_call 43; refine (HB1.out _).mono ?_; rintro e w5 ⟨rfl, hb5⟩; have ho5 := own_ext ho hb5; have hx5 := hx.trans hb5; have hle5 := hx5.size)
          | (at_builtin; refine wpList_append_own _ rfl _ _ 63 rfl B 9 i0 (.string ⟨#[]⟩) 1 16 Try.underlying63 hi hz0 hz1 hz2 rfl (by decide) _ _ _ rfl (ho5.alloc _) ⟨w5.heap.size, 0, none⟩ 1 1 [.string y] rfl rfl (cell_one_new _ _ _) (fun x hx => by simp at hx; subst hx; rfl) (by unfold maxLen; omega) (by omega) (by simp; omega) ?_; intro v6 w6 ho6 hgrow6 hnil6; clear hnil6; have hx6 := hx5.own ho5 (by omega) hgrow6; clear hgrow6; have ho7 : w6.ownsRow B 9 1 v6 (xs.length + 1) (textCells (xs ++ [y])) := (by rw [textCells_app]; exact ho6); obtain ⟨ad, cap, rfl, hrow⟩ := own_texts ho7; clear ho6 ho7)
          | (go_at_call 44; refine (ojoin_row hrow (by omega) (by rw [HEnd.out, HSz.out]; omega)).mono ?_; rintro e w8 ⟨rfl, hb8⟩; have hx8 := hx6.trans hb8; have hF8 := HFF.out w8 hx8; obtain ⟨⟨c0, c1⟩, f0, f1⟩ := facts2 hF8; obtain ⟨wf, hwf, hxf, hBf, _, _⟩ := put2 hF8 (HX5.out.trans hx8) hbFw (.int .i64 0) (.int .i64 0); have HWF := Lib.hid hwf; have HBF := Lib.hid hBf; clear hwf hBf))
        rw [← HWF.out]
        obtain ⟨⟨n0, n1⟩, _, _⟩ := facts2 HBF.out
        clear c0 c1 f0 f1
        refine bodyPost_ret (v := .tuple #[.string (flat (xs ++ [y])), .agg #[.int .i64 0, .int .i64 0]]) (by simp [results, Try.results22, go_sem, n0, n1]) rfl ?_
        exact ⟨by rw [HEnd.out], hxf⟩
      · have gk : (T.track != 0) = true := by rw [bne, beq_false_of_ne hk]; rfl
        have HEnd : Hid (flat (xs ++ [strOfNums [0, T.track % 256]] ++ [byteZ8 T.genre]) = printZ T) := by
          show _ = _
          rw [← hend]
          unfold lastP
          rw [if_pos hk, List.append_assoc]
        generalize byteZ8 T.genre = y at HB1 HEnd
        generalize strOfNums [0, T.track % 256] = q at HB2 HEnd
        clear hend hk
        go_wp2_with (first
          | (go_at_call 43; refine (HB2.out _).mono ?_; clear HB2; rintro e w5 ⟨rfl, hb5⟩; have ho5 := own_ext ho hb5; have hx5 := hx.trans hb5; have hle5 := hx5.size)
          | (go_at_call 43; refine (HB1.out _).mono ?_; clear HB1; rintro e w7 ⟨rfl, hb7⟩; have ho8 := own_ext ho7 hb7; have hx7 := hx6.trans hb7; have hle7 := hx7.size)
          | (at_builtin; refine wpList_append_own _ rfl _ _ 63 rfl B 9 i0 (.string ⟨#[]⟩) 1 16 Try.underlying63 hi hz0 hz1 hz2 rfl (by decide) _ _ _ rfl (ho8.alloc _) ⟨w7.heap.size, 0, none⟩ 1 1 [.string y] rfl rfl (cell_one_new _ _ _) (fun x hx => by simp at hx; subst hx; rfl) (by unfold maxLen; omega) (by omega) (by simp; omega) ?_; intro v9 w9 ho9 hgrow9 hnil9; clear hnil9; have hx9 := hx7.own ho8 (by omega) hgrow9; clear hgrow9; have ho10 : w9.ownsRow B 9 1 v9 (xs.length + 1 + 1) (textCells (xs ++ [q] ++ [y])) := (by rw [textCells_app]; exact ho9); obtain ⟨ad, cap, rfl, hrow⟩ := own_texts ho10; clear ho9 ho10)
          | (at_builtin; refine wpList_append_own _ rfl _ _ 63 rfl B 9 i0 (.string ⟨#[]⟩) 1 16 Try.underlying63 hi hz0 hz1 hz2 rfl (by decide) _ _ _ rfl (ho5.alloc _) ⟨w5.heap.size, 0, none⟩ 1 1 [.string q] rfl rfl (cell_one_new _ _ _) (fun x hx => by simp at hx; subst hx; rfl) (by unfold maxLen; omega) (by omega) (by simp; omega) ?_; intro v6 w6 ho6 hgrow6 hnil6; clear hnil6; have hx6 := hx5.own ho5 (by omega) hgrow6; clear hgrow6; have ho7 : w6.ownsRow B 9 1 v6 (xs.length + 1) (textCells (xs ++ [q])) := (by rw [textCells_app]; exact ho6); clear ho6 a0 a1 a2 a3 a4 a5 a6; obtain ⟨a0, a1, a2, a3, a4, a5, a6⟩ := facts7 (HTT.out w6 hx6))
          | (go_at_call 44; refine (ojoin_row hrow (by omega) (by rw [HEnd.out, HSz.out]; omega)).mono ?_; rintro e w10 ⟨rfl, hb10⟩; have hx10 := hx9.trans hb10; have hF10 := HFF.out w10 hx10; obtain ⟨⟨c0, c1⟩, f0, f1⟩ := facts2 hF10; obtain ⟨wf, hwf, hxf, hBf, _, _⟩ := put2 hF10 (HX5.out.trans hx10) hbFw (.int .i64 0) (.int .i64 0); have HWF := Lib.hid hwf; have HBF := Lib.hid hBf; clear hwf hBf))
        rw [← HWF.out]
        obtain ⟨⟨n0, n1⟩, _, _⟩ := facts2 HBF.out
        clear c0 c1 f0 f1
        refine bodyPost_ret (v := .tuple #[.string (flat (xs ++ [q] ++ [y])), .agg #[.int .i64 0, .int .i64 0]]) (by simp [results, Try.results22, go_sem, n0, n1]) rfl ?_
        exact ⟨by rw [HEnd.out], hxf⟩
set_option maxRecDepth 100000 in
set_option maxHeartbeats 4000000 in
theorem cprint_bad (T : TailZ) (w : World) (hb : ByT T) (h : ¬ GoodT T) : Calls Try.prog 22 #[.agg (tailA T)] w fun e w' => e = .returned (.tuple #[.string ⟨#[]⟩, .agg #[.int .i64 (checkZ T).1, .int .i64 (checkZ T).2]]) ∧ Ext w w' := by
  have hne : (checkZ T).1 ≠ 0 := fun e => h ((check_good T).1 e)
  have HC : Hid (∀ w, Calls Try.prog 24 #[.agg #[.string T.t0, .string T.t1, .string T.t2, .string T.t3, .string T.t4, .int .u8 T.track, .int .u8 T.genre]] w fun e w' => e = .returned (.agg #[.int .i64 (checkZ T).1, .int .i64 (checkZ T).2]) ∧ Ext w w') := fun w => ccheck12 T w hb
  generalize (checkZ T).2 = pl at HC ⊢
  generalize (checkZ T).1 = er at HC hne ⊢
  have HBad := Lib.hid (fun w => bad_yes er pl w (by rw [bne, beq_false_of_ne hne]; rfl))
  have HA0 := Lib.hid (heap_alloc_new w (.cells #[.string T.t0, .string T.t1, .string T.t2, .string T.t3, .string T.t4, .int .u8 T.track, .int .u8 T.genre] 31))
  obtain ⟨a0, a1, a2, a3, a4, a5, a6⟩ := facts7 ((heap_alloc_old (w.alloc (.cells #[.string T.t0, .string T.t1, .string T.t2, .string T.t3, .string T.t4, .int .u8 T.track, .int .u8 T.genre] 31)) (.cells #[.int .i64 0, .int .i64 0] 43) (by simp)).trans HA0.out)
  have HA1 := Lib.hid (heap_alloc_new (w.alloc (.cells #[.string T.t0, .string T.t1, .string T.t2, .string T.t3, .string T.t4, .int .u8 T.track, .int .u8 T.genre] 31)) (.cells #[.int .i64 0, .int .i64 0] 43))
  have hle : w.heap.size ≤ w.heap.size + 1 := by omega
  clear hb h hne
  unfold tailA
  go_enter Try.func22, Try.ntmps22
  go_wp2_with (first
    | (go_at_call 24; refine (HC.out _).mono ?_; rintro e w1 ⟨rfl, hb1⟩; have HQ := Lib.hid (heap_alloc_new w1 (.cells #[.int .i64 er, .int .i64 pl] 43)); obtain ⟨⟨q0, q1⟩, _, _⟩ := facts2 HQ.out; clear a0 a1 a2 a3 a4 a5 a6)
    | (go_at_call 26; refine (HBad.out _).mono ?_; rintro e w2 ⟨rfl, hb2⟩; clear q0 q1; have hx2 := (hb1.alloc (.cells #[.int .i64 er, .int .i64 pl] 43)).trans hb2; have hF := (hx2.block (w.alloc (.cells #[.string T.t0, .string T.t1, .string T.t2, .string T.t3, .string T.t4, .int .u8 T.track, .int .u8 T.genre] 31)).heap.size (by simp)).trans HA1.out; rw [show (w.alloc (.cells #[.string T.t0, .string T.t1, .string T.t2, .string T.t3, .string T.t4, .int .u8 T.track, .int .u8 T.genre] 31)).heap.size = w.heap.size + 1 by simp] at hF; have hQ := (hb2.block w1.heap.size (by simp)).trans HQ.out; obtain ⟨⟨q0, q1⟩, _, _⟩ := facts2 hQ; obtain ⟨⟨c0, c1⟩, f0, f1⟩ := facts2 hF; obtain ⟨wf, hwf, hxf, hBf, _, _⟩ := put2 hF ((((Ext.refl w).alloc (.cells #[.string T.t0, .string T.t1, .string T.t2, .string T.t3, .string T.t4, .int .u8 T.track, .int .u8 T.genre] 31)).alloc (.cells #[.int .i64 0, .int .i64 0] 43)).trans hx2) hle (.int .i64 er) (.int .i64 pl); have HWF := Lib.hid hwf; have HBF := Lib.hid hBf; clear hwf hBf))
  go_region
  all_goals
    go_wp2
    rw [← HWF.out]
    obtain ⟨⟨n0, n1⟩, _, _⟩ := facts2 (show wf.drew.heap[w.heap.size + 1]? = _ from HBF.out)
    clear c0 c1 f0 f1 q0 q1
    refine bodyPost_ret (v := .tuple #[.string ⟨#[]⟩, .agg #[.int .i64 er, .int .i64 pl]]) (by simp [results, Try.results22, go_sem, n0, n1]) rfl ?_
    exact ⟨rfl, hxf.drew⟩
end Go.Proofs.Ytbdjncnofpbkkaa
