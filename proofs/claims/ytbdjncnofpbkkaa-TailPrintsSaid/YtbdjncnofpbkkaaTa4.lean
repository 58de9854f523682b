/-
  Layer 12, the document (4): Print.
-/
import Derived.Test.YtbdjncnofpbkkaaTa3
namespace Go.Proofs.Ytbdjncnofpbkkaa
open Go Go.ChangeShapes Go.WideShapes Go.ChangeAt Go.RowKit
set_option linter.unusedSimpArgs false
set_option linter.unusedVariables false

theorem lit_str12 (xs : List Int) (w : World) : (convert 52 9 (.slice (some ⟨w.heap.size, 0, none⟩) xs.length xs.length)).run Try.prog (w.alloc (.cells (xs.map fun x => .int .u8 x).toArray 5)) = .ok (.string (strOfNums xs)) (w.alloc (.cells (xs.map fun x => .int .u8 x).toArray 5)) :=
  run_convert_bytes_arg _ 52 5 Try.underlying52 Try.underlying5 w.heap.size 0 xs.length xs.length xs rfl (fun i hi => by
    have h := heap_alloc_new w (.cells (xs.map fun x => .int .u8 x).toArray 5)
    simp only [World.cell?, h]
    simp [List.getD, hi]) 9 Try.underlying9
theorem tx_cell4 (T : TailZ) (z : Int) (h0 : 0 ≤ z) (h5 : z < 5) : (refA T)[z.toNat]? = some (.string (T.tx z)) := by
  obtain rfl | rfl | rfl | rfl | rfl : z = 0 ∨ z = 1 ∨ z = 2 ∨ z = 3 ∨ z = 4 := by omega
  all_goals rfl
theorem print_step (T : TailZ) (z : Int) (s : ByteArray) (h0 : 0 ≤ z) (h5 : z < 5) : printFrom T (5 - z).toNat z s = printFrom T (5 - (z + 1)).toNat (z + 1) (s ++ padZ (T.tx z) (widthZ z T.track)) := by
  obtain ⟨n, hn⟩ : ∃ n, (5 - z).toNat = n + 1 := ⟨(4 - z).toNat, by omega⟩
  rw [hn, show (5 - (z + 1)).toNat = n by omega]
  rfl
/-- Bytes 0. -/
def zeroZ (n : Nat) : ByteArray := bsU (List.replicate n 0)
theorem zeroZ_size (n : Nat) : (zeroZ n).size = n := by
  show (List.replicate n (0 : UInt8)).length = n
  exact List.length_replicate
theorem zeroZ_snoc (s : ByteArray) (n : Nat) : s ++ zeroZ n ++ ⟨#[0]⟩ = s ++ zeroZ (n + 1) := by
  apply ByteArray.ext
  apply Array.toList_inj.1
  rw [app_list, app_list, app_list]
  show s.data.toList ++ List.replicate n 0 ++ [0] = s.data.toList ++ List.replicate (n + 1) 0
  rw [List.append_assoc, ← List.replicate_succ']
theorem zeroZ_nil (s : ByteArray) : s ++ zeroZ 0 = s := by
  apply ByteArray.ext
  apply Array.toList_inj.1
  rw [app_list]
  exact List.append_nil _
theorem pad_app (s x : ByteArray) (n : Int) : s ++ padZ x n = s ++ x ++ zeroZ (n.toNat - x.size) := by
  unfold padZ
  rw [ByteArray.append_assoc]
  rfl
set_option maxRecDepth 100000 in
set_option maxHeartbeats 4000000 in
/-- The document's Print. -/
theorem rprint (T : TailZ) (w : World) (hs : ∀ z, (T.tx z).size ≤ 1000) : Calls Try.prog 25 #[.agg (refA T)] w fun e w' => e = .returned (.string (printZ T)) ∧ Ext w w' := by
  have HS := Lib.hid (fun z s h0 h5 => print_step T z s h0 h5)
  have HB := Lib.hid (heap_alloc_new w (.cells (refA T) 36))
  have HX := Lib.hid ((Ext.refl w).alloc (.cells (refA T) 36))
  have HW := Lib.hid (fun z w => rwidth z T.track w)
  obtain ⟨R, hR⟩ : ∃ R, R = printFrom T 5 0 ⟨#[84, 65, 71]⟩ := ⟨_, rfl⟩
  have H0 : Hid (printFrom T (5 - (0 : Int)).toNat 0 ⟨#[84, 65, 71]⟩ = R) := hR.symm
  have HP : Hid (printZ T = (if T.track ≠ 0 then R ++ strOfNums [0, T.track % 256] else R) ++ byteZ8 T.genre) := by rw [hR]; rfl
  generalize printZ T = P at HP ⊢
  clear hR
  have HZS := Lib.hid (fun s n => zeroZ_snoc s n)
  have HZ0 := Lib.hid (fun s => zeroZ_nil s)
  have HZZ := Lib.hid zeroZ_size
  have HPad := Lib.hid (fun s x n => pad_app s x n)
  unfold refA at HB HX ⊢
  go_enter Try.func25, Try.ntmps25
  go_wp2
  obtain ⟨b, hb⟩ : ∃ b, b = w.heap.size := ⟨_, rfl⟩
  obtain ⟨w0, hw0⟩ : ∃ w0, w0 = w.alloc (.cells #[.string T.t0, .string T.t1, .string T.t2, .string T.t3, .string T.t4, .int .i64 T.track, .int .i64 T.genre] 36) := ⟨_, rfl⟩
  rw [← hw0, ← hb] at HB
  rw [← hw0] at HX ⊢
  rw [← hb]
  have hlt : b < w0.heap.size := by rw [hw0, hb]; simp
  clear hw0 hb
  have HX0 : Hid (Ext w w0) := HX
  go_loopw [3, 4] (fun u i wr => ∃ (z : Int) (s : ByteArray), 0 ≤ z ∧ z ≤ 5 ∧ u = .string s ∧ i = .int .i64 z ∧ Ext w0 wr ∧ (s.size : Int) ≤ 3 + 1030 * z ∧ Hid (printFrom T (5 - z).toNat z s = R)) (fun _ i _ => 5 - (intOf i).toNat)
  case atStart => exact ⟨0, _, by omega, by omega, rfl, rfl, Ext.refl _, by decide, H0⟩
  case round =>
    obtain ⟨z, s, hz0, hz5, rfl, rfl, hx, hsz, HR⟩ := hrel
    clear H0
    by_cases hz : z < 5
    · have hst := HS.out z s hz0 hz
      rw [HR.out] at hst
      have HCell : Hid (∀ w', Ext w0 w' → w'.cell? ⟨b, z.toNat, none⟩ = some (.string (T.tx z)) ∧ w'.cell? ⟨b, 5, none⟩ = some (.int .i64 T.track)) := fun w' hx => by
        have hBk := (hx.block b hlt).trans HB.out
        rw [cell_of hBk, cell_of hBk]
        exact ⟨tx_cell4 T z hz0 hz, rfl⟩
      have HST := Lib.hid hst
      have HWw := Lib.hid (fun w => HW.out z w)
      have hnz : ¬ z < 0 := by omega
      have hsx := hs z
      have hwd := widthZ_bd z T.track
      generalize T.tx z = x at HST HCell hsx
      generalize widthZ z T.track = wd at HST HWw hwd
      obtain ⟨hcell, hc5⟩ := HCell.out _ hx
      clear hst HS HR HB HW
      go_wp2
      obtain ⟨s1, hs1⟩ : ∃ s1, s1 = s ++ x := ⟨_, rfl⟩
      have hz1 : s1.size = s.size + x.size := by rw [hs1]; simp
      have HS1 := Lib.hid hs1
      rw [← hs1]
      clear hs1
      go_loopw [3, 5] (fun u k wy => ∃ m : Nat, (m : Int) ≤ max (wd - x.size) 0 ∧ u = .string (s1 ++ zeroZ m) ∧ k = .int .i64 (x.size + m) ∧ wy = wr) (fun _ k _ => (wd - intOf k).toNat)
      case atStart => exact ⟨0, by omega, by rw [HZ0.out], by first | rfl | (simp; done), rfl⟩
      case round =>
        obtain ⟨m, hm, rfl, rfl, rfl⟩ := hrel
        by_cases hk : (x.size : Int) + m < wd
        · have hzz : (zeroZ m).size = m := HZZ.out m
          have hzs : (s1 ++ zeroZ m).size = s1.size + m := by rw [ByteArray.size_append, hzz]
          have HN := Lib.hid (HZS.out s1 m)
          clear HZS HZ0 HZZ HPad
          go_wp2_with (go_at_call 38; refine (HWw.out _).mono ?_; rintro e w3 ⟨rfl, rfl⟩)
          go_roundw
          case rel => exact ⟨m + 1, by omega, by rw [HN.out], by first | rfl | (congr 1; omega) | go_num, by first | rfl | trivial⟩
          case measure => simp [intOf]; omega
        · have hme : m = wd.toNat - x.size := by omega
          have hzz : (zeroZ m).size = m := HZZ.out m
          have hzs : (s1 ++ zeroZ m).size = s1.size + m := by rw [ByteArray.size_append, hzz]
          have HN : Hid (printFrom T (5 - (z + 1)).toNat (z + 1) (s1 ++ zeroZ m) = R) := by
            show _ = R
            rw [HST.out, HPad.out, ← HS1.out, hme]
          clear HZS HZ0 HZZ HPad hme
          go_wp2_with (go_at_call 38; refine (HWw.out _).mono ?_; rintro e w3 ⟨rfl, rfl⟩)
          go_roundw
          case rel => exact ⟨z + 1, _, by omega, by omega, rfl, by first | rfl | go_num, hx, by omega, HN⟩
          case measure => simp [intOf]; omega
    · have hze : z = 5 := by omega
      subst hze
      have hr : s = R := HR.out
      subst hr
      have hBk := (hx.block b hlt).trans HB.out
      have hc5 : wr.cell? ⟨b, 5, none⟩ = some (.int .i64 T.track) := by rw [cell_of hBk]; rfl
      have hc6 : wr.cell? ⟨b, 6, none⟩ = some (.int .i64 T.genre) := by rw [cell_of hBk]; rfl
      have HB12 := Lib.hid HB.out
      have hsn : (strOfNums [T.genre % 256]).size = 1 := rfl
      have hst : (strOfNums [0, T.track % 256]).size = 2 := rfl
      have hsz2 : s.size ≤ 5153 := by omega
      have hsz3 : (s ++ strOfNums [0, T.track % 256]).size = s.size + 2 := by rw [ByteArray.size_append, hst]
      clear HR HS HB HW HZS HZ0 HZZ HPad
      by_cases ht : T.track = 0
      · have g0 : (T.track != 0) = false := by rw [ht]; rfl
        have hs2 : (convert 52 9 (.slice (some ⟨wr.heap.size, 0, none⟩) 1 1)).run Try.prog (wr.alloc (.cells #[.int .u8 (T.genre % 256)] 5)) = .ok (.string (strOfNums [T.genre % 256])) _ := lit_str12 [T.genre % 256] wr
        have HE : Hid (P = s ++ strOfNums [T.genre % 256]) := by show _ = _; rw [HP.out, if_neg (fun h => h ht)]; rfl
        clear ht hBk HP
        go_wp2
        go_ret
        exact ⟨by first | (rw [HE.out]; done) | (rw [HE.out]; rfl), (HX0.out.trans hx).alloc _⟩
      · have g0 : (T.track != 0) = true := by rw [bne, beq_false_of_ne ht]; rfl
        have hs1 : (convert 52 9 (.slice (some ⟨wr.heap.size, 0, none⟩) 2 2)).run Try.prog (wr.alloc (.cells #[.int .u8 0, .int .u8 (T.track % 256)] 5)) = .ok (.string (strOfNums [0, T.track % 256])) _ := lit_str12 [0, T.track % 256] wr
        have hsz1 : (wr.alloc (.cells #[.int .u8 0, .int .u8 (T.track % 256)] 5)).heap.size = wr.heap.size + 1 := by simp
        have hs2 := lit_str12 [T.genre % 256] (wr.alloc (.cells #[.int .u8 0, .int .u8 (T.track % 256)] 5))
        rw [hsz1] at hs2
        have hs3 : (convert 52 9 (.slice (some ⟨wr.heap.size + 1, 0, none⟩) 1 1)).run Try.prog ((wr.alloc (.cells #[.int .u8 0, .int .u8 (T.track % 256)] 5)).alloc (.cells #[.int .u8 (T.genre % 256)] 5)) = .ok (.string (strOfNums [T.genre % 256])) _ := hs2
        have hc6b : (wr.alloc (.cells #[.int .u8 0, .int .u8 (T.track % 256)] 5)).cell? ⟨b, 6, none⟩ = some (.int .i64 T.genre) := by
          rw [cell_of (((hx.alloc (.cells #[.int .u8 0, .int .u8 (T.track % 256)] 5)).block b hlt).trans HB12.out)]
          rfl
        have HE : Hid (P = s ++ strOfNums [0, T.track % 256] ++ strOfNums [T.genre % 256]) := by show _ = _; rw [HP.out, if_pos ht]; rfl
        clear ht hBk hs2 hsz1 HP
        go_wp2
        go_ret
        exact ⟨by first | (rw [HE.out]; done) | (rw [HE.out]; rfl), ((HX0.out.trans hx).alloc _).alloc _⟩
end Go.Proofs.Ytbdjncnofpbkkaa
