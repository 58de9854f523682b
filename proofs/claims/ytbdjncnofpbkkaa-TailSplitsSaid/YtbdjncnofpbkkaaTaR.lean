/-
  Layer 12, the program (1): rooms, texts, strings.Cut at a byte 0, named, track.
-/
import Derived.Test.YtbdjncnofpbkkaaTa8
import Derived.Test.YtbdjncnofpbkkaaCel
import Derived.Test.YtbdjncnofpbkkaaShelf
namespace Go.Proofs.Ytbdjncnofpbkkaa
open Go Go.ChangeShapes Go.WideShapes Go.ChangeAt Go.RowKit
set_option linter.unusedSimpArgs false
set_option linter.unusedVariables false

theorem facts5 {w : World} {b : Nat} {v0 v1 v2 v3 v4 : Value} {T : TypeId} (h : w.heap[b]? = some (.cells #[v0, v1, v2, v3, v4] T (0, 0))) :
    w.cell? ⟨b, 0, none⟩ = some v0 ∧ w.cell? ⟨b, 1, none⟩ = some v1 ∧ w.cell? ⟨b, 2, none⟩ = some v2 ∧ w.cell? ⟨b, 3, none⟩ = some v3 ∧ w.cell? ⟨b, 4, none⟩ = some v4 := by
  refine ⟨?_, ?_, ?_, ?_, ?_⟩ <;> simp [World.cell?, h]
/-- How many bytes there are for each text. -/
def roomA (k : Int) : Array Value := #[.int .i64 30, .int .i64 30, .int .i64 30, .int .i64 4, .int .i64 (if k = 0 then 30 else 28)]
set_option maxRecDepth 100000 in
set_option maxHeartbeats 1000000 in
theorem crooms (k : Int) (w : World) : Calls Try.prog 33 #[.int .u8 k] w fun e w' => e = .returned (.agg (roomA k)) ∧ Ext w w' := by
  unfold roomA
  by_cases hk : k = 0
  · have g : (k != 0) = false := by rw [hk]; rfl
    rw [if_pos hk]
    clear hk
    go_enter Try.func33, Try.ntmps33
    go_wp2
    have hB := heap_alloc_new w (.cells #[.int .i64 30, .int .i64 30, .int .i64 30, .int .i64 4, .int .i64 30] 55)
    obtain ⟨n0, n1, n2, n3, n4⟩ := facts5 hB
    refine bodyPost_ret (v := .agg #[.int .i64 30, .int .i64 30, .int .i64 30, .int .i64 4, .int .i64 30]) (by simp [results, Try.results33, go_sem, n0, n1, n2, n3, n4]) rfl ?_
    exact ⟨rfl, (Ext.refl w).alloc _⟩
  · have g : (k != 0) = true := by rw [bne, beq_false_of_ne hk]; rfl
    rw [if_neg hk]
    clear hk
    go_enter Try.func33, Try.ntmps33
    go_wp2
    have hB := heap_alloc_new w (.cells #[.int .i64 30, .int .i64 30, .int .i64 30, .int .i64 4, .int .i64 28] 55)
    obtain ⟨n0, n1, n2, n3, n4⟩ := facts5 hB
    refine bodyPost_ret (v := .agg #[.int .i64 30, .int .i64 30, .int .i64 30, .int .i64 4, .int .i64 28]) (by simp [results, Try.results33, go_sem, n0, n1, n2, n3, n4]) rfl ?_
    exact ⟨rfl, (Ext.refl w).alloc _⟩
set_option maxRecDepth 100000 in
set_option maxHeartbeats 1000000 in
theorem ctexts (t0 t1 t2 t3 t4 : ByteArray) (w : World) : Calls Try.prog 41 #[.agg #[.string t0, .string t1, .string t2, .string t3, .string t4]] w fun e w' => e = .returned (.agg #[.string t0, .string t1, .string t2, .string t3, .string t4]) ∧ Ext w w' := by
  have hA := heap_alloc_new w (.cells #[.string t0, .string t1, .string t2, .string t3, .string t4] 29)
  obtain ⟨k0, k1, k2, k3, k4⟩ := facts5 hA
  go_enter Try.func41, Try.ntmps41
  go_wp2
  have hB := heap_alloc_new (w.alloc (.cells #[.string t0, .string t1, .string t2, .string t3, .string t4] 29)) (.cells #[.string t0, .string t1, .string t2, .string t3, .string t4] 34)
  rw [show (w.alloc (.cells #[.string t0, .string t1, .string t2, .string t3, .string t4] 29)).heap.size = w.heap.size + 1 by simp] at hB
  obtain ⟨n0, n1, n2, n3, n4⟩ := facts5 hB
  refine bodyPost_ret (v := .agg #[.string t0, .string t1, .string t2, .string t3, .string t4]) (by simp [results, Try.results41, go_sem, n0, n1, n2, n3, n4]) rfl ?_
  exact ⟨rfl, ((Ext.refl w).alloc _).alloc _⟩
/-! ### strings.Cut at a byte 0 -/
theorem nonzero_of {s : ByteArray} (h : ∀ k : Nat, s.data.toList[k]? ≠ some 0) : ∀ j (hj : j < s.size), s[j].toNat ≠ 0 := fun j hj e => h j (by
  rw [list_at s j hj]
  exact congrArg some (UInt8.toNat_inj.1 e))
theorem idx_neg {s : ByteArray} (h : Lib.indexByte s.data.toList 0 < 0) : cutZ s = s := by
  have hg := Lib.indexByte_ge s.data.toList 0
  exact cutZ_all s (nonzero_of (Lib.indexByte_none (by omega)))
theorem idx_pos {s : ByteArray} {o : Nat} (h : Lib.indexByte s.data.toList 0 = o) : o < s.size ∧ cutZ s = s.extract 0 o := by
  obtain ⟨h1, h2⟩ := Lib.indexByte_some h
  obtain ⟨hl, e⟩ := list_some s o 0 h1
  refine ⟨hl, cutZ_at s o hl (by rw [e]; rfl) (fun j hj hjo e2 => h2 j hjo ?_)⟩
  rw [list_at s j hj]
  exact congrArg some (UInt8.toNat_inj.1 e2)
theorem idx_cut {s : ByteArray} {o : Nat} (h : Lib.indexByte s.data.toList 0 = o) : cutZ s ≠ s := by
  obtain ⟨h1, h2⟩ := idx_pos h
  intro e
  have h3 := congrArg ByteArray.size (h2.symm.trans e)
  rw [ByteArray.size_extract] at h3
  omega
set_option maxRecDepth 100000 in
set_option maxHeartbeats 1000000 in
theorem ccut_lite (s : ByteArray) (w : World) (hs : s.size ≤ 1000000) : Calls Try.prog 65 #[.string s, .string ⟨#[0]⟩] w fun e w' => (∃ (t : ByteArray) (ok : Bool), e = .returned (.tuple #[.string (cutZ s), .string t, .bool ok])) ∧ Ext w w' := by
  have HI := Lib.hid (fun w => Try.stringslite_Index_one s 0 w)
  by_cases h : Lib.indexByte s.data.toList 0 < 0
  · have hc := idx_neg h
    rw [hc]
    have hn : ¬ (0 : Int) ≤ Lib.indexByte s.data.toList 0 := by omega
    generalize Lib.indexByte s.data.toList 0 = m at HI hn
    clear h hc
    go_enter Try.func65, Try.ntmps65
    go_wp2_with (go_at_call 71; refine (HI.out _).mono ?_; rintro e w1 ⟨rfl, rfl⟩)
    exact bodyPost_ret (v := .tuple #[.string s, .string ⟨#[]⟩, .bool false]) (by simp [results, Try.results65, go_sem]) rfl ⟨⟨_, _, rfl⟩, Ext.refl _⟩
  · obtain ⟨o, ho⟩ : ∃ o : Nat, Lib.indexByte s.data.toList 0 = o := ⟨(Lib.indexByte s.data.toList 0).toNat, by omega⟩
    obtain ⟨h1, h2⟩ := idx_pos ho
    rw [h2]
    rw [ho] at HI
    have q1 : (o : Int) ≤ s.size := by omega
    have q2 : (o : Int) + 1 ≤ s.size := by omega
    have q3 : (0 : Int) ≤ (o : Int) := by omega
    have hw : IntKind.i64.wrap ((o : Int) + 1) = (o : Int) + 1 := IntWalk.i64_in _ (by omega)
    have q4 : ¬ (o : Int) + 1 < 0 := by omega
    have q5 : ((o : Int) + 1).toNat = o + 1 := by omega
    clear h ho h1 h2
    go_enter Try.func65, Try.ntmps65
    go_wp2_with (go_at_call 71; refine (HI.out _).mono ?_; rintro e w1 ⟨rfl, rfl⟩)
    go_region
    go_wp2
    refine bodyPost_ret (v := .tuple #[.string (s.extract 0 o), .string (s.extract (o + 1) s.size), .bool true]) (by simp [results, Try.results65, go_sem]) rfl ⟨⟨_, _, rfl⟩, (Ext.refl _).drew⟩
theorem ccut0 (s : ByteArray) (w : World) (hs : s.size ≤ 1000000) : Calls Try.prog 54 #[.string s, .string ⟨#[0]⟩] w fun e w' => (∃ (t : ByteArray) (ok : Bool), e = .returned (.tuple #[.string (cutZ s), .string t, .bool ok])) ∧ Ext w w' := by
  have HC := Lib.hid (fun w => ccut_lite s w hs)
  go_enter Try.func54, Try.ntmps54
  go_wp2_with (go_at_call 65; refine (HC.out _).mono ?_; rintro e w1 ⟨⟨t, ok, rfl⟩, hb1⟩)
  exact bodyPost_ret (v := .tuple #[.string (cutZ s), .string t, .bool ok]) (by simp [results, Try.results54, go_sem]) rfl ⟨⟨_, _, rfl⟩, hb1⟩
/-! ### named -/
/-- A text while the texts are cut: those ahead of a number are. -/
def nmZ (T : TailZ) (z j : Int) : Value := .string (if j < z then cutZ (T.tx j) else T.tx j)
def nmA (T : TailZ) (z : Int) : Array Value := #[nmZ T z 0, nmZ T z 1, nmZ T z 2, nmZ T z 3, nmZ T z 4]
theorem nmA_zero (T : TailZ) : nmA T 0 = #[.string T.t0, .string T.t1, .string T.t2, .string T.t3, .string T.t4] := rfl
theorem nmA_all (T : TailZ) : nmA T 5 = #[.string (cutZ T.t0), .string (cutZ T.t1), .string (cutZ T.t2), .string (cutZ T.t3), .string (cutZ T.t4)] := rfl
theorem nmA_set (T : TailZ) (z : Int) (h0 : 0 ≤ z) (h5 : z < 5) : (nmA T z).setIfInBounds z.toNat (.string (cutZ (T.tx z))) = nmA T (z + 1) := by
  obtain rfl | rfl | rfl | rfl | rfl : z = 0 ∨ z = 1 ∨ z = 2 ∨ z = 3 ∨ z = 4 := by omega
  all_goals rfl
theorem cell_of5 {w : World} {b : Nat} {A : Array Value} {T : TypeId} (h : w.heap[b]? = some (.cells A T (0, 0))) (j : Nat) : w.cell? ⟨b, j, none⟩ = A[j]? := by
  simp [World.cell?, h]
theorem free_of {w : World} {b : Nat} {A : Array Value} {T : TypeId} (h : w.heap[b]? = some (.cells A T (0, 0))) (j : Nat) : w.frozen? ⟨b, j, none⟩ = false := by
  simp [World.frozen?, h]
theorem put5 {W w : World} {b : Nat} {x0 x1 x2 x3 x4 : Value} {T : TypeId} (h : w.heap[b]? = some (.cells #[x0, x1, x2, x3, x4] T (0, 0))) (hx : Ext W w) (hb : W.heap.size ≤ b) (y0 y1 y2 y3 y4 : Value) :
    ∃ wf, wf = ((((w.setCell ⟨b, 0, none⟩ y0).setCell ⟨b, 1, none⟩ y1).setCell ⟨b, 2, none⟩ y2).setCell ⟨b, 3, none⟩ y3).setCell ⟨b, 4, none⟩ y4 ∧ Ext W wf ∧ wf.heap[b]? = some (.cells #[y0, y1, y2, y3, y4] T (0, 0)) := by
  obtain ⟨w0, e0⟩ : ∃ w0, w0 = w.setCell ⟨b, 0, none⟩ y0 := ⟨_, rfl⟩
  have h0 : w0.heap[b]? = some (.cells #[y0, x1, x2, x3, x4] T (0, 0)) := by rw [e0]; exact Go.heap_setCell_same w b 0 _ _ y0 h
  have x0x : Ext W w0 := by rw [e0]; exact hx.setCell hb _
  obtain ⟨w1, e1⟩ : ∃ w1, w1 = w0.setCell ⟨b, 1, none⟩ y1 := ⟨_, rfl⟩
  have h1 : w1.heap[b]? = some (.cells #[y0, y1, x2, x3, x4] T (0, 0)) := by rw [e1]; exact Go.heap_setCell_same w0 b 1 _ _ y1 h0
  have x1x : Ext W w1 := by rw [e1]; exact x0x.setCell hb _
  obtain ⟨w2, e2⟩ : ∃ w2, w2 = w1.setCell ⟨b, 2, none⟩ y2 := ⟨_, rfl⟩
  have h2 : w2.heap[b]? = some (.cells #[y0, y1, y2, x3, x4] T (0, 0)) := by rw [e2]; exact Go.heap_setCell_same w1 b 2 _ _ y2 h1
  have x2x : Ext W w2 := by rw [e2]; exact x1x.setCell hb _
  obtain ⟨w3, e3⟩ : ∃ w3, w3 = w2.setCell ⟨b, 3, none⟩ y3 := ⟨_, rfl⟩
  have h3 : w3.heap[b]? = some (.cells #[y0, y1, y2, y3, x4] T (0, 0)) := by rw [e3]; exact Go.heap_setCell_same w2 b 3 _ _ y3 h2
  have x3x : Ext W w3 := by rw [e3]; exact x2x.setCell hb _
  obtain ⟨w4, e4⟩ : ∃ w4, w4 = w3.setCell ⟨b, 4, none⟩ y4 := ⟨_, rfl⟩
  have h4 : w4.heap[b]? = some (.cells #[y0, y1, y2, y3, y4] T (0, 0)) := by rw [e4]; exact Go.heap_setCell_same w3 b 4 _ _ y4 h3
  have x4x : Ext W w4 := by rw [e4]; exact x3x.setCell hb _
  exact ⟨w4, by rw [e4, e3, e2, e1, e0], x4x, h4⟩
set_option maxRecDepth 100000 in
/-- An element of five texts that lie by value. -/
theorem index_five (T : TailZ) (z : Int) (w : World) (h0 : 0 ≤ z) (h5 : z < 5) : (Instr.index 34 (.agg #[.string T.t0, .string T.t1, .string T.t2, .string T.t3, .string T.t4]) (.int .i64 z)).run Try.prog w = .ok (.string (T.tx z)) w := by
  obtain rfl | rfl | rfl | rfl | rfl : z = 0 ∨ z = 1 ∨ z = 2 ∨ z = 3 ∨ z = 4 := by omega
  all_goals kernel_rfl
set_option maxRecDepth 100000 in
set_option maxHeartbeats 4000000 in
theorem cnamed (T : TailZ) (w : World) (hs : ∀ z, (T.tx z).size ≤ 1000000) : Calls Try.prog 35 #[.agg #[.string T.t0, .string T.t1, .string T.t2, .string T.t3, .string T.t4]] w fun e w' => e = .returned (.agg #[.string (cutZ T.t0), .string (cutZ T.t1), .string (cutZ T.t2), .string (cutZ T.t3), .string (cutZ T.t4)]) ∧ Ext w w' := by
  have HC := Lib.hid (fun z w => ccut0 (T.tx z) w (hs z))
  have HSet := Lib.hid (fun z h0 h5 => nmA_set T z h0 h5)
  obtain ⟨b0, hb0⟩ : ∃ b0, b0 = w.heap.size := ⟨_, rfl⟩
  obtain ⟨b1, hb1⟩ : ∃ b1, b1 = w.heap.size + 1 := ⟨_, rfl⟩
  have hne : b1 ≠ b0 := by omega
  have hl0 : w.heap.size ≤ b0 := by omega
  have hl1 : w.heap.size ≤ b1 := by omega
  have HStart : Hid (∀ w1, w1 = (w.alloc (.cells #[.string T.t0, .string T.t1, .string T.t2, .string T.t3, .string T.t4] 34)).alloc (.cells #[.string ⟨#[]⟩, .string ⟨#[]⟩, .string ⟨#[]⟩, .string ⟨#[]⟩, .string ⟨#[]⟩] 29) → Ext w w1 ∧ w1.heap[b0]? = some (.cells (nmA T 0) 34 (0, 0)) ∧ w1.heap[b1]? = some (.cells #[.string ⟨#[]⟩, .string ⟨#[]⟩, .string ⟨#[]⟩, .string ⟨#[]⟩, .string ⟨#[]⟩] 29 (0, 0))) := fun w1 hw1 => by
    have hA := heap_alloc_new w (.cells #[.string T.t0, .string T.t1, .string T.t2, .string T.t3, .string T.t4] 34)
    have hB := heap_alloc_new (w.alloc (.cells #[.string T.t0, .string T.t1, .string T.t2, .string T.t3, .string T.t4] 34)) (.cells #[.string ⟨#[]⟩, .string ⟨#[]⟩, .string ⟨#[]⟩, .string ⟨#[]⟩, .string ⟨#[]⟩] 29)
    have hz1 : (w.alloc (.cells #[.string T.t0, .string T.t1, .string T.t2, .string T.t3, .string T.t4] 34)).heap.size = w.heap.size + 1 := by simp
    rw [hz1] at hB
    rw [hw1, hb0, hb1, nmA_zero]
    refine ⟨((Ext.refl w).alloc _).alloc _, ?_, hB⟩
    exact (heap_alloc_old _ _ (show w.heap.size < (w.alloc (.cells #[.string T.t0, .string T.t1, .string T.t2, .string T.t3, .string T.t4] 34)).heap.size by simp)).trans hA
  obtain ⟨a0, a1, a2, a3, a4⟩ := facts5 (heap_alloc_new w (.cells #[.string T.t0, .string T.t1, .string T.t2, .string T.t3, .string T.t4] 34))
  have HB0 := Lib.hid hb0
  have HB1 := Lib.hid hb1
  clear hb0 hb1
  go_enter Try.func35, Try.ntmps35
  go_wp2
  rw [← HB1.out, ← HB0.out]
  obtain ⟨w1, hw1⟩ : ∃ w1, w1 = (w.alloc (.cells #[.string T.t0, .string T.t1, .string T.t2, .string T.t3, .string T.t4] 34)).alloc (.cells #[.string ⟨#[]⟩, .string ⟨#[]⟩, .string ⟨#[]⟩, .string ⟨#[]⟩, .string ⟨#[]⟩] 29) := ⟨_, rfl⟩
  rw [← hw1]
  obtain ⟨hx1, hk0, hk1⟩ := HStart.out w1 hw1
  clear hw1 HStart a0 a1 a2 a3 a4
  go_loopw [6] (fun i wr => ∃ z : Int, 0 ≤ z ∧ z ≤ 5 ∧ i = .int .i64 z ∧ Ext w wr ∧ wr.heap[b0]? = some (.cells (nmA T z) 34 (0, 0)) ∧ wr.heap[b1]? = some (.cells #[.string ⟨#[]⟩, .string ⟨#[]⟩, .string ⟨#[]⟩, .string ⟨#[]⟩, .string ⟨#[]⟩] 29 (0, 0))) (fun i _ => 5 - (intOf i).toNat)
  case atStart => exact ⟨0, by omega, by omega, rfl, hx1, hk0, hk1⟩
  case round =>
    obtain ⟨z, hz0, hz5, rfl, hx, hj0, hj1⟩ := hrel
    clear hx1 hk0 hk1
    by_cases hz : z < 5
    · have HCz := Lib.hid (fun w => HC.out z w)
      have HSz := Lib.hid (HSet.out z hz0 hz)
      have hl5 : b0 < wr.heap.size := lt_of_block hj0
      have hl6 : b1 < wr.heap.size := lt_of_block hj1
      have HK0 := Lib.hid hj0
      have HK1 := Lib.hid hj1
      have HX := Lib.hid hx
      have hnz : ¬ z < 0 := by omega
      have hix := fun w => index_five T z w hz0 hz
      have HCell : Hid (∀ w2, Ext wr w2 → w2.heap[b0]? = some (.cells (nmA T z) 34 (0, 0)) ∧ w2.cell? ⟨b0, z.toNat, none⟩ = some (nmZ T z z) ∧ w2.frozen? ⟨b0, z.toNat, none⟩ = false ∧ w2.heap[b1]? = some (.cells #[.string ⟨#[]⟩, .string ⟨#[]⟩, .string ⟨#[]⟩, .string ⟨#[]⟩, .string ⟨#[]⟩] 29 (0, 0))) := fun w2 hx2 => by
        have hB := (hx2.block b0 hl5).trans HK0.out
        refine ⟨hB, ?_, free_of hB _, (hx2.block b1 hl6).trans HK1.out⟩
        rw [cell_of5 hB]
        obtain rfl | rfl | rfl | rfl | rfl : z = 0 ∨ z = 1 ∨ z = 2 ∨ z = 3 ∨ z = 4 := by omega
        all_goals rfl
      clear hj0 hj1 hx HC HSet
      go_wp2_with (go_at_call 54; refine (HCz.out _).mono ?_; rintro e w4 ⟨⟨t, ok, rfl⟩, hb4⟩; obtain ⟨hC1, hC2, hC3, hC4⟩ := HCell.out _ hb4; have HC1 := Lib.hid hC1; have HC4 := Lib.hid hC4; clear hC1 hC4)
      go_roundw
      case rel =>
        refine ⟨z + 1, by omega, by omega, by first | rfl | go_num, (HX.out.trans hb4).setCell hl0 _, ?_, ?_⟩
        · have := Go.heap_setCell_same w4 b0 z.toNat _ _ (.string (cutZ (T.tx z))) HC1.out
          rw [← HSz.out]
          exact this
        · rw [heap_setCell_other _ _ _ _ hne]
          exact HC4.out
      case measure => simp [intOf]; omega
    · have hze : z = 5 := by omega
      subst hze
      have hj2 : wr.heap[b0]? = some (.cells #[.string (cutZ T.t0), .string (cutZ T.t1), .string (cutZ T.t2), .string (cutZ T.t3), .string (cutZ T.t4)] 34 (0, 0)) := hj0
      obtain ⟨k0, k1, k2, k3, k4⟩ := facts5 hj2
      obtain ⟨m0, m1, m2, m3, m4⟩ := facts5 hj1
      have f0 := free_of hj1 0
      have f1 := free_of hj1 1
      have f2 := free_of hj1 2
      have f3 := free_of hj1 3
      have f4 := free_of hj1 4
      obtain ⟨wf, hwf, hxf, hB⟩ := put5 hj1 hx hl1 (.string (cutZ T.t0)) (.string (cutZ T.t1)) (.string (cutZ T.t2)) (.string (cutZ T.t3)) (.string (cutZ T.t4))
      have HWF := Lib.hid hwf
      have HBB := Lib.hid hB
      clear hj0 hj1 hj2 hwf hB HC HSet
      go_wp2
      rw [← HWF.out]
      obtain ⟨n0, n1, n2, n3, n4⟩ := facts5 HBB.out
      clear k0 k1 k2 k3 k4 m0 m1 m2 m3 m4 f0 f1 f2 f3 f4
      refine bodyPost_ret (v := .agg #[.string (cutZ T.t0), .string (cutZ T.t1), .string (cutZ T.t2), .string (cutZ T.t3), .string (cutZ T.t4)]) (by simp [results, Try.results35, go_sem, n0, n1, n2, n3, n4]) rfl ?_
      exact ⟨rfl, hxf⟩
/-! ### track -/
set_option maxRecDepth 100000 in
set_option maxHeartbeats 1000000 in
theorem ctrack (s : ByteArray) (w : World) (h28 : 28 < s.size) (h29 : 29 < s.size) : Calls Try.prog 36 #[.string s] w fun e w' => e = .returned (.int .u8 (if (s[28]'h28).toNat = 0 then ((s[29]'h29).toNat : Int) else 0)) ∧ Ext w w' := by
  have i28 : (28 : Int) < s.size := by omega
  have i29 : (29 : Int) < s.size := by omega
  by_cases h : (s[28]'h28).toNat = 0
  · have g : (((s[28]'h28).toNat : Int) != 0) = false := by rw [h]; rfl
    rw [if_pos h]
    clear h
    go_enter Try.func36, Try.ntmps36
    go_wp2
    go_ret
    exact ⟨rfl, Ext.refl _⟩
  · have g : (((s[28]'h28).toNat : Int) != 0) = true := by rw [bne, beq_false_of_ne (by omega)]; rfl
    rw [if_neg h]
    clear h
    go_enter Try.func36, Try.ntmps36
    go_wp2
    go_ret
    exact ⟨rfl, Ext.refl _⟩
end Go.Proofs.Ytbdjncnofpbkkaa
