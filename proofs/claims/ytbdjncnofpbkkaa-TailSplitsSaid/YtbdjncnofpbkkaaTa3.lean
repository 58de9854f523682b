/-
  Layer 12, the document (3): Parse.
-/
import Derived.Test.YtbdjncnofpbkkaaTa1
namespace Go.Proofs.Ytbdjncnofpbkkaa
open Go Go.ChangeShapes Go.WideShapes Go.ChangeAt Go.RowKit
set_option linter.unusedSimpArgs false
set_option linter.unusedVariables false

theorem cell_of {w : World} {b : Nat} {A : Array Value} {T : TypeId} (h : w.heap[b]? = some (.cells A T (0, 0))) (j : Nat) : w.cell? ⟨b, j, none⟩ = A[j]? := by
  simp [World.cell?, h]
/-- A tail's cells while it is read: the texts ahead of a number. -/
def pcZ (b : ByteArray) (z j : Int) : Value := .string (if j < z then fieldZ b j else ⟨#[]⟩)
def pC (b : ByteArray) (z t g : Int) : Array Value := #[pcZ b z 0, pcZ b z 1, pcZ b z 2, pcZ b z 3, pcZ b z 4, .int .i64 t, .int .i64 g]
theorem pC_zero (b : ByteArray) (t g : Int) : pC b 0 t g = #[.string ⟨#[]⟩, .string ⟨#[]⟩, .string ⟨#[]⟩, .string ⟨#[]⟩, .string ⟨#[]⟩, .int .i64 t, .int .i64 g] := rfl
theorem pC_all (b : ByteArray) (t g : Int) : pC b 5 t g = refA ⟨fieldZ b 0, fieldZ b 1, fieldZ b 2, fieldZ b 3, fieldZ b 4, t, g⟩ := rfl
theorem pC_set (b : ByteArray) (z t g : Int) (h0 : 0 ≤ z) (h5 : z < 5) : (pC b z t g).setIfInBounds z.toNat (.string (fieldZ b z)) = pC b (z + 1) t g := by
  obtain rfl | rfl | rfl | rfl | rfl : z = 0 ∨ z = 1 ∨ z = 2 ∨ z = 3 ∨ z = 4 := by omega
  all_goals rfl
theorem off_bd (z k : Int) (h0 : 0 ≤ z) (h5 : z < 5) : 3 ≤ offZ z ∧ offZ z + widthZ z k ≤ 127 ∧ offZ (z + 1) = offZ z + (if z = 4 then 0 else widthZ z k) := by
  obtain rfl | rfl | rfl | rfl | rfl : z = 0 ∨ z = 1 ∨ z = 2 ∨ z = 3 ∨ z = 4 := by omega
  all_goals
    unfold offZ widthZ
    by_cases h : k = 0 <;> simp [h]
/-- Where reading stands behind a text. -/
def atZ (z k : Int) : Int := if z < 5 then offZ z else 97 + widthZ 4 k
theorem atZ_next (z k : Int) (h0 : 0 ≤ z) (h5 : z < 5) : atZ (z + 1) k = offZ z + widthZ z k := by
  obtain rfl | rfl | rfl | rfl | rfl : z = 0 ∨ z = 1 ∨ z = 2 ∨ z = 3 ∨ z = 4 := by omega
  all_goals
    unfold atZ offZ widthZ
    by_cases h : k = 0 <;> simp [h]
theorem getD_at (s : ByteArray) (k : Nat) (h : k < s.size) : s.data.toList.getD k 0 = s[k] := by
  rw [List.getD_eq_getElem?_getD, list_at s k h]
  rfl
theorem put7 {W w : World} {b : Nat} {x0 x1 x2 x3 x4 x5 x6 : Value} {T : TypeId} (h : w.heap[b]? = some (.cells #[x0, x1, x2, x3, x4, x5, x6] T (0, 0))) (hx : Ext W w) (hb : W.heap.size ≤ b) (y0 y1 y2 y3 y4 y5 y6 : Value) :
    ∃ wf, wf = ((((((w.setCell ⟨b, 0, none⟩ y0).setCell ⟨b, 1, none⟩ y1).setCell ⟨b, 2, none⟩ y2).setCell ⟨b, 3, none⟩ y3).setCell ⟨b, 4, none⟩ y4).setCell ⟨b, 5, none⟩ y5).setCell ⟨b, 6, none⟩ y6 ∧ Ext W wf ∧ wf.heap[b]? = some (.cells #[y0, y1, y2, y3, y4, y5, y6] T (0, 0)) := by
  obtain ⟨w0, e0⟩ : ∃ w0, w0 = w.setCell ⟨b, 0, none⟩ y0 := ⟨_, rfl⟩
  have h0 : w0.heap[b]? = some (.cells #[y0, x1, x2, x3, x4, x5, x6] T (0, 0)) := by rw [e0]; exact Go.heap_setCell_same w b 0 _ _ y0 h
  have x0x : Ext W w0 := by rw [e0]; exact hx.setCell hb _
  obtain ⟨w1, e1⟩ : ∃ w1, w1 = w0.setCell ⟨b, 1, none⟩ y1 := ⟨_, rfl⟩
  have h1 : w1.heap[b]? = some (.cells #[y0, y1, x2, x3, x4, x5, x6] T (0, 0)) := by rw [e1]; exact Go.heap_setCell_same w0 b 1 _ _ y1 h0
  have x1x : Ext W w1 := by rw [e1]; exact x0x.setCell hb _
  obtain ⟨w2, e2⟩ : ∃ w2, w2 = w1.setCell ⟨b, 2, none⟩ y2 := ⟨_, rfl⟩
  have h2 : w2.heap[b]? = some (.cells #[y0, y1, y2, x3, x4, x5, x6] T (0, 0)) := by rw [e2]; exact Go.heap_setCell_same w1 b 2 _ _ y2 h1
  have x2x : Ext W w2 := by rw [e2]; exact x1x.setCell hb _
  obtain ⟨w3, e3⟩ : ∃ w3, w3 = w2.setCell ⟨b, 3, none⟩ y3 := ⟨_, rfl⟩
  have h3 : w3.heap[b]? = some (.cells #[y0, y1, y2, y3, x4, x5, x6] T (0, 0)) := by rw [e3]; exact Go.heap_setCell_same w2 b 3 _ _ y3 h2
  have x3x : Ext W w3 := by rw [e3]; exact x2x.setCell hb _
  obtain ⟨w4, e4⟩ : ∃ w4, w4 = w3.setCell ⟨b, 4, none⟩ y4 := ⟨_, rfl⟩
  have h4 : w4.heap[b]? = some (.cells #[y0, y1, y2, y3, y4, x5, x6] T (0, 0)) := by rw [e4]; exact Go.heap_setCell_same w3 b 4 _ _ y4 h3
  have x4x : Ext W w4 := by rw [e4]; exact x3x.setCell hb _
  obtain ⟨w5, e5⟩ : ∃ w5, w5 = w4.setCell ⟨b, 5, none⟩ y5 := ⟨_, rfl⟩
  have h5 : w5.heap[b]? = some (.cells #[y0, y1, y2, y3, y4, y5, x6] T (0, 0)) := by rw [e5]; exact Go.heap_setCell_same w4 b 5 _ _ y5 h4
  have x5x : Ext W w5 := by rw [e5]; exact x4x.setCell hb _
  obtain ⟨w6, e6⟩ : ∃ w6, w6 = w5.setCell ⟨b, 6, none⟩ y6 := ⟨_, rfl⟩
  have h6 : w6.heap[b]? = some (.cells #[y0, y1, y2, y3, y4, y5, y6] T (0, 0)) := by rw [e6]; exact Go.heap_setCell_same w5 b 6 _ _ y6 h5
  have x6x : Ext W w6 := by rw [e6]; exact x5x.setCell hb _
  exact ⟨w6, by rw [e6, e5, e4, e3, e2, e1, e0], x6x, h6⟩
set_option maxRecDepth 100000 in
set_option maxHeartbeats 4000000 in
/-- The document's Parse of 128 bytes. -/
theorem rparse (b : ByteArray) (w : World) (hb : b.size = 128) : Calls Try.prog 20 #[.string b] w fun e w' => e = .returned (.agg (refA (parseZ b))) ∧ Ext w w' := by
  have h125 : 125 < b.size := by omega
  have h126 : 126 < b.size := by omega
  have h127 : 127 < b.size := by omega
  have i125 : (125 : Int) < b.size := by omega
  have i126 : (126 : Int) < b.size := by omega
  have i127 : (127 : Int) < b.size := by omega
  have hsz : (b.size : Int) = 128 := by omega
  have ht : trackZ b = if (b[125]'h125).toNat = 0 then ((b[126]'h126).toNat : Int) else 0 := by
    unfold trackZ
    rw [getD_at b 125 h125, getD_at b 126 h126]
  have hg : ((b.data.toList.getD 127 0).toNat : Int) = (b[127]'h127).toNat := by rw [getD_at b 127 h127]
  have hp : parseZ b = ⟨fieldZ b 0, fieldZ b 1, fieldZ b 2, fieldZ b 3, fieldZ b 4, trackZ b, (b[127]'h127).toNat⟩ := by
    unfold parseZ
    rw [hg]
  rw [hp]
  have u126 := (b[126]'h126).toNat_lt
  have u127 := (b[127]'h127).toNat_lt
  have HF : Hid (∀ z, fieldZ b z = cutZ (b.extract (offZ z).toNat (offZ z + widthZ z (trackZ b)).toNat)) := fun z => rfl
  have HC := Lib.hid (fun x h w => rcut x w h)
  have HW := Lib.hid (fun i k w => rwidth i k w)
  have HAll := Lib.hid (fun t g => pC_all b t g)
  have HSet := Lib.hid (fun z t g h0 h5 => pC_set b z t g h0 h5)
  have HZero := Lib.hid (fun t g => pC_zero b t g)
  have hcase : ((b[125]'h125).toNat = 0 ∧ (b[126]'h126).toNat ≠ 0 ∧ trackZ b = (b[126]'h126).toNat) ∨ ((b[125]'h125).toNat = 0 ∧ (b[126]'h126).toNat = 0 ∧ trackZ b = 0) ∨ ((b[125]'h125).toNat ≠ 0 ∧ trackZ b = 0) := by
    rw [ht]
    by_cases h1 : (b[125]'h125).toNat = 0
    · rw [if_pos h1]
      by_cases h2 : (b[126]'h126).toNat = 0
      · exact .inr (.inl ⟨h1, h2, by omega⟩)
      · exact .inl ⟨h1, h2, rfl⟩
    · rw [if_neg h1]
      exact .inr (.inr ⟨h1, rfl⟩)
  clear hp ht hg
  have hgen : IntKind.i64.wrap ((b[127]'h127).toNat : Int) = (b[127]'h127).toNat := IntWalk.i64_in _ (by omega)
  have htr : IntKind.i64.wrap ((b[126]'h126).toNat : Int) = (b[126]'h126).toNat := IntWalk.i64_in _ (by omega)
  obtain ⟨g, hgd⟩ : ∃ g : Int, g = (b[127]'h127).toNat := ⟨_, rfl⟩
  rw [← hgd]
  obtain ⟨t, htd⟩ : ∃ t : Int, t = trackZ b := ⟨_, rfl⟩
  rw [← htd] at HF hcase ⊢
  have HRef := Lib.hid (HAll.out t g)
  rw [← HRef.out]
  have HC1 : Hid (∀ z, 0 ≤ z → z < 5 → ∀ w, Calls Try.prog 39 #[.string (b.extract (offZ z).toNat (offZ z + widthZ z t).toNat)] w fun e w' => e = .returned (.string (fieldZ b z)) ∧ w = w') := fun z h0 h5 w => by
    rw [HF.out z]
    exact HC.out _ (by rw [ByteArray.size_extract]; omega) w
  clear htd HF HAll HC
  obtain ⟨b0, hb0⟩ : ∃ b0, b0 = w.heap.size := ⟨_, rfl⟩
  obtain ⟨b1, hb1⟩ : ∃ b1, b1 = w.heap.size + 1 := ⟨_, rfl⟩
  have hne : b0 ≠ b1 := by omega
  have hl0 : w.heap.size ≤ b0 := by omega
  have hl1 : w.heap.size ≤ b1 := by omega
  have HStart : Hid (∀ w1, w1 = (w.alloc (.cells #[.string ⟨#[]⟩, .string ⟨#[]⟩, .string ⟨#[]⟩, .string ⟨#[]⟩, .string ⟨#[]⟩, .int .i64 0, .int .i64 0] 36)).alloc (.cells #[.string ⟨#[]⟩, .string ⟨#[]⟩, .string ⟨#[]⟩, .string ⟨#[]⟩, .string ⟨#[]⟩, .int .i64 t, .int .i64 g] 36) → Ext w w1 ∧ w1.heap[b0]? = some (.cells #[.string ⟨#[]⟩, .string ⟨#[]⟩, .string ⟨#[]⟩, .string ⟨#[]⟩, .string ⟨#[]⟩, .int .i64 0, .int .i64 0] 36 (0, 0)) ∧ w1.heap[b1]? = some (.cells (pC b 0 t g) 36 (0, 0))) := fun w1 hw1 => by
    have hA := heap_alloc_new w (.cells #[.string ⟨#[]⟩, .string ⟨#[]⟩, .string ⟨#[]⟩, .string ⟨#[]⟩, .string ⟨#[]⟩, .int .i64 0, .int .i64 0] 36)
    have hB := heap_alloc_new (w.alloc (.cells #[.string ⟨#[]⟩, .string ⟨#[]⟩, .string ⟨#[]⟩, .string ⟨#[]⟩, .string ⟨#[]⟩, .int .i64 0, .int .i64 0] 36)) (.cells #[.string ⟨#[]⟩, .string ⟨#[]⟩, .string ⟨#[]⟩, .string ⟨#[]⟩, .string ⟨#[]⟩, .int .i64 t, .int .i64 g] 36)
    have hz1 : (w.alloc (.cells #[.string ⟨#[]⟩, .string ⟨#[]⟩, .string ⟨#[]⟩, .string ⟨#[]⟩, .string ⟨#[]⟩, .int .i64 0, .int .i64 0] 36)).heap.size = w.heap.size + 1 := by simp
    rw [hz1] at hB
    rw [hw1, hb0, hb1, HZero.out]
    refine ⟨((Ext.refl w).alloc _).alloc _, ?_, hB⟩
    exact (heap_alloc_old _ _ (show w.heap.size < (w.alloc (.cells #[.string ⟨#[]⟩, .string ⟨#[]⟩, .string ⟨#[]⟩, .string ⟨#[]⟩, .string ⟨#[]⟩, .int .i64 0, .int .i64 0] 36)).heap.size by simp)).trans hA
  rw [← hgd] at hgen
  have HGD := Lib.hid hgd
  have HB0 := Lib.hid hb0
  have HB1 := Lib.hid hb1
  clear hgd hb0 hb1 HZero
  rcases hcase with ⟨q1, q2, rfl⟩ | ⟨q1, q2, rfl⟩ | ⟨q1, rfl⟩
  · have g0 : (((b[125]'h125).toNat : Int) == 0) = true := by rw [q1]; rfl
    have g1 : (((b[126]'h126).toNat : Int) != 0) = true := by rw [bne, beq_false_of_ne (by omega)]; rfl
    clear q1 q2
    go_enter Try.func20, Try.ntmps20
    go_wp2
    rw [← HGD.out, ← HB1.out, ← HB0.out]
    obtain ⟨w1, hw1⟩ : ∃ w1, w1 = (w.alloc (.cells #[.string ⟨#[]⟩, .string ⟨#[]⟩, .string ⟨#[]⟩, .string ⟨#[]⟩, .string ⟨#[]⟩, .int .i64 0, .int .i64 0] 36)).alloc (.cells #[.string ⟨#[]⟩, .string ⟨#[]⟩, .string ⟨#[]⟩, .string ⟨#[]⟩, .string ⟨#[]⟩, .int .i64 ((b[126]'h126).toNat : Int), .int .i64 g] 36) := ⟨_, rfl⟩
    rw [← hw1]
    obtain ⟨hx1, hk0, hk1⟩ := HStart.out w1 hw1
    clear hw1 HStart
    go_loopw [4, 5] (fun a i wr => ∃ z : Int, 0 ≤ z ∧ z ≤ 5 ∧ a = .int .i64 (atZ z ((b[126]'h126).toNat : Int)) ∧ i = .int .i64 z ∧ Ext w wr ∧ wr.heap[b0]? = some (.cells #[.string ⟨#[]⟩, .string ⟨#[]⟩, .string ⟨#[]⟩, .string ⟨#[]⟩, .string ⟨#[]⟩, .int .i64 0, .int .i64 0] 36 (0, 0)) ∧ wr.heap[b1]? = some (.cells (pC b z ((b[126]'h126).toNat : Int) g) 36 (0, 0))) (fun _ i _ => 5 - (intOf i).toNat)
    case atStart => exact ⟨0, by omega, by omega, rfl, rfl, hx1, hk0, hk1⟩
    case round =>
      obtain ⟨z, hz0, hz5, rfl, rfl, hx, hj0, hj1⟩ := hrel
      clear hx1 hk0 hk1
      by_cases hz : z < 5
      · have HCz := Lib.hid (fun w => HC1.out z hz0 hz w)
        have HWz := Lib.hid (fun w => HW.out z ((b[126]'h126).toNat : Int) w)
        have HSz := Lib.hid (HSet.out z ((b[126]'h126).toNat : Int) g hz0 hz)
        obtain ⟨o1, o2, o3⟩ := off_bd z ((b[126]'h126).toNat : Int) hz0 hz
        have hn := atZ_next z ((b[126]'h126).toNat : Int) hz0 hz
        have ha : atZ z ((b[126]'h126).toNat : Int) = offZ z := if_pos hz
        have hwd := widthZ_bd z ((b[126]'h126).toNat : Int)
        have HN := Lib.hid hn
        rw [ha]
        have hc5 : wr.cell? ⟨b1, 5, none⟩ = some (.int .i64 ((b[126]'h126).toNat : Int)) := by
          rw [show wr.cell? ⟨b1, 5, none⟩ = _ from cell_of hj1 5]
          rfl
        have hcz : wr.cell? ⟨b1, z.toNat, none⟩ = some (pcZ b z z) := by
          rw [show wr.cell? ⟨b1, z.toNat, none⟩ = _ from cell_of hj1 _]
          obtain rfl | rfl | rfl | rfl | rfl : z = 0 ∨ z = 1 ∨ z = 2 ∨ z = 3 ∨ z = 4 := by omega
          all_goals rfl
        have hfz : wr.frozen? ⟨b1, z.toNat, none⟩ = false := by simp [World.frozen?, hj1]
        have hnz : ¬ z < 0 := by omega
        have HK0 := Lib.hid hj0
        have HK1 := Lib.hid hj1
        clear hj0 hj1 hn ha HC1 HW HSet o3
        generalize offZ z = o at o1 o2 HCz HN ⊢
        generalize widthZ z ((b[126]'h126).toNat : Int) = wd at o2 HCz HWz HN hwd
        have p1 : ¬ o < 0 := by omega
        have p2 : o ≤ o + wd := by omega
        have p3 : o + wd ≤ b.size := by omega
        go_wp2_with (first
          | (go_at_call 38; refine (HWz.out _).mono ?_; rintro e w3 ⟨rfl, rfl⟩)
          | (go_at_call 39; refine (HCz.out _).mono ?_; rintro e w4 ⟨rfl, rfl⟩))
        go_roundw
        case rel =>
          refine ⟨z + 1, by omega, by omega, by rw [HN.out], by first | rfl | go_num, hx.setCell hl1 _, ?_, ?_⟩
          · rw [heap_setCell_other _ _ _ _ hne]
            exact HK0.out
          · have := Go.heap_setCell_same wr b1 z.toNat _ _ (.string (fieldZ b z)) HK1.out
            rw [← HSz.out]
            exact this
        case measure => simp [intOf]; omega
      · have hze : z = 5 := by omega
        subst hze
        clear HC1 HW HSet
        have hj2 : wr.heap[b1]? = some (.cells #[.string (fieldZ b 0), .string (fieldZ b 1), .string (fieldZ b 2), .string (fieldZ b 3), .string (fieldZ b 4), .int .i64 ((b[126]'h126).toNat : Int), .int .i64 g] 36 (0, 0)) := hj1
        obtain ⟨k0, k1, k2, k3, k4, k5, k6⟩ := facts7 hj2
        obtain ⟨m0, m1, m2, m3, m4, m5, m6⟩ := facts7 hj0
        have f0 := free7 hj0 0
        have f1 := free7 hj0 1
        have f2 := free7 hj0 2
        have f3 := free7 hj0 3
        have f4 := free7 hj0 4
        have f5 := free7 hj0 5
        have f6 := free7 hj0 6
        obtain ⟨wf, hwf, hxf, hB⟩ := put7 hj0 hx hl0 (.string (fieldZ b 0)) (.string (fieldZ b 1)) (.string (fieldZ b 2)) (.string (fieldZ b 3)) (.string (fieldZ b 4)) (.int .i64 ((b[126]'h126).toNat : Int)) (.int .i64 g)
        have HWF := Lib.hid hwf
        have HBB := Lib.hid hB
        clear hj0 hj1 hj2 hwf hB
        go_wp2
        rw [← HWF.out]
        obtain ⟨n0, n1, n2, n3, n4, n5, n6⟩ := facts7 HBB.out
        clear k0 k1 k2 k3 k4 k5 k6 m0 m1 m2 m3 m4 m5 m6 f0 f1 f2 f3 f4 f5 f6
        refine bodyPost_ret (v := .agg #[.string (fieldZ b 0), .string (fieldZ b 1), .string (fieldZ b 2), .string (fieldZ b 3), .string (fieldZ b 4), .int .i64 ((b[126]'h126).toNat : Int), .int .i64 g]) (by simp [results, Try.results20, go_sem, n0, n1, n2, n3, n4, n5, n6]) rfl ?_
        exact ⟨rfl, hxf⟩
  · have g0 : (((b[125]'h125).toNat : Int) == 0) = true := by rw [q1]; rfl
    have g1 : (((b[126]'h126).toNat : Int) != 0) = false := by rw [q2]; rfl
    clear q1 q2
    go_enter Try.func20, Try.ntmps20
    go_wp2
    rw [← HGD.out, ← HB1.out, ← HB0.out]
    obtain ⟨w1, hw1⟩ : ∃ w1, w1 = (w.alloc (.cells #[.string ⟨#[]⟩, .string ⟨#[]⟩, .string ⟨#[]⟩, .string ⟨#[]⟩, .string ⟨#[]⟩, .int .i64 0, .int .i64 0] 36)).alloc (.cells #[.string ⟨#[]⟩, .string ⟨#[]⟩, .string ⟨#[]⟩, .string ⟨#[]⟩, .string ⟨#[]⟩, .int .i64 0, .int .i64 g] 36) := ⟨_, rfl⟩
    rw [← hw1]
    obtain ⟨hx1, hk0, hk1⟩ := HStart.out w1 hw1
    clear hw1 HStart
    go_loopw [4, 5] (fun a i wr => ∃ z : Int, 0 ≤ z ∧ z ≤ 5 ∧ a = .int .i64 (atZ z 0) ∧ i = .int .i64 z ∧ Ext w wr ∧ wr.heap[b0]? = some (.cells #[.string ⟨#[]⟩, .string ⟨#[]⟩, .string ⟨#[]⟩, .string ⟨#[]⟩, .string ⟨#[]⟩, .int .i64 0, .int .i64 0] 36 (0, 0)) ∧ wr.heap[b1]? = some (.cells (pC b z 0 g) 36 (0, 0))) (fun _ i _ => 5 - (intOf i).toNat)
    case atStart => exact ⟨0, by omega, by omega, rfl, rfl, hx1, hk0, hk1⟩
    case round =>
      obtain ⟨z, hz0, hz5, rfl, rfl, hx, hj0, hj1⟩ := hrel
      clear hx1 hk0 hk1
      by_cases hz : z < 5
      · have HCz := Lib.hid (fun w => HC1.out z hz0 hz w)
        have HWz := Lib.hid (fun w => HW.out z 0 w)
        have HSz := Lib.hid (HSet.out z 0 g hz0 hz)
        obtain ⟨o1, o2, o3⟩ := off_bd z 0 hz0 hz
        have hn := atZ_next z 0 hz0 hz
        have ha : atZ z 0 = offZ z := if_pos hz
        have hwd := widthZ_bd z 0
        have HN := Lib.hid hn
        rw [ha]
        have hc5 : wr.cell? ⟨b1, 5, none⟩ = some (.int .i64 0) := by
          rw [show wr.cell? ⟨b1, 5, none⟩ = _ from cell_of hj1 5]
          rfl
        have hcz : wr.cell? ⟨b1, z.toNat, none⟩ = some (pcZ b z z) := by
          rw [show wr.cell? ⟨b1, z.toNat, none⟩ = _ from cell_of hj1 _]
          obtain rfl | rfl | rfl | rfl | rfl : z = 0 ∨ z = 1 ∨ z = 2 ∨ z = 3 ∨ z = 4 := by omega
          all_goals rfl
        have hfz : wr.frozen? ⟨b1, z.toNat, none⟩ = false := by simp [World.frozen?, hj1]
        have hnz : ¬ z < 0 := by omega
        have HK0 := Lib.hid hj0
        have HK1 := Lib.hid hj1
        clear hj0 hj1 hn ha HC1 HW HSet o3
        generalize offZ z = o at o1 o2 HCz HN ⊢
        generalize widthZ z 0 = wd at o2 HCz HWz HN hwd
        have p1 : ¬ o < 0 := by omega
        have p2 : o ≤ o + wd := by omega
        have p3 : o + wd ≤ b.size := by omega
        go_wp2_with (first
          | (go_at_call 38; refine (HWz.out _).mono ?_; rintro e w3 ⟨rfl, rfl⟩)
          | (go_at_call 39; refine (HCz.out _).mono ?_; rintro e w4 ⟨rfl, rfl⟩))
        go_roundw
        case rel =>
          refine ⟨z + 1, by omega, by omega, by rw [HN.out], by first | rfl | go_num, hx.setCell hl1 _, ?_, ?_⟩
          · rw [heap_setCell_other _ _ _ _ hne]
            exact HK0.out
          · have := Go.heap_setCell_same wr b1 z.toNat _ _ (.string (fieldZ b z)) HK1.out
            rw [← HSz.out]
            exact this
        case measure => simp [intOf]; omega
      · have hze : z = 5 := by omega
        subst hze
        clear HC1 HW HSet
        have hj2 : wr.heap[b1]? = some (.cells #[.string (fieldZ b 0), .string (fieldZ b 1), .string (fieldZ b 2), .string (fieldZ b 3), .string (fieldZ b 4), .int .i64 0, .int .i64 g] 36 (0, 0)) := hj1
        obtain ⟨k0, k1, k2, k3, k4, k5, k6⟩ := facts7 hj2
        obtain ⟨m0, m1, m2, m3, m4, m5, m6⟩ := facts7 hj0
        have f0 := free7 hj0 0
        have f1 := free7 hj0 1
        have f2 := free7 hj0 2
        have f3 := free7 hj0 3
        have f4 := free7 hj0 4
        have f5 := free7 hj0 5
        have f6 := free7 hj0 6
        obtain ⟨wf, hwf, hxf, hB⟩ := put7 hj0 hx hl0 (.string (fieldZ b 0)) (.string (fieldZ b 1)) (.string (fieldZ b 2)) (.string (fieldZ b 3)) (.string (fieldZ b 4)) (.int .i64 0) (.int .i64 g)
        have HWF := Lib.hid hwf
        have HBB := Lib.hid hB
        clear hj0 hj1 hj2 hwf hB
        go_wp2
        rw [← HWF.out]
        obtain ⟨n0, n1, n2, n3, n4, n5, n6⟩ := facts7 HBB.out
        clear k0 k1 k2 k3 k4 k5 k6 m0 m1 m2 m3 m4 m5 m6 f0 f1 f2 f3 f4 f5 f6
        refine bodyPost_ret (v := .agg #[.string (fieldZ b 0), .string (fieldZ b 1), .string (fieldZ b 2), .string (fieldZ b 3), .string (fieldZ b 4), .int .i64 0, .int .i64 g]) (by simp [results, Try.results20, go_sem, n0, n1, n2, n3, n4, n5, n6]) rfl ?_
        exact ⟨rfl, hxf⟩
  · have g0 : (((b[125]'h125).toNat : Int) == 0) = false := beq_false_of_ne (by omega)
    clear q1
    go_enter Try.func20, Try.ntmps20
    go_wp2
    rw [← HGD.out, ← HB1.out, ← HB0.out]
    obtain ⟨w1, hw1⟩ : ∃ w1, w1 = (w.alloc (.cells #[.string ⟨#[]⟩, .string ⟨#[]⟩, .string ⟨#[]⟩, .string ⟨#[]⟩, .string ⟨#[]⟩, .int .i64 0, .int .i64 0] 36)).alloc (.cells #[.string ⟨#[]⟩, .string ⟨#[]⟩, .string ⟨#[]⟩, .string ⟨#[]⟩, .string ⟨#[]⟩, .int .i64 0, .int .i64 g] 36) := ⟨_, rfl⟩
    rw [← hw1]
    obtain ⟨hx1, hk0, hk1⟩ := HStart.out w1 hw1
    clear hw1 HStart
    go_loopw [4, 5] (fun a i wr => ∃ z : Int, 0 ≤ z ∧ z ≤ 5 ∧ a = .int .i64 (atZ z 0) ∧ i = .int .i64 z ∧ Ext w wr ∧ wr.heap[b0]? = some (.cells #[.string ⟨#[]⟩, .string ⟨#[]⟩, .string ⟨#[]⟩, .string ⟨#[]⟩, .string ⟨#[]⟩, .int .i64 0, .int .i64 0] 36 (0, 0)) ∧ wr.heap[b1]? = some (.cells (pC b z 0 g) 36 (0, 0))) (fun _ i _ => 5 - (intOf i).toNat)
    case atStart => exact ⟨0, by omega, by omega, rfl, rfl, hx1, hk0, hk1⟩
    case round =>
      obtain ⟨z, hz0, hz5, rfl, rfl, hx, hj0, hj1⟩ := hrel
      clear hx1 hk0 hk1
      by_cases hz : z < 5
      · have HCz := Lib.hid (fun w => HC1.out z hz0 hz w)
        have HWz := Lib.hid (fun w => HW.out z 0 w)
        have HSz := Lib.hid (HSet.out z 0 g hz0 hz)
        obtain ⟨o1, o2, o3⟩ := off_bd z 0 hz0 hz
        have hn := atZ_next z 0 hz0 hz
        have ha : atZ z 0 = offZ z := if_pos hz
        have hwd := widthZ_bd z 0
        have HN := Lib.hid hn
        rw [ha]
        have hc5 : wr.cell? ⟨b1, 5, none⟩ = some (.int .i64 0) := by
          rw [show wr.cell? ⟨b1, 5, none⟩ = _ from cell_of hj1 5]
          rfl
        have hcz : wr.cell? ⟨b1, z.toNat, none⟩ = some (pcZ b z z) := by
          rw [show wr.cell? ⟨b1, z.toNat, none⟩ = _ from cell_of hj1 _]
          obtain rfl | rfl | rfl | rfl | rfl : z = 0 ∨ z = 1 ∨ z = 2 ∨ z = 3 ∨ z = 4 := by omega
          all_goals rfl
        have hfz : wr.frozen? ⟨b1, z.toNat, none⟩ = false := by simp [World.frozen?, hj1]
        have hnz : ¬ z < 0 := by omega
        have HK0 := Lib.hid hj0
        have HK1 := Lib.hid hj1
        clear hj0 hj1 hn ha HC1 HW HSet o3
        generalize offZ z = o at o1 o2 HCz HN ⊢
        generalize widthZ z 0 = wd at o2 HCz HWz HN hwd
        have p1 : ¬ o < 0 := by omega
        have p2 : o ≤ o + wd := by omega
        have p3 : o + wd ≤ b.size := by omega
        go_wp2_with (first
          | (go_at_call 38; refine (HWz.out _).mono ?_; rintro e w3 ⟨rfl, rfl⟩)
          | (go_at_call 39; refine (HCz.out _).mono ?_; rintro e w4 ⟨rfl, rfl⟩))
        go_roundw
        case rel =>
          refine ⟨z + 1, by omega, by omega, by rw [HN.out], by first | rfl | go_num, hx.setCell hl1 _, ?_, ?_⟩
          · rw [heap_setCell_other _ _ _ _ hne]
            exact HK0.out
          · have := Go.heap_setCell_same wr b1 z.toNat _ _ (.string (fieldZ b z)) HK1.out
            rw [← HSz.out]
            exact this
        case measure => simp [intOf]; omega
      · have hze : z = 5 := by omega
        subst hze
        clear HC1 HW HSet
        have hj2 : wr.heap[b1]? = some (.cells #[.string (fieldZ b 0), .string (fieldZ b 1), .string (fieldZ b 2), .string (fieldZ b 3), .string (fieldZ b 4), .int .i64 0, .int .i64 g] 36 (0, 0)) := hj1
        obtain ⟨k0, k1, k2, k3, k4, k5, k6⟩ := facts7 hj2
        obtain ⟨m0, m1, m2, m3, m4, m5, m6⟩ := facts7 hj0
        have f0 := free7 hj0 0
        have f1 := free7 hj0 1
        have f2 := free7 hj0 2
        have f3 := free7 hj0 3
        have f4 := free7 hj0 4
        have f5 := free7 hj0 5
        have f6 := free7 hj0 6
        obtain ⟨wf, hwf, hxf, hB⟩ := put7 hj0 hx hl0 (.string (fieldZ b 0)) (.string (fieldZ b 1)) (.string (fieldZ b 2)) (.string (fieldZ b 3)) (.string (fieldZ b 4)) (.int .i64 0) (.int .i64 g)
        have HWF := Lib.hid hwf
        have HBB := Lib.hid hB
        clear hj0 hj1 hj2 hwf hB
        go_wp2
        rw [← HWF.out]
        obtain ⟨n0, n1, n2, n3, n4, n5, n6⟩ := facts7 HBB.out
        clear k0 k1 k2 k3 k4 k5 k6 m0 m1 m2 m3 m4 m5 m6 f0 f1 f2 f3 f4 f5 f6
        refine bodyPost_ret (v := .agg #[.string (fieldZ b 0), .string (fieldZ b 1), .string (fieldZ b 2), .string (fieldZ b 3), .string (fieldZ b 4), .int .i64 0, .int .i64 g]) (by simp [results, Try.results20, go_sem, n0, n1, n2, n3, n4, n5, n6]) rfl ?_
        exact ⟨rfl, hxf⟩
end Go.Proofs.Ytbdjncnofpbkkaa
