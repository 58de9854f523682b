/-
  What the proof of this claim leans on (S30).
-/
import Derived.Test.YtndopjmdpmkgeaaGreatDoorS24
import Derived.Test.YtndopjmdpmkgeaaGreatDoorS29
namespace Go.Proofs.YtndopjmdpmkgeaaGreatDoor
open Go Go.ChangeShapes Go.WideShapes Go.ChangeAt Go.RowKit
set_option linter.unusedSimpArgs false
set_option linter.unusedVariables false

set_option maxRecDepth 100000 in
set_option maxHeartbeats 2000000 in
theorem nth_sign (zs : List Int) (hs : allSigns zs = true) (n : Int) (w : World) (hz : zs.length ≤ 1000) (h0 : -1000000 ≤ n) (h1 : n ≤ 1000000) :
    Calls Tryz.prog 183 #[.string (txt zs), .int .i64 n] w fun e w' => e = .returned (.tuple #[.int .i32 (if 0 ≤ n then zs.getD n.toNat 0 else 0), .bool (decide (0 ≤ n ∧ n < zs.length))]) ∧ Ext w w' := by
  have HSZ : Hid ((txt zs).size = (encs zs).length) := rfl
  have hsz : (encs zs).length ≤ 4 * zs.length := encs_le zs
  have HAT := Lib.hid (fun k p hp => txt_at zs hs k p hp)
  obtain ⟨R, hR⟩ : ∃ R : Int × Bool, R = ((if 0 ≤ n then zs.getD n.toNat 0 else 0), decide (0 ≤ n ∧ n < zs.length)) := ⟨_, rfl⟩
  have HR : Hid (R = ((if 0 ≤ n then zs.getD n.toNat 0 else 0), decide (0 ≤ n ∧ n < zs.length))) := hR
  rw [show (if 0 ≤ n then zs.getD n.toNat 0 else 0) = R.1 from by rw [hR], show decide (0 ≤ n ∧ n < zs.length) = R.2 from by rw [hR]]
  clear hR
  generalize txt zs = s at HSZ HAT ⊢
  have hss : s.size ≤ 4000 := by have := HSZ.out; omega
  have hit0 := World.iter_heap w s 0
  have hx0 := (Ext.refl w).alloc (.stringIter s 0)
  obtain ⟨k, hk⟩ : ∃ k, k = w.heap.size := ⟨_, rfl⟩
  have hkl : w.heap.size ≤ k := by omega
  go_enter Tryz.func183, Tryz.ntmps183
  go_wp2
  rw [← hk] at hit0 ⊢
  go_loopw [1, 7] (fun m _ wr => ∃ j : Nat, j ≤ zs.length ∧ m = .int .i64 (n - j) ∧ wr.heap[k]? = some (.stringIter s (encs (zs.take j)).length) ∧ Ext w wr ∧ (n < 0 ∨ (j : Int) ≤ n)) (fun _ _ wr => s.size - wr.iterPos k)
  case atStart => exact ⟨0, by omega, by simp, hit0, hx0, by omega⟩
  case round =>
    obtain ⟨j, hj, rfl, hit, hx, hnj⟩ := hrel
    clear hit0 hx0 hk
    have hpos0 := iterPos_of hit
    have hji : (j : Int) ≤ 1000 := by omega
    by_cases hlt : j < zs.length
    · have hpj : zs[j]? = some zs[j] := List.getElem?_eq_getElem hlt
      obtain ⟨p, hpz⟩ : ∃ p, p = zs[j] := ⟨_, rfl⟩
      rw [← hpz] at hpj
      obtain ⟨a1, a2, a3, a4, a5, a6⟩ := HAT.out j p hpj
      have hpb := (isSign_iff p).1 a4
      have p0 : 0 ≤ p := by omega
      have p1 : p ≤ 1114111 := by omega
      have HA5 := Lib.hid a5
      have HPJ := Lib.hid hpj
      obtain ⟨pos, hpos⟩ : ∃ pos, pos = (encs (zs.take j)).length := ⟨_, rfl⟩
      rw [← hpos] at a1 a2 hit hpos0
      have HPOS := Lib.hid hpos
      have hnx : ∀ ty, (Instr.next (.pointer (some ⟨k, 0, none⟩)) true ty).run Tryz.prog wr = _ := fun ty => Lib.run_next_any_at wr k s pos ty hit a1
      simp only [a2, a3] at hnx
      have hit2 := Lib.iterAt_heap wr k s pos (pos + (Lib.encodeRune p).length) hit
      have hx2 : Ext w (wr.iterAt k s (pos + (Lib.encodeRune p).length)) := Lib.below_iterAt hx (k := k) hkl s (pos + (Lib.encodeRune p).length)
      obtain ⟨q, hq⟩ : ∃ q, q = (Lib.encodeRune p).length := ⟨_, rfl⟩
      rw [← hq] at hnx hit2 hx2 a6
      have HQ := Lib.hid hq
      obtain ⟨W1, hW1⟩ : ∃ W1, W1 = wr.iterAt k s (pos + q) := ⟨_, rfl⟩
      rw [← hW1] at hnx hit2 hx2
      have hpi : (pos : Int) ≤ 400000 := by omega
      clear hW1 hit hx hpz hpj a2 a3 a4 a5 hpb hpos hq
      have hm0 : -2000000 ≤ n - (j : Int) := by omega
      have hm1 : n - (j : Int) ≤ 2000000 := by omega
      by_cases hnz : n = (j : Int)
      · have HF : Hid (R = (p, true)) := by
          show _ = _
          rw [HR.out, if_pos (by omega), hnz, Int.toNat_natCast, List.getD_eq_getElem?_getD, HPJ.out, decide_eq_true (by omega)]
          rfl
        have hd : n - (j : Int) = 0 := by omega
        rw [hd]
        clear hnj hm0 hm1 hd
        go_wp2
        go_ret2
        exact ⟨by rw [HF.out]; rfl, hx2⟩
      · have hg : (n - (j : Int) == 0) = false := beq_false_of_ne (by omega)
        have hn1 : n - (j : Int) - 1 = n - ((j + 1 : Nat) : Int) := by omega
        have hnj2 : n < 0 ∨ ((j + 1 : Nat) : Int) ≤ n := by omega
        have HM := Lib.hid hn1
        have HJ := Lib.hid hnj2
        obtain ⟨m, hm⟩ : ∃ m, m = n - (j : Int) := ⟨_, rfl⟩
        rw [← hm] at hg HM hm0 hm1 ⊢
        clear hn1 hnj2 hm hnz hnj
        go_wp2
        go_roundw
        case rel =>
          have e1 : (encs (zs.take (j + 1))).length = pos + q := by rw [HA5.out, ← HPOS.out, ← HQ.out]
          exact ⟨j + 1, by omega, by rw [← HM.out], by rw [e1]; exact hit2, hx2, HJ.out⟩
        case measure =>
          rw [iterPos_of hit2, hpos0]
          omega
    · have hjl : j = zs.length := by omega
      subst hjl
      rw [List.take_length] at hit
      have hnp : ¬ (encs zs).length < s.size := by have := HSZ.out; omega
      have hnx : ∀ ty, (Instr.next (.pointer (some ⟨k, 0, none⟩)) true ty).run Tryz.prog wr = _ := fun ty => Lib.run_next_end_at wr k s _ ty hit hnp
      have HF : Hid (R = (0, false)) := by
        show _ = _
        rw [HR.out, decide_eq_false (by omega)]
        by_cases h : 0 ≤ n
        · rw [if_pos h, List.getD_eq_getElem?_getD, List.getElem?_eq_none (by omega)]
          rfl
        · rw [if_neg h]
      clear hit hpos0 hnj
      go_wp2
      go_ret2
      exact ⟨by rw [HF.out]; rfl, hx⟩
end Go.Proofs.YtndopjmdpmkgeaaGreatDoor

