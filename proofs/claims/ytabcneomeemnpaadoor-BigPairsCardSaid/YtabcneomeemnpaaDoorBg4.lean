/-
  The document's answers of layer 8 (3): the code of the signs with which some begin.
-/
import Derived.Test.YtabcneomeemnpaaDoorBg3
namespace Go.Proofs.YtabcneomeemnpaaDoor
open Go Go.ChangeShapes Go.WideShapes Go.ChangeAt Go.RowKit
set_option linter.unusedSimpArgs false
set_option linter.unusedVariables false

def LeadCells (y : Nat) (w : World) : Prop := ∀ w2, Ext w w2 → ∀ k : Nat, k < 5 → w2.cell? ⟨y, k, none⟩ = some (.int .i64 (leadB k))
theorem LeadCells.of {y : Nat} {w : World} (h : w.heap[y]? = some (.cells #[.int .i64 136, .int .i64 161, .int .i64 163, .int .i64 164, .int .i64 165] 3 (0, 0))) : LeadCells y w := by
  intro w2 hx k hk
  have hy : y < w.heap.size := by
    rcases Nat.lt_or_ge y w.heap.size with h2 | h2
    · exact h2
    · rw [Array.getElem?_eq_none h2] at h
      cases h
  rw [World.cell?_of_block (hx.block y hy)]
  have : k = 0 ∨ k = 1 ∨ k = 2 ∨ k = 3 ∨ k = 4 := by omega
  rcases this with rfl | rfl | rfl | rfl | rfl <;> (simp only [World.cell?, h]; rfl)
theorem rleads8 (w : World) : Calls Tryd.prog 24 #[] w fun e w' => ∃ y, e = .returned (.slice (some ⟨y, 0, none⟩) 5 5) ∧ Ext w w' ∧ Hid (LeadCells y w') := by
  go_enter Tryd.func24, Tryd.ntmps24
  go_wp2
  go_ret
  exact ⟨_, rfl, (Ext.refl w).alloc _, LeadCells.of (heap_alloc_new w _)⟩
theorem rows_posB (L : List Int) (k : Nat) (h : L = rowB (leadB k)) (hk : k < 5) : L.all (fun z => decide (0 < z)) = true ∧ L.length ≤ 157 := by
  subst h
  have : k = 0 ∨ k = 1 ∨ k = 2 ∨ k = 3 ∨ k = 4 := by omega
  rcases this with rfl | rfl | rfl | rfl | rfl <;> decide +kernel
theorem row_pos {k c : Nat} {r : Int} (hk : k < 5) (h : (rowB (leadB k))[c]? = some r) : 0 < r ∧ c < 157 := by
  obtain ⟨h1, h2⟩ := rows_posB _ k rfl hk
  have h3 := List.all_eq_true.1 h1 r (List.mem_of_getElem? h)
  have h4 := (List.getElem?_eq_some_iff.1 h).1
  exact ⟨by simpa using h3, by omega⟩
theorem cell_row {k c : Nat} {r : Int} (hk : k < 5) (h : (rowB (leadB k))[c]? = some r) : cellAt (157 * k + c) = if r = 63 then 0 else r := by
  have hc := (row_pos hk h).2
  unfold cellAt
  rw [show (157 * k + c) / 157 = k from by omega, show (157 * k + c) % 157 = c from by omega, List.getD_eq_getElem?_getD, h]
  rfl
theorem cell_end {k c : Nat} (hc : c < 157) (h : (rowB (leadB k)).length ≤ c) : cellAt (157 * k + c) = 0 := by
  unfold cellAt
  rw [show (157 * k + c) / 157 = k from by omega, show (157 * k + c) % 157 = c from by omega, List.getD_eq_getElem?_getD, List.getElem?_eq_none h]
  rfl
theorem NoB.step {p : Int} {k c : Nat} {r : Int} (hk : k < 5) (h : NoB p (157 * k + c)) (hr : (rowB (leadB k))[c]? = some r) (hn : ¬ (r = p ∧ r ≠ 63)) : NoB p (157 * k + (c + 1)) := by
  intro j hj e
  by_cases hl : j < 157 * k + c
  · exact h j hl e
  · have : j = 157 * k + c := by omega
    subst this
    rw [cell_row hk hr] at e
    by_cases h63 : r = 63
    · rw [if_pos h63] at e
      exact e.symm
    · rw [if_neg h63] at e
      exact absurd ⟨e, h63⟩ hn
theorem NoB.done {p : Int} {k c : Nat} (h : NoB p (157 * k + c)) (hc : (rowB (leadB k)).length ≤ c) : NoB p (157 * (k + 1)) := by
  intro j hj e
  by_cases hl : j < 157 * k + c
  · exact h j hl e
  · have e2 : j = 157 * k + (j - 157 * k) := by omega
    rw [e2, cell_end (by omega) (by omega)] at e
    exact e.symm
theorem NoB.hit {p : Int} {k c : Nat} {r : Int} (hk : k < 5) (h : NoB p (157 * k + c)) (hr : (rowB (leadB k))[c]? = some r) (he : r = p) (h63 : r ≠ 63) : onlyB p = ((leadB k * 256 + secB8 c : Nat) : Int) ∧ c < 157 := by
  obtain ⟨h1, h2⟩ := row_pos hk hr
  have h3 := cell_row hk hr
  rw [if_neg h63] at h3
  rw [only_at p (157 * k + c) h (by omega) (by rw [h3, he]) (by omega), code_at k c h2]
  exact ⟨rfl, h2⟩
theorem sec_lo {k c : Nat} (h : c < 63) : ((leadB k * 256 + secB8 c : Nat) : Int) = (leadB k : Int) * 256 + 64 + c := by
  unfold secB8; rw [if_pos h]; omega
theorem sec_hi {k c : Nat} (h : ¬ c < 63) : ((leadB k * 256 + secB8 c : Nat) : Int) = (leadB k : Int) * 256 + 161 + c - 63 := by
  unfold secB8; rw [if_neg h]; omega
/-- What the search comes to. -/
def OnlyOut (p : Int) : Int × Int := if onlyB p < 0 then (-1, 0) else (onlyB p, 1)
theorem only_out_no {p : Int} (h : NoB p (157 * 5)) : OnlyOut p = (-1, 0) := by
  unfold OnlyOut
  rw [only_no p h, if_pos (by decide)]
theorem only_out {p n : Int} (h : onlyB p = n) (h0 : 0 ≤ n) : OnlyOut p = (n, 1) := by
  unfold OnlyOut
  rw [h, if_neg (by omega)]
set_option maxRecDepth 100000 in
set_option maxHeartbeats 4000000 in
theorem rcode8_one (a : Option Addr) (cap : Nat) (p : Int) (w : World) (hz : IsRow w a 1 cap [p]) :
    Calls Tryd.prog 12 #[.slice a 1 cap] w fun e w' => e = .returned (.tuple #[.int .i64 (OnlyOut p).1, .int .i64 (OnlyOut p).2]) ∧ Ext w w' := by
  obtain ⟨x, off, p2, rfl, hp2, hcell⟩ := hz.cell (k := 0) (by omega)
  simp at hp2
  subst hp2
  rw [Nat.add_zero] at hcell
  have HP := Lib.hid hcell
  clear hcell hz
  go_enter Tryd.func12, Tryd.ntmps12
  go_wp2_with (go_at_call 24; refine (rleads8 _).mono ?_; rintro e wl ⟨y, rfl, hxl, HL⟩)
  go_loopw [8] (fun i wr => ∃ k : Nat, k ≤ 5 ∧ i = .int .i64 k ∧ Ext wl wr ∧ Hid (NoB p (157 * k))) (fun i _ => 5 - (intOf i).toNat)
  case atStart => exact ⟨0, by omega, rfl, Ext.refl _, fun j hj => by omega⟩
  case round =>
    obtain ⟨k, hk, rfl, hxr, HN⟩ := hrel
    by_cases hk5 : k < 5
    · have hk5i : (k : Int) < 5 := by omega
      have hj0 := HL.out _ hxr k hk5
      have hlb := leadB_lt k
      have HRW := Lib.hid (fun w => rrow8 (leadB k) w)
      have HNx := Lib.hid (fun c r (hr : (rowB (leadB k))[c]? = some r) (hn : ¬ (r = p ∧ r ≠ 63)) (h : NoB p (157 * k + c)) => NoB.step hk5 h hr hn)
      have HHit := Lib.hid (fun c r (hr : (rowB (leadB k))[c]? = some r) (he : r = p) (h63 : r ≠ 63) (h : NoB p (157 * k + c)) => NoB.hit hk5 h hr he h63)
      have HDn := Lib.hid (fun c (hc : (rowB (leadB k)).length ≤ c) (h : NoB p (157 * k + c)) => NoB.done h hc)
      have HLo := Lib.hid (fun c (h : c < 63) => sec_lo (k := k) (c := c) h)
      have HHi := Lib.hid (fun c (h : ¬ c < 63) => sec_hi (k := k) (c := c) h)
      have HW : Hid (∀ w2, Ext wl w2 → w2.cell? ⟨y, k, none⟩ = some (.int .i64 (leadB k))) := fun w2 h2 => HL.out w2 h2 k hk5
      generalize rowB (leadB k) = L at HRW HNx HHit HDn
      obtain ⟨z, hz⟩ : ∃ z : Nat, z = leadB k := ⟨_, rfl⟩
      rw [← hz] at hj0 hlb HHit HLo HHi HW
      rw [← hz] at HRW
      clear hz
      go_wp2_with (go_at_call 25; refine (HRW.out _).mono ?_; rintro e w9 ⟨⟨s, rfl, hs⟩, rfl⟩)
      have HS0 := Lib.hid hs.rest
      have hss := hs.2.2.1
      clear hs hj0
      go_loopw [10, 11] (fun u v wi => ∃ i c : Nat, u = .int .i64 i ∧ v = .int .i64 c ∧ i ≤ s.size ∧ c ≤ i ∧ Ext wl wi ∧ Hid (Rest s L i c) ∧ Hid (NoB p (157 * k + c))) (fun u _ _ => s.size - (intOf u).toNat)
      case atStart => exact ⟨0, 0, rfl, rfl, Nat.zero_le _, Nat.zero_le _, hxr, HS0, HN⟩
      case round =>
        obtain ⟨i, c, rfl, rfl, hii, hci, hxi, HR, HNb⟩ := hrel
        clear HS0 HN
        by_cases hi : i < s.size
        · have hi2 : (i : Int) < s.size := by omega
          have HA := Lib.hid (fun w => rat_ok s i w hi (by omega) (HR.out.good hi))
          have HH := Lib.hid (HR.out.here hi)
          have HX := Lib.hid (HR.out.next hi)
          have hw := Lib.decodeL_width (s.data.toList.drop i)
          have hle := Lib.decodeL_le _ (drop_ne hi)
          rw [List.length_drop] at hle
          have hsl : s.data.toList.length = s.size := rfl
          have hq : (Lib.decodeL (s.data.toList.drop i)).2 + i ≤ s.size := by omega
          have hw1 : 1 ≤ (Lib.decodeL (s.data.toList.drop i)).2 := by omega
          generalize ((Lib.decodeL (s.data.toList.drop i)).1 : Int) = r at HA HH
          generalize (Lib.decodeL (s.data.toList.drop i)).2 = q at HA hw hq hle HX hw1
          by_cases hr : r = p ∧ r ≠ 63
          · have HO := HHit.out c r HH.out hr.1 hr.2 HNb.out
            have hc157 := HO.2
            have HO1 := Lib.hid HO.1
            clear HO
            obtain ⟨rfl, h63⟩ := hr
            have g63 : (r != 63) = true := by rw [bne, beq_false_of_ne h63]; rfl
            by_cases hc63 : c < 63
            · have hci63 : (c : Int) < 63 := by omega
              have hv := only_out (HO1.out.trans (HLo.out c hc63)) (by omega)
              have HV := Lib.hid hv
              clear hv HO1 HHit HLo HHi HNx HDn
              go_wp2_with (go_at_call 20; refine (HA.out _).mono ?_; rintro e w2 ⟨rfl, hb2⟩; have hxj := hxi.trans hb2; have hm0 := HP.out _ (hxl.trans hxj); have hm1 := HW.out _ hxj)
              go_ret2
              exact ⟨by rw [HV.out]; rfl, hxl.trans hxj⟩
            · have hci63 : ¬ (c : Int) < 63 := by omega
              have hv := only_out (HO1.out.trans (HHi.out c hc63)) (by omega)
              have HV := Lib.hid hv
              clear hv HO1 HHit HLo HHi HNx HDn
              go_wp2_with (go_at_call 20; refine (HA.out _).mono ?_; rintro e w2 ⟨rfl, hb2⟩; have hxj := hxi.trans hb2; have hm0 := HP.out _ (hxl.trans hxj); have hm1 := HW.out _ hxj)
              go_ret2
              exact ⟨by rw [HV.out]; rfl, hxl.trans hxj⟩
          · have HN2 := Lib.hid (HNx.out c r HH.out hr HNb.out)
            have hcs : (r ≠ p) ∨ (r = p ∧ r = 63) := by
              by_cases h : r = p
              · exact .inr ⟨h, Classical.byContradiction fun h2 => hr ⟨h, h2⟩⟩
              · exact .inl h
            clear hr HHit HLo HHi HNx HDn HH
            rcases hcs with hne | ⟨rfl, rfl⟩
            · have g1 : (r == p) = false := beq_false_of_ne hne
              go_wp2_with (go_at_call 20; refine (HA.out _).mono ?_; rintro e w2 ⟨rfl, hb2⟩; have hxj := hxi.trans hb2; have hm0 := HP.out _ (hxl.trans hxj); have hm1 := HW.out _ hxj)
              go_roundw
              case rel => exact ⟨i + q, c + 1, by go_num, by go_num, by omega, by omega, hxj, HX.out, HN2.out⟩
              case measure => first | (simp [intOf]; done) | (simp [intOf]; omega)
            · go_wp2_with (go_at_call 20; refine (HA.out _).mono ?_; rintro e w2 ⟨rfl, hb2⟩; have hxj := hxi.trans hb2; have hm0 := HP.out _ (hxl.trans hxj); have hm1 := HW.out _ hxj)
              go_roundw
              case rel => exact ⟨i + q, c + 1, by go_num, by go_num, by omega, by omega, hxj, HX.out, HN2.out⟩
              case measure => first | (simp [intOf]; done) | (simp [intOf]; omega)
        · have hi2 : ¬ (i : Int) < s.size := by omega
          have HN2 := Lib.hid (HDn.out c (HR.out.stop (by omega)) HNb.out)
          clear HHit HLo HHi HNx HDn
          go_wp2
          go_roundw
          case rel => exact ⟨k + 1, by omega, by go_num, hxi, HN2.out⟩
          case measure => first | (simp [intOf]; done) | (simp [intOf]; omega)
    · have : k = 5 := by omega
      subst this
      have hv := only_out_no HN.out
      have HV := Lib.hid hv
      clear hv HN
      go_wp2
      go_ret2
      exact ⟨by rw [HV.out]; rfl, hxl.trans hxr⟩

/-- What the search for two, and else for one, comes to. -/
def MoreOut (p q : Int) : Int × Int := if pairB p q < 0 then OnlyOut p else (pairB p q, 2)
theorem more_two {p q : Int} {b : Nat} (h : pairB p q = 34816 + (b : Int)) : twoS (136 * 256 + (b : Int)) = (p, q) ∧ p ≠ 0 ∧ MoreOut p q = (34816 + (b : Int), 2) := by
  have h2 := pair_two p q (by omega)
  refine ⟨?_, h2.2.2.2, ?_⟩
  · rw [show (136 * 256 + (b : Int)) = pairB p q from by omega]; exact h2.1
  · unfold MoreOut
    rw [if_neg (by omega), h]
def NoP (p q : Int) (b : Nat) : Prop := ∀ j : Nat, 64 ≤ j → j < b → pairB p q ≠ 34816 + (j : Int)
theorem NoP.step {p q : Int} {b : Nat} (h : NoP p q b) (hn : pairB p q ≠ 34816 + (b : Int)) : NoP p q (b + 1) := fun j h1 h2 => by
  by_cases e : j = b
  · subst e; exact hn
  · exact h j h1 (by omega)
theorem more_none {p q : Int} (h : NoP p q 255) : MoreOut p q = OnlyOut p := by
  unfold MoreOut
  by_cases hn : pairB p q < 0
  · rw [if_pos hn]
  · exfalso
    have h2 := pair_two p q (by omega)
    exact h (pairB p q - 34816).toNat (by omega) (by omega) (by omega)
set_option maxRecDepth 100000 in
set_option maxHeartbeats 8000000 in
theorem rcode8_more (a : Option Addr) (n cap : Nat) (p q : Int) (zs : List Int) (w : World) (hz : IsRow w a n cap (p :: q :: zs)) (hn : n ≤ 1000000) :
    Calls Tryd.prog 12 #[.slice a n cap] w fun e w' => e = .returned (.tuple #[.int .i64 (MoreOut p q).1, .int .i64 (MoreOut p q).2]) ∧ Ext w w' := by
  have hn2 : 2 ≤ n := by have := hz.1; simp at this; omega
  obtain ⟨x, off, p2, rfl, hp2, hcell⟩ := hz.cell (k := 0) (by omega)
  obtain ⟨x', off', q2, ha, hq2, hcell2⟩ := hz.cell (k := 1) (by omega)
  simp at ha
  obtain ⟨rfl, rfl⟩ := ha
  simp at hp2 hq2
  subst hp2
  subst hq2
  rw [Nat.add_zero] at hcell
  have HP := Lib.hid hcell
  have HQ := Lib.hid hcell2
  have HT := Lib.hid (fun (b : Nat) (h : b ≤ 255) (w : World) => rtwo8 136 (b : Int) w (by omega) (by omega) (by omega) (by omega))
  clear hcell hcell2 hz
  have gn0 : ((n : Int) == 0) = false := beq_false_of_ne (by omega)
  have gn1 : (1 : Int) < n := by omega
  have gn2 : ¬ (n : Int) = 0 := by omega
  have gn3 : ¬ n = 0 := by omega
  have gn4 : 1 < n := by omega
  go_enter Tryd.func12, Tryd.ntmps12
  go_wp2
  go_loopw [4] (fun b wr => ∃ k : Nat, 64 ≤ k ∧ k ≤ 255 ∧ b = .int .i64 k ∧ Ext w wr ∧ Hid (NoP p q k)) (fun b _ => 255 - (intOf b).toNat)
  case atStart => exact ⟨64, by omega, by omega, rfl, Ext.refl _, fun j h1 h2 => by omega⟩
  case round =>
    obtain ⟨b, hb0, hb1, rfl, hx, HNP⟩ := hrel
    by_cases hb : b < 255
    · have hbi : (b : Int) < 255 := by omega
      have HTb := Lib.hid (fun w => HT.out b hb1 w)
      have hm0 := HP.out _ hx
      have hm1 := HQ.out _ hx
      clear HT
      by_cases he : pairB p q = 34816 + (b : Int)
      · obtain ⟨h1, h2, h3⟩ := more_two he
        have HV := Lib.hid h3
        rw [h1] at HTb
        have g1 : (p != 0) = true := by rw [bne, beq_false_of_ne h2]; rfl
        clear he h1 h3 HNP
        go_wp2_with (go_at_call 17; refine (HTb.out _).mono ?_; rintro e w1 ⟨rfl, rfl⟩)
        go_ret2
        exact ⟨by rw [HV.out]; rfl, hx⟩
      · have HN2 := Lib.hid (HNP.out.step he)
        have hc := pair_not p q (136 * 256 + (b : Int)) (fun h => he (h.trans (by rw [show (136 : Int) * 256 = 34816 from rfl])))
        generalize twoS (136 * 256 + (b : Int)) = t at HTb hc
        obtain ⟨u, v⟩ := t
        simp only at HTb hc
        clear he HNP
        rcases hc with h1 | ⟨h1, h2⟩ | ⟨h1, h2, h3⟩
        · subst h1
          go_wp2_with (go_at_call 17; refine (HTb.out _).mono ?_; rintro e w1 ⟨rfl, rfl⟩)
          go_roundw
          case rel => exact ⟨b + 1, by omega, by omega, by go_num, hx, HN2.out⟩
          case measure => first | (simp [intOf]; done) | (simp [intOf]; omega)
        · have g1 : (u != 0) = true := by rw [bne, beq_false_of_ne h1]; rfl
          have g2 : (u == p) = false := beq_false_of_ne h2
          go_wp2_with (go_at_call 17; refine (HTb.out _).mono ?_; rintro e w1 ⟨rfl, rfl⟩)
          go_roundw
          case rel => exact ⟨b + 1, by omega, by omega, by go_num, hx, HN2.out⟩
          case measure => first | (simp [intOf]; done) | (simp [intOf]; omega)
        · subst h2
          have g1 : (u != 0) = true := by rw [bne, beq_false_of_ne h1]; rfl
          have g2 : (v == q) = false := beq_false_of_ne h3
          go_wp2_with (go_at_call 17; refine (HTb.out _).mono ?_; rintro e w1 ⟨rfl, rfl⟩)
          go_roundw
          case rel => exact ⟨b + 1, by omega, by omega, by go_num, hx, HN2.out⟩
          case measure => first | (simp [intOf]; done) | (simp [intOf]; omega)
    · have : b = 255 := by omega
      subst this
      have HOM := Lib.hid (more_none HNP.out)
      clear HNP HT HQ gn0 gn1 gn2 gn3 gn4
      go_wp2_with (go_at_call 24; refine (rleads8 _).mono ?_; rintro e wl ⟨y, rfl, hxl0, HL⟩)
      have hxl := hx.trans hxl0
      clear hxl0 hx
      go_loopw [8] (fun i wr => ∃ k : Nat, k ≤ 5 ∧ i = .int .i64 k ∧ Ext wl wr ∧ Hid (NoB p (157 * k))) (fun i _ => 5 - (intOf i).toNat)
      case atStart => exact ⟨0, by omega, rfl, Ext.refl _, fun j hj => by omega⟩
      case round =>
        obtain ⟨k, hk, rfl, hxr, HN⟩ := hrel
        by_cases hk5 : k < 5
        · have hk5i : (k : Int) < 5 := by omega
          have hj0 := HL.out _ hxr k hk5
          have hlb := leadB_lt k
          have HRW := Lib.hid (fun w => rrow8 (leadB k) w)
          have HNx := Lib.hid (fun c r (hr : (rowB (leadB k))[c]? = some r) (hn : ¬ (r = p ∧ r ≠ 63)) (h : NoB p (157 * k + c)) => NoB.step hk5 h hr hn)
          have HHit := Lib.hid (fun c r (hr : (rowB (leadB k))[c]? = some r) (he : r = p) (h63 : r ≠ 63) (h : NoB p (157 * k + c)) => NoB.hit hk5 h hr he h63)
          have HDn := Lib.hid (fun c (hc : (rowB (leadB k)).length ≤ c) (h : NoB p (157 * k + c)) => NoB.done h hc)
          have HLo := Lib.hid (fun c (h : c < 63) => sec_lo (k := k) (c := c) h)
          have HHi := Lib.hid (fun c (h : ¬ c < 63) => sec_hi (k := k) (c := c) h)
          have HW : Hid (∀ w2, Ext wl w2 → w2.cell? ⟨y, k, none⟩ = some (.int .i64 (leadB k))) := fun w2 h2 => HL.out w2 h2 k hk5
          generalize rowB (leadB k) = L at HRW HNx HHit HDn
          obtain ⟨z, hz⟩ : ∃ z : Nat, z = leadB k := ⟨_, rfl⟩
          rw [← hz] at hj0 hlb HHit HLo HHi HW
          rw [← hz] at HRW
          clear hz
          go_wp2_with (go_at_call 25; refine (HRW.out _).mono ?_; rintro e w9 ⟨⟨s, rfl, hs⟩, rfl⟩)
          have HS0 := Lib.hid hs.rest
          have hss := hs.2.2.1
          clear hs hj0
          go_loopw [10, 11] (fun u v wi => ∃ i c : Nat, u = .int .i64 i ∧ v = .int .i64 c ∧ i ≤ s.size ∧ c ≤ i ∧ Ext wl wi ∧ Hid (Rest s L i c) ∧ Hid (NoB p (157 * k + c))) (fun u _ _ => s.size - (intOf u).toNat)
          case atStart => exact ⟨0, 0, rfl, rfl, Nat.zero_le _, Nat.zero_le _, hxr, HS0, HN⟩
          case round =>
            obtain ⟨i, c, rfl, rfl, hii, hci, hxi, HR, HNb⟩ := hrel
            clear HS0 HN
            by_cases hi : i < s.size
            · have hi2 : (i : Int) < s.size := by omega
              have HA := Lib.hid (fun w => rat_ok s i w hi (by omega) (HR.out.good hi))
              have HH := Lib.hid (HR.out.here hi)
              have HX := Lib.hid (HR.out.next hi)
              have hw := Lib.decodeL_width (s.data.toList.drop i)
              have hle := Lib.decodeL_le _ (drop_ne hi)
              rw [List.length_drop] at hle
              have hsl : s.data.toList.length = s.size := rfl
              have hq : (Lib.decodeL (s.data.toList.drop i)).2 + i ≤ s.size := by omega
              have hw1 : 1 ≤ (Lib.decodeL (s.data.toList.drop i)).2 := by omega
              generalize ((Lib.decodeL (s.data.toList.drop i)).1 : Int) = r at HA HH
              generalize (Lib.decodeL (s.data.toList.drop i)).2 = q at HA hw hq hle HX hw1
              by_cases hr : r = p ∧ r ≠ 63
              · have HO := HHit.out c r HH.out hr.1 hr.2 HNb.out
                have hc157 := HO.2
                have HO1 := Lib.hid HO.1
                clear HO
                obtain ⟨rfl, h63⟩ := hr
                have g63 : (r != 63) = true := by rw [bne, beq_false_of_ne h63]; rfl
                by_cases hc63 : c < 63
                · have hci63 : (c : Int) < 63 := by omega
                  have hv := only_out (HO1.out.trans (HLo.out c hc63)) (by omega)
                  have HV := Lib.hid hv
                  clear hv HO1 HHit HLo HHi HNx HDn
                  go_wp2_with (go_at_call 20; refine (HA.out _).mono ?_; rintro e w2 ⟨rfl, hb2⟩; have hxj := hxi.trans hb2; have hm0 := HP.out _ (hxl.trans hxj); have hm1 := HW.out _ hxj)
                  go_ret2
                  exact ⟨by rw [HOM.out, HV.out]; rfl, hxl.trans hxj⟩
                · have hci63 : ¬ (c : Int) < 63 := by omega
                  have hv := only_out (HO1.out.trans (HHi.out c hc63)) (by omega)
                  have HV := Lib.hid hv
                  clear hv HO1 HHit HLo HHi HNx HDn
                  go_wp2_with (go_at_call 20; refine (HA.out _).mono ?_; rintro e w2 ⟨rfl, hb2⟩; have hxj := hxi.trans hb2; have hm0 := HP.out _ (hxl.trans hxj); have hm1 := HW.out _ hxj)
                  go_ret2
                  exact ⟨by rw [HOM.out, HV.out]; rfl, hxl.trans hxj⟩
              · have HN2 := Lib.hid (HNx.out c r HH.out hr HNb.out)
                have hcs : (r ≠ p) ∨ (r = p ∧ r = 63) := by
                  by_cases h : r = p
                  · exact .inr ⟨h, Classical.byContradiction fun h2 => hr ⟨h, h2⟩⟩
                  · exact .inl h
                clear hr HHit HLo HHi HNx HDn HH
                rcases hcs with hne | ⟨rfl, rfl⟩
                · have g1 : (r == p) = false := beq_false_of_ne hne
                  go_wp2_with (go_at_call 20; refine (HA.out _).mono ?_; rintro e w2 ⟨rfl, hb2⟩; have hxj := hxi.trans hb2; have hm0 := HP.out _ (hxl.trans hxj); have hm1 := HW.out _ hxj)
                  go_roundw
                  case rel => exact ⟨i + q, c + 1, by go_num, by go_num, by omega, by omega, hxj, HX.out, HN2.out⟩
                  case measure => first | (simp [intOf]; done) | (simp [intOf]; omega)
                · go_wp2_with (go_at_call 20; refine (HA.out _).mono ?_; rintro e w2 ⟨rfl, hb2⟩; have hxj := hxi.trans hb2; have hm0 := HP.out _ (hxl.trans hxj); have hm1 := HW.out _ hxj)
                  go_roundw
                  case rel => exact ⟨i + q, c + 1, by go_num, by go_num, by omega, by omega, hxj, HX.out, HN2.out⟩
                  case measure => first | (simp [intOf]; done) | (simp [intOf]; omega)
            · have hi2 : ¬ (i : Int) < s.size := by omega
              have HN2 := Lib.hid (HDn.out c (HR.out.stop (by omega)) HNb.out)
              clear HHit HLo HHi HNx HDn
              go_wp2
              go_roundw
              case rel => exact ⟨k + 1, by omega, by go_num, hxi, HN2.out⟩
              case measure => first | (simp [intOf]; done) | (simp [intOf]; omega)
        · have : k = 5 := by omega
          subst this
          have hv := only_out_no HN.out
          have HV := Lib.hid hv
          clear hv HN
          go_wp2
          go_ret2
          exact ⟨by rw [HOM.out, HV.out]; rfl, hxl.trans hxr⟩
theorem bytes_only (p : Int) : bytesB [p] = OnlyOut p := rfl
theorem bytes_two (p q : Int) (zs : List Int) : bytesB (p :: q :: zs) = MoreOut p q := rfl
theorem rcode8_nil (a : Option Addr) (cap : Nat) (w : World) :
    Calls Tryd.prog 12 #[.slice a 0 cap] w fun e w' => e = .returned (.tuple #[.int .i64 (-1), .int .i64 0]) ∧ Ext w w' := by
  go_enter Tryd.func12, Tryd.ntmps12
  go_wp2
  go_ret2
  exact ⟨rfl, Ext.refl _⟩
theorem rcode8 (a : Option Addr) (n cap : Nat) (zs : List Int) (w : World) (hz : IsRow w a n cap zs) (hn : n ≤ 1000000) :
    Calls Tryd.prog 12 #[.slice a n cap] w fun e w' => e = .returned (.tuple #[.int .i64 (bytesB zs).1, .int .i64 (bytesB zs).2]) ∧ Ext w w' := by
  match zs, hz with
  | [], hz =>
    have : n = 0 := hz.1.symm
    subst this
    exact rcode8_nil a cap w
  | [p], hz =>
    have : n = 1 := hz.1.symm
    subst this
    rw [bytes_only]
    exact rcode8_one a cap p w hz
  | p :: q :: zs, hz =>
    rw [bytes_two]
    exact rcode8_more a n cap p q zs w hz hn
end Go.Proofs.YtabcneomeemnpaaDoor
