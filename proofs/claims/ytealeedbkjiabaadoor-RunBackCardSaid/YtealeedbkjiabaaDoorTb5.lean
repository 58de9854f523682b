/-
  What is found in rows that rise: a closure that looks at one row; a search; what a key has.
-/
import Derived.Test.YtealeedbkjiabaaDoorTb4
namespace Go.Proofs.YtealeedbkjiabaaDoor
open Go Go.ChangeShapes Go.WideShapes Go.ChangeAt Go.RowKit
set_option linter.unusedSimpArgs false
set_option linter.unusedVariables false

/-- Where a key lies of a row: ahead of it, behind it, in it. -/
def side (r : Rw) (key : Int) : Int := if key < r.f then -1 else if r.f + r.n ≤ key then 1 else 0
set_option maxHeartbeats 1000000 in
set_option maxRecDepth 100000 in
theorem look_any (x off len cap : Nat) (b1 b2 k : Nat) (rf rt rn key : Int) (w : World) (hk : k < len) (hl : len ≤ 1000000000)
    (h1 : w.cell? ⟨b1, 0, none⟩ = some (.slice (some ⟨x, off, none⟩) len cap)) (h2 : w.cell? ⟨b2, 0, none⟩ = some (.int .i64 key))
    (c0 : w.cell? ⟨x, off + k * 3, none⟩ = some (.int .i64 rf)) (c1 : w.cell? ⟨x, off + k * 3 + 1, none⟩ = some (.int .i64 rt)) (c2 : w.cell? ⟨x, off + k * 3 + 2, none⟩ = some (.int .i64 rn)) (hg : GoodR ⟨rf, rt, rn⟩) :
    Calls Tryd.prog 70 #[.int .i64 k, .pointer (some ⟨b1, 0, none⟩), .pointer (some ⟨b2, 0, none⟩)] w fun e w' => e = .returned (.int .i64 (side ⟨rf, rt, rn⟩ key)) ∧ Ext w w' := by
  have hk0 := keep_three w (.int .i64 rf) (.int .i64 rt) (.int .i64 rn) 90
  have hx := (Ext.refl w).alloc (.cells #[.int .i64 rf, .int .i64 rt, .int .i64 rn] 90)
  have h2' := cell_ext hx h2
  have hC0 : Keep w [(⟨b2, 0, none⟩, .int .i64 key), (⟨w.heap.size, 0, none⟩, .int .i64 rf), (⟨w.heap.size, 1, none⟩, .int .i64 rt), (⟨w.heap.size, 2, none⟩, .int .i64 rn)] (w.alloc (.cells #[.int .i64 rf, .int .i64 rt, .int .i64 rn] 90)) :=
    ⟨hx, h2', hk0.2.1, hk0.2.2.1, hk0.2.2.2.1, trivial⟩
  have HC := Lib.hid hC0
  have HG := Lib.hid hg
  clear hk0 hx hC0 hg
  by_cases hs : key < rf
  · have e : side ⟨rf, rt, rn⟩ key = -1 := by unfold side; exact if_pos hs
    rw [e]
    clear e
    go_enter Tryd.func70, Tryd.ntmps70
    go_wp2
    go_ret
    exact ⟨rfl, (Ext.refl _).alloc _⟩
  · have HE := Lib.hid (fun w => end_at rf rt rn _ w HG.out rfl)
    by_cases hs2 : rf + rn ≤ key
    · have e : side ⟨rf, rt, rn⟩ key = 1 := by unfold side; rw [if_neg hs]; exact if_pos hs2
      rw [e]
      clear e
      generalize rf + rn = s at HE hs2
      go_enter Tryd.func70, Tryd.ntmps70
      go_wp2
      obtain ⟨wa, ha, hC1⟩ := HC.out.hold
      rw [← ha]
      clear ha
      have hC := hC1.ext (Ext.drew (Ext.refl _))
      clear hC1
      obtain ⟨b0, q0, q1, q2, _⟩ := hC.2
      refine wp_region_held_drew (S := (fun W' => W'.cell? ⟨b2, 0, none⟩ = some (.int .i64 key) ∧ W'.cell? ⟨w.heap.size, 0, none⟩ = some (.int .i64 rf) ∧ W'.cell? ⟨w.heap.size, 1, none⟩ = some (.int .i64 rt) ∧ W'.cell? ⟨w.heap.size, 2, none⟩ = some (.int .i64 rn))) (by kernel_rfl) ?_ (fun hHeld => ?_)
      · (try dsimp only); go_keep
      refine' wpAnyH_take (i := 0) (oi := { dst := some 16, op := _, type := _, pos := _, after := _, guard := _ }) (v := _) ?hixa0 (by kernel_rfl) ?hfxa0 ?hrxa0 ?hqxa0 ?hyxa0 ?hsxa0 ?restxa0
      case hixa0 => exact rfl
      case hfxa0 => kernel_rfl
      case hrxa0 => kernel_rfl
      case hqxa0 => exact fun _ _ _ h => h
      case hsxa0 => assumption
      case hyxa0 =>
        refine Or.inl ⟨by kernel_rfl, ?_⟩
        intro w hSw
        try dsimp only at hSw
        go_simp
        try with_reducible rfl
      try simp only [Act.put, List.setIfInBounds_toArray, List.set_cons_zero, List.set_cons_succ]
      refine' wpAnyH_take (i := 1) (oi := { dst := some 17, op := _, type := _, pos := _, after := _, guard := _ }) (v := _) ?hixa1 (by kernel_rfl) ?hfxa1 ?hrxa1 ?hqxa1 ?hyxa1 ?hsxa1 ?restxa1
      case hixa1 => exact rfl
      case hfxa1 => kernel_rfl
      case hrxa1 => kernel_rfl
      case hqxa1 => exact fun _ _ _ h => h
      case hsxa1 => assumption
      case hyxa1 =>
        refine Or.inl ⟨by kernel_rfl, ?_⟩
        intro w hSw
        try dsimp only at hSw
        go_simp
        try with_reducible rfl
      try simp only [Act.put, List.setIfInBounds_toArray, List.set_cons_zero, List.set_cons_succ]
      refine wpAnyH_ready (rs := [2]) (by kernel_rfl) (by simp) ?_
      refine' AllReadyH.cons (o := _) ?hixa2 (fun K hK => ?hk0xa2) AllReadyH.nil
      case hixa2 => exact rfl
      go_simp
      go_at_call 71
      refine (HE.out _).mono ?_
      rintro e wx ⟨rfl, hbx⟩
      have hC' := hC.ext hbx
      clear hC hbx
      have hC := hC'
      clear hC'
      clear b0 q0 q1 q2
      obtain ⟨b0, q0, q1, q2, _⟩ := hC.2
      try go_wp2_with fail
      refine hK.out _ _ ?hS0xa2 (fun hHeld => ?restxa2)
      case hS0xa2 => (try dsimp only); go_keep
      clear hK K
      try simp only [Act.put, List.setIfInBounds_toArray, List.set_cons_zero, List.set_cons_succ]
      refine' wpAnyH_take (i := 3) (oi := { dst := some 19, op := _, type := _, pos := _, after := _, guard := _ }) (v := _) ?hixa3 (by kernel_rfl) ?hfxa3 ?hrxa3 ?hqxa3 ?hyxa3 ?hsxa3 ?restxa3
      case hixa3 => exact rfl
      case hfxa3 => kernel_rfl
      case hrxa3 => kernel_rfl
      case hqxa3 => exact fun _ _ _ h => h
      case hsxa3 => assumption
      case hyxa3 =>
        refine Or.inl ⟨by kernel_rfl, ?_⟩
        intro w hSw
        try dsimp only at hSw
        go_simp
        try with_reducible rfl
      try simp only [Act.put, List.setIfInBounds_toArray, List.set_cons_zero, List.set_cons_succ]
      refine' wpAnyH_take (i := 4) (oi := { dst := some 15, op := _, type := _, pos := _, after := _, guard := _ }) (v := _) ?hixa4 (by kernel_rfl) ?hfxa4 ?hrxa4 ?hqxa4 ?hyxa4 ?hsxa4 ?restxa4
      case hixa4 => exact rfl
      case hfxa4 => kernel_rfl
      case hrxa4 => kernel_rfl
      case hqxa4 => exact fun _ _ _ h => h
      case hsxa4 => assumption
      case hyxa4 =>
        refine Or.inl ⟨by kernel_rfl, ?_⟩
        intro w hSw
        try dsimp only at hSw
        go_simp
        try with_reducible rfl
      try simp only [Act.put, List.setIfInBounds_toArray, List.set_cons_zero, List.set_cons_succ]
      refine wpAnyH_done (by kernel_rfl) ?_ _
      go_wp2
      go_ret
      exact ⟨rfl, hC.1⟩
    · have e : side ⟨rf, rt, rn⟩ key = 0 := by unfold side; rw [if_neg hs]; exact if_neg hs2
      rw [e]
      clear e
      generalize rf + rn = s at HE hs2
      go_enter Tryd.func70, Tryd.ntmps70
      go_wp2
      obtain ⟨wa, ha, hC1⟩ := HC.out.hold
      rw [← ha]
      clear ha
      have hC := hC1.ext (Ext.drew (Ext.refl _))
      clear hC1
      obtain ⟨b0, q0, q1, q2, _⟩ := hC.2
      refine wp_region_held_drew (S := (fun W' => W'.cell? ⟨b2, 0, none⟩ = some (.int .i64 key) ∧ W'.cell? ⟨w.heap.size, 0, none⟩ = some (.int .i64 rf) ∧ W'.cell? ⟨w.heap.size, 1, none⟩ = some (.int .i64 rt) ∧ W'.cell? ⟨w.heap.size, 2, none⟩ = some (.int .i64 rn))) (by kernel_rfl) ?_ (fun hHeld => ?_)
      · (try dsimp only); go_keep
      refine' wpAnyH_take (i := 0) (oi := { dst := some 16, op := _, type := _, pos := _, after := _, guard := _ }) (v := _) ?hixb0 (by kernel_rfl) ?hfxb0 ?hrxb0 ?hqxb0 ?hyxb0 ?hsxb0 ?restxb0
      case hixb0 => exact rfl
      case hfxb0 => kernel_rfl
      case hrxb0 => kernel_rfl
      case hqxb0 => exact fun _ _ _ h => h
      case hsxb0 => assumption
      case hyxb0 =>
        refine Or.inl ⟨by kernel_rfl, ?_⟩
        intro w hSw
        try dsimp only at hSw
        go_simp
        try with_reducible rfl
      try simp only [Act.put, List.setIfInBounds_toArray, List.set_cons_zero, List.set_cons_succ]
      refine' wpAnyH_take (i := 1) (oi := { dst := some 17, op := _, type := _, pos := _, after := _, guard := _ }) (v := _) ?hixb1 (by kernel_rfl) ?hfxb1 ?hrxb1 ?hqxb1 ?hyxb1 ?hsxb1 ?restxb1
      case hixb1 => exact rfl
      case hfxb1 => kernel_rfl
      case hrxb1 => kernel_rfl
      case hqxb1 => exact fun _ _ _ h => h
      case hsxb1 => assumption
      case hyxb1 =>
        refine Or.inl ⟨by kernel_rfl, ?_⟩
        intro w hSw
        try dsimp only at hSw
        go_simp
        try with_reducible rfl
      try simp only [Act.put, List.setIfInBounds_toArray, List.set_cons_zero, List.set_cons_succ]
      refine wpAnyH_ready (rs := [2]) (by kernel_rfl) (by simp) ?_
      refine' AllReadyH.cons (o := _) ?hixb2 (fun K hK => ?hk0xb2) AllReadyH.nil
      case hixb2 => exact rfl
      go_simp
      go_at_call 71
      refine (HE.out _).mono ?_
      rintro e wx ⟨rfl, hbx⟩
      have hC' := hC.ext hbx
      clear hC hbx
      have hC := hC'
      clear hC'
      clear b0 q0 q1 q2
      obtain ⟨b0, q0, q1, q2, _⟩ := hC.2
      try go_wp2_with fail
      refine hK.out _ _ ?hS0xb2 (fun hHeld => ?restxb2)
      case hS0xb2 => (try dsimp only); go_keep
      clear hK K
      try simp only [Act.put, List.setIfInBounds_toArray, List.set_cons_zero, List.set_cons_succ]
      refine' wpAnyH_take (i := 3) (oi := { dst := some 19, op := _, type := _, pos := _, after := _, guard := _ }) (v := _) ?hixb3 (by kernel_rfl) ?hfxb3 ?hrxb3 ?hqxb3 ?hyxb3 ?hsxb3 ?restxb3
      case hixb3 => exact rfl
      case hfxb3 => kernel_rfl
      case hrxb3 => kernel_rfl
      case hqxb3 => exact fun _ _ _ h => h
      case hsxb3 => assumption
      case hyxb3 =>
        refine Or.inl ⟨by kernel_rfl, ?_⟩
        intro w hSw
        try dsimp only at hSw
        go_simp
        try with_reducible rfl
      try simp only [Act.put, List.setIfInBounds_toArray, List.set_cons_zero, List.set_cons_succ]
      refine' wpAnyH_take (i := 4) (oi := { dst := some 15, op := _, type := _, pos := _, after := _, guard := _ }) (v := _) ?hixb4 (by kernel_rfl) ?hfxb4 ?hrxb4 ?hqxb4 ?hyxb4 ?hsxb4 ?restxb4
      case hixb4 => exact rfl
      case hfxb4 => kernel_rfl
      case hrxb4 => kernel_rfl
      case hqxb4 => exact fun _ _ _ h => h
      case hsxb4 => assumption
      case hyxb4 =>
        refine Or.inl ⟨by kernel_rfl, ?_⟩
        intro w hSw
        try dsimp only at hSw
        go_simp
        try with_reducible rfl
      try simp only [Act.put, List.setIfInBounds_toArray, List.set_cons_zero, List.set_cons_succ]
      refine wpAnyH_done (by kernel_rfl) ?_ _
      go_wp2
      go_ret
      exact ⟨rfl, hC.1⟩
end Go.Proofs.YtealeedbkjiabaaDoor
