/-
  The signs of rows of codes, and the least code of each.
-/
import Derived.Test.YtealeedbkjiabaaDoorTb10
namespace Go.Proofs.YtealeedbkjiabaaDoor
open Go Go.ChangeShapes Go.WideShapes Go.ChangeAt Go.RowKit
set_option linter.unusedSimpArgs false
set_option linter.unusedVariables false

/-- The numbers of a row's first pairs. -/
def numsR (r : Rw) (j : Nat) : List Int := (pairsN r.f (fun (i : Nat) => r.t + (i : Int)) j).map numZ
theorem numsR_succ (r : Rw) (j : Nat) : numsR r (j + 1) = numsR r j ++ [(r.t + (j : Int)) * 1048576 + (r.f + (j : Int))] := by
  unfold numsR
  rw [pairsN_succ, List.map_append]
  rfl
theorem numsR_len (r : Rw) (j : Nat) : (numsR r j).length = j := by simp [numsR, pairsN_len]
theorem numsR_all (r : Rw) : numsR r r.n.toNat = (expR r).map numZ := rfl
set_option maxHeartbeats 4000000 in
set_option maxRecDepth 100000 in
theorem turned_any (a : Option Addr) (cap : Nat) (l : List Rw) (w : World) (h : IsRws w a l.length cap l) (hg : GoodL l) (hf : Fit (expL l)) (hl : tot l ≤ 100000000) :
    Calls Tryd.prog 65 #[.slice a l.length cap] w fun e w' => ∃ (v' : Value) (out : List Rw), e = .returned v' ∧ w'.ownsRow w.heap.size 90 3 v' out.length (rowCells out) ∧ GoodL out ∧ RevOf (expL l) (expL out) ∧ out.length ≤ 100000000 ∧ Ext w w' := by
  have hll : l.length ≤ 100000000 := Nat.le_trans (rows_le hg) hl
  have HG := Lib.hid hg
  have HL := Lib.hid hl
  have HF := Lib.hid hf
  have HT := Lib.hid (fun w' (k : Ext w w') => total_any a cap l w' (h.ext k) hg (by omega))
  obtain ⟨nt, hnt⟩ : ∃ nt, nt = tot l := ⟨_, rfl⟩
  rw [← hnt] at HT hl
  have HNT := Lib.hid hnt
  clear hg hf hnt
  go_enter Tryd.func65, Tryd.ntmps65
  go_wp2_with (go_at_call 44; refine (HT.out _ (Ext.refl _)).mono ?_; rintro e w1 ⟨rfl, hb1⟩; obtain ⟨wm, hmk, hown, hgm⟩ := make_i64 nt (by omega) w1)
  have hx1 : Ext w1 wm := (Ext.refl w1).grown hgm (.inl rfl)
  have ho0 := hown w1.heap.size (Nat.le_refl _)
  have hh := h.ext hb1
  have HB1 := Lib.hid hb1
  clear hmk hown hgm hb1 h HT
  obtain ⟨i1, hj, hj0, hj1, hj2⟩ := info_parts_i64
  go_loopw [3, 15] (fun v i wr => ∃ (k : Nat) (zs : List Int), k ≤ l.length ∧ i = .int .i64 k ∧ wr.ownsRow w1.heap.size 2 1 v zs.length (intCells zs) ∧ Hid (zs = (expL (l.take k)).map numZ) ∧ Ext w1 wr) (fun _ i _ => l.length - (intOf i).toNat)
  case atStart => exact ⟨0, [], by omega, rfl, ho0, rfl, hx1⟩
  case round =>
    obtain ⟨k, zs, hk, rfl, ho, HZ, hx⟩ := hrel
    clear ho0 hx1
    by_cases hlt : k < l.length
    · obtain ⟨x, off, r, rfl, hxl, hr, hcell⟩ := rws_at hh hlt
      obtain ⟨c0, c1, c2⟩ := hcell wr hx
      have hgr := HG.out r (List.mem_of_getElem? hr)
      have HTK := Lib.hid (expL_take hr)
      have htk := tot_take hr
      have htl := tot_take_le l (k + 1)
      obtain ⟨rf, rt, rn⟩ := r
      unfold GoodR at hgr
      obtain ⟨g0, g1, g2, g3, g4⟩ := hgr
      simp only at c0 c1 c2 g0 g1 g2 g3 g4
      have ht1 := tot_one (r := ⟨rf, rt, rn⟩) (by show 0 ≤ rn; omega)
      have ht1 : (tot [(⟨rf, rt, rn⟩ : Rw)] : Int) = rn := ht1
      have hzl : zs.length = tot (l.take k) := by rw [HZ.out, List.length_map]; rfl
      have hl2 := HL.out
      obtain ⟨n, rfl⟩ : ∃ n : Nat, rn = (n : Int) := ⟨tot [⟨rf, rt, rn⟩], ht1.symm⟩
      have hzn : zs.length + n ≤ 100000000 := by omega
      clear hcell hr htk htl ht1 hzl hl2
      go_wp2
      have hsz := hx.size
      have hxo := hx.alloc (.cells #[.int .i64 rf, .int .i64 rt, .int .i64 (n : Int)] 90)
      have hbox := heap_alloc_new wr (.cells #[.int .i64 rf, .int .i64 rt, .int .i64 (n : Int)] 90)
      have hoo := ho.alloc (.cells #[.int .i64 rf, .int .i64 rt, .int .i64 (n : Int)] 90)
      have hnb : ∀ g, (_ : Value).ownBlock = some g → g < wr.heap.size := fun g hg => (ho.lt g hg).2
      obtain ⟨b, hb⟩ : ∃ b, b = wr.heap.size := ⟨_, rfl⟩
      rw [← hb] at hbox hnb ⊢
      generalize wr.alloc (.cells #[.int .i64 rf, .int .i64 rt, .int .i64 (n : Int)] 90) = wo at hxo hbox hoo ⊢
      clear ho hb c0 c1 c2
      go_loopw [3, 21] (fun v i wi => ∃ (j : Nat), j ≤ n ∧ i = .int .i64 j ∧ wi.ownsRow w1.heap.size 2 1 v (zs.length + j) (intCells (zs ++ numsR ⟨rf, rt, n⟩ j)) ∧ Hid (v.ownBlock ≠ some b) ∧ Hid (wi.heap[b]? = some (.cells #[.int .i64 rf, .int .i64 rt, .int .i64 (n : Int)] 90 (0, 0))) ∧ Ext w1 wi) (fun _ i _ => n - (intOf i).toNat)
      case atStart => exact ⟨0, by omega, rfl, by simpa [numsR, pairsN] using hoo, fun e => Nat.lt_irrefl _ (hnb b e), hbox, hxo⟩
      case round =>
        obtain ⟨j, hjn, rfl, ho, HN, HB, hxi⟩ := hrel
        clear hoo hbox hxo hnb
        have hszi := hxi.size
        by_cases hlt2 : j < n
        · obtain ⟨d0, d1, d2⟩ := cells_three HB.out
          have hblt := lt_of_block HB.out
          go_wp2_with ((at_builtin; refine wpList_append_fresh _ rfl _ _ 120 rfl (w1.heap.size) 2 i1 (.int .i64 0) 1 8 Tryd.underlying120 hj hj0 hj1 hj2 rfl (by decide) _ _ _ rfl (ho.alloc _) ⟨wr.heap.size, 0, none⟩ 1 1 [.int .i64 ((rt + (j : Int)) * 1048576 + (rf + (j : Int)))] rfl rfl (cell_one_new _ _ _) (fun x hx => by simp at hx; subst hx; rfl) (by unfold maxLen; omega) (by omega) (by simp; omega) ?_; intro v5 w5 hown5 hgrow5 hfresh5))
          have hx5 := (hxi.alloc (.cells #[.int .i64 ((rt + (j : Int)) * 1048576 + (rf + (j : Int)))] 2)).own_grown (ho.alloc _) (Nat.le_refl _) hgrow5
          have HB5 : Hid (w5.heap[b]? = some (.cells #[.int .i64 rf, .int .i64 rt, .int .i64 (n : Int)] 90 (0, 0))) := by
            show _ = _
            rw [hgrow5.block b (by simp; omega) (fun e => HN.out e.symm), Below.heap_alloc _ _ _ hblt]
            exact HB.out
          have HN5 : Hid (v5.ownBlock ≠ some b) := by
            show _ ≠ _
            rcases hfresh5 with e | e
            · rw [e]
              exact HN.out
            · rw [e]
              intro e2
              injection e2 with e2
              simp at e2
              omega
          clear hgrow5 hfresh5 d0 d1 d2
          go_roundw
          case rel =>
            refine ⟨j + 1, by omega, by go_num, ?_, HN5, HB5, hx5⟩
            rw [numsR_succ, ← List.append_assoc, intCells_app]
            exact hown5
          case measure => simp [intOf]; omega
        · have hjn2 : j = n := by omega
          subst hjn2
          have hzz : zs ++ numsR ⟨rf, rt, j⟩ j = (expL (l.take (k + 1))).map numZ := by
            rw [HTK.out, List.map_append, ← HZ.out]
            congr 1
          have hlz : zs.length + j = (zs ++ numsR ⟨rf, rt, j⟩ j).length := by rw [List.length_append, numsR_len]
          have HZZ := Lib.hid hzz
          rw [hlz] at ho
          clear hzz hlz
          go_wp2
          go_roundw
          case rel => exact ⟨k + 1, zs ++ numsR ⟨rf, rt, j⟩ j, by omega, by go_num, ho, HZZ, hxi⟩
          case measure => simp [intOf]; omega
    · have hkl : k = l.length := by omega
      have hze : zs = (expL l).map numZ := by have := HZ.out; rw [hkl, List.take_length] at this; exact this
      have hzl : zs.length = nt := by rw [hze, List.length_map, HNT.out]; rfl
      have HSO := Lib.hid (sort64_any _ zs.length w1.heap.size zs wr ho (by omega))
      obtain ⟨a2, cap2, rfl, _⟩ := own_ints ho
      have HKS : Hid (∀ ss : List Int, ss.Perm zs → ss.Pairwise (· ≤ ·) → RevOf (expL l) (keepN ss ss.length) ∧ (∀ z ∈ ss, 0 ≤ z ∧ z / 1048576 ≤ 1114111) ∧ ss.length = zs.length) := by
        intro ss h1 h2
        have hm : ∀ z, z ∈ ss ↔ ∃ q ∈ expL l, z = numZ q := by
          intro z
          rw [h1.mem_iff, hze, List.mem_map]
          exact ⟨fun ⟨q, hq, e⟩ => ⟨q, hq, e.symm⟩, fun ⟨q, hq, e⟩ => ⟨q, hq, e.symm⟩⟩
        refine ⟨keep_rev HF.out h2 hm, fun z hz => ?_, h1.length_eq⟩
        obtain ⟨q, hq, rfl⟩ := (hm z).1 hz
        have := HF.out q hq
        have h3 := numZ_div ⟨this.1, this.2.1⟩
        rw [h3.1]
        unfold numZ
        omega
      clear hze hkl HZ
      have hzb : zs.length ≤ 100000000 := by omega
      clear hzl
      go_wp2_with (go_at_call 82; refine HSO.out.mono ?_; rintro e w2 ⟨rfl, ss, hpm, hsd, ho2, hg2⟩)
      obtain ⟨q1, q2, q3⟩ := HKS.out ss hpm hsd
      have HQ1 := Lib.hid q1
      have HQ2 := Lib.hid q2
      obtain ⟨a3, cap3, ea, hrw⟩ := own_ints ho2
      obtain ⟨rfl, rfl⟩ : a2 = a3 ∧ cap2 = cap3 := by simpa using ea
      rw [← q3] at hrw hzb ⊢
      have HX2 : Hid (Ext w w2) := HB1.out.trans (hx.own_grown ho (Nat.le_refl _) hg2)
      obtain ⟨B, hB⟩ : ∃ B, B = w2.heap.size := ⟨_, rfl⟩
      have hx2 := Ext.refl w2
      have ho4 := World.ownsRow_nil w2 B 90 3
      have hBB : w2.heap.size ≤ B := by omega
      have HBB := Lib.hid hB
      clear q1 q2 q3 hpm hsd ho ho2 hg2 ea HKS HSO hx hB HF
      generalize ss.length = m at hrw hzb HQ1 ⊢
      go_loopw [7, 43] (fun v i wr => ∃ (k : Nat) (out : List Rw), k ≤ m ∧ i = .int .i64 k ∧ wr.ownsRow B 90 3 v out.length (rowCells out) ∧ out.length ≤ k ∧ Hid (expL out = keepN ss k) ∧ Hid (GoodL out) ∧ Ext w2 wr) (fun _ i _ => m - (intOf i).toNat)
      case atStart => exact ⟨0, [], by omega, rfl, ho4, Nat.le_refl _, rfl, GoodL.nil, hx2⟩
      case round =>
        obtain ⟨k, out, hk, rfl, ho, hol, HE, HGO, hx⟩ := hrel
        clear ho4 hx2
        have hsz := hx.size
        have hBw : B ≤ wr.heap.size := by have := HBB.out; omega
        by_cases hlt : k < m
        · obtain ⟨x, off, rfl, hxl, hcell⟩ := ints_at hrw (by omega)
          have hk1 : k + 1 ≤ m := hlt
          have hml : ss.length = m := hrw.1
          have hz := HQ2.out (ss.getD k 0) (by rw [getD_at (by omega)]; exact List.getElem_mem _)
          have hc := hcell k hlt wr hx
          have hcp : ∀ k', k = k' + 1 → wr.cell? ⟨x, off + k', none⟩ = some (.int .i64 (ss.getD k' 0)) ∧ 0 ≤ ss.getD k' 0 ∧ ss.getD k' 0 / 1048576 ≤ 1114111 := fun k' e => ⟨hcell k' (by omega) wr hx, HQ2.out (ss.getD k' 0) (by rw [getD_at (by omega)]; exact List.getElem_mem _)⟩
          have HKE : Hid (keepN ss (k + 1) = keepN ss k ++ keepAt ss k) := keepN_succ ss k
          have HO := Lib.hid ho
          have HML := Lib.hid hml
          have HCP := Lib.hid hcp
          clear hcell ho hml hcp hrw
          by_cases hyes : k = 0 ∨ ss.getD (k - 1) 0 / 1048576 < ss.getD k 0 / 1048576
          · have hke : keepAt ss k = [(ss.getD k 0 / 1048576, ss.getD k 0 % 1048576)] := by unfold keepAt; rw [if_pos hyes]
            obtain ⟨z, hzz⟩ : ∃ z, ss.getD k 0 = z := ⟨_, rfl⟩
            rw [hzz] at hke hz hc
            have HA : Hid (∀ v', wr.ownsRow B 90 3 v' out.length (rowCells out) → Calls Tryd.prog 64 #[v', .agg #[.int .i64 (z / 1048576), .int .i64 (z % 1048576), .int .i64 1]] wr (AddOut wr B v' out (expL out ++ expR ⟨z / 1048576, z % 1048576, 1⟩))) :=
              fun v' ho => add_any ⟨z / 1048576, z % 1048576, 1⟩ v' B out _ ho hBw (by unfold Good0; simp only; omega) HGO.out (by omega)
            have HK : Hid (expL out ++ expR ⟨z / 1048576, z % 1048576, 1⟩ = keepN ss (k + 1)) := by
              show _ = _
              rw [HKE.out, hke, HE.out]
              congr 1
              simp [expR, pairsN]
            obtain ⟨hz0, hz1⟩ := hz
            by_cases hk0 : k = 0
            · subst hk0
              rw [Nat.add_zero] at hc
              clear hke hyes hzz HKE HCP
              go_wp2_with (go_at_call 64; refine (HA.out _ HO.out).mono ?_; rintro e w3 ⟨v3, out3, rfl, ho3, he3, hg3, hl3, hgr3, hf3⟩)
              have hxa := hx.own_grown HO.out hBB hgr3
              have HE3 := Lib.hid he3
              have HG3 := Lib.hid hg3
              clear he3 hg3 hf3 hgr3
              go_roundw
              case rel => exact ⟨_, out3, hk1, by go_num, ho3, by omega, by show _ = _; rw [HE3.out, HK.out], HG3, hxa⟩
              case measure => simp [intOf]; omega
            · obtain ⟨k', rfl⟩ : ∃ k', k = k' + 1 := ⟨k - 1, by omega⟩
              have hy : ss.getD k' 0 / 1048576 < z / 1048576 := by
                rcases hyes with h | h
                · omega
                · rw [hzz] at h
                  simpa using h
              obtain ⟨hcy, hy0, hy1⟩ := HCP.out k' rfl
              generalize ss.getD k' 0 = y at hy hcy hy0 hy1
              clear hke hyes hzz HKE HCP hk0
              go_wp2_with (go_at_call 64; refine (HA.out _ HO.out).mono ?_; rintro e w3 ⟨v3, out3, rfl, ho3, he3, hg3, hl3, hgr3, hf3⟩)
              have hxa := hx.own_grown HO.out hBB hgr3
              have HE3 := Lib.hid he3
              have HG3 := Lib.hid hg3
              clear he3 hg3 hf3 hgr3
              go_roundw
              case rel => exact ⟨_, out3, hk1, by go_num, ho3, by omega, by show _ = _; rw [HE3.out, HK.out], HG3, hxa⟩
              case measure => simp [intOf]; omega
          · have hke : keepAt ss k = [] := by unfold keepAt; rw [if_neg hyes]
            have HK : Hid (expL out = keepN ss (k + 1)) := by
              show _ = _
              rw [HKE.out, hke, HE.out, List.append_nil]
            obtain ⟨k', rfl⟩ : ∃ k', k = k' + 1 := ⟨k - 1, by omega⟩
            have hy : ¬ ss.getD k' 0 / 1048576 < ss.getD (k' + 1) 0 / 1048576 := fun h => hyes (.inr (by simpa using h))
            obtain ⟨hcy, hy0, hy1⟩ := HCP.out k' rfl
            generalize ss.getD k' 0 = y at hy hcy hy0 hy1
            generalize ss.getD (k' + 1) 0 = z at hy hc hz
            obtain ⟨hz0, hz1⟩ := hz
            have hkb : ((k' : Int) + 1 == 0) = false := beq_false_of_ne (by omega)
            clear hke hyes HKE HCP
            go_wp2
            go_roundw
            case rel => exact ⟨_, out, hk1, by go_num, HO.out, by omega, HK, HGO, hx⟩
            case measure => simp [intOf]; omega
        · have hkm : k = m := by omega
          have HE2 : Hid (RevOf (expL l) (expL out)) := by
            show RevOf _ _
            rw [HE.out, hkm]
            exact HQ1.out
          go_wp2
          go_ret
          exact ⟨_, out, rfl, own_base ho (by have := HX2.out.size; have := HBB.out; omega), HGO.out, HE2.out, by omega, HX2.out.trans hx⟩
end Go.Proofs.YtealeedbkjiabaaDoor
