/-
  Rows put in order: the library's sort at rows, and what stands in memory behind it.
  Rows put in order, and those that go on with one another made one.
-/
import Derived.Test.YtabcneomeemnpaaDoorTbB
import Derived.Test.YtabcneomeemnpaaDoorShelfB
import Derived.Deep.Slices
namespace Go.Proofs.YtabcneomeemnpaaDoor
open Go Go.ChangeShapes Go.WideShapes Go.ChangeAt Go.RowKit
open Go.Sort (PermIn SortedIn SWO grow putRow putCells mapBlock Holds flatK putRowK HoldsK)
set_option linter.unusedSimpArgs false
set_option linter.unusedVariables false

def encR (r : Rw) : List Value := [.int .i64 r.f, .int .i64 r.t, .int .i64 r.n]
theorem flat_rows (l : List Rw) : (flatK encR 3 l.toArray).toList = rowCells l := by
  apply List.ext_getElem?
  intro t
  by_cases ht : t < l.length * 3
  · have hq : t / 3 < l.length := by omega
    obtain ⟨e1, e2, e3⟩ := rowCells_get l (t / 3) l[t / 3] (List.getElem?_eq_getElem hq)
    have h0 : (flatK encR 3 l.toArray).toList[t]? = some ((encR l[t / 3])[t % 3]!) := by
      have := Go.Sort.get_flatK encR 3 l.toArray t (by simpa using ht)
      have hs : t < (flatK encR 3 l.toArray).size := by simpa using ht
      rw [Array.getElem?_toList, Array.getElem?_eq_getElem hs]
      rw [getElem!_pos _ t hs] at this
      rw [this, getElem!_pos l.toArray (t / 3) (by simpa using hq)]
      simp
    rw [h0]
    have h3 : t % 3 = 0 ∨ t % 3 = 1 ∨ t % 3 = 2 := by omega
    rcases h3 with h | h | h
    · have e4 : t / 3 * 3 = t := by omega
      rw [e4] at e1
      rw [h, e1]
      rfl
    · have e4 : t / 3 * 3 + 1 = t := by omega
      rw [e4] at e2
      rw [h, e2]
      rfl
    · have e4 : t / 3 * 3 + 2 = t := by omega
      rw [e4] at e3
      rw [h, e3]
      rfl
  · rw [List.getElem?_eq_none (by simp; omega), List.getElem?_eq_none (by rw [rowCells_len]; omega)]
theorem holds_rows {w : World} {B g cap : Nat} {l : List Rw} {n : Nat} (ho : w.ownsRow B 97 3 (.slice (some ⟨g, 0, none⟩) n cap) n (rowCells l)) : HoldsK encR 3 w g 0 l.toArray := by
  intro j hj
  have hj2 : j < l.length * 3 := by simpa using hj
  have e : (flatK encR 3 l.toArray)[j]! = ((flatK encR 3 l.toArray).toList)[j]'(by simpa using hj2) := by
    rw [getElem!_pos _ j (by simpa using hj2)]
    simp
  refine ⟨?_, own_free ho _⟩
  have hc := ho.cells (g := g) rfl j ((flatK encR 3 l.toArray)[j]!) (by
    rw [← flat_rows l, e]
    exact List.getElem?_eq_getElem _)
  have e2 : (⟨g, 0, none⟩ : Addr).add j = ⟨g, 0 + j, none⟩ := by
    unfold Addr.add
    split <;> simp_all
  rw [e2] at hc
  exact hc
/-- Behind the sort the row holds what it holds; nothing else has turned. -/
theorem sorted_own {w : World} {B g cap : Nat} {l ss : List Rw} {n : Nat} (ho : w.ownsRow B 97 3 (.slice (some ⟨g, 0, none⟩) n cap) n (rowCells l)) (hl : ss.length = l.length) (m : Nat) (os : Array Obj) :
    (sortWorldK encR 3 w g 0 m ss.toArray os).ownsRow B 97 3 (.slice (some ⟨g, 0, none⟩) n cap) n (rowCells ss) ∧ w.grownBy (sortWorldK encR 3 w g 0 m ss.toArray os) (some g) := by
  have hn := own_len ho
  obtain ⟨h1, h | ⟨g2, cap2, cur, e, hg, hh, hnc, hmx, hs, ht⟩⟩ := ho
  · cases h.1
  · obtain ⟨rfl, rfl⟩ : g = g2 ∧ cap = cap2 := by simpa using e
    have hlt := lt_of_block hh
    have hsz : (flatK encR 3 ss.toArray).size = n * 3 := by simp [hl, hn]
    have hb : (sortWorldK encR 3 w g 0 m ss.toArray os).heap[g]? = some (.cells (putCells id 0 (flatK encR 3 ss.toArray) cur) 97 (0, 0)) := by
      have h2 : (w.heap.modify g (Go.Sort.onCells (putCells id 0 (flatK encR 3 ss.toArray))))[g]? = some (.cells (putCells id 0 (flatK encR 3 ss.toArray) cur) 97 (0, 0)) := by
        rw [Array.getElem?_modify, if_pos rfl, hh]
        rfl
      show ((w.heap.modify g (Go.Sort.onCells (putCells id 0 (flatK encR 3 ss.toArray)))) ++ os)[g]? = _
      rw [Array.getElem?_append_left (by simpa using hlt)]
      exact h2
    refine ⟨⟨by rw [rowCells_len, hl, hn], .inr ⟨g, cap, _, rfl, hg, hb, hnc, hmx, by simpa [putCells] using hs, ?_⟩⟩, ?_⟩
    · rw [← flat_rows ss]
      apply List.ext_getElem?
      intro t
      rw [List.getElem?_take]
      have hcap : n * 3 ≤ cap * 3 := Nat.mul_le_mul_right _ hnc
      by_cases htt : t < n * 3
      · rw [if_pos htt, Array.getElem?_toList, Array.getElem?_toList]
        unfold putCells
        rw [Array.getElem?_mapIdx, Array.getElem?_eq_getElem (xs := cur) (by omega), Option.map_some, if_pos ⟨by omega, by omega⟩, Array.getElem?_eq_getElem (xs := flatK encR 3 ss.toArray) (by omega)]
        rw [Nat.sub_zero, getElem!_pos _ t (by omega)]
        rfl
      · rw [if_neg htt, List.getElem?_eq_none (by simp; omega)]
    · refine ⟨rfl, rfl, rfl, ?_, fun k hk hne => ?_⟩
      · show w.heap.size ≤ ((w.heap.modify g _) ++ os).size
        simp
      · show ((w.heap.modify g _) ++ os)[k]? = _
        rw [Array.getElem?_append_left (by simpa using hk), Array.getElem?_modify, if_neg (by rintro rfl; exact hne rfl)]
/-! ### The closure; the sort -/
theorem cmp_lt (x y : Rw) : Go.Proofs.ltOf (fun x y : Rw => Lib.compareInt x.f y.f) x y = decide (x.f < y.f) := by
  unfold ltOf Lib.compareInt
  by_cases h1 : x.f < y.f
  · simp [h1]
  · by_cases h2 : y.f < x.f <;> simp [h1, h2]
theorem cmp_swo : SWO (ltOf fun x y : Rw => Lib.compareInt x.f y.f) where
  irrefl x := by rw [cmp_lt]; simp
  trans x y z h1 h2 := by rw [cmp_lt] at *; simp at *; omega
  ntrans x y z h1 h2 := by rw [cmp_lt] at *; simp at *; omega
set_option maxHeartbeats 1000000 in
theorem cmp_any (x y : Rw) (W : World) : Calls Tryd.prog 59 #[.agg #[.int .i64 x.f, .int .i64 x.t, .int .i64 x.n], .agg #[.int .i64 y.f, .int .i64 y.t, .int .i64 y.n]] W fun e w' => e = .returned (.int .i64 (Lib.compareInt x.f y.f)) ∧ ∃ q os', w' = grow (W.drewN q) os' := by
  have hcon := fun W' => Tryd.cmp_Compare_int x.f y.f W'
  generalize Lib.compareInt x.f y.f = r at hcon ⊢
  go_enter Tryd.func59, Tryd.ntmps59
  go_wp2_with (go_at_call 60; refine (hcon _).mono ?_; rintro e w' ⟨rfl, rfl⟩)
  go_ret
  exact ⟨rfl, 0, _, by rw [Go.Sort.alloc_eq_grow, Go.Sort.alloc_eq_grow, Go.Sort.grow_grow]; rfl⟩
theorem toArray_size (l : List Rw) : l.toArray.size = l.length := by simp
theorem sort_some (g cap n B : Nat) (l : List Rw) (w : World) (ho : w.ownsRow B 97 3 (.slice (some ⟨g, 0, none⟩) n cap) n (rowCells l)) (hl : n ≤ 1000000000) :
    Calls Tryd.prog 58 #[.slice (some ⟨g, 0, none⟩) n cap, .func (.func 59) #[] #[]] w fun e w' => e = .returned (.tuple #[]) ∧ ∃ ss : List Rw, ss.Perm l ∧ (ss.Pairwise fun a b => a.f ≤ b.f) ∧ w'.ownsRow B 97 3 (.slice (some ⟨g, 0, none⟩) n cap) n (rowCells ss) ∧ w.grownBy w' (some g) := by
  have hn := own_len ho
  have hlt : g < w.heap.size := (ho.lt g rfl).2
  have eg : ∀ args w, (callFunc 59 args).run Tryd.prog w = .ok (.enter 59 args) w := enters_of Tryd.func59 (by kernel_rfl) rfl
  have hcon := AnyQ.slices_SortFunc Tryd.sortRow 3 Tryd.isAgg97 Tryd.sizeOf97 encR (fun _ => rfl) (fun x v hv => by simp [encR] at hv; rcases hv with rfl | rfl | rfl <;> rfl) (fun x y : Rw => Lib.compareInt x.f y.f) cmp_swo 59 #[] g 0 cap l.toArray w eg (fun _ _ _ _ x y => cmp_any x y _) (holds_rows ho) hlt (by rw [toArray_size]; omega)
  rw [toArray_size, hn] at hcon
  change Calls Tryd.prog 58 _ _ _ at hcon
  refine hcon.mono ?_
  rintro e w' ⟨rfl, d', m, os, ⟨hp1, _, hp3⟩, hs, rfl⟩
  have hds : d'.size = n := by rw [hp1, toArray_size, hn]
  have ex : ∀ (d : Array Rw), d.size = n → d.extract 0 n = d := fun d h => by rw [← h]; exact Array.extract_size
  rw [ex d' hds, ex l.toArray (by rw [toArray_size, hn])] at hp3
  have hperm : d'.toList.Perm l := by simpa using hp3
  have hso := sorted_own (ss := d'.toList) ho hperm.length_eq m os
  have e2 : d'.toList.toArray = d' := by simp
  rw [e2] at hso
  refine ⟨rfl, d'.toList, hperm, ?_, hso.1, hso.2⟩
  rw [List.pairwise_iff_getElem]
  intro i j hi hj hij
  have hi2 : i < d'.size := by simpa using hi
  have hj2 : j < d'.size := by simpa using hj
  have h := hs i j (Nat.zero_le _) hij (by rw [← hds]; exact hj2)
  rw [cmp_lt, getElem!_pos d' j hj2, getElem!_pos d' i hi2] at h
  have h : ¬ d'[j].f < d'[i].f := by simpa using h
  simp only [Array.getElem_toList]
  omega
end Go.Proofs.YtabcneomeemnpaaDoor
namespace Go.Proofs.YtabcneomeemnpaaDoor
open Go Go.ChangeShapes Go.WideShapes Go.ChangeAt Go.RowKit
set_option linter.unusedSimpArgs false
set_option linter.unusedVariables false

theorem make_rows (k : Nat) (hk : k ≤ 1000000000) (w : World) : ∃ w', (Instr.makeSlice 77 (.int .i64 0) (.int .i64 (k : Int))).run Tryd.prog w = .ok (.slice (some ⟨w.heap.size, 0, none⟩) 0 k) w' ∧
    (∀ B, B ≤ w.heap.size → w'.ownsRow B 97 3 (.slice (some ⟨w.heap.size, 0, none⟩) 0 k) 0 []) ∧ w.grownBy w' none := by
  obtain ⟨i, hi, h3, h5, h6⟩ := info_parts_row
  obtain ⟨w', h7, h8, h9⟩ := run_make_own (P := Tryd.prog) (w := w) w.heap.size 77 97 i (.agg #[.int .i64 0, .int .i64 0, .int .i64 0]) 3 Tryd.underlying77 hi h3 h5 .i64 .i64 k (by rw [h6]; omega) (by simp [maxLen]; omega) (Nat.le_refl _)
  refine ⟨w', h7, fun B hB => ?_, h9⟩
  obtain ⟨a, b⟩ := h8
  refine ⟨a, ?_⟩
  rcases b with b | ⟨g, cap, cur, e1, e2, r⟩
  · exact .inl b
  · exact .inr ⟨g, cap, cur, e1, by omega, r⟩
/-- The sort at a row of the call's own, also at none. -/
theorem sort_any (v : Value) (n B : Nat) (l : List Rw) (w : World) (ho : w.ownsRow B 97 3 v n (rowCells l)) (hl : n ≤ 1000000000) :
    Calls Tryd.prog 58 #[v, .func (.func 59) #[] #[]] w fun e w' => e = .returned (.tuple #[]) ∧ ∃ ss : List Rw, ss.Perm l ∧ (ss.Pairwise fun a b => a.f ≤ b.f) ∧ w'.ownsRow B 97 3 v n (rowCells ss) ∧ w.grownBy w' v.ownBlock := by
  have hn := own_len ho
  obtain ⟨h1, ⟨rfl, rfl⟩ | ⟨g, cap, cur, rfl, hg, hh, hnc, hmx, hs, ht⟩⟩ := ho
  · obtain rfl := List.eq_nil_of_length_eq_zero hn
    refine (Tryd.sortRow_none none 0 _ w).mono ?_
    rintro e w' ⟨rfl, rfl⟩
    exact ⟨rfl, [], List.Perm.refl _, List.Pairwise.nil, World.ownsRow_nil _ _ _ _, rfl, rfl, rfl, Nat.le_refl _, fun _ _ _ => rfl⟩
  · exact sort_some g cap n B l w ⟨h1, .inr ⟨g, cap, cur, rfl, hg, hh, hnc, hmx, hs, ht⟩⟩ hl
theorem expL_take {l : List Rw} {k : Nat} {r : Rw} (h : l[k]? = some r) : expL (l.take (k + 1)) = expL (l.take k) ++ expR r := by
  rw [List.take_add_one, h, expL_app]
  simp [expL_one]
set_option maxHeartbeats 2000000 in
set_option maxRecDepth 100000 in
theorem rising_any (v : Value) (B : Nat) (l : List Rw) (ps : List Pr) (w : World) (ho : w.ownsRow B 97 3 v l.length (rowCells l)) (hl : l.length ≤ 1000000000) (hg : GoodL l) (hon : Once (expL l)) (hp : Rising ps) (hm : ∀ q, q ∈ expL l ↔ q ∈ ps) :
    Calls Tryd.prog 50 #[v] w fun e w' => ∃ (v' : Value) (out : List Rw), e = .returned v' ∧ w'.ownsRow w.heap.size 97 3 v' out.length (rowCells out) ∧ expL out = ps ∧ GoodL out ∧ w.grownBy w' v.ownBlock := by
  have HS := Lib.hid (sort_any v l.length B l w ho hl)
  obtain ⟨a, cap, rfl, _⟩ := own_rws ho
  have HP : Hid (∀ ss : List Rw, ss.Perm l → (ss.Pairwise fun a b => a.f ≤ b.f) → expL ss = ps ∧ GoodL ss ∧ ss.length = l.length) := fun ss h1 h2 => ⟨sorted_exp h1 hg hon h2 hp hm, perm_good h1 hg, h1.length_eq⟩
  clear ho hg hon hp hm
  go_enter Tryd.func50, Tryd.ntmps50
  go_wp2_with (go_at_call 58; refine HS.out.mono ?_; rintro e w1 ⟨rfl, ss, hpm, hsd, ho1, hg1⟩; obtain ⟨wm, hmk, hown, hgm⟩ := make_rows l.length hl w1)
  obtain ⟨p1, p2, p3⟩ := HP.out ss hpm hsd
  have hx1 : Ext w1 wm := (Ext.refl w1).grown hgm (.inl rfl)
  obtain ⟨a1, cap1, ea, hrw⟩ := own_rws ho1
  obtain ⟨rfl, rfl⟩ : a = a1 ∧ cap = cap1 := by simpa using ea
  have hrw : IsRws w1 a ss.length cap ss := by rw [p3]; exact hrw
  have ho0 := hown w1.heap.size (Nat.le_refl _)
  have H1 := Lib.hid p1
  have H2 := Lib.hid p2
  have H3 := Lib.hid p3
  have HG1 := Lib.hid hg1
  rw [← p3] at hl ho0 ⊢
  clear p1 p2 p3 hpm hsd ho1 hg1 hmk hown hgm HS HP ea
  go_loopw [3, 13] (fun v i wr => ∃ (k : Nat) (out : List Rw), k ≤ ss.length ∧ i = .int .i64 k ∧ wr.ownsRow w1.heap.size 97 3 v out.length (rowCells out) ∧ out.length ≤ k ∧ Hid (expL out = expL (ss.take k)) ∧ Hid (GoodL out) ∧ Ext w1 wr) (fun _ i _ => ss.length - (intOf i).toNat)
  case atStart => exact ⟨0, [], by omega, rfl, ho0, Nat.le_refl _, rfl, GoodL.nil, hx1⟩
  case round =>
    obtain ⟨k, out, hk, rfl, ho, hol, HE, HGO, hx⟩ := hrel
    clear ho0 hx1
    by_cases hlt : k < ss.length
    · obtain ⟨x, off, r, rfl, hxl, hr, hcell⟩ := rws_at hrw hlt
      obtain ⟨c0, c1, c2⟩ := hcell wr hx
      have hgr := H2.out r (List.mem_of_getElem? hr)
      have HT := Lib.hid (expL_take hr)
      have hsz := hx.size
      obtain ⟨rf, rt, rn⟩ := r
      have HA : Hid (∀ v', wr.ownsRow w1.heap.size 97 3 v' out.length (rowCells out) → Calls Tryd.prog 56 #[v', .agg #[.int .i64 rf, .int .i64 rt, .int .i64 rn]] (wr.alloc (.cells #[.int .i64 rf, .int .i64 rt, .int .i64 rn] 97)) (AddOut (wr.alloc (.cells #[.int .i64 rf, .int .i64 rt, .int .i64 rn] 97)) w1.heap.size v' out (expL out ++ expR ⟨rf, rt, rn⟩))) :=
        fun v' ho => add_any ⟨rf, rt, rn⟩ v' w1.heap.size out _ (ho.alloc _) (by simp; omega) hgr.good0 HGO.out (by omega)
      have HO := Lib.hid ho
      clear hcell hr hgr ho hsz
      go_wp2_with (go_at_call 56; refine (HA.out _ HO.out).mono ?_; rintro e w3 ⟨v3, out3, rfl, ho3, he3, hg3, hl3, hgr3, hf3⟩)
      have hxa := (hx.alloc (.cells #[.int .i64 rf, .int .i64 rt, .int .i64 rn] 97)).own_grown (HO.out.alloc _) (Nat.le_refl _) hgr3
      have HE3 := Lib.hid he3
      have HG3 := Lib.hid hg3
      clear he3 hg3 hf3 hgr3
      go_roundw
      case rel => exact ⟨k + 1, out3, by omega, by go_num, ho3, by omega, by show _ = _; rw [HE3.out, HE.out, HT.out], HG3, hxa⟩
      case measure => simp [intOf]; omega
    · have hkl : k = ss.length := by omega
      have he : expL out = ps := by have := HE.out; rw [hkl, List.take_length, H1.out] at this; exact this
      have HF := Lib.hid he
      clear he
      have hsz := HG1.out.size
      go_wp2
      go_ret
      exact ⟨_, out, rfl, own_base ho hsz, HF.out, HGO.out, HG1.out.trans' (hx.to_grown _)⟩
end Go.Proofs.YtabcneomeemnpaaDoor
