/-
  What the proof of this claim leans on (S19).
-/
import Derived.Test.YtndopjmdpmkgeaaGreatDoorS16
import Derived.Test.YtndopjmdpmkgeaaGreatDoorS17
import Derived.Test.YtndopjmdpmkgeaaGreatDoorS18
import Derived.Deep.Slices
namespace Go.Proofs.YtndopjmdpmkgeaaGreatDoor
open Go Go.ChangeShapes Go.WideShapes Go.ChangeAt Go.RowKit
open Go.Sort (PermIn SortedIn SWO grow putRow putCells mapBlock Holds flatK putRowK HoldsK)
set_option linter.unusedSimpArgs false
set_option linter.unusedVariables false

def encR (r : Rw) : List Value := [.int .i64 r.f, .int .i64 r.t, .int .i64 r.n]
theorem flat_rows (l : List Rw) : (flatK encR 3 l.toArray).toList = rowCells l := by
  apply List.ext_getElem?
  intro t
  by_cases ht : t < l.length * 3
  · have hq : t / 3 < l.length := by omega
    obtain ⟨e1, e2, e3⟩ := rowCells_get l (t / 3) l[t / 3] (List.getElem?_eq_getElem hq)
    have h0 : (flatK encR 3 l.toArray).toList[t]? = some ((encR l[t / 3])[t % 3]!) := by
      have := Go.Sort.get_flatK encR 3 l.toArray t (by simpa using ht)
      have hs : t < (flatK encR 3 l.toArray).size := by simpa using ht
      rw [Array.getElem?_toList, Array.getElem?_eq_getElem hs]
      rw [getElem!_pos _ t hs] at this
      rw [this, getElem!_pos l.toArray (t / 3) (by simpa using hq)]
      simp
    rw [h0]
    have h3 : t % 3 = 0 ∨ t % 3 = 1 ∨ t % 3 = 2 := by omega
    rcases h3 with h | h | h
    · have e4 : t / 3 * 3 = t := by omega
      rw [e4] at e1
      rw [h, e1]
      rfl
    · have e4 : t / 3 * 3 + 1 = t := by omega
      rw [e4] at e2
      rw [h, e2]
      rfl
    · have e4 : t / 3 * 3 + 2 = t := by omega
      rw [e4] at e3
      rw [h, e3]
      rfl
  · rw [List.getElem?_eq_none (by simp; omega), List.getElem?_eq_none (by rw [rowCells_len]; omega)]
theorem holds_rows {w : World} {B g cap : Nat} {l : List Rw} {n : Nat} (ho : w.ownsRow B 189 3 (.slice (some ⟨g, 0, none⟩) n cap) n (rowCells l)) : HoldsK encR 3 w g 0 l.toArray := by
  intro j hj
  have hj2 : j < l.length * 3 := by simpa using hj
  have e : (flatK encR 3 l.toArray)[j]! = ((flatK encR 3 l.toArray).toList)[j]'(by simpa using hj2) := by
    rw [getElem!_pos _ j (by simpa using hj2)]
    simp
  refine ⟨?_, own_free ho _⟩
  have hc := ho.cells (g := g) rfl j ((flatK encR 3 l.toArray)[j]!) (by
    rw [← flat_rows l, e]
    exact List.getElem?_eq_getElem _)
  have e2 : (⟨g, 0, none⟩ : Addr).add j = ⟨g, 0 + j, none⟩ := by
    unfold Addr.add
    split <;> simp_all
  rw [e2] at hc
  exact hc
/-- Behind the sort the row holds what it holds; nothing else has turned. -/
theorem sorted_own {w : World} {B g cap : Nat} {l ss : List Rw} {n : Nat} (ho : w.ownsRow B 189 3 (.slice (some ⟨g, 0, none⟩) n cap) n (rowCells l)) (hl : ss.length = l.length) (m : Nat) (os : Array Obj) :
    (sortWorldK encR 3 w g 0 m ss.toArray os).ownsRow B 189 3 (.slice (some ⟨g, 0, none⟩) n cap) n (rowCells ss) ∧ w.grownBy (sortWorldK encR 3 w g 0 m ss.toArray os) (some g) := by
  have hn := own_len ho
  obtain ⟨h1, h | ⟨g2, cap2, cur, e, hg, hh, hnc, hmx, hs, ht⟩⟩ := ho
  · cases h.1
  · obtain ⟨rfl, rfl⟩ : g = g2 ∧ cap = cap2 := by simpa using e
    have hlt := lt_of_block hh
    have hsz : (flatK encR 3 ss.toArray).size = n * 3 := by simp [hl, hn]
    have hb : (sortWorldK encR 3 w g 0 m ss.toArray os).heap[g]? = some (.cells (putCells id 0 (flatK encR 3 ss.toArray) cur) 189 (0, 0)) := by
      have h2 : (w.heap.modify g (Go.Sort.onCells (putCells id 0 (flatK encR 3 ss.toArray))))[g]? = some (.cells (putCells id 0 (flatK encR 3 ss.toArray) cur) 189 (0, 0)) := by
        rw [Array.getElem?_modify, if_pos rfl, hh]
        rfl
      show ((w.heap.modify g (Go.Sort.onCells (putCells id 0 (flatK encR 3 ss.toArray)))) ++ os)[g]? = _
      rw [Array.getElem?_append_left (by simpa using hlt)]
      exact h2
    refine ⟨⟨by rw [rowCells_len, hl, hn], .inr ⟨g, cap, _, rfl, hg, hb, hnc, hmx, by simpa [putCells] using hs, ?_⟩⟩, ?_⟩
    · rw [← flat_rows ss]
      apply List.ext_getElem?
      intro t
      rw [List.getElem?_take]
      have hcap : n * 3 ≤ cap * 3 := Nat.mul_le_mul_right _ hnc
      by_cases htt : t < n * 3
      · rw [if_pos htt, Array.getElem?_toList, Array.getElem?_toList]
        unfold putCells
        rw [Array.getElem?_mapIdx, Array.getElem?_eq_getElem (xs := cur) (by omega), Option.map_some, if_pos ⟨by omega, by omega⟩, Array.getElem?_eq_getElem (xs := flatK encR 3 ss.toArray) (by omega)]
        rw [Nat.sub_zero, getElem!_pos _ t (by omega)]
        rfl
      · rw [if_neg htt, List.getElem?_eq_none (by simp; omega)]
    · refine ⟨rfl, rfl, rfl, ?_, fun k hk hne => ?_⟩
      · show w.heap.size ≤ ((w.heap.modify g _) ++ os).size
        simp
      · show ((w.heap.modify g _) ++ os)[k]? = _
        rw [Array.getElem?_append_left (by simpa using hk), Array.getElem?_modify, if_neg (by rintro rfl; exact hne rfl)]
theorem cmp_lt (x y : Rw) : Go.Proofs.ltOf (fun x y : Rw => Lib.compareInt x.f y.f) x y = decide (x.f < y.f) := by
  unfold ltOf Lib.compareInt
  by_cases h1 : x.f < y.f
  · simp [h1]
  · by_cases h2 : y.f < x.f <;> simp [h1, h2]
theorem cmp_swo : SWO (ltOf fun x y : Rw => Lib.compareInt x.f y.f) where
  irrefl x := by rw [cmp_lt]; simp
  trans x y z h1 h2 := by rw [cmp_lt] at *; simp at *; omega
  ntrans x y z h1 h2 := by rw [cmp_lt] at *; simp at *; omega
set_option maxHeartbeats 1000000 in
theorem cmp_any (x y : Rw) (W : World) : Calls Tryz.prog 194 #[.agg #[.int .i64 x.f, .int .i64 x.t, .int .i64 x.n], .agg #[.int .i64 y.f, .int .i64 y.t, .int .i64 y.n]] W fun e w' => e = .returned (.int .i64 (Lib.compareInt x.f y.f)) ∧ ∃ q os', w' = grow (W.drewN q) os' := by
  have hcon := fun W' => Tryz.cmp_Compare_int x.f y.f W'
  generalize Lib.compareInt x.f y.f = r at hcon ⊢
  go_enter Tryz.func194, Tryz.ntmps194
  go_wp2_with (go_at_call 195; refine (hcon _).mono ?_; rintro e w' ⟨rfl, rfl⟩)
  go_ret
  exact ⟨rfl, 0, _, by rw [Go.Sort.alloc_eq_grow, Go.Sort.alloc_eq_grow, Go.Sort.grow_grow]; rfl⟩
theorem toArray_size (l : List Rw) : l.toArray.size = l.length := by simp
theorem sort_some (g cap n B : Nat) (l : List Rw) (w : World) (ho : w.ownsRow B 189 3 (.slice (some ⟨g, 0, none⟩) n cap) n (rowCells l)) (hl : n ≤ 1000000000) :
    Calls Tryz.prog 193 #[.slice (some ⟨g, 0, none⟩) n cap, .func (.func 194) #[] #[]] w fun e w' => e = .returned (.tuple #[]) ∧ ∃ ss : List Rw, ss.Perm l ∧ (ss.Pairwise fun a b => a.f ≤ b.f) ∧ w'.ownsRow B 189 3 (.slice (some ⟨g, 0, none⟩) n cap) n (rowCells ss) ∧ w.grownBy w' (some g) := by
  have hn := own_len ho
  have hlt : g < w.heap.size := (ho.lt g rfl).2
  have eg : ∀ args w, (callFunc 194 args).run Tryz.prog w = .ok (.enter 194 args) w := enters_of Tryz.func194 (by kernel_rfl) rfl
  have hcon := AnyQ.slices_SortFunc Tryz.sortRow 3 Tryz.isAgg189 Tryz.sizeOf189 encR (fun _ => rfl) (fun x v hv => by simp [encR] at hv; rcases hv with rfl | rfl | rfl <;> rfl) (fun x y : Rw => Lib.compareInt x.f y.f) cmp_swo 194 #[] g 0 cap l.toArray w eg (fun _ _ _ _ x y => cmp_any x y _) (holds_rows ho) hlt (by rw [toArray_size]; omega)
  rw [toArray_size, hn] at hcon
  change Calls Tryz.prog 193 _ _ _ at hcon
  refine hcon.mono ?_
  rintro e w' ⟨rfl, d', m, os, ⟨hp1, _, hp3⟩, hs, rfl⟩
  have hds : d'.size = n := by rw [hp1, toArray_size, hn]
  have ex : ∀ (d : Array Rw), d.size = n → d.extract 0 n = d := fun d h => by rw [← h]; exact Array.extract_size
  rw [ex d' hds, ex l.toArray (by rw [toArray_size, hn])] at hp3
  have hperm : d'.toList.Perm l := by simpa using hp3
  have hso := sorted_own (ss := d'.toList) ho hperm.length_eq m os
  have e2 : d'.toList.toArray = d' := by simp
  rw [e2] at hso
  refine ⟨rfl, d'.toList, hperm, ?_, hso.1, hso.2⟩
  rw [List.pairwise_iff_getElem]
  intro i j hi hj hij
  have hi2 : i < d'.size := by simpa using hi
  have hj2 : j < d'.size := by simpa using hj
  have h := hs i j (Nat.zero_le _) hij (by rw [← hds]; exact hj2)
  rw [cmp_lt, getElem!_pos d' j hj2, getElem!_pos d' i hi2] at h
  have h : ¬ d'[j].f < d'[i].f := by simpa using h
  simp only [Array.getElem_toList]
  omega
end Go.Proofs.YtndopjmdpmkgeaaGreatDoor
namespace Go.Proofs.YtndopjmdpmkgeaaGreatDoor
open Go Go.ChangeShapes Go.WideShapes Go.ChangeAt Go.RowKit
set_option linter.unusedSimpArgs false
set_option linter.unusedVariables false

theorem make_rows (k : Nat) (hk : k ≤ 1000000000) (w : World) : ∃ w', (Instr.makeSlice 72 (.int .i64 0) (.int .i64 (k : Int))).run Tryz.prog w = .ok (.slice (some ⟨w.heap.size, 0, none⟩) 0 k) w' ∧
    (∀ B, B ≤ w.heap.size → w'.ownsRow B 189 3 (.slice (some ⟨w.heap.size, 0, none⟩) 0 k) 0 []) ∧ w.grownBy w' none := by
  obtain ⟨i, hi, h3, h5, h6⟩ := info_parts_row
  obtain ⟨w', h7, h8, h9⟩ := run_make_own (P := Tryz.prog) (w := w) w.heap.size 72 189 i (.agg #[.int .i64 0, .int .i64 0, .int .i64 0]) 3 Tryz.underlying72 hi h3 h5 .i64 .i64 k (by rw [h6]; omega) (by simp [maxLen]; omega) (Nat.le_refl _)
  refine ⟨w', h7, fun B hB => ?_, h9⟩
  obtain ⟨a, b⟩ := h8
  refine ⟨a, ?_⟩
  rcases b with b | ⟨g, cap, cur, e1, e2, r⟩
  · exact .inl b
  · exact .inr ⟨g, cap, cur, e1, by omega, r⟩
/-- The sort at a row of the call's own, also at none. -/
theorem sort_any (v : Value) (n B : Nat) (l : List Rw) (w : World) (ho : w.ownsRow B 189 3 v n (rowCells l)) (hl : n ≤ 1000000000) :
    Calls Tryz.prog 193 #[v, .func (.func 194) #[] #[]] w fun e w' => e = .returned (.tuple #[]) ∧ ∃ ss : List Rw, ss.Perm l ∧ (ss.Pairwise fun a b => a.f ≤ b.f) ∧ w'.ownsRow B 189 3 v n (rowCells ss) ∧ w.grownBy w' v.ownBlock := by
  have hn := own_len ho
  obtain ⟨h1, ⟨rfl, rfl⟩ | ⟨g, cap, cur, rfl, hg, hh, hnc, hmx, hs, ht⟩⟩ := ho
  · obtain rfl := List.eq_nil_of_length_eq_zero hn
    refine (Tryz.sortRow_none none 0 _ w).mono ?_
    rintro e w' ⟨rfl, rfl⟩
    exact ⟨rfl, [], List.Perm.refl _, List.Pairwise.nil, World.ownsRow_nil _ _ _ _, rfl, rfl, rfl, Nat.le_refl _, fun _ _ _ => rfl⟩
  · exact sort_some g cap n B l w ⟨h1, .inr ⟨g, cap, cur, rfl, hg, hh, hnc, hmx, hs, ht⟩⟩ hl
theorem expL_take {l : List Rw} {k : Nat} {r : Rw} (h : l[k]? = some r) : expL (l.take (k + 1)) = expL (l.take k) ++ expR r := by
  rw [List.take_add_one, h, expL_app]
  simp [expL_one]
set_option maxHeartbeats 2000000 in
set_option maxRecDepth 100000 in
theorem rising_any (v : Value) (B : Nat) (l : List Rw) (ps : List Pr) (w : World) (ho : w.ownsRow B 189 3 v l.length (rowCells l)) (hl : l.length ≤ 1000000000) (hg : GoodL l) (hon : Once (expL l)) (hp : Rising ps) (hm : ∀ q, q ∈ expL l ↔ q ∈ ps) :
    Calls Tryz.prog 161 #[v] w fun e w' => ∃ (v' : Value) (out : List Rw), e = .returned v' ∧ w'.ownsRow w.heap.size 189 3 v' out.length (rowCells out) ∧ expL out = ps ∧ GoodL out ∧ w.grownBy w' v.ownBlock := by
  have HS := Lib.hid (sort_any v l.length B l w ho hl)
  obtain ⟨a, cap, rfl, _⟩ := own_rws ho
  have HP : Hid (∀ ss : List Rw, ss.Perm l → (ss.Pairwise fun a b => a.f ≤ b.f) → expL ss = ps ∧ GoodL ss ∧ ss.length = l.length) := fun ss h1 h2 => ⟨sorted_exp h1 hg hon h2 hp hm, perm_good h1 hg, h1.length_eq⟩
  clear ho hg hon hp hm
  go_enter Tryz.func161, Tryz.ntmps161
  go_wp2_with (go_at_call 193; refine HS.out.mono ?_; rintro e w1 ⟨rfl, ss, hpm, hsd, ho1, hg1⟩; obtain ⟨wm, hmk, hown, hgm⟩ := make_rows l.length hl w1)
  obtain ⟨p1, p2, p3⟩ := HP.out ss hpm hsd
  have hx1 : Ext w1 wm := (Ext.refl w1).grown hgm (.inl rfl)
  obtain ⟨a1, cap1, ea, hrw⟩ := own_rws ho1
  obtain ⟨rfl, rfl⟩ : a = a1 ∧ cap = cap1 := by simpa using ea
  have hrw : IsRws w1 a ss.length cap ss := by rw [p3]; exact hrw
  have ho0 := hown w1.heap.size (Nat.le_refl _)
  have H1 := Lib.hid p1
  have H2 := Lib.hid p2
  have H3 := Lib.hid p3
  have HG1 := Lib.hid hg1
  rw [← p3] at hl ho0 ⊢
  clear p1 p2 p3 hpm hsd ho1 hg1 hmk hown hgm HS HP ea
  go_loopw [3, 13] (fun v i wr => ∃ (k : Nat) (out : List Rw), k ≤ ss.length ∧ i = .int .i64 k ∧ wr.ownsRow w1.heap.size 189 3 v out.length (rowCells out) ∧ out.length ≤ k ∧ Hid (expL out = expL (ss.take k)) ∧ Hid (GoodL out) ∧ Ext w1 wr) (fun _ i _ => ss.length - (intOf i).toNat)
  case atStart => exact ⟨0, [], by omega, rfl, ho0, Nat.le_refl _, rfl, GoodL.nil, hx1⟩
  case round =>
    obtain ⟨k, out, hk, rfl, ho, hol, HE, HGO, hx⟩ := hrel
    clear ho0 hx1
    by_cases hlt : k < ss.length
    · obtain ⟨x, off, r, rfl, hxl, hr, hcell⟩ := rws_at hrw hlt
      obtain ⟨c0, c1, c2⟩ := hcell wr hx
      have hgr := H2.out r (List.mem_of_getElem? hr)
      have HT := Lib.hid (expL_take hr)
      have hsz := hx.size
      obtain ⟨rf, rt, rn⟩ := r
      have HA : Hid (∀ v', wr.ownsRow w1.heap.size 189 3 v' out.length (rowCells out) → Calls Tryz.prog 191 #[v', .agg #[.int .i64 rf, .int .i64 rt, .int .i64 rn]] (wr.alloc (.cells #[.int .i64 rf, .int .i64 rt, .int .i64 rn] 189)) (AddOut (wr.alloc (.cells #[.int .i64 rf, .int .i64 rt, .int .i64 rn] 189)) w1.heap.size v' out (expL out ++ expR ⟨rf, rt, rn⟩))) :=
        fun v' ho => add_any ⟨rf, rt, rn⟩ v' w1.heap.size out _ (ho.alloc _) (by simp; omega) hgr.good0 HGO.out (by omega)
      have HO := Lib.hid ho
      clear hcell hr hgr ho hsz
      go_wp2_with (go_at_call 191; refine (HA.out _ HO.out).mono ?_; rintro e w3 ⟨v3, out3, rfl, ho3, he3, hg3, hl3, hgr3, hf3⟩)
      have hxa := (hx.alloc (.cells #[.int .i64 rf, .int .i64 rt, .int .i64 rn] 189)).own_grown (HO.out.alloc _) (Nat.le_refl _) hgr3
      have HE3 := Lib.hid he3
      have HG3 := Lib.hid hg3
      clear he3 hg3 hf3 hgr3
      go_roundw
      case rel => exact ⟨k + 1, out3, by omega, by go_num, ho3, by omega, by show _ = _; rw [HE3.out, HE.out, HT.out], HG3, hxa⟩
      case measure => simp [intOf]; omega
    · have hkl : k = ss.length := by omega
      have he : expL out = ps := by have := HE.out; rw [hkl, List.take_length, H1.out] at this; exact this
      have HF := Lib.hid he
      clear he
      have hsz := HG1.out.size
      go_wp2
      go_ret
      exact ⟨_, out, rfl, own_base ho hsz, HF.out, HGO.out, HG1.out.trans' (hx.to_grown _)⟩
end Go.Proofs.YtndopjmdpmkgeaaGreatDoor

namespace Go.Proofs.YtndopjmdpmkgeaaGreatDoor
open Go Go.RowKit
set_option linter.unusedSimpArgs false
set_option linter.unusedVariables false

/-- A sign and its code, as a number. -/
def numZ (q : Pr) : Int := q.2 * 1048576 + q.1
/-- What one of numbers in order leaves: its sign and code, if its sign is another one than ahead of it. -/
def keepAt (zs : List Int) (i : Nat) : List Pr :=
  if i = 0 ∨ zs.getD (i - 1) 0 / 1048576 < zs.getD i 0 / 1048576 then [(zs.getD i 0 / 1048576, zs.getD i 0 % 1048576)] else []
def keepN (zs : List Int) (k : Nat) : List Pr := (List.range k).flatMap (keepAt zs)
theorem keepN_succ (zs : List Int) (k : Nat) : keepN zs (k + 1) = keepN zs k ++ keepAt zs k := by simp [keepN, List.range_succ]
/-- The signs of pairs, by rising signs, and the least code of each. -/
def RevOf (l g : List Pr) : Prop := Rising g ∧ ∀ p c : Int, (p, c) ∈ g ↔ (c, p) ∈ l ∧ ∀ c' : Int, (c', p) ∈ l → c ≤ c'
/-- All codes are below 2^20 and from 0 on, all signs from 0 on. -/
def Fit (l : List Pr) : Prop := ∀ q ∈ l, 0 ≤ q.1 ∧ q.1 < 1048576 ∧ 0 ≤ q.2 ∧ q.2 ≤ 1114111
theorem numZ_div {q : Pr} (h : 0 ≤ q.1 ∧ q.1 < 1048576) : numZ q / 1048576 = q.2 ∧ numZ q % 1048576 = q.1 := by
  unfold numZ
  omega
theorem mem_keepN {zs : List Int} {k : Nat} {q : Pr} : q ∈ keepN zs k ↔ ∃ i, i < k ∧ (i = 0 ∨ zs.getD (i - 1) 0 / 1048576 < zs.getD i 0 / 1048576) ∧ q = (zs.getD i 0 / 1048576, zs.getD i 0 % 1048576) := by
  unfold keepN
  rw [List.mem_flatMap]
  constructor
  · rintro ⟨i, hi, h⟩
    unfold keepAt at h
    split at h
    · exact ⟨i, List.mem_range.1 hi, by assumption, List.mem_singleton.1 h⟩
    · simp at h
  · rintro ⟨i, hi, h, rfl⟩
    refine ⟨i, List.mem_range.2 hi, ?_⟩
    unfold keepAt
    rw [if_pos h]
    simp
theorem getD_at {zs : List Int} {i : Nat} (h : i < zs.length) : zs.getD i 0 = zs[i] := by simp [List.getD, h]
theorem div_mono {a b : Int} (h : a ≤ b) : a / 1048576 ≤ b / 1048576 := by omega
theorem sorted_le {zs : List Int} (h : zs.Pairwise (· ≤ ·)) {i j : Nat} (hij : i ≤ j) (hj : j < zs.length) : zs.getD i 0 ≤ zs.getD j 0 := by
  rcases Nat.lt_or_eq_of_le hij with hlt | rfl
  · rw [getD_at hj, getD_at (by omega)]
    exact List.pairwise_iff_getElem.1 h i j (by omega) hj hlt
  · exact Int.le_refl _
theorem keep_rising {zs : List Int} (h : zs.Pairwise (· ≤ ·)) : ∀ k, k ≤ zs.length → Rising (keepN zs k)
  | 0, _ => Rising.nil
  | k + 1, hk => by
    rw [keepN_succ]
    refine List.pairwise_append.2 ⟨keep_rising h k (by omega), ?_, ?_⟩
    · unfold keepAt
      split
      · exact List.pairwise_singleton _ _
      · exact List.Pairwise.nil
    · intro a ha b hb
      obtain ⟨i, hi, _, rfl⟩ := mem_keepN.1 ha
      unfold keepAt at hb
      split at hb
      · rename_i hc
        obtain rfl := List.mem_singleton.1 hb
        show zs.getD i 0 / 1048576 < zs.getD k 0 / 1048576
        have h1 := div_mono (sorted_le h (i := i) (j := k - 1) (by omega) (by omega))
        rcases hc with hc | hc
        · omega
        · omega
      · simp at hb
/-- Of numbers in order that are the pairs', what is kept is the signs with their least codes. -/
theorem keep_rev {l : List Pr} {zs : List Int} (hf : Fit l) (hs : zs.Pairwise (· ≤ ·)) (hm : ∀ z, z ∈ zs ↔ ∃ q ∈ l, z = numZ q) : RevOf l (keepN zs zs.length) := by
  refine ⟨keep_rising hs _ (Nat.le_refl _), fun p c => ?_⟩
  rw [mem_keepN]
  constructor
  · rintro ⟨i, hi, hc, e⟩
    obtain ⟨q, hq, eq⟩ := (hm _).1 (List.getElem_mem hi)
    rw [← getD_at hi] at eq
    have hb := hf q hq
    have hd := numZ_div ⟨hb.1, hb.2.1⟩
    rw [eq, hd.1, hd.2] at e
    obtain ⟨rfl, rfl⟩ := Prod.mk.inj e
    refine ⟨hq, fun c' hc' => ?_⟩
    obtain ⟨j, hj, ej⟩ := List.getElem_of_mem ((hm _).2 ⟨(c', q.2), hc', rfl⟩)
    rw [← getD_at hj] at ej
    have hb2 := hf _ hc'
    simp only at hb2
    have hd2 := numZ_div (q := (c', q.2)) ⟨hb2.1, hb2.2.1⟩
    simp only at hd2
    by_cases hji : i ≤ j
    · have := sorted_le hs hji hj
      rw [ej, eq] at this
      unfold numZ at this
      simp only at this
      omega
    · exfalso
      rcases hc with hc | hc
      · omega
      · have h1 := div_mono (sorted_le hs (i := j) (j := i - 1) (by omega) (by omega))
        rw [ej, hd2.1] at h1
        rw [eq, hd.1] at hc
        omega
  · rintro ⟨hq, hle⟩
    have hb := hf _ hq
    simp only at hb
    have hd := numZ_div (q := (c, p)) ⟨hb.1, hb.2.1⟩
    simp only at hd
    -- the first place whose sign is p
    have hex : ∃ i, i < zs.length ∧ zs.getD i 0 / 1048576 = p := by
      obtain ⟨j, hj, ej⟩ := List.getElem_of_mem ((hm _).2 ⟨(c, p), hq, rfl⟩)
      exact ⟨j, hj, by rw [getD_at hj, ej]; exact hd.1⟩
    have hmin : ∀ n, (∃ i, i < n ∧ i < zs.length ∧ zs.getD i 0 / 1048576 = p) → ∃ i, i < zs.length ∧ zs.getD i 0 / 1048576 = p ∧ ∀ j, j < i → zs.getD j 0 / 1048576 ≠ p := by
      intro n
      induction n with
      | zero => rintro ⟨i, hi, _⟩; omega
      | succ n ih =>
        rintro ⟨i, hi, h1, h2⟩
        by_cases hh : ∃ i, i < n ∧ i < zs.length ∧ zs.getD i 0 / 1048576 = p
        · exact ih hh
        · have : i = n := by
            by_cases e : i = n
            · exact e
            · exact absurd ⟨i, by omega, h1, h2⟩ hh
          subst this
          exact ⟨i, h1, h2, fun j hj e => hh ⟨j, hj, by omega, e⟩⟩
    obtain ⟨i0, hi0, e0⟩ := hex
    obtain ⟨i, hi, h1, h2⟩ := hmin (i0 + 1) ⟨i0, by omega, hi0, e0⟩
    refine ⟨i, hi, ?_, ?_⟩
    · by_cases hz : i = 0
      · exact .inl hz
      · right
        have := div_mono (sorted_le hs (i := i - 1) (j := i) (by omega) hi)
        have := h2 (i - 1) (by omega)
        omega
    · obtain ⟨q, hql, eq⟩ := (hm _).1 (List.getElem_mem hi)
      rw [← getD_at hi] at eq
      have hb2 := hf q hql
      have hd2 := numZ_div ⟨hb2.1, hb2.2.1⟩
      have ep : q.2 = p := by rw [← h1, eq]; exact hd2.1.symm
      obtain ⟨j, hj, ej⟩ := List.getElem_of_mem ((hm _).2 ⟨(c, p), hq, rfl⟩)
      rw [← getD_at hj] at ej
      have hij : i ≤ j := by
        by_cases hh : i ≤ j
        · exact hh
        · exact absurd (by rw [ej]; exact hd.1) (h2 j (by omega))
      have hle2 := sorted_le hs hij hj
      rw [ej, eq] at hle2
      have h3 := hle q.1 (by rw [← ep]; exact hql)
      have h4 : c = q.1 := by
        unfold numZ at hle2
        simp only at hle2
        rw [ep] at hle2
        omega
      rw [eq, hd2.1, hd2.2, ep, h4]
theorem rev_fit {l g : List Pr} (h : RevOf l g) (hf : Fit l) : ∀ q ∈ g, 0 ≤ q.1 ∧ q.1 ≤ 1114111 ∧ 0 ≤ q.2 ∧ q.2 < 1048576 := by
  intro q hq
  have := hf _ ((h.2 q.1 q.2).1 hq).1
  simp only at this
  omega
end Go.Proofs.YtndopjmdpmkgeaaGreatDoor
namespace Go.Proofs.YtndopjmdpmkgeaaGreatDoor
open Go Go.ChangeShapes Go.WideShapes Go.ChangeAt Go.RowKit
open Go.Sort (PermIn SortedIn SWO grow putRow putCells mapBlock Holds)
set_option linter.unusedSimpArgs false
set_option linter.unusedVariables false

def intCells (zs : List Int) : List Value := zs.map (Value.int .i64)
theorem intCells_app (a b : List Int) : intCells (a ++ b) = intCells a ++ intCells b := by simp [intCells]
theorem intCells_len (a : List Int) : (intCells a).length = a.length := by simp [intCells]
theorem info_i64 : (Tryz.prog.info? 2).map (fun i => (i.zero, i.size, i.bytes)) = some (some (.int .i64 0), 1, 8) := by kernel_rfl
theorem info_parts_i64 : ∃ i, Tryz.prog.info? 2 = some i ∧ i.zero = some (.int .i64 0) ∧ i.size = 1 ∧ i.bytes = 8 := by
  obtain ⟨i, hi, h2⟩ := Option.map_eq_some_iff.1 info_i64
  obtain ⟨h3, h4⟩ := Prod.mk.inj h2
  obtain ⟨h5, h6⟩ := Prod.mk.inj h4
  exact ⟨i, hi, h3, h5, h6⟩
theorem make_i64 (k : Nat) (hk : k ≤ 1000000000) (w : World) : ∃ w', (Instr.makeSlice 222 (.int .i64 0) (.int .i64 (k : Int))).run Tryz.prog w = .ok (.slice (some ⟨w.heap.size, 0, none⟩) 0 k) w' ∧
    (∀ B, B ≤ w.heap.size → w'.ownsRow B 2 1 (.slice (some ⟨w.heap.size, 0, none⟩) 0 k) 0 []) ∧ w.grownBy w' none := by
  obtain ⟨i, hi, h3, h5, h6⟩ := info_parts_i64
  obtain ⟨w', h7, h8, h9⟩ := run_make_own (P := Tryz.prog) (w := w) w.heap.size 222 2 i (.int .i64 0) 1 Tryz.underlying222 hi h3 h5 .i64 .i64 k (by rw [h6]; omega) (by simp [maxLen]; omega) (Nat.le_refl _)
  exact ⟨w', h7, fun B hB => own_base h8 hB, h9⟩
theorem own1_len {w : World} {B : Nat} {v : Value} {n : Nat} {zs : List Int} (h : w.ownsRow B 2 1 v n (intCells zs)) : zs.length = n := by
  have := h.1
  rw [intCells_len] at this
  omega
theorem own1_free {w : World} {B g cap n : Nat} {xs : List Value} (ho : w.ownsRow B 2 1 (.slice (some ⟨g, 0, none⟩) n cap) n xs) (o : Nat) : w.frozen? ⟨g, o, none⟩ = false := by
  obtain ⟨hl, h | ⟨g2, cap2, cur, e, hg, hh, hn, hmx, hs, ht⟩⟩ := ho
  · cases h.1
  · obtain ⟨rfl, rfl⟩ : g = g2 ∧ cap = cap2 := by simpa using e
    simp [World.frozen?, hh]
/-- A list of numbers: none, or in memory. -/
def IsInts (w : World) (a : Option Addr) (len cap : Nat) (zs : List Int) : Prop :=
  zs.length = len ∧ (len = 0 ∨ ∃ (x off : Nat), a = some ⟨x, off, none⟩ ∧ len ≤ cap ∧ x < w.heap.size ∧ ∀ (j : Nat) z, zs[j]? = some z → w.cell? ⟨x, off + j, none⟩ = some (.int .i64 z))
theorem own_ints {w : World} {B : Nat} {v : Value} {n : Nat} {zs : List Int} (h : w.ownsRow B 2 1 v n (intCells zs)) : ∃ a cap, v = .slice a n cap ∧ IsInts w a n cap zs := by
  obtain ⟨hl, ⟨rfl, rfl⟩ | ⟨g, cap, cur, rfl, hg, hh, hn, hm, hs, ht⟩⟩ := h
  · exact ⟨none, 0, rfl, by simpa [intCells] using hl, .inl rfl⟩
  · have hbl : zs.length = n := by simpa [intCells] using hl
    refine ⟨some ⟨g, 0, none⟩, cap, rfl, hbl, .inr ⟨g, 0, rfl, hn, lt_of_block hh, fun j z hj => ?_⟩⟩
    have hjl : j < zs.length := (List.getElem?_eq_some_iff.1 hj).1
    have e1 : (intCells zs)[j]? = some (.int .i64 z) := by simp [intCells, hj]
    rw [← ht, List.getElem?_take, if_pos (by omega)] at e1
    have e2 : w.cell? ⟨g, 0 + j, none⟩ = cur.toList[j]? := by simp [World.cell?, hh]
    rw [e2, e1]
theorem ints_at {w : World} {a : Option Addr} {n cap : Nat} {zs : List Int} (h : IsInts w a n cap zs) (h0 : 0 < n) : ∃ x off, a = some ⟨x, off, none⟩ ∧ x < w.heap.size ∧ ∀ (j : Nat), j < n → ∀ w', Ext w w' → w'.cell? ⟨x, off + j, none⟩ = some (.int .i64 (zs.getD j 0)) := by
  obtain ⟨h1, h2⟩ := h
  rcases h2 with h2 | ⟨x, off, rfl, hc, hx, hcell⟩
  · omega
  · refine ⟨x, off, rfl, hx, fun j hj w' hxx => (World.cell?_of_block (hxx.block x hx)).trans (hcell j _ ?_)⟩
    rw [getD_at (by omega)]
    exact List.getElem?_eq_getElem _
theorem sorted_ints {w : World} {B g cap : Nat} {l ss : List Int} {n : Nat} (ho : w.ownsRow B 2 1 (.slice (some ⟨g, 0, none⟩) n cap) n (intCells l)) (hl : ss.length = l.length) (m : Nat) (os : Array Obj) :
    (grow (putRow (Value.int .i64) (Go.Sort.ahead w m) g 0 ss.toArray) os).ownsRow B 2 1 (.slice (some ⟨g, 0, none⟩) n cap) n (intCells ss) ∧ w.grownBy (grow (putRow (Value.int .i64) (Go.Sort.ahead w m) g 0 ss.toArray) os) (some g) := by
  have hn := own1_len ho
  obtain ⟨h1, h | ⟨g2, cap2, cur, e, hg, hh, hnc, hmx, hs, ht⟩⟩ := ho
  · cases h.1
  · obtain ⟨rfl, rfl⟩ : g = g2 ∧ cap = cap2 := by simpa using e
    have hlt := lt_of_block hh
    have hb : (grow (putRow (Value.int .i64) (Go.Sort.ahead w m) g 0 ss.toArray) os).heap[g]? = some (.cells (putCells (Value.int .i64) 0 ss.toArray cur) 2 (0, 0)) := by
      have h2 : (w.heap.modify g (Go.Sort.onCells (putCells (Value.int .i64) 0 ss.toArray)))[g]? = some (.cells (putCells (Value.int .i64) 0 ss.toArray cur) 2 (0, 0)) := by
        rw [Array.getElem?_modify, if_pos rfl, hh]
        rfl
      show ((w.heap.modify g (Go.Sort.onCells (putCells (Value.int .i64) 0 ss.toArray))) ++ os)[g]? = _
      rw [Array.getElem?_append_left (by simpa using hlt)]
      exact h2
    refine ⟨⟨by rw [intCells_len, hl, hn, Nat.mul_one], .inr ⟨g, cap, _, rfl, hg, hb, hnc, hmx, by simpa [putCells] using hs, ?_⟩⟩, ?_⟩
    · apply List.ext_getElem?
      intro t
      rw [List.getElem?_take]
      by_cases htt : t < n * 1
      · have htl : t < ss.length := by omega
        rw [if_pos htt, Array.getElem?_toList]
        unfold putCells
        rw [Array.getElem?_mapIdx, Array.getElem?_eq_getElem (xs := cur) (by omega), Option.map_some, if_pos ⟨by omega, by simp; omega⟩]
        rw [Nat.sub_zero, getElem!_pos _ t (by simpa using htl)]
        simp [intCells, htl]
      · rw [if_neg htt, List.getElem?_eq_none (by rw [intCells_len]; omega)]
    · refine ⟨rfl, rfl, rfl, ?_, fun k hk hne => ?_⟩
      · show w.heap.size ≤ ((w.heap.modify g _) ++ os).size
        simp
      · show ((w.heap.modify g _) ++ os)[k]? = _
        rw [Array.getElem?_append_left (by simpa using hk), Array.getElem?_modify, if_neg (by rintro rfl; exact hne rfl)]
theorem holds_ints {w : World} {B g cap : Nat} {l : List Int} {n : Nat} (ho : w.ownsRow B 2 1 (.slice (some ⟨g, 0, none⟩) n cap) n (intCells l)) : Holds (Value.int .i64) w g 0 l.toArray := by
  intro j hj
  have hj2 : j < l.length := by simpa using hj
  refine ⟨?_, own1_free ho _⟩
  have hc := ho.cells (g := g) rfl j (.int .i64 l[j]) (by simp [intCells, hj2])
  have e2 : (⟨g, 0, none⟩ : Addr).add j = ⟨g, 0 + j, none⟩ := by
    unfold Addr.add
    split <;> simp_all
  rw [e2] at hc
  rw [getElem!_pos _ j hj]
  exact hc
/-- The sort at a row of numbers of the call's own, also at none. -/
theorem sort64_any (v : Value) (n B : Nat) (l : List Int) (w : World) (ho : w.ownsRow B 2 1 v n (intCells l)) (hl : n ≤ 1000000000) :
    Calls Tryz.prog 213 #[v] w fun e w' => e = .returned (.tuple #[]) ∧ ∃ ss : List Int, ss.Perm l ∧ ss.Pairwise (· ≤ ·) ∧ w'.ownsRow B 2 1 v n (intCells ss) ∧ w.grownBy w' v.ownBlock := by
  have hn := own1_len ho
  obtain ⟨h1, ⟨rfl, rfl⟩ | ⟨g, cap, cur, rfl, hg, hh, hnc, hmx, hs, ht⟩⟩ := ho
  · obtain rfl := List.eq_nil_of_length_eq_zero hn
    refine (Tryz.slices_Sort_int_none none 0 w).mono ?_
    rintro e w' ⟨rfl, rfl⟩
    exact ⟨rfl, [], List.Perm.refl _, List.Pairwise.nil, World.ownsRow_nil _ _ _ _, rfl, rfl, rfl, Nat.le_refl _, fun _ _ _ => rfl⟩
  · have ho : w.ownsRow B 2 1 (.slice (some ⟨g, 0, none⟩) n cap) n (intCells l) := ⟨h1, .inr ⟨g, cap, cur, rfl, hg, hh, hnc, hmx, hs, ht⟩⟩
    have hcon := Tryz.slices_Sort_int g 0 cap l w (holds_ints ho) (lt_of_block hh) (by omega)
    rw [hn] at hcon
    refine hcon.mono ?_
    rintro e w' ⟨rfl, m, os, rfl⟩
    have hso := sorted_ints (ss := l.mergeSort fun x y => decide (x ≤ y)) ho (List.length_mergeSort l) m os
    refine ⟨rfl, _, List.mergeSort_perm l _, ?_, hso.1, hso.2⟩
    have := List.pairwise_mergeSort (le := fun x y : Int => decide (x ≤ y)) (fun a b c h1 h2 => by simp at *; omega) (fun a b => by simp; omega) l
    exact this.imp (fun h => by simpa using h)
end Go.Proofs.YtndopjmdpmkgeaaGreatDoor
namespace Go.Proofs.YtndopjmdpmkgeaaGreatDoor
open Go Go.ChangeShapes Go.WideShapes Go.ChangeAt Go.RowKit
set_option linter.unusedSimpArgs false
set_option linter.unusedVariables false

/-- The numbers of a row's first pairs. -/
def numsR (r : Rw) (j : Nat) : List Int := (pairsN r.f (fun (i : Nat) => r.t + (i : Int)) j).map numZ
theorem numsR_succ (r : Rw) (j : Nat) : numsR r (j + 1) = numsR r j ++ [(r.t + (j : Int)) * 1048576 + (r.f + (j : Int))] := by
  unfold numsR
  rw [pairsN_succ, List.map_append]
  rfl
theorem numsR_len (r : Rw) (j : Nat) : (numsR r j).length = j := by simp [numsR, pairsN_len]
set_option maxHeartbeats 4000000 in
set_option maxRecDepth 100000 in
theorem turned_any (a : Option Addr) (cap : Nat) (l : List Rw) (w : World) (h : IsRws w a l.length cap l) (hg : GoodL l) (hf : Fit (expL l)) (hl : tot l ≤ 100000000) :
    Calls Tryz.prog 192 #[.slice a l.length cap] w fun e w' => ∃ (v' : Value) (out : List Rw), e = .returned v' ∧ w'.ownsRow w.heap.size 189 3 v' out.length (rowCells out) ∧ GoodL out ∧ RevOf (expL l) (expL out) ∧ out.length ≤ 100000000 ∧ Ext w w' := by
  have hll : l.length ≤ 100000000 := Nat.le_trans (rows_le hg) hl
  have HG := Lib.hid hg
  have HL := Lib.hid hl
  have HF := Lib.hid hf
  have HT := Lib.hid (fun w' (k : Ext w w') => total_any a cap l w' (h.ext k) hg (by omega))
  obtain ⟨nt, hnt⟩ : ∃ nt, nt = tot l := ⟨_, rfl⟩
  rw [← hnt] at HT hl
  have HNT := Lib.hid hnt
  clear hg hf hnt
  go_enter Tryz.func192, Tryz.ntmps192
  go_wp2_with (go_at_call 171; refine (HT.out _ (Ext.refl _)).mono ?_; rintro e w1 ⟨rfl, hb1⟩; obtain ⟨wm, hmk, hown, hgm⟩ := make_i64 nt (by omega) w1)
  have hx1 : Ext w1 wm := (Ext.refl w1).grown hgm (.inl rfl)
  have ho0 := hown w1.heap.size (Nat.le_refl _)
  have hh := h.ext hb1
  have HB1 := Lib.hid hb1
  clear hmk hown hgm hb1 h HT
  obtain ⟨i1, hj, hj0, hj1, hj2⟩ := info_parts_i64
  go_loopw [3, 15] (fun v i wr => ∃ (k : Nat) (zs : List Int), k ≤ l.length ∧ i = .int .i64 k ∧ wr.ownsRow w1.heap.size 2 1 v zs.length (intCells zs) ∧ Hid (zs = (expL (l.take k)).map numZ) ∧ Ext w1 wr) (fun _ i _ => l.length - (intOf i).toNat)
  case atStart => exact ⟨0, [], by omega, rfl, ho0, rfl, hx1⟩
  case round =>
    obtain ⟨k, zs, hk, rfl, ho, HZ, hx⟩ := hrel
    clear ho0 hx1
    by_cases hlt : k < l.length
    · obtain ⟨x, off, r, rfl, hxl, hr, hcell⟩ := rws_at hh hlt
      obtain ⟨c0, c1, c2⟩ := hcell wr hx
      have hgr := HG.out r (List.mem_of_getElem? hr)
      have HTK := Lib.hid (expL_take hr)
      have htk := tot_take hr
      have htl := tot_take_le l (k + 1)
      obtain ⟨rf, rt, rn⟩ := r
      unfold GoodR at hgr
      obtain ⟨g0, g1, g2, g3, g4⟩ := hgr
      simp only at c0 c1 c2 g0 g1 g2 g3 g4
      have ht1 := tot_one (r := ⟨rf, rt, rn⟩) (by show 0 ≤ rn; omega)
      have ht1 : (tot [(⟨rf, rt, rn⟩ : Rw)] : Int) = rn := ht1
      have hzl : zs.length = tot (l.take k) := by rw [HZ.out, List.length_map]; rfl
      have hl2 := HL.out
      obtain ⟨n, rfl⟩ : ∃ n : Nat, rn = (n : Int) := ⟨tot [⟨rf, rt, rn⟩], ht1.symm⟩
      have hzn : zs.length + n ≤ 100000000 := by omega
      clear hcell hr htk htl ht1 hzl hl2
      go_wp2
      have hsz := hx.size
      have hxo := hx.alloc (.cells #[.int .i64 rf, .int .i64 rt, .int .i64 (n : Int)] 189)
      have hbox := heap_alloc_new wr (.cells #[.int .i64 rf, .int .i64 rt, .int .i64 (n : Int)] 189)
      have hoo := ho.alloc (.cells #[.int .i64 rf, .int .i64 rt, .int .i64 (n : Int)] 189)
      have hnb : ∀ g, (_ : Value).ownBlock = some g → g < wr.heap.size := fun g hg => (ho.lt g hg).2
      obtain ⟨b, hb⟩ : ∃ b, b = wr.heap.size := ⟨_, rfl⟩
      rw [← hb] at hbox hnb ⊢
      generalize wr.alloc (.cells #[.int .i64 rf, .int .i64 rt, .int .i64 (n : Int)] 189) = wo at hxo hbox hoo ⊢
      clear ho hb c0 c1 c2
      go_loopw [3, 21] (fun v i wi => ∃ (j : Nat), j ≤ n ∧ i = .int .i64 j ∧ wi.ownsRow w1.heap.size 2 1 v (zs.length + j) (intCells (zs ++ numsR ⟨rf, rt, n⟩ j)) ∧ Hid (v.ownBlock ≠ some b) ∧ Hid (wi.heap[b]? = some (.cells #[.int .i64 rf, .int .i64 rt, .int .i64 (n : Int)] 189 (0, 0))) ∧ Ext w1 wi) (fun _ i _ => n - (intOf i).toNat)
      case atStart => exact ⟨0, by omega, rfl, by simpa [numsR, pairsN] using hoo, fun e => Nat.lt_irrefl _ (hnb b e), hbox, hxo⟩
      case round =>
        obtain ⟨j, hjn, rfl, ho, HN, HB, hxi⟩ := hrel
        clear hoo hbox hxo hnb
        have hszi := hxi.size
        by_cases hlt2 : j < n
        · obtain ⟨d0, d1, d2⟩ := cells_three HB.out
          have hblt := lt_of_block HB.out
          go_wp2_with ((at_builtin; refine wpList_append_fresh _ rfl _ _ 222 rfl (w1.heap.size) 2 i1 (.int .i64 0) 1 8 Tryz.underlying222 hj hj0 hj1 hj2 rfl (by decide) _ _ _ rfl (ho.alloc _) ⟨wr.heap.size, 0, none⟩ 1 1 [.int .i64 ((rt + (j : Int)) * 1048576 + (rf + (j : Int)))] rfl rfl (cell_one_new _ _ _) (fun x hx => by simp at hx; subst hx; rfl) (by unfold maxLen; omega) (by omega) (by simp; omega) ?_; intro v5 w5 hown5 hgrow5 hfresh5))
          have hx5 := (hxi.alloc (.cells #[.int .i64 ((rt + (j : Int)) * 1048576 + (rf + (j : Int)))] 2)).own_grown (ho.alloc _) (Nat.le_refl _) hgrow5
          have HB5 : Hid (w5.heap[b]? = some (.cells #[.int .i64 rf, .int .i64 rt, .int .i64 (n : Int)] 189 (0, 0))) := by
            show _ = _
            rw [hgrow5.block b (by simp; omega) (fun e => HN.out e.symm), Below.heap_alloc _ _ _ hblt]
            exact HB.out
          have HN5 : Hid (v5.ownBlock ≠ some b) := by
            show _ ≠ _
            rcases hfresh5 with e | e
            · rw [e]
              exact HN.out
            · rw [e]
              intro e2
              injection e2 with e2
              simp at e2
              omega
          clear hgrow5 hfresh5 d0 d1 d2
          go_roundw
          case rel =>
            refine ⟨j + 1, by omega, by go_num, ?_, HN5, HB5, hx5⟩
            rw [numsR_succ, ← List.append_assoc, intCells_app]
            exact hown5
          case measure => simp [intOf]; omega
        · have hjn2 : j = n := by omega
          subst hjn2
          have hzz : zs ++ numsR ⟨rf, rt, j⟩ j = (expL (l.take (k + 1))).map numZ := by
            rw [HTK.out, List.map_append, ← HZ.out]
            congr 1
          have hlz : zs.length + j = (zs ++ numsR ⟨rf, rt, j⟩ j).length := by rw [List.length_append, numsR_len]
          have HZZ := Lib.hid hzz
          rw [hlz] at ho
          clear hzz hlz
          go_wp2
          go_roundw
          case rel => exact ⟨k + 1, zs ++ numsR ⟨rf, rt, j⟩ j, by omega, by go_num, ho, HZZ, hxi⟩
          case measure => simp [intOf]; omega
    · have hkl : k = l.length := by omega
      have hze : zs = (expL l).map numZ := by have := HZ.out; rw [hkl, List.take_length] at this; exact this
      have hzl : zs.length = nt := by rw [hze, List.length_map, HNT.out]; rfl
      have HSO := Lib.hid (sort64_any _ zs.length w1.heap.size zs wr ho (by omega))
      obtain ⟨a2, cap2, rfl, _⟩ := own_ints ho
      have HKS : Hid (∀ ss : List Int, ss.Perm zs → ss.Pairwise (· ≤ ·) → RevOf (expL l) (keepN ss ss.length) ∧ (∀ z ∈ ss, 0 ≤ z ∧ z / 1048576 ≤ 1114111) ∧ ss.length = zs.length) := by
        intro ss h1 h2
        have hm : ∀ z, z ∈ ss ↔ ∃ q ∈ expL l, z = numZ q := by
          intro z
          rw [h1.mem_iff, hze, List.mem_map]
          exact ⟨fun ⟨q, hq, e⟩ => ⟨q, hq, e.symm⟩, fun ⟨q, hq, e⟩ => ⟨q, hq, e.symm⟩⟩
        refine ⟨keep_rev HF.out h2 hm, fun z hz => ?_, h1.length_eq⟩
        obtain ⟨q, hq, rfl⟩ := (hm z).1 hz
        have := HF.out q hq
        have h3 := numZ_div ⟨this.1, this.2.1⟩
        rw [h3.1]
        unfold numZ
        omega
      clear hze hkl HZ
      have hzb : zs.length ≤ 100000000 := by omega
      clear hzl
      go_wp2_with (go_at_call 213; refine HSO.out.mono ?_; rintro e w2 ⟨rfl, ss, hpm, hsd, ho2, hg2⟩)
      obtain ⟨q1, q2, q3⟩ := HKS.out ss hpm hsd
      have HQ1 := Lib.hid q1
      have HQ2 := Lib.hid q2
      obtain ⟨a3, cap3, ea, hrw⟩ := own_ints ho2
      obtain ⟨rfl, rfl⟩ : a2 = a3 ∧ cap2 = cap3 := by simpa using ea
      rw [← q3] at hrw hzb ⊢
      have HX2 : Hid (Ext w w2) := HB1.out.trans (hx.own_grown ho (Nat.le_refl _) hg2)
      obtain ⟨B, hB⟩ : ∃ B, B = w2.heap.size := ⟨_, rfl⟩
      have hx2 := Ext.refl w2
      have ho4 := World.ownsRow_nil w2 B 189 3
      have hBB : w2.heap.size ≤ B := by omega
      have HBB := Lib.hid hB
      clear q1 q2 q3 hpm hsd ho ho2 hg2 ea HKS HSO hx hB HF
      generalize ss.length = m at hrw hzb HQ1 ⊢
      go_loopw [7, 43] (fun v i wr => ∃ (k : Nat) (out : List Rw), k ≤ m ∧ i = .int .i64 k ∧ wr.ownsRow B 189 3 v out.length (rowCells out) ∧ out.length ≤ k ∧ Hid (expL out = keepN ss k) ∧ Hid (GoodL out) ∧ Ext w2 wr) (fun _ i _ => m - (intOf i).toNat)
      case atStart => exact ⟨0, [], by omega, rfl, ho4, Nat.le_refl _, rfl, GoodL.nil, hx2⟩
      case round =>
        obtain ⟨k, out, hk, rfl, ho, hol, HE, HGO, hx⟩ := hrel
        clear ho4 hx2
        have hsz := hx.size
        have hBw : B ≤ wr.heap.size := by have := HBB.out; omega
        by_cases hlt : k < m
        · obtain ⟨x, off, rfl, hxl, hcell⟩ := ints_at hrw (by omega)
          have hk1 : k + 1 ≤ m := hlt
          have hml : ss.length = m := hrw.1
          have hz := HQ2.out (ss.getD k 0) (by rw [getD_at (by omega)]; exact List.getElem_mem _)
          have hc := hcell k hlt wr hx
          have hcp : ∀ k', k = k' + 1 → wr.cell? ⟨x, off + k', none⟩ = some (.int .i64 (ss.getD k' 0)) ∧ 0 ≤ ss.getD k' 0 ∧ ss.getD k' 0 / 1048576 ≤ 1114111 := fun k' e => ⟨hcell k' (by omega) wr hx, HQ2.out (ss.getD k' 0) (by rw [getD_at (by omega)]; exact List.getElem_mem _)⟩
          have HKE : Hid (keepN ss (k + 1) = keepN ss k ++ keepAt ss k) := keepN_succ ss k
          have HO := Lib.hid ho
          have HML := Lib.hid hml
          have HCP := Lib.hid hcp
          clear hcell ho hml hcp hrw
          by_cases hyes : k = 0 ∨ ss.getD (k - 1) 0 / 1048576 < ss.getD k 0 / 1048576
          · have hke : keepAt ss k = [(ss.getD k 0 / 1048576, ss.getD k 0 % 1048576)] := by unfold keepAt; rw [if_pos hyes]
            obtain ⟨z, hzz⟩ : ∃ z, ss.getD k 0 = z := ⟨_, rfl⟩
            rw [hzz] at hke hz hc
            have HA : Hid (∀ v', wr.ownsRow B 189 3 v' out.length (rowCells out) → Calls Tryz.prog 191 #[v', .agg #[.int .i64 (z / 1048576), .int .i64 (z % 1048576), .int .i64 1]] wr (AddOut wr B v' out (expL out ++ expR ⟨z / 1048576, z % 1048576, 1⟩))) :=
              fun v' ho => add_any ⟨z / 1048576, z % 1048576, 1⟩ v' B out _ ho hBw (by unfold Good0; simp only; omega) HGO.out (by omega)
            have HK : Hid (expL out ++ expR ⟨z / 1048576, z % 1048576, 1⟩ = keepN ss (k + 1)) := by
              show _ = _
              rw [HKE.out, hke, HE.out]
              congr 1
              simp [expR, pairsN]
            obtain ⟨hz0, hz1⟩ := hz
            by_cases hk0 : k = 0
            · subst hk0
              rw [Nat.add_zero] at hc
              clear hke hyes hzz HKE HCP
              go_wp2_with (go_at_call 191; refine (HA.out _ HO.out).mono ?_; rintro e w3 ⟨v3, out3, rfl, ho3, he3, hg3, hl3, hgr3, hf3⟩)
              have hxa := hx.own_grown HO.out hBB hgr3
              have HE3 := Lib.hid he3
              have HG3 := Lib.hid hg3
              clear he3 hg3 hf3 hgr3
              go_roundw
              case rel => exact ⟨_, out3, hk1, by go_num, ho3, by omega, by show _ = _; rw [HE3.out, HK.out], HG3, hxa⟩
              case measure => simp [intOf]; omega
            · obtain ⟨k', rfl⟩ : ∃ k', k = k' + 1 := ⟨k - 1, by omega⟩
              have hy : ss.getD k' 0 / 1048576 < z / 1048576 := by
                rcases hyes with h | h
                · omega
                · rw [hzz] at h
                  simpa using h
              obtain ⟨hcy, hy0, hy1⟩ := HCP.out k' rfl
              generalize ss.getD k' 0 = y at hy hcy hy0 hy1
              clear hke hyes hzz HKE HCP hk0
              go_wp2_with (go_at_call 191; refine (HA.out _ HO.out).mono ?_; rintro e w3 ⟨v3, out3, rfl, ho3, he3, hg3, hl3, hgr3, hf3⟩)
              have hxa := hx.own_grown HO.out hBB hgr3
              have HE3 := Lib.hid he3
              have HG3 := Lib.hid hg3
              clear he3 hg3 hf3 hgr3
              go_roundw
              case rel => exact ⟨_, out3, hk1, by go_num, ho3, by omega, by show _ = _; rw [HE3.out, HK.out], HG3, hxa⟩
              case measure => simp [intOf]; omega
          · have hke : keepAt ss k = [] := by unfold keepAt; rw [if_neg hyes]
            have HK : Hid (expL out = keepN ss (k + 1)) := by
              show _ = _
              rw [HKE.out, hke, HE.out, List.append_nil]
            obtain ⟨k', rfl⟩ : ∃ k', k = k' + 1 := ⟨k - 1, by omega⟩
            have hy : ¬ ss.getD k' 0 / 1048576 < ss.getD (k' + 1) 0 / 1048576 := fun h => hyes (.inr (by simpa using h))
            obtain ⟨hcy, hy0, hy1⟩ := HCP.out k' rfl
            generalize ss.getD k' 0 = y at hy hcy hy0 hy1
            generalize ss.getD (k' + 1) 0 = z at hy hc hz
            obtain ⟨hz0, hz1⟩ := hz
            have hkb : ((k' : Int) + 1 == 0) = false := beq_false_of_ne (by omega)
            clear hke hyes HKE HCP
            go_wp2
            go_roundw
            case rel => exact ⟨_, out, hk1, by go_num, HO.out, by omega, HK, HGO, hx⟩
            case measure => simp [intOf]; omega
        · have hkm : k = m := by omega
          have HE2 : Hid (RevOf (expL l) (expL out)) := by
            show RevOf _ _
            rw [HE.out, hkm]
            exact HQ1.out
          go_wp2
          go_ret
          exact ⟨_, out, rfl, own_base ho (by have := HX2.out.size; have := HBB.out; omega), HGO.out, HE2.out, by omega, HX2.out.trans hx⟩
end Go.Proofs.YtndopjmdpmkgeaaGreatDoor

