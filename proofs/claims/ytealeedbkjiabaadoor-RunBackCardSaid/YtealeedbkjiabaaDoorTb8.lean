/-
  Rows put in order, and those that go on with one another made one.
-/
import Derived.Test.YtealeedbkjiabaaDoorTb7
namespace Go.Proofs.YtealeedbkjiabaaDoor
open Go Go.ChangeShapes Go.WideShapes Go.ChangeAt Go.RowKit
set_option linter.unusedSimpArgs false
set_option linter.unusedVariables false

theorem make_rows (k : Nat) (hk : k ≤ 1000000000) (w : World) : ∃ w', (Instr.makeSlice 25 (.int .i64 0) (.int .i64 (k : Int))).run Tryd.prog w = .ok (.slice (some ⟨w.heap.size, 0, none⟩) 0 k) w' ∧
    (∀ B, B ≤ w.heap.size → w'.ownsRow B 90 3 (.slice (some ⟨w.heap.size, 0, none⟩) 0 k) 0 []) ∧ w.grownBy w' none := by
  obtain ⟨i, hi, h3, h5, h6⟩ := info_parts_row
  obtain ⟨w', h7, h8, h9⟩ := run_make_own (P := Tryd.prog) (w := w) w.heap.size 25 90 i (.agg #[.int .i64 0, .int .i64 0, .int .i64 0]) 3 Tryd.underlying25 hi h3 h5 .i64 .i64 k (by rw [h6]; omega) (by simp [maxLen]; omega) (Nat.le_refl _)
  refine ⟨w', h7, fun B hB => ?_, h9⟩
  obtain ⟨a, b⟩ := h8
  refine ⟨a, ?_⟩
  rcases b with b | ⟨g, cap, cur, e1, e2, r⟩
  · exact .inl b
  · exact .inr ⟨g, cap, cur, e1, by omega, r⟩
/-- The sort at a row of the call's own, also at none. -/
theorem sort_any (v : Value) (n B : Nat) (l : List Rw) (w : World) (ho : w.ownsRow B 90 3 v n (rowCells l)) (hl : n ≤ 1000000000) :
    Calls Tryd.prog 66 #[v, .func (.func 67) #[] #[]] w fun e w' => e = .returned (.tuple #[]) ∧ ∃ ss : List Rw, ss.Perm l ∧ (ss.Pairwise fun a b => a.f ≤ b.f) ∧ w'.ownsRow B 90 3 v n (rowCells ss) ∧ w.grownBy w' v.ownBlock := by
  have hn := own_len ho
  obtain ⟨h1, ⟨rfl, rfl⟩ | ⟨g, cap, cur, rfl, hg, hh, hnc, hmx, hs, ht⟩⟩ := ho
  · obtain rfl := List.eq_nil_of_length_eq_zero hn
    refine (Tryd.sortRow_none none 0 _ w).mono ?_
    rintro e w' ⟨rfl, rfl⟩
    exact ⟨rfl, [], List.Perm.refl _, List.Pairwise.nil, World.ownsRow_nil _ _ _ _, rfl, rfl, rfl, Nat.le_refl _, fun _ _ _ => rfl⟩
  · exact sort_some g cap n B l w ⟨h1, .inr ⟨g, cap, cur, rfl, hg, hh, hnc, hmx, hs, ht⟩⟩ hl
theorem own_base {w : World} {B C : Nat} {e : TypeId} {size : Nat} {v : Value} {n : Nat} {xs : List Value} (h : w.ownsRow B e size v n xs) (hC : C ≤ B) : w.ownsRow C e size v n xs := by
  obtain ⟨a, b | ⟨g, cap, cur, e1, e2, r⟩⟩ := h
  · exact ⟨a, .inl b⟩
  · exact ⟨a, .inr ⟨g, cap, cur, e1, by omega, r⟩⟩
theorem expL_take {l : List Rw} {k : Nat} {r : Rw} (h : l[k]? = some r) : expL (l.take (k + 1)) = expL (l.take k) ++ expR r := by
  rw [List.take_add_one, h, expL_app]
  simp [expL_one]
set_option maxHeartbeats 2000000 in
set_option maxRecDepth 100000 in
theorem rising_any (v : Value) (B : Nat) (l : List Rw) (ps : List Pr) (w : World) (ho : w.ownsRow B 90 3 v l.length (rowCells l)) (hl : l.length ≤ 1000000000) (hg : GoodL l) (hon : Once (expL l)) (hp : Rising ps) (hm : ∀ q, q ∈ expL l ↔ q ∈ ps) :
    Calls Tryd.prog 41 #[v] w fun e w' => ∃ (v' : Value) (out : List Rw), e = .returned v' ∧ w'.ownsRow w.heap.size 90 3 v' out.length (rowCells out) ∧ expL out = ps ∧ GoodL out ∧ w.grownBy w' v.ownBlock := by
  have HS := Lib.hid (sort_any v l.length B l w ho hl)
  obtain ⟨a, cap, rfl, _⟩ := own_rws ho
  have HP : Hid (∀ ss : List Rw, ss.Perm l → (ss.Pairwise fun a b => a.f ≤ b.f) → expL ss = ps ∧ GoodL ss ∧ ss.length = l.length) := fun ss h1 h2 => ⟨sorted_exp h1 hg hon h2 hp hm, perm_good h1 hg, h1.length_eq⟩
  clear ho hg hon hp hm
  go_enter Tryd.func41, Tryd.ntmps41
  go_wp2_with (go_at_call 66; refine HS.out.mono ?_; rintro e w1 ⟨rfl, ss, hpm, hsd, ho1, hg1⟩; obtain ⟨wm, hmk, hown, hgm⟩ := make_rows l.length hl w1)
  obtain ⟨p1, p2, p3⟩ := HP.out ss hpm hsd
  have hx1 : Ext w1 wm := (Ext.refl w1).grown hgm (.inl rfl)
  obtain ⟨a1, cap1, ea, hrw⟩ := own_rws ho1
  obtain ⟨rfl, rfl⟩ : a = a1 ∧ cap = cap1 := by simpa using ea
  have hrw : IsRws w1 a ss.length cap ss := by rw [p3]; exact hrw
  have ho0 := hown w1.heap.size (Nat.le_refl _)
  have H1 := Lib.hid p1
  have H2 := Lib.hid p2
  have H3 := Lib.hid p3
  have HG1 := Lib.hid hg1
  rw [← p3] at hl ho0 ⊢
  clear p1 p2 p3 hpm hsd ho1 hg1 hmk hown hgm HS HP ea
  go_loopw [3, 13] (fun v i wr => ∃ (k : Nat) (out : List Rw), k ≤ ss.length ∧ i = .int .i64 k ∧ wr.ownsRow w1.heap.size 90 3 v out.length (rowCells out) ∧ out.length ≤ k ∧ Hid (expL out = expL (ss.take k)) ∧ Hid (GoodL out) ∧ Ext w1 wr) (fun _ i _ => ss.length - (intOf i).toNat)
  case atStart => exact ⟨0, [], by omega, rfl, ho0, Nat.le_refl _, rfl, GoodL.nil, hx1⟩
  case round =>
    obtain ⟨k, out, hk, rfl, ho, hol, HE, HGO, hx⟩ := hrel
    clear ho0 hx1
    by_cases hlt : k < ss.length
    · obtain ⟨x, off, r, rfl, hxl, hr, hcell⟩ := rws_at hrw hlt
      obtain ⟨c0, c1, c2⟩ := hcell wr hx
      have hgr := H2.out r (List.mem_of_getElem? hr)
      have HT := Lib.hid (expL_take hr)
      have hsz := hx.size
      obtain ⟨rf, rt, rn⟩ := r
      have HA : Hid (∀ v', wr.ownsRow w1.heap.size 90 3 v' out.length (rowCells out) → Calls Tryd.prog 64 #[v', .agg #[.int .i64 rf, .int .i64 rt, .int .i64 rn]] (wr.alloc (.cells #[.int .i64 rf, .int .i64 rt, .int .i64 rn] 90)) (AddOut (wr.alloc (.cells #[.int .i64 rf, .int .i64 rt, .int .i64 rn] 90)) w1.heap.size v' out (expL out ++ expR ⟨rf, rt, rn⟩))) :=
        fun v' ho => add_any ⟨rf, rt, rn⟩ v' w1.heap.size out _ (ho.alloc _) (by simp; omega) hgr.good0 HGO.out (by omega)
      have HO := Lib.hid ho
      clear hcell hr hgr ho hsz
      go_wp2_with (go_at_call 64; refine (HA.out _ HO.out).mono ?_; rintro e w3 ⟨v3, out3, rfl, ho3, he3, hg3, hl3, hgr3, hf3⟩)
      have hxa := (hx.alloc (.cells #[.int .i64 rf, .int .i64 rt, .int .i64 rn] 90)).own_grown (HO.out.alloc _) (Nat.le_refl _) hgr3
      have HE3 := Lib.hid he3
      have HG3 := Lib.hid hg3
      clear he3 hg3 hf3 hgr3
      go_roundw
      case rel => exact ⟨k + 1, out3, by omega, by go_num, ho3, by omega, by show _ = _; rw [HE3.out, HE.out, HT.out], HG3, hxa⟩
      case measure => simp [intOf]; omega
    · have hkl : k = ss.length := by omega
      have he : expL out = ps := by have := HE.out; rw [hkl, List.take_length, H1.out] at this; exact this
      have HF := Lib.hid he
      clear he
      have hsz := HG1.out.size
      go_wp2
      go_ret
      exact ⟨_, out, rfl, own_base ho hsz, HF.out, HGO.out, HG1.out.trans' (hx.to_grown _)⟩
end Go.Proofs.YtealeedbkjiabaaDoor
