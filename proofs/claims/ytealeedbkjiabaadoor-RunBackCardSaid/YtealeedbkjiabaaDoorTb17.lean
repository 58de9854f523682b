/-
  A piece: how many codes, whether it may be, its rows.
-/
import Derived.Test.YtealeedbkjiabaaDoorTb16
namespace Go.Proofs.YtealeedbkjiabaaDoor
open Go Go.ChangeShapes Go.WideShapes Go.ChangeAt Go.RowKit
set_option linter.unusedSimpArgs false
set_option linter.unusedVariables false

theorem sgn_pos {x : ByteArray} (h : x.data.toList ≠ []) : 1 ≤ (sgn x).length := by
  unfold sgn
  rw [runesL_step _ h, List.length_cons]
  omega
theorem count_ok (x : ByteArray) (w : World) (hT : Tabs w) (hx : x.size ≤ 1000000) (hb : badS x < 0) : Calls Tryd.prog 57 #[.string x] w fun e w' => e = .returned (.int .i64 (sgn x).length) ∧ Ext w w' := by
  have := count_yes x w hT (by omega) (by rw [validS_eq]; exact decide_eq_true hb)
  rwa [runeCount_eq] at this
theorem count_bad (x : ByteArray) (w : World) (hT : Tabs w) (hx : x.size ≤ 1000000) (hb : ¬ badS x < 0) : Calls Tryd.prog 57 #[.string x] w fun e w' => e = .returned (.int .i64 ((0 : Nat) : Int)) ∧ Ext w w' :=
  count_no x w hT (by omega) (by rw [validS_eq]; exact decide_eq_false hb)
theorem piece_size_no (f t c : Int) (x : ByteArray) (w : World) (hT : Tabs w) (hf : f ≤ 9223372036854775807) (hx : x.size ≤ 1000000) (h : pieceP f t c x = none) :
    Calls Tryd.prog 37 #[.agg #[.int .i64 f, .int .i32 t, .int .i64 c, .string x]] w fun e w' => (∃ n : Int, e = .returned (.tuple #[.int .i64 n, .bool false])) ∧ Ext w w' := by
  unfold pieceP at h
  split at h
  · rename_i he
    have e : x = ⟨#[]⟩ := bytes_inj he
    subst e
    split at h
    · rename_i hn
      by_cases h1 : f < 0 ∨ c < 1 ∨ 1048576 - f < c
      · exact (size_plain_no f t c w hf h1).mono fun e w' ⟨h2, h3⟩ => ⟨⟨_, h2⟩, h3⟩
      · simp only [not_or] at h1
        obtain ⟨n, rfl⟩ := Int.eq_ofNat_of_zero_le (show 0 ≤ c by omega)
        have hz : runZ t n = false := by
          cases hr : runZ t n with
          | false => rfl
          | true =>
            have := (runZ_iff (show 1 ≤ n by omega)).1 hr
            rcases hn with hn | hn | hn | hn | hn | hn | hn
            · omega
            · omega
            · omega
            · omega
            · rw [hn] at this; cases this.1
            · rw [hn] at this; cases this.2.1
            · exact absurd hn this.2.2
        have := size_plain f t n w (by omega) (by omega) (by omega)
        rw [hz] at this
        exact this.mono fun e w' ⟨h2, h3⟩ => ⟨⟨_, h2⟩, h3⟩
    · cases h
  · rename_i he
    split at h
    · rename_i hn
      by_cases hb : badS x < 0
      · have hd : decide (0 ≤ f ∧ 1 ≤ (((sgn x).length : Nat) : Int) ∧ (((sgn x).length : Nat) : Int) ≤ 1048576 - f) = false := decide_eq_false (by
          rcases hn with hn | hn | hn
          · exact absurd hb hn
          · omega
          · omega)
        have := size_text f t c x (sgn x).length w hf hT he (fun w hT => count_ok x w hT hx hb)
        rw [hd] at this
        exact this.mono fun e w' ⟨h2, h3⟩ => ⟨⟨_, h2⟩, h3⟩
      · have hd : decide (0 ≤ f ∧ 1 ≤ ((0 : Nat) : Int) ∧ ((0 : Nat) : Int) ≤ 1048576 - f) = false := decide_eq_false (by omega)
        have := size_text f t c x 0 w hf hT he (fun w hT => count_bad x w hT hx hb)
        rw [hd] at this
        exact this.mono fun e w' ⟨h2, h3⟩ => ⟨⟨_, h2⟩, h3⟩
    · cases h
theorem piece_size_yes (f t c : Int) (x : ByteArray) (more : List Pr) (w : World) (hT : Tabs w) (hf : f ≤ 9223372036854775807) (hx : x.size ≤ 1000000) (h : pieceP f t c x = some more) :
    Calls Tryd.prog 37 #[.agg #[.int .i64 f, .int .i32 t, .int .i64 c, .string x]] w fun e w' => e = .returned (.tuple #[.int .i64 more.length, .bool true]) ∧ Ext w w' := by
  unfold pieceP at h
  split at h
  · rename_i he
    have e : x = ⟨#[]⟩ := bytes_inj he
    subst e
    split at h
    · cases h
    · rename_i hn
      have := Option.some.inj h
      subst this
      simp only [not_or, Bool.not_eq_false] at hn
      obtain ⟨n1, n2, n3, n4, n5, n6, n7⟩ := hn
      obtain ⟨n, rfl⟩ := Int.eq_ofNat_of_zero_le (show 0 ≤ c by omega)
      have hz : runZ t n = true := (runZ_iff (show 1 ≤ n by omega)).2 ⟨n5, n6, n7⟩
      have := size_plain f t n w (by omega) (by omega) (by omega)
      rw [hz] at this
      rw [Int.toNat_natCast, pairsN_len]
      exact this
  · rename_i he
    split at h
    · cases h
    · rename_i hn
      have := Option.some.inj h
      subst this
      simp only [not_or, Decidable.not_not] at hn
      obtain ⟨n1, n2, n3⟩ := hn
      have hp := sgn_pos he
      have hd : decide (0 ≤ f ∧ 1 ≤ (((sgn x).length : Nat) : Int) ∧ (((sgn x).length : Nat) : Int) ≤ 1048576 - f) = true := decide_eq_true (by omega)
      have := size_text f t c x (sgn x).length w hf hT he (fun w hT => count_ok x w hT hx n1)
      rw [hd] at this
      rw [pairsN_len]
      exact this
theorem is_one (w : World) (f t n : Int) : IsRws (w.alloc (.cells #[.int .i64 f, .int .i64 t, .int .i64 n] 90)) (some ⟨w.heap.size, 0, none⟩) 1 1 [⟨f, t, n⟩] := by
  obtain ⟨_, h0, h1, h2, _⟩ := keep_three w (.int .i64 f) (.int .i64 t) (.int .i64 n) 90
  refine ⟨rfl, .inr ⟨w.heap.size, 0, rfl, by omega, by simp, fun j r hj => ?_⟩⟩
  match j, hj with
  | 0, hj =>
    simp at hj
    subst hj
    exact ⟨by rw [show 0 + 0 * 3 = 0 from rfl]; exact h0, by rw [show 0 + 0 * 3 + 1 = 1 from rfl]; exact h1, by rw [show 0 + 0 * 3 + 2 = 2 from rfl]; exact h2⟩
  | j + 1, hj => simp at hj
set_option maxHeartbeats 1000000 in
theorem rows_plain (f t n : Int) (w : World) (ht0 : 0 ≤ t) (ht1 : t ≤ 1114111) :
    Calls Tryd.prog 39 #[.agg #[.int .i64 f, .int .i32 t, .int .i64 n, .string ⟨#[]⟩]] w fun e w' => ∃ a, e = .returned (.slice a 1 1) ∧ IsRws w' a 1 1 [⟨f, t, n⟩] ∧ Ext w w' := by
  have HK := Lib.hid (keepFour w (.int .i64 f) (.int .i32 t) (.int .i64 n) (.string ⟨#[]⟩) 74)
  obtain ⟨k0, k1, k2, k3, _⟩ := HK.out.2
  go_enter Tryd.func39, Tryd.ntmps39
  go_wp2
  go_ret
  refine ⟨_, rfl, ?_, HK.out.1.alloc _⟩
  have := is_one (w.alloc (.cells #[.int .i64 f, .int .i32 t, .int .i64 n, .string ⟨#[]⟩] 74)) f t n
  simpa using this
set_option maxHeartbeats 2000000 in
set_option maxRecDepth 100000 in
theorem rows_text (f t n : Int) (x : ByteArray) (w : World) (hT : Tabs w) (hx : x.size ≤ 1000000) (hn : x.data.toList ≠ []) (hb : badS x < 0) (h0 : 0 ≤ f) (h1 : f + (sgn x).length ≤ 1048576) :
    Calls Tryd.prog 39 #[.agg #[.int .i64 f, .int .i32 t, .int .i64 n, .string x]] w fun e w' => ∃ (a : Option Addr) (cap : Nat) (l : List Rw), e = .returned (.slice a l.length cap) ∧ IsRws w' a l.length cap l ∧ expL l = pairsN f (fun (i : Nat) => (sgn x).getD i 0) (sgn x).length ∧ GoodL l ∧ Ext w w' := by
  have HK := Lib.hid (keepFour w (.int .i64 f) (.int .i32 t) (.int .i64 n) (.string x) 74)
  obtain ⟨k0, k1, k2, k3, _⟩ := HK.out.2
  obtain ⟨n1, n2, n3⟩ := ne_facts hn
  have hsg : ∀ i, i < (sgn x).length → 0 ≤ (sgn x).getD i 0 ∧ (sgn x).getD i 0 ≤ 1114111 := by
    intro i hi
    have ha := sgn_signs x
    unfold allSigns at ha
    rw [List.all_eq_true] at ha
    have e : (sgn x).getD i 0 = (sgn x)[i] := by simp [List.getD, hi]
    rw [e]
    have := (isSign_iff _).1 (ha _ (List.getElem_mem hi))
    omega
  have HP : Hid (∀ w, Tabs w → Calls Tryd.prog 63 #[.string x] w fun e w' => ∃ a cap, e = .returned (.tuple #[.slice a (sgn x).length cap, .agg #[.int .i64 0, .int .i64 0]]) ∧ IsRow w' a (sgn x).length cap (sgn x) ∧ Ext w w') := fun w hT => points_ok x w hT (by omega) hb
  have HSG := Lib.hid hsg
  have HT := Lib.hid (hT.ext HK.out.1)
  generalize sgn x = zs at HP HSG h1 ⊢
  clear hn hb hsg hT
  go_enter Tryd.func39, Tryd.ntmps39
  go_wp2_with (go_at_call 63; refine (HP.out _ HT.out).mono ?_; rintro e w1 ⟨a, cap, rfl, hr1, hb1⟩; have hC := HK.out.ext hb1)
  have hx1 := (Ext.refl w1).alloc (.cells #[.int .i64 0, .int .i64 0] 30)
  have ho0 := World.ownsRow_nil (w1.alloc (.cells #[.int .i64 0, .int .i64 0] 30)) w1.heap.size 90 3
  have hzl : zs.length ≤ 1048576 := by omega
  generalize w1.alloc (.cells #[.int .i64 0, .int .i64 0] 30) = w2 at hx1 ho0 ⊢
  have HC := Lib.hid hC
  clear hC hb1 k0 k1 k2 k3
  go_loopw [3, 28] (fun v i wr => ∃ (k : Nat) (out : List Rw), k ≤ zs.length ∧ i = .int .i64 k ∧ wr.ownsRow w1.heap.size 90 3 v out.length (rowCells out) ∧ out.length ≤ k ∧ Hid (expL out = pairsN f (fun (i : Nat) => zs.getD i 0) k) ∧ Hid (GoodL out) ∧ Ext w1 wr) (fun _ i _ => zs.length - (intOf i).toNat)
  case atStart => exact ⟨0, [], by omega, rfl, ho0, Nat.le_refl _, rfl, GoodL.nil, hx1⟩
  case round =>
    obtain ⟨k, out, hk, rfl, ho, hol, HE, HGO, hx⟩ := hrel
    clear ho0 hx1
    by_cases hlt : k < zs.length
    · obtain ⟨y, off, rfl, hyl, p, hp, hc⟩ := row_cell' hr1 hlt
      have hc0 := cell_ext hx hc
      have hpd : zs.getD k 0 = p := by simp [List.getD, hp]
      obtain ⟨p0, p1⟩ := HSG.out k hlt
      rw [hpd] at p0 p1
      have HPD := Lib.hid hpd
      obtain ⟨k0, k1, k2, k3, _⟩ := (HC.out.ext hx).2
      have hsz := hx.size
      have HA := Lib.hid (add_any ⟨f + (k : Int), p, 1⟩ _ w1.heap.size out wr ho hsz (by unfold Good0; simp only; omega) HGO.out (by omega))
      have HO := Lib.hid ho
      clear hc hp hpd ho
      go_wp2_with (go_at_call 64; refine HA.out.mono ?_; rintro e w3 ⟨v3, out3, rfl, ho3, he3, hg3, hl3, hgr3, hf3⟩)
      have hxa := hx.own_grown HO.out (Nat.le_refl _) hgr3
      have HE3 := Lib.hid he3
      have HG3 := Lib.hid hg3
      clear he3 hg3 hf3 hgr3
      go_roundw
      case rel =>
        refine ⟨k + 1, out3, by omega, by go_num, ho3, by omega, ?_, HG3, hxa⟩
        show _ = _
        rw [HE3.out, HE.out, pairsN_succ, HPD.out]
        congr 1
        simp [expR, pairsN]
      case measure => simp [intOf]; omega
    · have hkl : k = zs.length := by omega
      subst hkl
      obtain ⟨a', cap', rfl, hrow⟩ := own_rws ho
      clear ho
      go_wp2
      go_ret
      exact ⟨a', cap', out, rfl, hrow, HE.out, HGO.out, HC.out.1.trans hx⟩
theorem piece_rows (f t c : Int) (x : ByteArray) (more : List Pr) (w : World) (hT : Tabs w) (hx : x.size ≤ 1000000) (h : pieceP f t c x = some more) :
    Calls Tryd.prog 39 #[.agg #[.int .i64 f, .int .i32 t, .int .i64 c, .string x]] w fun e w' => ∃ (a : Option Addr) (cap : Nat) (l : List Rw), e = .returned (.slice a l.length cap) ∧ IsRws w' a l.length cap l ∧ expL l = more ∧ GoodL l ∧ Ext w w' := by
  unfold pieceP at h
  split at h
  · rename_i he
    have e : x = ⟨#[]⟩ := bytes_inj he
    subst e
    split at h
    · cases h
    · rename_i hn
      have := Option.some.inj h
      subst this
      simp only [not_or, Bool.not_eq_false] at hn
      obtain ⟨n1, n2, n3, n4, n5, n6, n7⟩ := hn
      have s1 := (isSign_iff t).1 n5
      have s2 := (isSign_iff _).1 n6
      refine (rows_plain f t c w (by omega) (by omega)).mono ?_
      rintro e w' ⟨a, rfl, h1, h2⟩
      exact ⟨a, 1, [⟨f, t, c⟩], rfl, h1, expL_one _, GoodL.one ⟨by show 0 ≤ f; omega, by show f + c ≤ 2097152; omega, by show 0 ≤ t; omega, by show t + c ≤ 2097152; omega, by show 1 ≤ c; omega⟩, h2⟩
  · rename_i he
    split at h
    · cases h
    · rename_i hn
      have := Option.some.inj h
      subst this
      simp only [not_or, Decidable.not_not] at hn
      obtain ⟨n1, n2, n3⟩ := hn
      exact rows_text f t c x w hT hx he n1 (by omega) (by omega)
end Go.Proofs.YtealeedbkjiabaaDoor
