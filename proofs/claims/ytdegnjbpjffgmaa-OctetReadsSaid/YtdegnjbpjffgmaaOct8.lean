/-
  Contracts of the readers' functions of package octet (5): Until.
-/
import Derived.Test.YtdegnjbpjffgmaaOct4
namespace Go.Proofs.Ytdegnjbpjffgmaa
open Go.ChangeShapes Go.WideShapes Go.ChangeAt Go.RowKit
set_option linter.unusedSimpArgs false
set_option linter.unusedVariables false

theorem until_bad (s : ByteArray) (w : World) (b : Nat) (t : ByteArray) (r : Nat) (ba er pl : Int) (H : Rdr w b t r ba er pl) (he : (er != 0) = true) : Calls Try.prog 35 #[.pointer (some ⟨b, 0, none⟩), .string s] w fun e w' => e = .returned (.string ⟨#[]⟩) ∧ Ext w w' := by
  go_enter Try.func35, Try.ntmps35
  go_wp2_with (first | (go_at_call 20; refine (fault_at _ _ _ _ _ _ _ H).mono ?_; rintro e w1 ⟨rfl, hb1⟩; have H1 := H.ext hb1) | (go_at_call 21; refine (bad_yes _ _ _ he).mono ?_; rintro e w2 ⟨rfl, hb2⟩; have hb12 := hb1.trans hb2; have H2 := H1.ext hb2; clear hb1 hb2 H1))
  go_ret
  exact ⟨rfl, hb12⟩
theorem bytes_ext' {a b : ByteArray} (h : a.data.toList = b.data.toList) : a = b := by
  cases a; cases b
  congr 1
  exact Array.toList_inj.1 h
/-- The step by which ends of so many bytes are looked for. -/
def stepOf (n : Nat) : Nat := max n 1
theorem stepOf_pos (n : Nat) : 1 ≤ stepOf n := by unfold stepOf; omega
theorem stepOf_le (n k : Nat) (h : n ≤ k) (h1 : 1 ≤ k) : stepOf n ≤ k := by unfold stepOf; omega
/-- Does s stand in t at place i? -/
def standsAt (t : ByteArray) (i : Nat) (s : ByteArray) : Bool := (t.extract i (i + s.size)).toList == s.toList
/-- The first place from i on, by steps, at which s stands in t; none, if there is no such place with room for s. -/
def findBy (t s : ByteArray) : Nat → Nat → Option Nat
  | 0, _ => none
  | f + 1, i => if i + s.size ≤ t.size then (if standsAt t i s then some i else findBy t s f (i + stepOf s.size)) else none
/-- What Until comes to, of a reader without a fault. -/
def UntilEnd (w : World) (b : Nat) (t : ByteArray) (r : Nat) (ba pl : Int) (s : ByteArray) (e : Ending) (w' : World) : Prop :=
  Mod b w w' ∧ ((∃ i, findBy t s (t.size + 1) r = some i ∧ e = .returned (.string (t.extract r i)) ∧ Rdr w' b t (i + s.size) ba 0 pl) ∨ (findBy t s (t.size + 1) r = none ∧ e = .returned (.string ⟨#[]⟩) ∧ Rdr w' b t r ba 1 (ba + t.size)))
theorem extract_extract (t : ByteArray) (r k n : Nat) (q : ByteArray) (hq : q = t.extract r t.size) (h : r + k + n ≤ t.size) : q.extract k (k + n) = t.extract (r + k) (r + k + n) := by
  subst hq
  refine bytes_ext' ?_
  simp
  omega
theorem extract_extract0 (t : ByteArray) (r k : Nat) (q : ByteArray) (hq : q = t.extract r t.size) (h : r + k ≤ t.size) : q.extract 0 k = t.extract r (r + k) := by
  have := extract_extract t r 0 k q hq (by omega)
  simpa using this
theorem findBy_hit (t s : ByteArray) (f i : Nat) (hf : 1 ≤ f) (h1 : i + s.size ≤ t.size) (h2 : standsAt t i s = true) : findBy t s f i = some i := by
  obtain ⟨g, rfl⟩ : ∃ g, f = g + 1 := ⟨f - 1, by omega⟩
  rw [findBy, if_pos h1, if_pos h2]
theorem findBy_miss (t s : ByteArray) (f i : Nat) (hf : 1 ≤ f) (h1 : i + s.size ≤ t.size) (h2 : standsAt t i s = false) : findBy t s f i = findBy t s (f - 1) (i + stepOf s.size) := by
  obtain ⟨g, rfl⟩ : ∃ g, f = g + 1 := ⟨f - 1, by omega⟩
  rw [findBy, if_pos h1, if_neg (by simp [h2])]
  rfl
theorem findBy_end (t s : ByteArray) (f i : Nat) (h1 : ¬ i + s.size ≤ t.size) : findBy t s f i = none := by
  cases f with
  | zero => rfl
  | succ g => rw [findBy, if_neg h1]
set_option maxRecDepth 100000 in
set_option maxHeartbeats 1000000 in
theorem until_ok (s : ByteArray) (w : World) (b : Nat) (t : ByteArray) (r : Nat) (ba pl : Int) (H : Rdr w b t r ba 0 pl) (hs : s.size ≤ 1099511627776) : Calls Try.prog 35 #[.pointer (some ⟨b, 0, none⟩), .string s] w (UntilEnd w b t r ba pl s) := by
  have hb0 := H.lo
  have hb1 := H.hi
  have hb2 := H.le
  have hb3 := H.small
  obtain ⟨st, HST, hst⟩ : ∃ st : Nat, Hid (stepOf s.size = st) ∧ ((s.size < 1 ∧ st = 1) ∨ (1 ≤ s.size ∧ st = s.size)) := ⟨_, rfl, by unfold stepOf; omega⟩
  rcases hst with ⟨hsz, hst⟩ | ⟨hsz, hst⟩
  all_goals
    subst hst
    go_enter Try.func35, Try.ntmps35
    go_wp2_with (first | (go_at_call 20; refine (fault_at _ _ _ _ _ _ _ H).mono ?_; rintro e w1 ⟨rfl, hb1⟩; have H1 := H.ext hb1) | (go_at_call 21; refine (bad_no _ _ _ (by decide)).mono ?_; rintro e w2 ⟨rfl, hb2⟩; have x2 := hb1.trans hb2; have H2 := H1.ext hb2; clear hb1 hb2 H1) | (go_at_call 19; refine (left_ok _ _ _ _ _ _ H2).mono ?_; rintro e w3 ⟨rfl, hb3⟩; have x3 := x2.trans hb3; have H3 := H2.ext hb3; clear x2 hb3 H2) | (go_at_call 34; refine (peek_some _ _ _ _ _ _ _ H3).mono ?_; rintro e w4 ⟨q, HS, HZ, rfl, hb4⟩; have x4 := x3.trans hb4; have H4 := H3.ext hb4; clear x3 hb4 H3))
    have hqs : (q.size : Int) = t.size - r := by have := HZ.out; unfold shown at this; omega
    have hq1 : (q.size : Int) ≤ t.size - r := by omega
    have hq2 : (t.size : Int) - r ≤ q.size := by omega
    clear hqs
    have f1 := H4.free 1
    obtain ⟨c0, c1, c2, c3, c4⟩ := H4.cells
    clear c0 c2 c3 c4
    go_loop [7] (fun i => ∃ k f : Nat, t.size + 1 ≤ f + k ∧ k ≤ 2199023255552 ∧ i = .int .i64 k ∧ Hid (findBy t s (t.size + 1) r = findBy t s f (r + k))) (fun i => t.size + 1 - (intOf i).toNat)
    case atStart => exact ⟨0, t.size + 1, by omega, by omega, rfl, rfl⟩
    case round =>
      obtain ⟨k, f, hf, hk, rfl, HF⟩ := hrel
      by_cases hlt : (k : Int) + s.size ≤ q.size
      · have e1 : (0 : Int) ≤ k := by omega
        have e2 : (k : Int) ≤ k + s.size := by omega
        have e4 : ((k : Int) + s.size).toNat = k + s.size := by omega
        have hqe : q = t.extract r t.size := by
          have h1 := HS.out
          have h2 : r + (shown ((t.size : Int) - r) (t.size - r)).toNat = t.size := by unfold shown; omega
          rw [h2] at h1
          exact h1
        have HQ := Lib.hid hqe
        clear hqe
        go_wp2
        · go_ret
          have hb : ((q.extract k (k + s.size)).toList == s.toList) = true := by assumption
          rw [extract_extract t r k s.size q HQ.out (by omega)] at hb
          have hx := findBy_hit t s f (r + k) (by omega) (by omega) hb
          refine ⟨(Mod.of x4).setCell _ _, .inl ⟨r + k, HF.out.trans hx, ?_, H4.setRead (r + k + s.size) (by omega) _ (by omega)⟩⟩
          rw [← extract_extract0 t r k q HQ.out (by omega)]
          rfl
        · go_round
          case rel =>
            have hb : ((q.extract k (k + s.size)).toList == s.toList) = false := by assumption
            rw [extract_extract t r k s.size q HQ.out (by omega)] at hb
            have hx := findBy_miss t s f (r + k) (by omega) (by omega) hb
            first
              | exact ⟨k + 1, f - 1, by omega, by omega, by go_num, by have := HST.out; rw [this] at hx; exact HF.out.trans hx⟩
              | exact ⟨k + s.size, f - 1, by omega, by omega, by go_num, by have := HST.out; rw [this, Nat.add_assoc] at hx; exact HF.out.trans hx⟩
          case measure => simp [intOf]; omega
      · go_wp2_with (go_at_call 46; refine (short_ok _ _ _ _ _ _ H4).mono ?_; rintro e w5 ⟨rfl, H5, hm5⟩)
        go_ret
        have hx := findBy_end t s f (r + k) (by omega)
        exact ⟨(Mod.of x4).trans hm5, .inr ⟨HF.out.trans hx, rfl, H5⟩⟩
end Go.Proofs.Ytdegnjbpjffgmaa
