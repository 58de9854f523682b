/-
  The law OctetJoins holds at every list of texts: texts that are joined are read one by one as they were.
  Conditions: none beyond the row's own.
-/
import Derived.Test.YtdegnjbpjffgmaaOct6
import Derived.Test.YtdegnjbpjffgmaaShelf
import Derived.SliceStrings
import Derived.ChangeOld
namespace Go.Proofs.Ytdegnjbpjffgmaa.octetJoins
open Go Go.Proofs.Ytdegnjbpjffgmaa Go.ChangeShapes Go.WideShapes Go.ChangeAt Go.RowKit
open Go.ChangeMaps (open_string shut_string)
set_option linter.unusedSimpArgs false
set_option linter.unusedVariables false

theorem own : ownKnob Try.prog.godebug = none := by kernel_rfl
theorem laidOut : laidOutB Try.prog = true := by kernel_rfl
/-- Texts, one behind the other. -/
def flat (xs : List ByteArray) : ByteArray := ⟨(xs.map (·.data.toList)).flatten.toArray⟩
theorem flat_list (xs : List ByteArray) : (flat xs).data.toList = (xs.map (·.data.toList)).flatten := rfl
theorem join_flat (xs : List ByteArray) : (⟨(Lib.join (xs.map (·.data.toList)) ByteArray.empty.data.toList).toArray⟩ : ByteArray) = flat xs := by
  unfold flat Lib.join
  congr 2
  generalize xs.map (·.data.toList) = l
  have e : ByteArray.empty.data.toList = [] := rfl
  rw [e]
  induction l with
  | nil => rfl
  | cons a l ih =>
    cases l with
    | nil => simp [List.intercalate]
    | cons b l => simp [List.intercalate, List.intersperse] at ih ⊢; rw [ih]
/-- How many bytes the first k texts have. -/
def pre (xs : List ByteArray) (k : Nat) : Nat := (flat (xs.take k)).size
theorem size_list (s : ByteArray) : s.size = s.data.toList.length := rfl
theorem flat_app (a b : List ByteArray) : (flat (a ++ b)).data.toList = (flat a).data.toList ++ (flat b).data.toList := by
  simp only [flat_list, List.map_append, List.flatten_append]
theorem flat_cons (x : ByteArray) (l : List ByteArray) : (flat (x :: l)).data.toList = x.data.toList ++ (flat l).data.toList := by
  simp only [flat_list, List.map_cons, List.flatten_cons]
theorem flat_nil : (flat []).data.toList = [] := rfl
theorem pre_zero (xs : List ByteArray) : pre xs 0 = 0 := rfl
theorem pre_succ (xs : List ByteArray) (k : Nat) (h : k < xs.length) : pre xs (k + 1) = pre xs k + (xs[k]).size := by
  unfold pre
  rw [size_list, size_list, size_list, List.take_succ_eq_append_getElem h, flat_app, flat_cons, flat_nil, List.append_nil, List.length_append]
theorem pre_all (xs : List ByteArray) : pre xs xs.length = (flat xs).size := by unfold pre; rw [List.take_length]
theorem flat_split (xs : List ByteArray) (k : Nat) (h : k < xs.length) : (flat xs).data.toList.drop (pre xs k) = xs[k].data.toList ++ (flat (xs.drop (k + 1))).data.toList := by
  have e : xs = xs.take k ++ xs[k] :: xs.drop (k + 1) := by rw [← List.drop_eq_getElem_cons h, List.take_append_drop]
  have e2 : (flat xs).data.toList = (flat (xs.take k)).data.toList ++ (xs[k].data.toList ++ (flat (xs.drop (k + 1))).data.toList) := by
    rw [← flat_cons, ← flat_app, ← e]
  rw [e2]
  unfold pre
  rw [size_list, List.drop_left]
theorem cp_append (a l : List UInt8) : cp (a ++ l) a = a.length := by
  induction a with
  | nil => cases l <;> rfl
  | cons x a ih => simp [cp, ih]
theorem cpAt_flat (xs : List ByteArray) (k : Nat) (h : k < xs.length) : cpAt (flat xs) (pre xs k) xs[k] = xs[k].size := by
  unfold cpAt
  rw [flat_split xs k h, cp_append]
  rfl
theorem pre_le (xs : List ByteArray) : ∀ k, k ≤ xs.length → (∀ j (h : j < xs.length), j < k → xs[j].size ≤ 500) → pre xs k ≤ 500 * k
  | 0, _, _ => by rw [pre_zero]; omega
  | k + 1, h, hs => by
    have h1 := pre_le xs k (by omega) (fun j hj hk => hs j hj (by omega))
    have h2 := hs k (by omega) (by omega)
    rw [pre_succ xs k (by omega)]
    omega
theorem want_hit (s : ByteArray) (w : World) (b : Nat) (t : ByteArray) (r : Nat) (ba pl : Int) (H : Rdr w b t r ba 0 pl) (hs : s.size ≤ 1099511627776) (hc : cpAt t r s = s.size) : Calls Try.prog 30 #[.pointer (some ⟨b, 0, none⟩), .string s] w fun e w' => e = .returned (.bool true) ∧ Rdr w' b t (r + s.size) ba 0 pl ∧ Mod b w w' := by
  refine (want_ok s w b t r ba pl H hs).mono ?_
  rintro e w' ⟨hx, ⟨_, h4, h5⟩ | ⟨h4, _⟩⟩
  · exact ⟨h4, h5, hx⟩
  · omega
theorem ojoin (x off cap : Nat) (xs : List ByteArray) (w : World) (hc : ∀ (j : Nat) y, xs[j]? = some y → w.cell? ⟨x, off + j, none⟩ = some (.string y)) (hx : x < w.heap.size) (hl : xs.length ≤ 60) (hcap : xs.length ≤ cap) (hz : (flat xs).size ≤ 140737488355328) :
    Calls Try.prog 29 #[.slice (some ⟨x, off, none⟩) xs.length cap] w fun e w' => e = .returned (.string (flat xs)) ∧ Ext w w' := by
  have hj := Try.strings_Join x off cap xs ByteArray.empty w hc hx (by omega) hcap (by
    have := join_flat xs
    have h2 : (Lib.join (xs.map (·.data.toList)) ByteArray.empty.data.toList).length = (flat xs).size := by rw [← this]; rfl
    omega)
  rw [join_flat] at hj
  have HJ := Lib.hid hj
  clear hj
  go_enter Try.func29, Try.ntmps29
  go_wp2_with (go_at_call 45; refine HJ.out.mono ?_; rintro e w1 ⟨rfl, hb1⟩)
  go_ret
  exact ⟨rfl, hb1⟩
/-- What a list of texts is: none, or in memory. -/
def IsStrs (w : World) (a : Option Addr) (len cap : Nat) : Prop :=
  len = 0 ∨ ∃ (x off : Nat) (xs : List ByteArray), a = some ⟨x, off, none⟩ ∧ xs.length = len ∧ len ≤ cap ∧ ∀ (j : Nat) y, xs[j]? = some y → w.cell? ⟨x, off + j, none⟩ = some (.string y)
set_option maxRecDepth 100000 in
set_option maxHeartbeats 2000000 in
theorem walk_in (x off cap : Nat) (xs : List ByteArray) (w : World) (hc : ∀ (j : Nat) y, xs[j]? = some y → w.cell? ⟨x, off + j, none⟩ = some (.string y)) (h1 : 1 ≤ xs.length) (hl : (xs.length : Int) ≤ 60) (hcap : xs.length ≤ cap) :
    Calls Try.prog 6 #[.slice (some ⟨x, off, none⟩) xs.length cap] w fun e w' => e = .returned (.bool true) ∧ Ext w w' := by
  have hxl : x < w.heap.size := World.block_lt_of_cell? w _ (hc 0 (xs[0]) (by simp))
  have HC := Lib.hid hc
  clear hc
  go_enter Try.func6, Try.ntmps6
  go_wp2
  go_loop [3, 16] (fun q i => ∃ (k m : Nat), k ≤ xs.length ∧ i = .int .i64 k ∧ q = .int .i64 m ∧ Hid (m = pre xs k) ∧ Hid (∀ j (h : j < xs.length), j < k → xs[j].size ≤ 500)) (fun _ i => xs.length - (intOf i).toNat)
  case atStart => exact ⟨0, 0, by omega, rfl, rfl, rfl, fun j h h2 => by omega⟩
  case round =>
    obtain ⟨k, m, hk, rfl, rfl, HM, HS⟩ := hrel
    by_cases hlt : k < xs.length
    · have hc0 := HC.out k xs[k] (by simp [hlt])
      have hpre : m ≤ 30000 := by
        have h1 := pre_le xs k (by omega) HS.out
        have := HM.out
        omega
      generalize hy : xs[k] = y at hc0
      have HY := Lib.hid hy
      clear hy
      by_cases hb : 500 < (y.size : Int)
      · go_wp2_with (go_at_call 16; refine (awake_yes _).mono ?_; rintro e w2 ⟨rfl, hb2⟩)
        go_ret
        exact ⟨rfl, hb2⟩
      · go_wp2
        go_round
        case rel =>
          refine ⟨k + 1, m + y.size, by omega, by go_num, by go_num, ?_, ?_⟩
          · show m + y.size = pre xs (k + 1)
            rw [pre_succ xs k hlt, HM.out, HY.out]
          · intro j h h2
            by_cases e : j = k
            · subst e; rw [HY.out]; omega
            · exact HS.out j h (by omega)
        case measure => simp [intOf]; omega
    · have hkl : k = xs.length := by omega
      subst hkl
      have hz : (flat xs).size ≤ 30000 := by have := pre_le xs _ hk HS.out; rw [pre_all] at this; omega
      have hmm : m = (flat xs).size := by rw [HM.out, pre_all]
      subst hmm
      clear HM
      go_wp2_with (first | (go_at_call 29; refine (ojoin x off cap xs _ HC.out hxl (by omega) hcap (by omega)).mono ?_; rintro e w1 ⟨rfl, hb1⟩) | (go_at_call 15; refine (read_any _ _ (by omega)).mono ?_; rintro e w2 ⟨rfl, H2, hb2⟩))
      have hx2 := hb1.trans hb2
      have hbl := hb1.size
      obtain ⟨b, hbe⟩ : ∃ b, b = w1.heap.size := ⟨_, rfl⟩
      rw [← hbe] at H2 hbl
      rw [← hbe]
      clear hbe hb1 hb2
      go_loopw [35] (fun i wr => ∃ k : Nat, k ≤ xs.length ∧ i = .int .i64 k ∧ Ext w wr ∧ Rdr wr b (flat xs) (pre xs k) 0 0 0) (fun i _ => xs.length - (intOf i).toNat)
      case atStart => exact ⟨0, by omega, rfl, hx2, H2⟩
      case round =>
        obtain ⟨k, hk2, rfl, hx, HR⟩ := hrel
        clear hx2 H2
        by_cases hlt2 : k < xs.length
        · have hcell : ∀ o, World.cell? _ ⟨x, o, none⟩ = w.cell? ⟨x, o, none⟩ := fun o => World.cell?_of_block (w := w) (hx.block x hxl)
          have hc0 := (hcell _).trans (HC.out k xs[k] (by simp [hlt2]))
          have hs5 : xs[k].size ≤ 1099511627776 := by have := HS.out k hlt2 hlt2; omega
          have hW := want_hit xs[k] _ b (flat xs) (pre xs k) 0 0 HR hs5 (cpAt_flat xs k hlt2)
          have hp := pre_succ xs k hlt2
          generalize xs[k] = y at hc0 hW hp
          have HW := Lib.hid hW
          have HP := Lib.hid hp
          clear hW hp hcell hs5
          go_wp2_with (go_at_call 30; refine HW.out.mono ?_; rintro e w3 ⟨rfl, H3, m3⟩)
          go_roundw
          case rel => exact ⟨k + 1, by omega, by go_num, hx.mod m3 hbl, by rw [HP.out]; exact H3⟩
          case measure => simp [intOf]; omega
        · have hkl : k = xs.length := by omega
          subst hkl
          rw [pre_all] at HR
          go_wp2_with (first | (go_at_call 16; refine (awake_yes _).mono ?_; rintro e w4 ⟨rfl, hb4⟩; have x4 := hx.trans hb4; have H4 := HR.ext hb4) | (go_at_call 19; refine (left_ok _ _ _ _ _ _ H4).mono ?_; rintro e w5 ⟨rfl, hb5⟩; have x5 := x4.trans hb5; have H5 := H4.ext hb5) | (go_at_call 28; refine (at_any _ _ _ _ _ _ _ H5).mono ?_; rintro e w6 ⟨rfl, hb6⟩; have x6 := x5.trans hb6; have H6 := H5.ext hb6) | (go_at_call 20; refine (fault_at _ _ _ _ _ _ _ H6).mono ?_; rintro e w7 ⟨rfl, hb7⟩; have x7 := x6.trans hb7) | (go_at_call 21; refine (bad_no _ _ _ (by decide)).mono ?_; rintro e w8 ⟨rfl, hb8⟩; have x8 := x7.trans hb8))
          go_ret
          exact ⟨rfl, x8⟩
theorem ojoin_none (a : Option Addr) (cap : Nat) (w : World) : Calls Try.prog 29 #[.slice a 0 cap] w fun e w' => e = .returned (.string ⟨#[]⟩) ∧ w = w' := by
  have hj := Try.strings_Join_none a cap ByteArray.empty w
  have HJ := Lib.hid hj
  clear hj
  go_enter Try.func29, Try.ntmps29
  go_wp2_with (go_at_call 45; refine HJ.out.mono ?_; rintro e w1 ⟨rfl, rfl⟩)
  go_ret
  exact ⟨rfl, rfl⟩
set_option maxRecDepth 100000 in
theorem walk_none (a : Option Addr) (cap : Nat) (w : World) :
    Calls Try.prog 6 #[.slice a 0 cap] w fun e w' => e = .returned (.bool true) ∧ Ext w w' := by
  go_enter Try.func6, Try.ntmps6
  go_wp2
  refine wp_loop_rounds 1 ?_
  rw [rounds_succ]
  go_wp2_with (first | (go_at_call 29; refine (ojoin_none _ _ _).mono ?_; rintro e w1 ⟨rfl, rfl⟩) | (go_at_call 15; refine (read_any _ _ (by decide)).mono ?_; rintro e w2 ⟨rfl, H2, hb2⟩))
  refine wp_loop_rounds 1 ?_
  rw [rounds_succ]
  go_wp2_with (first | (go_at_call 16; refine (awake_yes _).mono ?_; rintro e w4 ⟨rfl, hb4⟩; have x4 := hb2.trans hb4; have H4 := H2.ext hb4) | (go_at_call 19; refine (left_ok _ _ _ _ _ _ H4).mono ?_; rintro e w5 ⟨rfl, hb5⟩; have x5 := x4.trans hb5; have H5 := H4.ext hb5) | (go_at_call 28; refine (at_any _ _ _ _ _ _ _ H5).mono ?_; rintro e w6 ⟨rfl, hb6⟩; have x6 := x5.trans hb6; have H6 := H5.ext hb6) | (go_at_call 20; refine (fault_at _ _ _ _ _ _ _ H6).mono ?_; rintro e w7 ⟨rfl, hb7⟩; have x7 := x6.trans hb7) | (go_at_call 21; refine (bad_no _ _ _ (by decide)).mono ?_; rintro e w8 ⟨rfl, hb8⟩; have x8 := x7.trans hb8))
  go_ret
  exact ⟨rfl, x8⟩
theorem walk_long (a : Option Addr) (len cap : Nat) (w : World) (h : 60 < (len : Int)) :
    Calls Try.prog 6 #[.slice a len cap] w fun e w' => e = .returned (.bool true) ∧ Ext w w' := by
  go_enter Try.func6, Try.ntmps6
  go_wp2_with (go_at_call 16; refine (awake_yes _).mono ?_; rintro e w2 ⟨rfl, hb2⟩)
  go_ret
  exact ⟨rfl, hb2⟩
theorem isStrs_of {w : World} {x : Addr} {ss : List ByteArray} {len cap : Nat} (hl : len ≤ cap) (hz : ss.length = cap) (hc : ∀ i, i < ss.length → w.cell? (x.add i) = some (.string (ss.getD i ByteArray.empty))) : IsStrs w (some x) len cap := by
  by_cases h0 : len = 0
  · exact .inl h0
  · obtain ⟨b, off, spot⟩ := x
    have e0 := hc 0 (by omega)
    have hspot : spot = none := by simpa [Addr.add] using World.cell?_spot e0
    subst hspot
    refine .inr ⟨b, off, ss.take len, rfl, by simp; omega, hl, fun j y hj => ?_⟩
    have hjl : j < len := by
      rcases Nat.lt_or_ge j len with h | h
      · exact h
      · rw [List.getElem?_eq_none (by simp; omega)] at hj
        cases hj
    have h1 := hc j (by omega)
    rw [Go.WideShapes.add_plain] at h1
    rw [h1]
    rw [List.getElem?_take, if_pos hjl] at hj
    simp [List.getD, hj]
theorem walk (a : Option Addr) (len cap : Nat) {w : World} (hO : IsStrs w a len cap) (W : World) (e : W = w) :
    Calls Try.prog 6 #[.slice a len cap] W fun e w' => e = .returned (.bool true) ∧ Ext W w' := by
  subst e
  by_cases h : 60 < (len : Int)
  · exact walk_long _ _ _ _ h
  rcases hO with rfl | ⟨x, off, xs, rfl, hl, hcap, hc⟩
  · exact walk_none _ _ _
  · subst hl
    by_cases h1 : 1 ≤ xs.length
    · exact walk_in x off cap xs W hc h1 (by omega) hcap
    · have e : xs.length = 0 := by omega
      rw [e]
      exact walk_none _ _ _
set_option maxRecDepth 100000 in
theorem lifted (os : Os) (started : os.Started) (H : Type) (enc : TypeId × Value → H) :
    ReturnsInHanded {} Try.checked os 6 .any (Rows.octetJoinsSpec.pre6 enc Try.prog Try.f6 Rows.octetJoinsRow.domain false) (Rows.octetJoinsSpec.post enc Try.prog Try.f6 false true false false) := by
  refine returnsInHanded_of_change (C := Try.checked) own started (by kernel_rfl) Try.func6
    (ChangeSpec.witness6 (enc := enc) (C := Try.checked) false ⟨#[], #[.slice none 0 0], []⟩ 8 (by kernel_rfl) (by kernel_rfl) (by kernel_rfl) (by kernel_rfl)) ?_
  intro W base args ds gs before hval0 hW hcnd _
  have hval : ∀ (j : Nat) t v, Try.f6.params[j]? = some t → args[j]? = some v → Value.okWide Try.prog W .any base t v := hval0
  have hW' := hW
  obtain ⟨p, q, hA0, hV, rfl, hfz, hnd⟩ := hW
  have hA : DataW.TrodAll enc Try.prog W 0 (fun _ => true) true Try.f6.params.toList args.toList ds p := hA0
  rw [Try.params6] at hA hval
  obtain ⟨v0, vs0, d0, ds0, p0, q0, hargs, rfl, rfl, h0, r0⟩ := trodAll_cons hA
  obtain ⟨rfl, rfl, rfl⟩ := trodAll_nil r0
  obtain rfl : args = #[v0] := by cases args; simp_all
  obtain ⟨rfl, rfl⟩ := trodVars_none hV
  obtain ⟨a0, len0, cap0, rfl⟩ := okWide_slice Try.underlying50 (hval 0 50 v0 rfl rfl)
  have k0 := h0
  have lt0 : ∀ x ∈ p0, x.block < W.heap.size := by obtain ⟨m, hm⟩ := k0; exact DataW.trod_lt m _ _ _ hm
  have w0 : IsStrs W a0 len0 cap0 := by
    obtain ⟨fuel, hf⟩ := h0
    rcases open_strings Try.underlying50 Try.underlying9 (by kernel_rfl) hf with ⟨hcs, _⟩ | ⟨x, len', cap', ss, hcs, _, hl, hm, hz, hx, hcell, hws⟩
    · simp [Value.cells] at hcs
      obtain ⟨rfl, rfl, rfl⟩ := hcs
      exact .inl rfl
    · simp [Value.cells] at hcs
      obtain ⟨rfl, rfl, rfl⟩ := hcs
      exact isStrs_of hl (by simpa using hz) hcell
  clear hA0 hval0
  refine (walk a0 len0 cap0 w0 W rfl).mono fun e W' ⟨he, bel⟩ => ?_
  subst he
  exact ⟨_, rfl, _, _, _, [], _, [], hW', trodAll_mk1 (shut_bool Try.underlying4 _), (trodAll_cons_mk (Below.trod laidOut (by kernel_rfl) (of_decide_eq_true (by kernel_rfl)) k0 bel lt0) trodAll_mk0), rfl, bel.frame _, fun h => by cases h⟩

theorem over : Rows.octetJoinsRow.holds Try.pinned (OpenSpec.ofChange Rows.octetJoinsSpec) :=
  OpenClaim.holds_of_wide 6 Try.f6 rfl rfl rfl rfl rfl rfl rfl ⟨rfl, rfl, rfl, rfl, rfl⟩ rfl rfl rfl rfl rfl (by kernel_rfl) Try.func6 (by kernel_rfl)
    (of_decide_eq_true (by kernel_rfl)) (by unfold Func.isWrapper; first | (rw [if_pos (by decide +kernel)]; kernel_rfl) | (rw [if_neg (by decide +kernel)]; exact ⟨rfl, rfl⟩))
    (fun os started H enc _ => lifted os started H enc)

/-- THE STATEMENT. -/
theorem proved : Rows.OctetJoinsSaid := over
#print axioms proved

end Go.Proofs.Ytdegnjbpjffgmaa.octetJoins
