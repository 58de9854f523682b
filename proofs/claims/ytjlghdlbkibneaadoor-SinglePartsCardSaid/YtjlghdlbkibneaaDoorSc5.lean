/-
  Contracts of package single (5): texts that aren't made of signs; a charset that is none; the four, plainly.
-/
import Derived.Test.YtjlghdlbkibneaaDoorSc4
namespace Go.Proofs.YtjlghdlbkibneaaDoor
open Go Go.ChangeShapes Go.WideShapes Go.ChangeAt Go.RowKit
set_option linter.unusedSimpArgs false
set_option linter.unusedVariables false

theorem rising_tab (c : Nat) (hc : c ≤ 3) : Rising (tabP c) := by
  rw [tabP_eq c hc]
  unfold Rising
  rw [List.pairwise_map]
  refine List.Pairwise.imp ?_ (List.pairwise_lt_range (n := 256))
  intro a b h
  show (a : Int) < (b : Int)
  omega
theorem tab_mem (c : Nat) (hc : c ≤ 3) (q : Pr) (h : q ∈ tabP c) : ∃ n : Nat, n < 256 ∧ q = ((n : Int), signZ c n) := by
  rw [tabP_eq c hc] at h
  obtain ⟨n, hn, rfl⟩ := List.mem_map.1 h
  exact ⟨n, List.mem_range.1 hn, rfl⟩
theorem from_tab (c : Nat) (hc : c ≤ 3) : From0 (tabP c) := by
  intro q hq
  obtain ⟨n, hn, rfl⟩ := tab_mem c hc q hq
  exact ⟨by show (0 : Int) ≤ (n : Int); omega, sign_sign c n (by omega) (by omega) hn⟩
theorem rev_tab (c : Nat) (hc : c ≤ 3) (p : Int) : revP (tabP c) p = byteZ c p := by
  rcases revP_iff (rising_tab c hc) (from_tab c hc) p with ⟨h1, h2⟩ | ⟨h1, h2, h3⟩
  · have e1 : revP (tabP c) p = -1 := revP_no p _ (fun i q hq => h2 q (List.mem_of_getElem? hq))
    have e2 : byteZ c p = -1 := byteGo_no c p 256 0 (fun i hi => by
      rw [Nat.zero_add]
      exact h2 _ (mem_tab c i hc hi))
    rw [e1, e2]
  · obtain ⟨n, hn, e⟩ := tab_mem c hc _ h2
    have e1 : revP (tabP c) p = (n : Int) := congrArg Prod.fst e
    have e2 : p = signZ c n := congrArg Prod.snd e
    have e3 : byteZ c p = ((0 + n : Nat) : Int) := byteGo_at c p 256 0 n hn (fun i hi => by
      rw [Nat.zero_add]
      intro e4
      have := h3 _ (mem_tab c i hc (by omega)) e4
      rw [e1] at this
      have : (n : Int) ≤ (i : Int) := this
      omega) (by rw [Nat.zero_add]; exact e2.symm)
    rw [e1, e3, Nat.zero_add]
theorem rev_tab_fun (c : Nat) (hc : c ≤ 3) : revP (tabP c) = byteZ c := funext fun p => rev_tab c hc p
theorem rev_bd (c : Nat) (hc : c ≤ 3) (p : Int) : revP (tabP c) p < 256 := by
  rw [rev_tab c hc]
  have := byteZ_bd c p
  omega
set_option maxRecDepth 100000 in
set_option maxHeartbeats 1000000 in
theorem set_encode_bad (v : Value) (c : Int) (l : List Pr) (s : ByteArray) (a : Int) (w : World) (hT : Tabs w) (h : IsSet w v c l) (hs : s.size ≤ 1099511627776) (hb : badS s = a) (ha : ¬ a < 0) :
    Calls Tryd.prog 31 #[v, .string s] w fun e w' => e = .returned (.tuple #[.string ⟨#[]⟩, .agg #[.int .i64 2, .int .i64 a]]) ∧ Ext w w' := by
  obtain ⟨ta, n1, tc, tb, n2, td, rfl, htab⟩ := h
  have hD := Dw.start w (.slice ta n1 tc) (.slice tb n2 td) (.int .i64 c)
  have HCK := Lib.hid (fun w hT => check_yes s w hT hs a hb ha)
  have HD := Lib.hid hD
  have HT := Lib.hid hT
  clear hT htab hD hb
  go_enter Tryd.func31, Tryd.ntmps31
  go_wp2_with (first
    | (go_at_call 56; refine (HCK.out _ (HT.out.ext HD.out.ex)).mono ?_; rintro e w1 ⟨rfl, hb1⟩; have HD1 := Lib.hid (HD.out.ext hb1); have hlt1 := lt_of_block HD1.out.b1; clear hb1 HD)
    | (go_at_call 17; refine (bad_yes _ _ _ (by decide)).mono ?_; rintro e w2 ⟨rfl, hb2⟩))
  have hF : w2.heap[w1.heap.size]? = some (.cells #[.int .i64 2, .int .i64 a] 30 (0, 0)) := (hb2.block w1.heap.size (by simp)).trans (heap_alloc_new w1 _)
  have hD2 := (HD1.out.ext ((Ext.refl w1).alloc (.cells #[.int .i64 2, .int .i64 a] 30))).ext hb2
  have hR := hD2.b1
  have hx2 := hD2.ex
  obtain ⟨q, hq⟩ : ∃ q, q = w1.heap.size := ⟨_, rfl⟩
  obtain ⟨f, hf⟩ : ∃ f, f = w.heap.size + 1 := ⟨_, rfl⟩
  have hfc : f ≠ q := by omega
  have hlf : w.heap.size ≤ f := by omega
  rw [← hq] at hF ⊢
  rw [← hf] at hR ⊢
  clear hq hf hlt1 hb2 hD2
  obtain ⟨⟨f0, f1⟩, _⟩ := facts2 hF
  obtain ⟨⟨r0, r1⟩, z0, z1⟩ := facts2 hR
  clear hF
  go_region
  all_goals go_wp2
  obtain ⟨wf, hwf, hxf, hB, _, _⟩ := put2 hR hx2 hlf (.int .i64 2) (.int .i64 a)
  rw [← hwf]
  have k0 : wf.drew.cell? ⟨f, 0, none⟩ = some (.int .i64 2) := (facts2 hB).1.1
  have k1 : wf.drew.cell? ⟨f, 1, none⟩ = some (.int .i64 a) := (facts2 hB).1.2
  refine bodyPost_ret (v := .tuple #[.string ⟨#[]⟩, .agg #[.int .i64 2, .int .i64 a]]) (by simp [results, Tryd.results31, go_sem, k0, k1]) rfl ?_
  exact ⟨rfl, hxf.drew⟩
/-! ### A charset that is none -/
def noneV : Value := .agg #[.slice none 0 0, .slice none 0 0, .int .i64 0]
theorem none_set (w : World) : IsSet w noneV 0 [] := ⟨none, 0, 0, none, 0, 0, rfl, tab_nil w⟩
theorem none_encode (w : World) (hT : Tabs w) : Calls Tryd.prog 31 #[noneV, .string ⟨#[97]⟩] w fun e w' => e = .returned (.tuple #[.string ⟨#[]⟩, .agg #[.int .i64 6, .int .i64 0]]) ∧ Ext w w' := by
  have h := set_encode noneV 0 [] [97] w hT (none_set w) (fun q hq => by simp at hq) (fun p => by show (-1 : Int) < 256; decide) (by decide +kernel) (by decide)
  have e : txt [97] = ⟨#[97]⟩ := by decide +kernel
  rw [e] at h
  refine h.mono ?_
  rintro e w' ⟨⟨h1, _⟩ | ⟨_, rfl⟩, hx⟩
  · exact absurd h1 (by decide)
  · exact ⟨rfl, hx⟩
theorem none_fwd (n : Int) (w : World) : Calls Tryd.prog 19 #[.agg #[.slice none 0 0, .slice none 0 0], .int .i64 n] w fun e w' => e = .returned (.tuple #[.int .i32 0, .bool false]) ∧ Ext w w' :=
  fwd_no _ [] n w (tab_nil w) (fun ⟨q, hq, _⟩ => by simp at hq)
theorem text_empty (a : Option Addr) (cap : Nat) (w : World) : Calls Tryd.prog 55 #[.slice a 0 cap] w fun e w' => e = .returned (.tuple #[.string ⟨#[]⟩, .bool true]) ∧ Ext w w' := text_none a cap w
set_option maxRecDepth 100000 in
set_option maxHeartbeats 2000000 in
theorem none_decode_empty (w : World) : Calls Tryd.prog 30 #[noneV, .string ⟨#[]⟩] w fun e w' => e = .returned (.tuple #[.string ⟨#[]⟩, .agg #[.int .i64 0, .int .i64 0]]) ∧ Ext w w' := by
  have hD := Dw.start w (.slice none 0 0) (.slice none 0 0) (.int .i64 0)
  have HD := Lib.hid hD
  obtain ⟨wm, hmk, hown, hgm⟩ := make_runes 0 (by omega) ((w.alloc (.cells #[.slice none 0 0, .slice none 0 0, .int .i64 0] 56)).alloc (.cells #[.int .i64 0, .int .i64 0] 30))
  replace hmk : (Instr.makeSlice 65 (.int .i64 0) (.int .i64 0)).run Tryd.prog _ = _ := hmk
  have hxm := Below.grown (Ext.refl ((w.alloc (.cells #[.slice none 0 0, .slice none 0 0, .int .i64 0] 56)).alloc (.cells #[.int .i64 0, .int .i64 0] 30))) hgm (Nat.le_refl _) (by rintro k ⟨⟩)
  have HXM := Lib.hid hxm
  clear hD hgm hown hxm
  show Calls Tryd.prog 30 #[.agg #[.slice none 0 0, .slice none 0 0, .int .i64 0], .string ⟨#[]⟩] w _
  go_enter Tryd.func30, Tryd.ntmps30
  go_wp2
  clear hmk
  have hxm : Ext _ wm := HXM.out
  have HDm := Lib.hid (HD.out.ext hxm)
  clear HXM hxm HD
  go_loopw [6, 17] (fun v i wr => v = .slice (some ⟨w.heap.size + 1 + 1, 0, none⟩) 0 0 ∧ i = .int .i64 0 ∧ wr = wm) (fun _ _ _ => 0)
  case atStart => exact ⟨rfl, rfl, rfl⟩
  case round =>
    obtain ⟨rfl, rfl, rfl⟩ := hrel
    go_wp2_with (go_at_call 55; refine (text_empty _ _ _).mono ?_; rintro e w4 ⟨rfl, hb4⟩; have hD4 := HDm.out.ext hb4; obtain ⟨⟨c0, c1⟩, z0, z1⟩ := facts2 hD4.b1; have HD4 := Lib.hid hD4; clear hD4 hb4)
    obtain ⟨wf, hwf, hxf, hB, _, _⟩ := put2 HD4.out.b1 HD4.out.ex (Nat.le_succ_of_le HD4.out.lo) (.int .i64 0) (.int .i64 0)
    rw [← hwf]
    obtain ⟨⟨k0, k1⟩, _⟩ := facts2 hB
    clear hwf hB c0 c1 z0 z1
    refine bodyPost_ret (v := .tuple #[.string ⟨#[]⟩, .agg #[.int .i64 0, .int .i64 0]]) (by simp [results, Tryd.results30, go_sem, k0, k1]) rfl ?_
    exact ⟨rfl, hxf⟩
set_option maxRecDepth 100000 in
set_option maxHeartbeats 2000000 in
theorem none_decode_some (s : ByteArray) (w : World) (hs : s.size ≤ 100000) (h1 : 1 ≤ s.size) : Calls Tryd.prog 30 #[noneV, .string s] w fun e w' => e = .returned (.tuple #[.string ⟨#[]⟩, .agg #[.int .i64 2, .int .i64 0]]) ∧ Ext w w' := by
  have hD := Dw.start w (.slice none 0 0) (.slice none 0 0) (.int .i64 0)
  have HD := Lib.hid hD
  obtain ⟨wm, hmk, hown, hgm⟩ := make_runes s.size (by omega) ((w.alloc (.cells #[.slice none 0 0, .slice none 0 0, .int .i64 0] 56)).alloc (.cells #[.int .i64 0, .int .i64 0] 30))
  have hxm := Below.grown (Ext.refl ((w.alloc (.cells #[.slice none 0 0, .slice none 0 0, .int .i64 0] 56)).alloc (.cells #[.int .i64 0, .int .i64 0] 30))) hgm (Nat.le_refl _) (by rintro k ⟨⟩)
  have HXM := Lib.hid hxm
  clear hD hgm hown hxm
  show Calls Tryd.prog 30 #[.agg #[.slice none 0 0, .slice none 0 0, .int .i64 0], .string s] w _
  go_enter Tryd.func30, Tryd.ntmps30
  go_wp2
  clear hmk
  have hxm : Ext _ wm := HXM.out
  have HDm := Lib.hid (HD.out.ext hxm)
  clear HXM hxm HD
  go_loopw [17] (fun i wr => i = .int .i64 0 ∧ wr = wm) (fun _ _ => 0)
  case atStart => exact ⟨rfl, rfl⟩
  case round =>
    obtain ⟨rfl, rfl⟩ := hrel
    have hD1 := HDm.out
    obtain ⟨⟨e0, e1, e2⟩, _⟩ := facts3 hD1.b0
    clear hD1
    go_wp2
    go_region_with (go_at_call 19; refine (none_fwd _ _).mono ?_; rintro e w3 ⟨rfl, hb3⟩; have hD3 := HDm.out.ext ((Ext.refl wr).drew.trans hb3); obtain ⟨⟨c0, c1⟩, z0, z1⟩ := facts2 hD3.b1; have HD3 := Lib.hid hD3; clear hD3 hb3)
    all_goals
      go_wp2
      obtain ⟨wf, hwf, hxf, hB, _, _⟩ := put2 HD3.out.b1 HD3.out.ex (Nat.le_succ_of_le HD3.out.lo) (.int .i64 2) (.int .i64 0)
      rw [← hwf]
      obtain ⟨⟨k0, k1⟩, _⟩ := facts2 hB
      clear hwf hB c0 c1 z0 z1
      refine bodyPost_ret (v := .tuple #[.string ⟨#[]⟩, .agg #[.int .i64 2, .int .i64 0]]) (by simp [results, Tryd.results30, go_sem, k0, k1]) rfl ?_
      exact ⟨rfl, hxf⟩
end Go.Proofs.YtjlghdlbkibneaaDoor
