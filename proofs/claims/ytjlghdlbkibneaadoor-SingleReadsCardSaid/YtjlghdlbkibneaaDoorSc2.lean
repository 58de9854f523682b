/-
  Contracts of package single (2): a charset by its number.
-/
import Derived.Test.YtjlghdlbkibneaaDoorSc1
namespace Go.Proofs.YtjlghdlbkibneaaDoor
open Go Go.ChangeShapes Go.WideShapes Go.ChangeAt Go.RowKit
set_option linter.unusedSimpArgs false
set_option linter.unusedVariables false

/-- A value is a charset: a table of these pairs, a number. -/
def IsSet (w : World) (v : Value) (c : Int) (l : List Pr) : Prop := ∃ (ta : Option Addr) (n1 tc : Nat) (tb : Option Addr) (n2 td : Nat), v = .agg #[.slice ta n1 tc, .slice tb n2 td, .int .i64 c] ∧ IsTab w (.agg #[.slice ta n1 tc, .slice tb n2 td]) l
theorem IsSet.ext {w w' : World} {v : Value} {c : Int} {l : List Pr} (h : IsSet w v c l) (k : Ext w w') : IsSet w' v c l := by
  obtain ⟨ta, n1, tc, tb, n2, td, rfl, h2⟩ := h
  exact ⟨ta, n1, tc, tb, n2, td, rfl, h2.ext k⟩
def SetOut (w : World) (c : Int) (l : List Pr) (e : Ending) (w' : World) : Prop := ∃ v, e = .returned (.tuple #[v, .bool true]) ∧ IsSet w' v c l ∧ Ext w w'
theorem of_no (c : Int) (w : World) (h : c < 0 ∨ 3 < c) : Calls Tryd.prog 27 #[.int .i64 c] w fun e w' => e = .returned (.tuple #[.agg #[.slice none 0 0, .slice none 0 0, .int .i64 0], .bool false]) ∧ Ext w w' := by
  have e0 : (c == 0) = false := beq_false_of_ne (by omega)
  have e1 : (c == 1) = false := beq_false_of_ne (by omega)
  have e2 : (c == 2) = false := beq_false_of_ne (by omega)
  have e3 : (c == 3) = false := beq_false_of_ne (by omega)
  clear h
  go_enter Tryd.func27, Tryd.ntmps27
  go_wp2
  refine bodyPost_ret (v := .tuple #[.agg #[.slice none 0 0, .slice none 0 0, .int .i64 0], .bool false]) (by simp [results, Tryd.results27, go_sem]) rfl ?_
  exact ⟨rfl, ((Ext.refl w).alloc _).alloc _⟩
/-- Two blocks: a charset's three cells, a table's two. -/
structure Two (w0 w : World) (b : Nat) : Prop where
  ex : Ext w0 w
  lo : w0.heap.size ≤ b
  b0 : w.heap[b]? = some (.cells #[.slice none 0 0, .slice none 0 0, .int .i64 0] 56 (0, 0))
  b1 : w.heap[b + 1]? = some (.cells #[.slice none 0 0, .slice none 0 0] 27 (0, 0))
theorem Two.ext {w0 w w' : World} {b : Nat} (h : Two w0 w b) (k : Ext w w') : Two w0 w' b := ⟨h.ex.trans k, h.lo, (k.block _ (lt_of_block h.b0)).trans h.b0, (k.block _ (lt_of_block h.b1)).trans h.b1⟩
theorem Two.start (w : World) : Two w ((w.alloc (.cells #[.slice none 0 0, .slice none 0 0, .int .i64 0] 56)).alloc (.cells #[.slice none 0 0, .slice none 0 0] 27)) w.heap.size := by
  have h1 := heap_alloc_new w (.cells #[.slice none 0 0, .slice none 0 0, .int .i64 0] 56)
  have h2 := heap_alloc_new (w.alloc (.cells #[.slice none 0 0, .slice none 0 0, .int .i64 0] 56)) (.cells #[.slice none 0 0, .slice none 0 0] 27)
  have e : (w.alloc (.cells #[.slice none 0 0, .slice none 0 0, .int .i64 0] 56)).heap.size = w.heap.size + 1 := by simp
  rw [e] at h2
  have k := (Ext.refl (w.alloc (.cells #[.slice none 0 0, .slice none 0 0, .int .i64 0] 56))).alloc (.cells #[.slice none 0 0, .slice none 0 0] 27)
  exact ⟨((Ext.refl w).alloc _).alloc _, Nat.le_refl _, (k.block _ (lt_of_block h1)).trans h1, h2⟩
theorem rws_move3 {w wf : World} {a : Option Addr} {n cap b : Nat} {l : List Rw} {s1 s2 : Option Addr} {p1 p2 q1 q2 : Nat} {z : Value} {T : TypeId} (h : IsRws w a n cap l) (h1 : w.heap[b]? = some (.cells #[.slice s1 p1 p2, .slice s2 q1 q2, z] T (0, 0))) (hs : w.heap.size ≤ wf.heap.size) (hk : ∀ k, k ≠ b → wf.heap[k]? = w.heap[k]?) : IsRws wf a n cap l := by
  obtain ⟨h3, h4 | ⟨g, off, rfl, hc, hg, hcell⟩⟩ := h
  · exact ⟨h3, .inl h4⟩
  · by_cases hn : n = 0
    · exact ⟨h3, .inl hn⟩
    · have e : l[0]? = some l[0] := List.getElem?_eq_getElem (by omega)
      have h5 := hcell 0 _ e
      have g1 : g ≠ b := by
        rintro rfl
        simp only [World.cell?, h1] at h5
        obtain ⟨y1, y2, y3⟩ := h5
        have : off = 0 ∨ off = 1 ∨ 2 ≤ off := by omega
        rcases this with rfl | rfl | h6
        · simp at y1
        · simp at y1
        · have : (#[Value.slice s1 p1 p2, Value.slice s2 q1 q2, z] : Array Value)[off + 0 * 3 + 2]? = none := Array.getElem?_eq_none (by simp; omega)
          rw [this] at y3
          cases y3
      refine ⟨h3, .inr ⟨g, off, rfl, hc, by omega, fun j r hj => ?_⟩⟩
      obtain ⟨a0, a1, a2⟩ := hcell j r hj
      exact ⟨(World.cell?_of_block (hk g g1)).trans a0, (World.cell?_of_block (hk g g1)).trans a1, (World.cell?_of_block (hk g g1)).trans a2⟩
theorem IsTab.move3 {w wf : World} {v : Value} {l : List Pr} {b : Nat} {s1 s2 : Option Addr} {p1 p2 q1 q2 : Nat} {z : Value} {T : TypeId} (h : IsTab w v l) (h1 : w.heap[b]? = some (.cells #[.slice s1 p1 p2, .slice s2 q1 q2, z] T (0, 0))) (hs : w.heap.size ≤ wf.heap.size) (hk : ∀ k, k ≠ b → wf.heap[k]? = w.heap[k]?) : IsTab wf v l := by
  obtain ⟨a1, c1, a2, c2, F, G, rfl, y1, y2, r⟩ := h
  exact ⟨a1, c1, a2, c2, F, G, rfl, rws_move3 y1 h1 hs hk, rws_move3 y2 h1 hs hk, r⟩
theorem of_end {w0 w : World} {b : Nat} {ta tb : Option Addr} {n1 tc n2 td : Nat} {l : List Pr} (hS : Two w0 w b) (ht : IsTab w (.agg #[.slice ta n1 tc, .slice tb n2 td]) l) (c : Int) :
    ∃ wf, wf = ((((w.setCell ⟨b + 1, 0, none⟩ (.slice ta n1 tc)).setCell ⟨b + 1, 1, none⟩ (.slice tb n2 td)).setCell ⟨b, 0, none⟩ (.slice ta n1 tc)).setCell ⟨b, 1, none⟩ (.slice tb n2 td)).setCell ⟨b, 2, none⟩ (.int .i64 c) ∧ Ext w0 wf ∧
      (wf.cell? ⟨b, 0, none⟩ = some (.slice ta n1 tc) ∧ wf.cell? ⟨b, 1, none⟩ = some (.slice tb n2 td) ∧ wf.cell? ⟨b, 2, none⟩ = some (.int .i64 c)) ∧ IsTab wf (.agg #[.slice ta n1 tc, .slice tb n2 td]) l := by
  obtain ⟨wq, rfl, hx, hB, hs, hk⟩ := put2 hS.b1 hS.ex (Nat.le_succ_of_le hS.lo) (.slice ta n1 tc) (.slice tb n2 td)
  have ht1 := ht.move hS.b1 hs hk
  have hb0 := (hk b (by omega)).trans hS.b0
  obtain ⟨wf, rfl, hx2, hB2, hs2, hk2⟩ := put3 hb0 hx hS.lo (.slice ta n1 tc) (.slice tb n2 td) (.int .i64 c)
  exact ⟨_, rfl, hx2, (facts3 hB2).1, ht1.move3 hb0 hs2 hk2⟩
set_option maxRecDepth 100000 in
set_option maxHeartbeats 2000000 in
theorem of_koi (w : World) (hT : Tabs w) : Calls Tryd.prog 27 #[.int .i64 1] w (SetOut w 1 (tabP 1)) := by
  have hS := Two.start w
  have HT := Lib.hid hT
  clear hT
  go_enter Tryd.func27, Tryd.ntmps27
  go_wp2_with (go_at_call 50; refine (koi8r_any _ (HT.out.ext hS.ex)).mono ?_; rintro e w1 ⟨v, rfl, ht, hb⟩; obtain ⟨ta, n1, tc, tb, n2, td, rfl⟩ := ht.open; have hS1 := hS.ext hb; obtain ⟨⟨c0, c1⟩, z0, z1⟩ := facts2 hS1.b1; obtain ⟨⟨d0, d1, d2⟩, y0, y1, y2⟩ := facts3 hS1.b0; have HTB := Lib.hid ht; have HS := Lib.hid hS1; clear hS1 hS ht hb)
  obtain ⟨wf, hwf, hx, ⟨k0, k1, k2⟩, ht⟩ := of_end HS.out HTB.out 1
  rw [← hwf]
  clear hwf c0 c1 z0 z1 d0 d1 d2 y0 y1 y2
  refine bodyPost_ret (v := .tuple #[.agg #[.slice ta n1 tc, .slice tb n2 td, .int .i64 1], .bool true]) (by simp [results, Tryd.results27, go_sem, k0, k1, k2]) rfl ?_
  exact ⟨_, rfl, ⟨ta, n1, tc, tb, n2, td, rfl, ht⟩, hx⟩
set_option maxRecDepth 100000 in
set_option maxHeartbeats 2000000 in
theorem of_koiu (w : World) (hT : Tabs w) : Calls Tryd.prog 27 #[.int .i64 2] w (SetOut w 2 (tabP 2)) := by
  have hS := Two.start w
  have HT := Lib.hid hT
  clear hT
  go_enter Tryd.func27, Tryd.ntmps27
  go_wp2_with (go_at_call 51; refine (koi8u_any _ (HT.out.ext hS.ex)).mono ?_; rintro e w1 ⟨v, rfl, ht, hb⟩; obtain ⟨ta, n1, tc, tb, n2, td, rfl⟩ := ht.open; have hS1 := hS.ext hb; obtain ⟨⟨c0, c1⟩, z0, z1⟩ := facts2 hS1.b1; obtain ⟨⟨d0, d1, d2⟩, y0, y1, y2⟩ := facts3 hS1.b0; have HTB := Lib.hid ht; have HS := Lib.hid hS1; clear hS1 hS ht hb)
  obtain ⟨wf, hwf, hx, ⟨k0, k1, k2⟩, ht⟩ := of_end HS.out HTB.out 2
  rw [← hwf]
  clear hwf c0 c1 z0 z1 d0 d1 d2 y0 y1 y2
  refine bodyPost_ret (v := .tuple #[.agg #[.slice ta n1 tc, .slice tb n2 td, .int .i64 2], .bool true]) (by simp [results, Tryd.results27, go_sem, k0, k1, k2]) rfl ?_
  exact ⟨_, rfl, ⟨ta, n1, tc, tb, n2, td, rfl, ht⟩, hx⟩
set_option maxRecDepth 100000 in
set_option maxHeartbeats 2000000 in
theorem of_cp (w : World) (hT : Tabs w) : Calls Tryd.prog 27 #[.int .i64 3] w (SetOut w 3 (tabP 3)) := by
  have hS := Two.start w
  have HT := Lib.hid hT
  clear hT
  go_enter Tryd.func27, Tryd.ntmps27
  go_wp2_with (go_at_call 52; refine (cp866_any _ (HT.out.ext hS.ex)).mono ?_; rintro e w1 ⟨v, rfl, ht, hb⟩; obtain ⟨ta, n1, tc, tb, n2, td, rfl⟩ := ht.open; have hS1 := hS.ext hb; obtain ⟨⟨c0, c1⟩, z0, z1⟩ := facts2 hS1.b1; obtain ⟨⟨d0, d1, d2⟩, y0, y1, y2⟩ := facts3 hS1.b0; have HTB := Lib.hid ht; have HS := Lib.hid hS1; clear hS1 hS ht hb)
  obtain ⟨wf, hwf, hx, ⟨k0, k1, k2⟩, ht⟩ := of_end HS.out HTB.out 3
  rw [← hwf]
  clear hwf c0 c1 z0 z1 d0 d1 d2 y0 y1 y2
  refine bodyPost_ret (v := .tuple #[.agg #[.slice ta n1 tc, .slice tb n2 td, .int .i64 3], .bool true]) (by simp [results, Tryd.results27, go_sem, k0, k1, k2]) rfl ?_
  exact ⟨_, rfl, ⟨ta, n1, tc, tb, n2, td, rfl, ht⟩, hx⟩
set_option maxRecDepth 100000 in
set_option maxHeartbeats 2000000 in
theorem of_lat (w : World) (hT : Tabs w) : Calls Tryd.prog 27 #[.int .i64 0] w (SetOut w 0 (tabP 0)) := by
  have hS := Two.start w
  have HT := Lib.hid hT
  have HTM : Hid (∀ w : World, Tabs w → Calls Tryd.prog 48 #[.slice (some ⟨w.heap.size, 0, none⟩) 1 1] (w.alloc (.cells #[.int .i64 0, .int .i32 0, .int .i64 256, .string ⟨#[]⟩] 74)) fun e w' => ∃ v, e = .returned v ∧ IsTab w' v (tabP 0) ∧ Ext w w') := fun w hT => table_made latP 74 (tabP 0) w hT ⟨by decide, by decide +kernel⟩ lat_made
  clear hT
  go_enter Tryd.func27, Tryd.ntmps27
  go_wp2_with (first
    | (go_at_call 49; refine (seq_any _ _ _ _).mono ?_; rintro e w1 ⟨rfl, hb1⟩; have hS' := hS.ext hb1; clear hS hb1; have hS := hS'; clear hS')
    | (go_at_call 48; refine (HTM.out _ (HT.out.ext hS.ex)).mono ?_; rintro e w2 ⟨v, rfl, ht, hb⟩; obtain ⟨ta, n1, tc, tb, n2, td, rfl⟩ := ht.open; have hS1 := hS.ext hb; obtain ⟨⟨c0, c1⟩, z0, z1⟩ := facts2 hS1.b1; obtain ⟨⟨d0, d1, d2⟩, y0, y1, y2⟩ := facts3 hS1.b0; have HTB := Lib.hid ht; have HS := Lib.hid hS1; clear hS1 hS ht hb))
  obtain ⟨wf, hwf, hx, ⟨k0, k1, k2⟩, ht⟩ := of_end HS.out HTB.out 0
  rw [← hwf]
  clear hwf c0 c1 z0 z1 d0 d1 d2 y0 y1 y2
  refine bodyPost_ret (v := .tuple #[.agg #[.slice ta n1 tc, .slice tb n2 td, .int .i64 0], .bool true]) (by simp [results, Tryd.results27, go_sem, k0, k1, k2]) rfl ?_
  exact ⟨_, rfl, ⟨ta, n1, tc, tb, n2, td, rfl, ht⟩, hx⟩
theorem of_yes (c : Nat) (w : World) (hT : Tabs w) (h : c ≤ 3) : Calls Tryd.prog 27 #[.int .i64 c] w (SetOut w c (tabP c)) := by
  have : c = 0 ∨ c = 1 ∨ c = 2 ∨ c = 3 := by omega
  rcases this with rfl | rfl | rfl | rfl
  · exact of_lat w hT
  · exact of_koi w hT
  · exact of_koiu w hT
  · exact of_cp w hT
end Go.Proofs.YtjlghdlbkibneaaDoor
