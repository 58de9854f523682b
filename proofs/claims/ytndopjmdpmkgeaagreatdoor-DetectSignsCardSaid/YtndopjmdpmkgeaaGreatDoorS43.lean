/-
  What the proof of this claim leans on (S43).
-/
import Derived.Test.YtndopjmdpmkgeaaGreatDoorS39
import Derived.Test.YtndopjmdpmkgeaaGreatDoorS41
import Derived.Test.YtndopjmdpmkgeaaGreatDoorS42
namespace Go.Proofs.YtndopjmdpmkgeaaGreatDoor
open Go Go.ChangeShapes Go.WideShapes Go.ChangeAt Go.RowKit
set_option linter.unusedSimpArgs false
set_option linter.unusedVariables false
set_option maxRecDepth 100000

theorem naming_elem {w : World} {fuel : Nat} {cs : List Value} {l : List UInt8} {c : Int} {r : List MemPlace}
    (h : DataW.trod (fun _ => ()) Tryz.prog w 0 (fun _ => true) false fuel 86 cs = some (.agg [.lit (.string l), .lit (.int .i64 c)], r)) : cs[0]? = some (.string ⟨l.toArray⟩) ∧ cs[1]? = some (.int .i64 c) := by
  obtain ⟨xs, n, rfl, hx, hl, hxl, hall⟩ := DataW.trod_struct Tryz.underlying86 h
  have hxs : xs.map (·.1) = [.lit (.string l), .lit (.int .i64 c)] := (congrArg Prod.fst hx).symm |> fun e => by simpa using e
  obtain ⟨x0, x1, rfl⟩ : ∃ x0 x1, xs = [x0, x1] := by
    match xs, hxs with
    | [x0, x1], _ => exact ⟨x0, x1, rfl⟩
    | [], e => simp at e
    | [_], e => simp at e
    | _ :: _ :: _ :: _, e => simp at e
  simp only [List.map_cons, List.map_nil, List.cons.injEq, and_true] at hxs
  obtain ⟨e0, e1⟩ := hxs
  have k0 : Tryz.prog.cellsOf 9 = 1 := by kernel_rfl
  have k1 : Tryz.prog.cellsOf 25 = 1 := by kernel_rfl
  have h0 : DataW.trod (fun _ => ()) Tryz.prog w 0 (fun _ => true) false n 9 ((cs.drop 0).take (Tryz.prog.cellsOf 9)) = some x0 := hall 0 _ rfl
  have h1 : DataW.trod (fun _ => ()) Tryz.prog w 0 (fun _ => true) false n 25 ((cs.drop 1).take (Tryz.prog.cellsOf 25)) = some x1 := hall 1 _ rfl
  rw [k0] at h0
  rw [k1] at h1
  obtain ⟨y, hy, hx0, _⟩ := DataW.trod_string Tryz.underlying9 h0
  obtain ⟨z, hz, hx1, _⟩ := DataW.trod_int Tryz.underlying25 h1
  rw [hx0] at e0
  rw [hx1] at e1
  obtain rfl : y = ⟨l.toArray⟩ := by
    have e0' : (DataW.lit (Lit.string y.data.toList) : DataW Unit) = .lit (.string l) := e0
    injection e0' with e3
    injection e3 with e4
    apply ByteArray.ext
    apply Array.ext'
    exact e4
  obtain rfl : z = c := by
    have e1' : (DataW.lit (Lit.int IntKind.i64 z) : DataW Unit) = .lit (.int .i64 c) := e1
    injection e1' with e3
    injection e3
  have f0 := congrArg (·[0]?) hy
  have f1 := congrArg (·[0]?) hz
  simp [List.getElem?_take, List.getElem?_drop] at f0 f1
  exact ⟨f0, f1⟩
def namingD (i : Nat) : DataW Unit := .agg [.lit (.string (nmS i).data.toList), .lit (.int .i64 (nmC i))]
theorem namings_eq : (Rows.laid_diacritic_charset_namings : DataW Unit) = .agg ((List.range 22).map namingD) := by kernel_rfl
theorem nmL_at (j : Nat) (v : Value) (h : nmL[j]? = some v) : (j % 2 = 0 ∧ j / 2 < 22 ∧ v = .string (nmS (j / 2))) ∨ (j % 2 = 1 ∧ j / 2 < 22 ∧ v = .int .i64 (nmC (j / 2))) := by
  have hl : nmL.length = 44 := by kernel_rfl
  have hj : j < 44 := by have := (List.getElem?_eq_some_iff.1 h).1; omega
  have hall : ∀ i : Fin 22, nmL[2 * i.val]? = some (.string (nmS i.val)) ∧ nmL[2 * i.val + 1]? = some (.int .i64 (nmC i.val)) := by
    intro ⟨i, hi⟩
    have : i = 0 ∨ i = 1 ∨ i = 2 ∨ i = 3 ∨ i = 4 ∨ i = 5 ∨ i = 6 ∨ i = 7 ∨ i = 8 ∨ i = 9 ∨ i = 10 ∨ i = 11 ∨ i = 12 ∨ i = 13 ∨ i = 14 ∨ i = 15 ∨ i = 16 ∨ i = 17 ∨ i = 18 ∨ i = 19 ∨ i = 20 ∨ i = 21 := by omega
    rcases this with rfl | rfl | rfl | rfl | rfl | rfl | rfl | rfl | rfl | rfl | rfl | rfl | rfl | rfl | rfl | rfl | rfl | rfl | rfl | rfl | rfl | rfl <;> exact ⟨rfl, rfl⟩
  obtain ⟨a, b⟩ := hall ⟨j / 2, by omega⟩
  simp only at a b
  rcases Nat.mod_two_eq_zero_or_one j with hm | hm
  · refine .inl ⟨hm, by omega, ?_⟩
    rw [show 2 * (j / 2) = j by omega, h] at a
    exact Option.some.inj a
  · refine .inr ⟨hm, by omega, ?_⟩
    rw [show 2 * (j / 2) + 1 = j by omega, h] at b
    exact Option.some.inj b
theorem tab9_of {W : World} (h : laidMetH Tryz.prog Rows.detectScoresRow.laid W) : Tab9 W := by
  rw [MakeChecks.laidMetH_plain _ _ _ (by kernel_rfl)] at h
  have h1 := Lib.laidMet.reads h (n := "diacritic/charset.namings") (d := Rows.laid_diacritic_charset_namings) (by repeat (first | exact List.Mem.head _ | apply List.Mem.tail))
  rw [namings_eq] at h1
  obtain ⟨g', t', cs, fuel, p, hg', hty, hvar, hd⟩ := h1
  obtain rfl := Option.some.inj ((show Tryz.prog.globalNamed "diacritic/charset.namings" = some 0 by kernel_rfl).symm.trans hg')
  obtain rfl := Option.some.inj ((show (Tryz.prog.globals[0]?).map (·.type) = some 87 by kernel_rfl).symm.trans hty)
  have hc2 : Tryz.prog.cellsOf 86 = 2 := by kernel_rfl
  have hel : ∀ i, i < 22 → cs[i * 2]? = some (.string (nmS i)) ∧ cs[i * 2 + 1]? = some (.int .i64 (nmC i)) := by
    intro i hi
    obtain ⟨fuel', d, q, hdi, he⟩ := Lib.array_elem Tryz.underlying87 hd i hi
    simp only [List.getElem?_map, List.getElem?_range hi, Option.map_some, Option.some.injEq] at hdi
    subst hdi
    rw [hc2] at he
    obtain ⟨f0, f1⟩ := naming_elem he
    simp [List.getElem?_take, List.getElem?_drop] at f0 f1
    exact ⟨f0, f1⟩
  intro j v hj
  rw [Nat.zero_add]
  rw [World.var?_cell hg' hvar j]
  rcases nmL_at j v hj with ⟨h1, h2, rfl⟩ | ⟨h1, h2, rfl⟩
  · have := (hel (j / 2) h2).1
    rwa [show j / 2 * 2 = j by omega] at this
  · have := (hel (j / 2) h2).2
    rwa [show j / 2 * 2 + 1 = j by omega] at this
theorem tabE_of {W : World} (h : laidMetH Tryz.prog Rows.detectScoresRow.laid W) : TabE W := ⟨⟨tabs_of h, tab7_of h, tab8_of h⟩, tab9_of h⟩
end Go.Proofs.YtndopjmdpmkgeaaGreatDoor

