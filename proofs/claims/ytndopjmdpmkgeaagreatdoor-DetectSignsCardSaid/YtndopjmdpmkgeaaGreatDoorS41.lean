/-
  What the proof of this claim leans on (S41).
-/
import Derived.Test.YtndopjmdpmkgeaaGreatDoorS25
import Derived.Test.YtndopjmdpmkgeaaGreatDoorCards
import Derived.Test.YtndopjmdpmkgeaaGreatDoorTie
import Derived.ChangeMaps
import Derived.LaidMore
import Derived.Lay
import Derived.Lib.LaidU8
import Derived.MakeChecks
import Derived.PinnedBridge
import Derived.SevenTiedAt
import Derived.Stop.Joined
namespace Go.Proofs.YtndopjmdpmkgeaaGreatDoor
open Go Go.ChangeShapes Go.WideShapes Go.ChangeAt Go.RowKit
set_option linter.unusedSimpArgs false
set_option linter.unusedVariables false
set_option maxRecDepth 100000

theorem twin_elem {w : World} {fuel : Nat} {cs : List Value} {c p q : Int} {r : List MemPlace}
    (h : DataW.trod (fun _ => ()) Tryz.prog w 0 (fun _ => true) false fuel 172 cs = some (.agg [.lit (.int .i64 c), .agg ([p, q].map fun z => .lit (.int .i32 z))], r)) : cs[0]? = some (.int .i64 c) ∧ cs[1]? = some (.int .i32 p) ∧ cs[2]? = some (.int .i32 q) := by
  obtain ⟨xs, n, rfl, hx, hl, hxl, hall⟩ := DataW.trod_struct Tryz.underlying172 h
  have hxs : xs.map (·.1) = [.lit (.int .i64 c), .agg ([p, q].map fun z => .lit (.int .i32 z))] := (congrArg Prod.fst hx).symm |> fun e => by simpa using e
  obtain ⟨x0, x1, rfl⟩ : ∃ x0 x1, xs = [x0, x1] := by
    match xs, hxs with
    | [x0, x1], _ => exact ⟨x0, x1, rfl⟩
    | [], e => simp at e
    | [_], e => simp at e
    | _ :: _ :: _ :: _, e => simp at e
  simp only [List.map_cons, List.map_nil, List.cons.injEq, and_true] at hxs
  obtain ⟨e0, e1⟩ := hxs
  have k0 : Tryz.prog.cellsOf 3 = 1 := by kernel_rfl
  have k1 : Tryz.prog.cellsOf 170 = 2 := by kernel_rfl
  have h0 : DataW.trod (fun _ => ()) Tryz.prog w 0 (fun _ => true) false n 3 ((cs.drop 0).take (Tryz.prog.cellsOf 3)) = some x0 := hall 0 _ rfl
  have h1 : DataW.trod (fun _ => ()) Tryz.prog w 0 (fun _ => true) false n 170 ((cs.drop 1).take (Tryz.prog.cellsOf 170)) = some x1 := hall 1 _ rfl
  rw [k0] at h0
  rw [k1] at h1
  obtain ⟨z, hz, hx0, _⟩ := DataW.trod_int Tryz.underlying3 h0
  rw [hx0] at e0
  obtain rfl : z = c := by
    have e0' : (DataW.lit (Lit.int IntKind.i64 z) : DataW Unit) = .lit (.int .i64 c) := e0
    injection e0' with e3
    injection e3
  have h1' : DataW.trod (fun _ => ()) Tryz.prog w 0 (fun _ => true) false n 170 ((cs.drop 1).take 2) = some (Lib.tabData .i32 [p, q], x1.2) := by
    rw [h1]
    exact congrArg some (Prod.ext e1 rfl)
  have hcs := Lib.cells_of_tab Tryz.underlying170 Tryz.underlying21 (by kernel_rfl) k1 h1'
  have f0 := congrArg (·[0]?) hz
  have f1 := congrArg (·[0]?) hcs
  have f2 := congrArg (·[1]?) hcs
  simp [List.getElem?_take, List.getElem?_drop] at f0 f1 f2
  exact ⟨f0, f1, f2⟩
def twinD (i : Nat) : DataW Unit := .agg [.lit (.int .i64 (twF i)), .agg ([(twP i : Int), (twQ i : Int)].map fun z => .lit (.int .i32 z))]
theorem twins_eq : (Rows.laid_diacritic_big5_twins : DataW Unit) = .agg ((List.range 4).map twinD) := by kernel_rfl
theorem tab8_of {W : World} (h : laidMetH Tryz.prog Rows.detectScoresRow.laid W) : Tab8 W := by
  rw [MakeChecks.laidMetH_plain _ _ _ (by kernel_rfl)] at h
  have h1 := Lib.laidMet.reads h (n := "diacritic/big5.twins") (d := Rows.laid_diacritic_big5_twins) (by repeat (first | exact List.Mem.head _ | apply List.Mem.tail))
  rw [twins_eq] at h1
  obtain ⟨g', t', cs, fuel, p, hg', hty, hvar, hd⟩ := h1
  obtain rfl := Option.some.inj ((show Tryz.prog.globalNamed "diacritic/big5.twins" = some 3 by kernel_rfl).symm.trans hg')
  obtain rfl := Option.some.inj ((show (Tryz.prog.globals[3]?).map (·.type) = some 173 by kernel_rfl).symm.trans hty)
  have hc3 : Tryz.prog.cellsOf 172 = 3 := by kernel_rfl
  have hel : ∀ i, i < 4 → cs[i * 3]? = some (.int .i64 (twF i)) ∧ cs[i * 3 + 1]? = some (.int .i32 (twP i)) ∧ cs[i * 3 + 2]? = some (.int .i32 (twQ i)) := by
    intro i hi
    obtain ⟨fuel', d, q, hdi, he⟩ := Lib.array_elem Tryz.underlying173 hd i hi
    simp only [List.getElem?_map, List.getElem?_range hi, Option.map_some, Option.some.injEq] at hdi
    subst hdi
    rw [hc3] at he
    obtain ⟨f0, f1, f2⟩ := twin_elem he
    simp [List.getElem?_take, List.getElem?_drop] at f0 f1 f2
    exact ⟨f0, f1, f2⟩
  intro j v hj
  rw [Nat.zero_add]
  have hjl : j < 12 := (List.getElem?_eq_some_iff.1 hj).1
  rw [World.var?_cell hg' hvar j]
  have : j = 0 ∨ j = 1 ∨ j = 2 ∨ j = 3 ∨ j = 4 ∨ j = 5 ∨ j = 6 ∨ j = 7 ∨ j = 8 ∨ j = 9 ∨ j = 10 ∨ j = 11 := by omega
  rcases this with rfl | rfl | rfl | rfl | rfl | rfl | rfl | rfl | rfl | rfl | rfl | rfl
  · exact (hel 0 (by omega)).1.trans hj
  · exact (hel 0 (by omega)).2.1.trans hj
  · exact (hel 0 (by omega)).2.2.trans hj
  · exact (hel 1 (by omega)).1.trans hj
  · exact (hel 1 (by omega)).2.1.trans hj
  · exact (hel 1 (by omega)).2.2.trans hj
  · exact (hel 2 (by omega)).1.trans hj
  · exact (hel 2 (by omega)).2.1.trans hj
  · exact (hel 2 (by omega)).2.2.trans hj
  · exact (hel 3 (by omega)).1.trans hj
  · exact (hel 3 (by omega)).2.1.trans hj
  · exact (hel 3 (by omega)).2.2.trans hj
end Go.Proofs.YtndopjmdpmkgeaaGreatDoor

