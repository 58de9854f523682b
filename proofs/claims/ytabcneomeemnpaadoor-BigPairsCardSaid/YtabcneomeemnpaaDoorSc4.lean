/-
  Contracts of package single (4): a text as bytes.
-/
import Derived.Test.YtabcneomeemnpaaDoorSc3
namespace Go.Proofs.YtabcneomeemnpaaDoor
open Go Go.ChangeShapes Go.WideShapes Go.ChangeAt Go.RowKit
set_option linter.unusedSimpArgs false
set_option linter.unusedVariables false

/-- The place of the first sign that has no code, that of the first sign being a; -1: all have. -/
def badG (g : Int → Int) : Nat → List Int → Int
  | _, [] => -1
  | a, p :: l => if g p < 0 then (a : Int) else badG g (a + (Lib.encodeRune p).length) l
def encG (g : Int → Int) (l : List Int) : List UInt8 := l.map fun p => (g p).toNat.toUInt8
theorem badG_z (c : Int) : ∀ (l : List Int) (a : Nat), badG (byteZ c) a l = badZ c a l
  | [], _ => rfl
  | p :: l, a => by rw [badG, badZ, badG_z c l]
theorem encG_snoc (g : Int → Int) (zs : List Int) (k : Nat) (p : Int) (h : zs[k]? = some p) : encG g (zs.take (k + 1)) = encG g (zs.take k) ++ [(g p).toNat.toUInt8] := by
  rw [List.take_add_one, h]
  simp [encG]
theorem txt_list (zs : List Int) : (txt zs).data.toList = encs zs := rfl
theorem txt_bad (zs : List Int) (h : allSigns zs = true) : badS (txt zs) < 0 := by
  unfold badS
  rw [txt_list]
  have := badL_encs zs 0 [] h
  rw [List.append_nil, badL_nil] at this
  rw [this]
  decide
theorem txt_sgn (zs : List Int) (h : allSigns zs = true) : sgn (txt zs) = zs := runesL_encs zs h
theorem txt_len (zs : List Int) : (txt zs).size = (encs zs).length := rfl
/-- Where a text's sign stands, and what is read there. -/
theorem txt_at (zs : List Int) (h : allSigns zs = true) (k : Nat) (p : Int) (hp : zs[k]? = some p) :
    (encs (zs.take k)).length < (txt zs).size ∧ Utf8.decode (txt zs) (encs (zs.take k)).length = (p.toNat, (Lib.encodeRune p).length) ∧ (p.toNat : Int) = p ∧ isSign p = true ∧ (encs (zs.take (k + 1))).length = (encs (zs.take k)).length + (Lib.encodeRune p).length ∧ 1 ≤ (Lib.encodeRune p).length := by
  have hsp : isSign p = true := by
    unfold allSigns at h
    rw [List.all_eq_true] at h
    exact h _ (List.mem_of_getElem? hp)
  have hpb := (isSign_iff p).1 hsp
  have e0 : zs = zs.take k ++ p :: zs.drop (k + 1) := by
    have := drop_int hp
    rw [← this, List.take_append_drop]
  have e1 : encs zs = encs (zs.take k) ++ (Lib.encodeRune p ++ encs (zs.drop (k + 1))) := by
    conv => lhs; rw [e0]
    rw [encs_app, encs_cons]
  have e2 : (txt zs).data.toList.drop (encs (zs.take k)).length = Lib.encodeRune p ++ encs (zs.drop (k + 1)) := by
    rw [txt_list, e1, List.drop_left]
  have e3 := dec_enc p hsp (encs (zs.drop (k + 1)))
  rw [← e2, Lib.decodeL_drop] at e3
  have hw : 1 ≤ (Lib.encodeRune p).length := by
    have := decode_pos (txt zs) (encs (zs.take k)).length
    rw [e3] at this
    exact this
  refine ⟨?_, e3, by omega, hsp, ?_, hw⟩
  · rw [txt_len, e1, List.length_append, List.length_append]
    omega
  · rw [List.take_add_one, hp, encs_app]
    simp [encs_one]
def EncOut (w : World) (g : Int → Int) (zs : List Int) (e : Ending) (w' : World) : Prop :=
  ((badG g 0 zs < 0 ∧ e = .returned (.tuple #[.string ⟨(encG g zs).toArray⟩, .agg #[.int .i64 0, .int .i64 0]])) ∨ (¬ badG g 0 zs < 0 ∧ e = .returned (.tuple #[.string ⟨#[]⟩, .agg #[.int .i64 6, .int .i64 (badG g 0 zs)]]))) ∧ Ext w w'
theorem make_row8 (k : Nat) (hk : k ≤ 281474976710656) (w : World) : ∃ w', (Instr.makeSlice 31 (.int .i64 0) (.int .i64 (k : Int))).run Tryd.prog w = .ok (.slice (some ⟨w.heap.size, 0, none⟩) 0 k) w' ∧
    (∀ B, B ≤ w.heap.size → w'.ownsRow B 5 1 (.slice (some ⟨w.heap.size, 0, none⟩) 0 k) 0 []) ∧ w.grownBy w' none := by
  obtain ⟨w', h1, h2, h3⟩ := make_row k hk w
  exact ⟨w', h1, fun B hB => own_base h2 hB, h3⟩
theorem info_parts_u8 : ∃ i, Tryd.prog.info? 5 = some i ∧ i.zero = some (.int .u8 0) ∧ i.size = 1 ∧ i.bytes = 1 := by
  obtain ⟨i, hi, h2⟩ := Option.map_eq_some_iff.1 info_u8
  obtain ⟨h3, h4⟩ := Prod.mk.inj h2
  obtain ⟨h5, h6⟩ := Prod.mk.inj h4
  exact ⟨i, hi, h3, h5, h6⟩
theorem byteCells_app (a b : List UInt8) : Lib.byteCells (a ++ b) = Lib.byteCells a ++ Lib.byteCells b := by simp [Lib.byteCells]
end Go.Proofs.YtabcneomeemnpaaDoor
