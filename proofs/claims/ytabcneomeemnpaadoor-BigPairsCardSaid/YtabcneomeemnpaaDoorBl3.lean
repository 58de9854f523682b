/-
  Layer 8, the code: two signs at once; the signs of any two bytes.
-/
import Derived.Test.YtabcneomeemnpaaDoorBl1
import Derived.Deep.MidRow
namespace Go.Proofs.YtabcneomeemnpaaDoor
open Go Go.ChangeShapes Go.WideShapes Go.ChangeAt Go.RowKit
set_option linter.unusedSimpArgs false
set_option linter.unusedVariables false

/-- The codes that stand for two signs, and these. -/
def twF (i : Nat) : Nat := [34914, 34916, 34979, 34981].getD i 0
def twP (i : Nat) : Nat := [202, 202, 234, 234].getD i 0
def twQ (i : Nat) : Nat := [772, 780, 772, 780].getD i 0
def twL : List Value := [.int .i64 34914, .int .i32 202, .int .i32 772, .int .i64 34916, .int .i32 202, .int .i32 780, .int .i64 34979, .int .i32 234, .int .i32 772, .int .i64 34981, .int .i32 234, .int .i32 780]
/-- What the variable holds. -/
def Tab8 (w : World) : Prop := w.rangeAt 0 0 twL
theorem Tab8.ext {w w' : World} (h : Tab8 w) (k : Ext w w') : Tab8 w' := fun j v hj => (World.cell?_of_block (k.block _ (World.block_lt_of_cell? w _ (h j v hj)))).trans (h j v hj)
theorem load_twins (w : World) (h : Tab8 w) : (Instr.loadAt 46 (.pointer (some ⟨0, 0, none⟩))).run Tryd.prog w = .ok (.agg twL.toArray) w :=
  run_loadAt_mid w _ 0 _ twL _ h Tryd.underlying46 rfl (by kernel_rfl)
theorem load_twins_var (w : World) (h : Tab8 w) : (loadVar 46 ⟨0, 0, none⟩).run Tryd.prog w = .ok (.agg twL.toArray) w :=
  run_loadVar_mid w _ 0 _ twL _ h Tryd.underlying46 rfl (by kernel_rfl)
theorem at_twin (i : Nat) (hi : i < 4) (w : World) : (Instr.index 46 (.agg twL.toArray) (.int .i64 i)).run Tryd.prog w = .ok (.agg #[.int .i64 (twF i), .int .i32 (twP i), .int .i32 (twQ i)]) w := by
  have : i = 0 ∨ i = 1 ∨ i = 2 ∨ i = 3 := by omega
  rcases this with rfl | rfl | rfl | rfl
  all_goals
    clear hi
    show _ = _
    kernel_rfl
theorem tw_bd (i : Nat) (hi : i < 4) : 34914 ≤ twF i ∧ twF i ≤ 34981 ∧ 202 ≤ twP i ∧ twP i ≤ 234 ∧ 772 ≤ twQ i ∧ twQ i ≤ 780 := by
  have : i = 0 ∨ i = 1 ∨ i = 2 ∨ i = 3 := by omega
  rcases this with rfl | rfl | rfl | rfl <;> decide
theorem tw_hit (a b i : Nat) (hi : i < 4) (h : twF i = a * 256 + b) : signsB a b = [(twP i : Int), (twQ i : Int)] := by
  unfold signsB
  rw [← h]
  have : i = 0 ∨ i = 1 ∨ i = 2 ∨ i = 3 := by omega
  rcases this with rfl | rfl | rfl | rfl
  · rw [if_pos (show (twoS ((twF 0 : Nat) : Int)).1 ≠ 0 by decide)]; decide
  · rw [if_pos (show (twoS ((twF 1 : Nat) : Int)).1 ≠ 0 by decide)]; decide
  · rw [if_pos (show (twoS ((twF 2 : Nat) : Int)).1 ≠ 0 by decide)]; decide
  · rw [if_pos (show (twoS ((twF 3 : Nat) : Int)).1 ≠ 0 by decide)]; decide
/-- A load whose run is known. -/
theorem wpList_load_known {P : Program} {w : World} {ops : Array Oper} {rest : List Oper} {o : Oper} {a : Act} {Q : Exit → Act → World → Prop} (hgd : o.guard = none) (ty : TypeId) (x : Operand) (ho : o.op = .load ty x)
    (b : Nat) (v : Value) (hx : a.eval x = .pointer (some ⟨b, 0, none⟩)) (hr : (loadVar ty ⟨b, 0, none⟩).run P w = .ok v w) (h : wpList P ops Q rest (a.put o.dst v) w) : wpList P ops Q (o :: rest) a w :=
  wpList_plain hgd fun _ hK => by
    unfold Oper.wp execOp
    simp only [ho, hx, Instr.loadAt, Instr.sureAddr, Sem.run_bind, Sem.run_pure, Result.andThen_ok, hr]
    exact hK _ _ h
theorem tw_miss (a b : Nat) (h : ∀ i, i < 4 → twF i ≠ a * 256 + b) : signsB a b = if oneB a b ≠ 0 then [oneB a b] else [] := by
  unfold signsB
  have h0 := h 0 (by omega)
  have h1 := h 1 (by omega)
  have h2 := h 2 (by omega)
  have h3 := h 3 (by omega)
  have e0 : twF 0 = 34914 := rfl
  have e1 : twF 1 = 34916 := rfl
  have e2 : twF 2 = 34979 := rfl
  have e3 : twF 3 = 34981 := rfl
  have e : twoS ((a * 256 + b : Nat) : Int) = (0, 0) := by
    unfold twoS
    rw [if_neg (by omega), if_neg (by omega), if_neg (by omega), if_neg (by omega)]
  rw [e, if_neg (by decide)]
theorem sig_out (a b : Nat) : textOut (signsB a b) = sigT a b := textOut_yes (signsB_all a b)
theorem bor_i64_nat (a b : Nat) (ha : a < 256) (hb : b < 256) : bits .or .i64 ((a : Int) * 256) (b : Int) = ((a * 256 + b : Nat) : Int) := by
  have hab : a * 256 ||| b = a * 256 + b := by
    have := Nat.two_pow_add_eq_or_of_lt (i := 8) (b := b) (by omega) a
    rw [show (2 : Nat) ^ 8 = 256 from rfl, Nat.mul_comm] at this
    exact this.symm
  have h1 : (BitVec.ofInt 64 ((a * 256 : Nat) : Int)).toNat = a * 256 := by
    rw [BitVec.ofInt_natCast, BitVec.toNat_ofNat]; exact Nat.mod_eq_of_lt (by omega)
  have h2 : (BitVec.ofInt 64 (b : Int)).toNat = b := by
    rw [BitVec.ofInt_natCast, BitVec.toNat_ofNat]; exact Nat.mod_eq_of_lt (by omega)
  rw [show ((a : Int) * 256) = ((a * 256 : Nat) : Int) by omega]
  show IntKind.i64.wrap ((BitVec.ofInt 64 ((a * 256 : Nat) : Int) ||| BitVec.ofInt 64 (b : Int)).toNat : Int) = _
  rw [BitVec.toNat_or, h1, h2, hab]
  exact IntWalk.i64_in _ (by omega)
theorem twin_row {w : World} {g : Nat} {c p q : Int} {T : TypeId} (h : w.heap[g]? = some (.cells #[.int .i64 c, .int .i32 p, .int .i32 q] T (0, 0))) : IsRow w (some ⟨g, 1, none⟩) 2 2 [p, q] := by
  obtain ⟨⟨h0, h1, h2⟩, _⟩ := facts3 h
  refine ⟨rfl, .inr ⟨g, 1, rfl, by omega, fun j z hj => ?_⟩⟩
  match j, hj with
  | 0, hj =>
    simp at hj
    subst hj
    exact h1
  | 1, hj =>
    simp at hj
    subst hj
    exact h2
set_option maxRecDepth 100000 in
set_option maxHeartbeats 2000000 in
/-- The signs of any two bytes. -/
theorem big_signs (u v : UInt8) (w : World) (hT : Tab8 w) : Calls Tryd.prog 7 #[.int .u8 u.toNat, .int .u8 v.toNat] w fun e w' => e = .returned (.tuple #[.string (sigT u.toNat v.toNat), .bool (decide (signsB u.toNat v.toNat ≠ []))]) ∧ Ext w w' := by
  have ha := u.toNat_lt
  have hb := v.toNat_lt
  generalize u.toNat = a at ha ⊢
  generalize v.toNat = b at hb ⊢
  have HT := Lib.hid hT
  clear hT
  have ha2 : (a : Int) ≤ 255 := by omega
  have hb2 : (b : Int) ≤ 255 := by omega
  have hor := bor_i64_nat a b ha hb
  have hwa : ((a : Int) * 256) < 65536 := by omega
  obtain ⟨c, hc⟩ : ∃ c, c = a * 256 + b := ⟨_, rfl⟩
  rw [← hc] at hor
  have hcb : c < 65536 := by omega
  have hci : (c : Int) < 65536 := by omega
  have HOut : Hid (textOut (signsB a b) = sigT a b) := sig_out a b
  have HAll : Hid (allSigns (signsB a b) = true) := signsB_all a b
  have HHit := Lib.hid (fun i hi h => tw_hit a b i hi h)
  have HMiss := Lib.hid (fun h => tw_miss a b h)
  have HSO := Lib.hid (fun w => bsign_of ((a * 256 + b : Nat) : Int) w (by omega) (by omega) (oneB a b) (soB_one a b hb))
  have HPB := Lib.hid (oneB_bd a b)
  rw [← hc] at HHit HMiss HSO
  obtain ⟨p, hp⟩ : ∃ p, p = oneB a b := ⟨_, rfl⟩
  rw [← hp] at HMiss HSO HPB
  obtain ⟨zs, hzs⟩ : ∃ zs, zs = signsB a b := ⟨_, rfl⟩
  rw [← hzs] at HOut HAll HHit HMiss ⊢
  generalize sigT a b = s at HOut ⊢
  clear hp hzs hc
  have HL : Hid (∀ w2, Ext w w2 → (loadVar 46 ⟨0, 0, none⟩).run Tryd.prog w2 = .ok (.agg twL.toArray) w2) := fun w2 x => load_twins_var w2 (HT.out.ext x)
  obtain ⟨C, hC⟩ : ∃ C, C = twL.toArray := ⟨_, rfl⟩
  have HX := Lib.hid (fun i hi w => at_twin i hi w)
  rw [← hC] at HX HL
  clear hC
  go_enter Tryd.func7, Tryd.ntmps7
  go_wp2_with (refine wpList_load_known rfl 46 _ rfl 0 (.agg C) rfl (HL.out _ (Ext.refl _)) ?_)
  go_loopw [18] (fun v wr => ∃ i : Nat, i ≤ 4 ∧ v = .int .i64 i ∧ Ext w wr ∧ Hid (∀ j, j < i → twF j ≠ c)) (fun v _ => 4 - (intOf v).toNat)
  case atStart => exact ⟨0, by omega, rfl, Ext.refl _, fun j h => absurd h (by omega)⟩
  case round =>
    obtain ⟨i, hi, rfl, hx, HJ⟩ := hrel
    by_cases hlt : i < 4
    · have hli : (i : Int) < 4 := by omega
      have hix := fun w2 => HX.out i hlt w2
      obtain ⟨b1, b2, b3, b4, b5, b6⟩ := tw_bd i hlt
      have HH := Lib.hid (HHit.out i hlt)
      have HK : Hid (twF i ≠ c → ∀ j, j < i + 1 → twF j ≠ c) := fun h j hj => by
        by_cases e : j = i
        · subst e; exact h
        · exact HJ.out j (by omega)
      clear HHit HMiss HJ HX
      generalize twF i = f at hix b1 b2 HH HK
      generalize twP i = tp at hix b3 b4 HH
      generalize twQ i = tq at hix b5 b6 HH
      have f1 : (f : Int) ≤ 34981 := by omega
      have p1 : (tp : Int) ≤ 234 := by omega
      have q1 : (tq : Int) ≤ 780 := by omega
      have hBn := heap_alloc_new wr (.cells #[.int .i64 (f : Int), .int .i32 (tp : Int), .int .i32 (tq : Int)] 45)
      have hxn := hx.alloc (.cells #[.int .i64 (f : Int), .int .i32 (tp : Int), .int .i32 (tq : Int)] 45)
      obtain ⟨⟨d0, d1, d2⟩, _⟩ := facts3 hBn
      by_cases hin : f = c
      · have ez := HH.out hin
        have HTX := Lib.hid (text_row (twin_row hBn) (Ext.refl _) (by simp))
        rw [ez] at HOut HAll
        rw [HOut.out, HAll.out] at HTX
        have EZ := Lib.hid ez
        have hfc : ((f : Int) == (c : Int)) = true := by rw [hin]; simp
        clear HH HK hin ez hBn HOut HAll HPB HSO
        go_wp2_with (go_at_call 15; refine HTX.out.mono ?_; rintro e w4 ⟨rfl, hb4⟩)
        go_ret2
        exact ⟨by rw [EZ.out]; rfl, hxn.trans hb4⟩
      · have HF := Lib.hid (HK.out hin)
        have hfc : ((f : Int) == (c : Int)) = false := beq_false_of_ne (by omega)
        clear HH HK hin hBn
        go_wp2
        go_roundw
        case rel => exact ⟨i + 1, by omega, by go_num, hxn, HF⟩
        case measure => simp [intOf]; omega
    · have hie : i = 4 := by omega
      subst hie
      have ez := HMiss.out HJ.out
      clear HHit HMiss HJ HX HL
      by_cases hp0 : p = 0
      · rw [if_neg (by simpa using hp0)] at ez
        subst hp0
        rw [decide_eq_false (by simp)] at HSO
        rw [ez] at HOut
        have es : s = ⟨#[]⟩ := HOut.out.symm.trans (by rfl)
        have ES := Lib.hid es
        have EZ := Lib.hid ez
        clear HOut HAll HPB ez es
        go_wp2_with (go_at_call 16; refine (HSO.out _).mono ?_; rintro e w3 ⟨rfl, hb3⟩)
        go_ret2
        exact ⟨by rw [EZ.out, ES.out]; rfl, hx.trans hb3⟩
      · rw [if_pos hp0] at ez
        rw [decide_eq_true hp0] at HSO
        have HTX := Lib.hid (fun w => text_one p w)
        rw [ez] at HOut HAll
        rw [HOut.out, HAll.out] at HTX
        obtain ⟨pb1, pb2, _⟩ := HPB.out
        have EZ := Lib.hid ez
        clear HOut HAll HPB ez
        go_wp2_with (first
          | (go_at_call 16; refine (HSO.out _).mono ?_; rintro e w3 ⟨rfl, hb3⟩)
          | (go_at_call 15; refine (HTX.out _).mono ?_; rintro e w4 ⟨rfl, hb4⟩))
        go_ret2
        exact ⟨by rw [EZ.out]; rfl, (hx.trans hb3).trans hb4⟩
end Go.Proofs.YtabcneomeemnpaaDoor
