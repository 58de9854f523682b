/-
  The document's answers of layer 3 (3): signs as units.
-/
import Derived.Test.YtdbjjadgmfgjfaaDoorWdAwake
namespace Go.Proofs.YtdbjjadgmfgjfaaDoor
open Go Go.ChangeShapes Go.WideShapes Go.ChangeAt Go.RowKit
set_option linter.unusedSimpArgs false
set_option linter.unusedVariables false

theorem nums_two (a b : Nat) : strOfNums [(a : Int), (b : Int)] = ⟨#[a.toUInt8, b.toUInt8]⟩ := by simp [strOfNums]
theorem uTxt_nums (big : Bool) (u : Int) (h0 : 0 ≤ u) (h1 : u < 65536) : uTxt big u.toNat = if big then strOfNums [u / 256, u % 256] else strOfNums [u % 256, u / 256] := by
  obtain ⟨n, rfl⟩ := Int.eq_ofNat_of_zero_le h0
  have e1 : (n : Int) / 256 = ((n / 256 : Nat) : Int) := by omega
  have e2 : (n : Int) % 256 = ((n % 256 : Nat) : Int) := by omega
  rw [e1, e2, nums_two, nums_two, Int.toNat_natCast]
  cases big <;> rfl
set_option maxHeartbeats 400000 in
theorem rtwo (u : Int) (big : Bool) (w : World) (h0 : 0 ≤ u) (h1 : u < 65536) : Calls Tryd.prog 27 #[.int .i32 u, .bool big] w fun e w' => e = .returned (.string (uTxt big u.toNat)) ∧ Ext w w' := by
  rw [uTxt_nums big u h0 h1]
  cases big
  · have hs : (convert 62 9 (.slice (some ⟨w.heap.size, 0, none⟩) 2 2)).run Tryd.prog (w.alloc (.cells #[.int .u8 (u % 256), .int .u8 (u / 256)] 5)) = .ok (.string (strOfNums [u % 256, u / 256])) _ := lit_string [u % 256, u / 256] w
    go_enter Tryd.func27, Tryd.ntmps27
    go_wp2
    go_ret
    exact ⟨rfl, (Ext.refl w).alloc _⟩
  · have hs : (convert 62 9 (.slice (some ⟨w.heap.size, 0, none⟩) 2 2)).run Tryd.prog (w.alloc (.cells #[.int .u8 (u / 256), .int .u8 (u % 256)] 5)) = .ok (.string (strOfNums [u / 256, u % 256])) _ := lit_string [u / 256, u % 256] w
    go_enter Tryd.func27, Tryd.ntmps27
    go_wp2
    go_ret
    exact ⟨rfl, (Ext.refl w).alloc _⟩
theorem weTxt_nil (big : Bool) : weTxt big [] = ⟨#[]⟩ := rfl
theorem uTxt_size (big : Bool) (u : Nat) : (uTxt big u).size = 2 := ub_len big u
theorem weTxt_lo (big : Bool) (a : List Int) (p : Int) (h : p < 65536) : weTxt big a ++ uTxt big p.toNat = weTxt big (a ++ [p]) := by
  apply bytes_inj
  rw [append_list]
  show we big a ++ ub big p.toNat = we big (a ++ [p])
  rw [we_app, we_cons, we_nil, unitsOf_lo h, ubs_one, List.append_nil]
theorem weTxt_hi (big : Bool) (a : List Int) (p : Int) (h : ¬ p < 65536) : (weTxt big a ++ uTxt big (hiOf p)) ++ uTxt big (loOf p) = weTxt big (a ++ [p]) := by
  apply bytes_inj
  rw [append_list, append_list]
  show (we big a ++ ub big (hiOf p)) ++ ub big (loOf p) = we big (a ++ [p])
  rw [we_app, we_cons, we_nil, unitsOf_hi h, ubs_two, List.append_nil, List.append_assoc]
set_option maxRecDepth 100000 in
set_option maxHeartbeats 1000000 in
theorem rencode (big : Bool) (a : Option Addr) (cap : Nat) (zs : List Int) (w : World) (h : IsRow w a zs.length cap zs) (hl : zs.length ≤ 1000000) (hsg : allSigns zs = true) :
    Calls Tryd.prog 14 #[.slice a zs.length cap, .bool big] w fun e w' => e = .returned (.string (weTxt big zs)) ∧ Ext w w' := by
  have HSG := Lib.hid hsg
  clear hsg
  go_enter Tryd.func14, Tryd.ntmps14
  go_wp2
  go_loopw [5, 6] (fun t i wr => ∃ (k : Nat) (u : ByteArray), k ≤ zs.length ∧ i = .int .i64 k ∧ t = .string u ∧ Ext w wr ∧ u.size ≤ 4 * k ∧ Hid (u = weTxt big (zs.take k))) (fun _ i _ => zs.length - (intOf i).toNat)
  case atStart => exact ⟨0, ⟨#[]⟩, by omega, rfl, rfl, Ext.refl _, by decide, rfl⟩
  case round =>
    obtain ⟨k, u, hk, rfl, rfl, hx, hus, HU⟩ := hrel
    by_cases hlt : k < zs.length
    · obtain ⟨x, off, rfl, hxl, p, hp, hc⟩ := row_cell h hlt
      have hc0 := (World.cell?_of_block (w := w) (hx.block x hxl)).trans hc
      have hps : isSign p = true := by
        have h1 := HSG.out
        unfold allSigns at h1
        rw [List.all_eq_true] at h1
        exact h1 _ (List.mem_of_getElem? hp)
      have htk : zs.take (k + 1) = zs.take k ++ [p] := by rw [List.take_add_one, hp]; rfl
      have hpb := (isSign_iff p).1 hps
      have hp0 : 0 ≤ p := by omega
      have hp1 : p ≤ 1114111 := by omega
      have HTK := Lib.hid htk
      clear htk hps hc hpb hp
      by_cases hlo : p < 65536
      · have HN : Hid (u ++ uTxt big p.toNat = weTxt big (zs.take (k + 1))) := by show _ = _; rw [HTK.out, HU.out]; exact weTxt_lo big _ p hlo
        have hz := uTxt_size big p.toNat
        have hgsz : (uTxt big p.toNat).size ≤ 2 := by omega
        have HB := Lib.hid (fun w => rtwo p big w hp0 hlo)
        clear hz
        generalize uTxt big p.toNat = g at HN HB hgsz
        have hnp : ¬ 65536 ≤ p := by omega
        go_wp2_with (go_at_call 27; refine (HB.out _).mono ?_; rintro e w2 ⟨rfl, hb2⟩)
        go_roundw
        case rel => exact ⟨k + 1, u ++ g, by omega, by go_num, rfl, hx.trans hb2, by rw [ByteArray.size_append]; omega, HN.out⟩
        case measure => simp [intOf]; omega
      · have HN : Hid ((u ++ uTxt big (hiOf p)) ++ uTxt big (loOf p) = weTxt big (zs.take (k + 1))) := by show _ = _; rw [HTK.out, HU.out]; exact weTxt_hi big _ p hlo
        have hz := uTxt_size big (hiOf p)
        have hz2 := uTxt_size big (loOf p)
        have hgsz : (uTxt big (hiOf p)).size ≤ 2 := by omega
        have hgsz2 : (uTxt big (loOf p)).size ≤ 2 := by omega
        have HH : (55296 + (p - 65536) / 1024).toNat = hiOf p := by unfold hiOf; omega
        have HL : (56320 + (p - 65536) % 1024).toNat = loOf p := by unfold loOf; omega
        have HB := Lib.hid (fun w => rtwo (55296 + (p - 65536) / 1024) big w (by omega) (by omega))
        have HB2 := Lib.hid (fun w => rtwo (56320 + (p - 65536) % 1024) big w (by omega) (by omega))
        rw [HH] at HB
        rw [HL] at HB2
        clear hz hz2 HH HL
        generalize uTxt big (hiOf p) = g at HN HB hgsz
        generalize uTxt big (loOf p) = g2 at HN HB2 hgsz2
        have hnp : 65536 ≤ p := by omega
        have hsz2 : (u ++ g).size ≤ 4 * k + 2 := by rw [ByteArray.size_append]; omega
        go_wp2_with (first
          | (go_at_call 27; refine (HB.out _).mono ?_; rintro e w2 ⟨rfl, hb2⟩; clear HB)
          | (go_at_call 27; refine (HB2.out _).mono ?_; rintro e w3 ⟨rfl, hb3⟩))
        go_roundw
        case rel => exact ⟨k + 1, (u ++ g) ++ g2, by omega, by go_num, rfl, (hx.trans hb2).trans hb3, by rw [ByteArray.size_append]; omega, HN.out⟩
        case measure => simp [intOf]; omega
    · have hkl : k = zs.length := by omega
      have hu : u = weTxt big zs := by have := HU.out; rw [hkl, List.take_length] at this; exact this
      have HE := Lib.hid hu
      clear hu HU
      go_wp2
      go_ret
      exact ⟨by rw [← HE.out]; rfl, hx⟩
end Go.Proofs.YtdbjjadgmfgjfaaDoor
