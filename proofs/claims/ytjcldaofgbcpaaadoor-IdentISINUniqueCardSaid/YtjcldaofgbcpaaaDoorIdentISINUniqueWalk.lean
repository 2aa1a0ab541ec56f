/-
  The walk of IdentISINUnique.
-/
import Derived.Test.YtjcldaofgbcpaaaDoorId17
namespace Go.Proofs.YtjcldaofgbcpaaaDoor
open Go.RowKit
set_option linter.unusedVariables false

set_option maxHeartbeats 4000000 in
set_option maxRecDepth 20000 in
theorem identISINUnique_no (C : ByteArray) (E : Int) (a0 : ByteArray) (w : World) (SS : Hid (Shp w)) (hz : (a0.extract 0 (min (a0.size : Int) 100).toNat).size ≤ 100) (hC : a0.extract 0 (min (a0.size : Int) 100).toNat = C) (hE : isE C = E) (hne : E ≠ 0) (w0 : a0.size ≤ 2 ^ 63 - 1) :
    Calls Tryd.prog 7 #[.string a0] w fun e w' => e = .returned (.bool true) ∧ Below w.heap.size w w' := by
  have B0 := hide (Below.refl w.heap.size w)
  have hzC : C.size ≤ 100 := by rw [← hC]; exact hz
  have HC := hide hC
  clear hC
  go_enter Tryd.func7, Tryd.ntmps7
  go_wp2_with fail
  rw [HC.out] at *
  have ck := fun w S => hide (is_any C w S (by omega))
  rw [hE] at ck
  have HE := hide hE
  clear hE
  have hne2 : (E == 0) = false := by simpa using hne
  have hne3 : ¬ E = 0 := hne
  generalize isV C = V at *
  refine (ck _ SS.out).out.mono ?_
  rintro e w1 ⟨rfl, hb⟩
  have B1 := hide (B0.out.trans (hb.mono B0.out.size))
  clear hb hne
  go_wp2_with fail
  go_loopw [5, 6] (fun n d wr => n = .int .i64 0 ∧ ∃ k : Nat, k ≤ 10 ∧ d = .int .i64 k ∧ Hid (Below w.heap.size w wr)) (fun _ d _ => 10 - (intOf d).toNat)
  case atStart => exact ⟨rfl, 0, by decide, rfl, B1⟩
  case round =>
    obtain ⟨rfl, k, hk, rfl, B⟩ := hrel
    by_cases hlt : k < 10
    · skip
      have e3 : (IntKind.u8.wrap (48 + (k : Int))) = 48 + (k : Int) := by simp [IntKind.wrap, IntKind.bits, IntKind.signed]; omega
      have hcv := conv1 wr (48 + (k : Int))
      have okd := okI0_digit C (k : Int) (by omega) (by omega)
      have hzz : (C ++ (⟨#[UInt8.ofNat (48 + (k : Int)).toNat]⟩ : ByteArray)).size ≤ 200 := by rw [ByteArray.size_append]; show C.size + 1 ≤ _; omega
      have ok := fun w S => hide (ok_any 0 _ w S hzz)
      rw [okd] at ok
      have A1 : ∀ W, (Op.stringOp .add C (⟨#[UInt8.ofNat (48 + (k : Int)).toNat]⟩ : ByteArray)).run Tryd.prog W = .ok (.string (C ++ (⟨#[UInt8.ofNat (48 + (k : Int)).toNat]⟩ : ByteArray))) W := fun W => run_string_add_sum W _ _ (by show C.size + 1 ≤ 9223372036854775807; omega)
      have B4 := hide (B.out.alloc B.out.size (.cells #[.int .u8 (48 + (k : Int))] 5))
      have S4 := hide (SS.out.keep B4.out)
      have hk1 : k + 1 ≤ 10 := hlt
      rw [decide_eq_false (fun q => hne3 (HE.out.symm.trans q.1))] at ok
      clear okd hzz
      generalize C ++ (⟨#[UInt8.ofNat (48 + (k : Int)).toNat]⟩ : ByteArray) = CC at *
      generalize (⟨#[UInt8.ofNat (48 + (k : Int)).toNat]⟩ : ByteArray) = CU at *
      go_wp2_with fail
      refine (ok _ S4.out).out.mono ?_
      rintro e w5 ⟨rfl, hb⟩
      have B5 := hide (B4.out.trans (hb.mono B4.out.size))
      clear hb
      go_wp2_with fail
      go_roundw
      case rel => exact ⟨rfl, k + 1, hk1, by go_num, B5⟩
      case measure => simp [intOf]; omega
    · obtain rfl : k = 10 := by omega
      go_wp2_with fail
      refine (known_any _ (SS.out.keep B.out)).mono ?_
      rintro e w3 ⟨rfl, hb⟩
      have B3 := hide (B.out.trans (hb.mono B.out.size))
      clear hb
      go_wp2_with fail
      go_ret
      exact ⟨rfl, B3.out⟩
set_option maxHeartbeats 4000000 in
set_option maxRecDepth 20000 in
theorem identISINUnique_yes (C : ByteArray) (a0 : ByteArray) (w : World) (SS : Hid (Shp w)) (hz : (a0.extract 0 (min (a0.size : Int) 100).toNat).size ≤ 100) (hC : a0.extract 0 (min (a0.size : Int) 100).toNat = C) (hE : isE C = 0) (w0 : a0.size ≤ 2 ^ 63 - 1) :
    Calls Tryd.prog 7 #[.string a0] w fun e w' => e = .returned (.bool true) ∧ Below w.heap.size w w' := by
  have B0 := hide (Below.refl w.heap.size w)
  have hzC : C.size ≤ 100 := by rw [← hC]; exact hz
  have HC := hide hC
  clear hC
  obtain ⟨l1, l2⟩ := luhn_bd (bl C)
  obtain ⟨L, hLL⟩ : ∃ L, L = luhn (bl C) := ⟨_, rfl⟩
  rw [← hLL] at l1 l2
  have HL := hide hLL
  clear hLL
  go_enter Tryd.func7, Tryd.ntmps7
  go_wp2_with fail
  rw [HC.out] at *
  have ck := fun w S => hide (is_any C w S (by omega))
  rw [hE] at ck
  have HE := hide hE
  clear hE
  generalize isV C = V at *
  refine (ck _ SS.out).out.mono ?_
  rintro e w1 ⟨rfl, hb⟩
  have B1 := hide (B0.out.trans (hb.mono B0.out.size))
  clear hb
  go_wp2_with fail
  go_loopw [5, 6] (fun n d wr => ∃ k : Nat, k ≤ 10 ∧ d = .int .i64 k ∧ ((L < (k : Int) ∧ n = .int .i64 1) ∨ ((k : Int) ≤ L ∧ n = .int .i64 0)) ∧ Hid (Below w.heap.size w wr)) (fun _ d _ => 10 - (intOf d).toNat)
  case atStart => exact ⟨0, by decide, rfl, .inr ⟨by show (0 : Int) ≤ L; omega, rfl⟩, B1⟩
  case round =>
    obtain ⟨k, hk, rfl, hn, B⟩ := hrel
    by_cases hlt : k < 10
    · skip
      have e3 : (IntKind.u8.wrap (48 + (k : Int))) = 48 + (k : Int) := by simp [IntKind.wrap, IntKind.bits, IntKind.signed]; omega
      have hcv := conv1 wr (48 + (k : Int))
      have okd := okI0_digit C (k : Int) (by omega) (by omega)
      have hzz : (C ++ (⟨#[UInt8.ofNat (48 + (k : Int)).toNat]⟩ : ByteArray)).size ≤ 200 := by rw [ByteArray.size_append]; show C.size + 1 ≤ _; omega
      have ok := fun w S => hide (ok_any 0 _ w S hzz)
      rw [okd] at ok
      have A1 : ∀ W, (Op.stringOp .add C (⟨#[UInt8.ofNat (48 + (k : Int)).toNat]⟩ : ByteArray)).run Tryd.prog W = .ok (.string (C ++ (⟨#[UInt8.ofNat (48 + (k : Int)).toNat]⟩ : ByteArray))) W := fun W => run_string_add_sum W _ _ (by show C.size + 1 ≤ 9223372036854775807; omega)
      have B4 := hide (B.out.alloc B.out.size (.cells #[.int .u8 (48 + (k : Int))] 5))
      have S4 := hide (SS.out.keep B4.out)
      have hk1 : k + 1 ≤ 10 := hlt
      rcases hn with ⟨hlk, rfl⟩ | ⟨hkl, rfl⟩
      · rw [decide_eq_false (fun q => by have := HL.out; omega)] at ok
        clear okd hzz
        generalize C ++ (⟨#[UInt8.ofNat (48 + (k : Int)).toNat]⟩ : ByteArray) = CC at *
        generalize (⟨#[UInt8.ofNat (48 + (k : Int)).toNat]⟩ : ByteArray) = CU at *
        go_wp2_with fail
        refine (ok _ S4.out).out.mono ?_
        rintro e w5 ⟨rfl, hb⟩
        have B5 := hide (B4.out.trans (hb.mono B4.out.size))
        clear hb
        go_wp2_with fail
        go_roundw
        case rel => exact ⟨k + 1, hk1, by go_num, .inl ⟨by omega, rfl⟩, B5⟩
        case measure => simp [intOf]; omega
      · by_cases heq : (k : Int) = L
        · rw [decide_eq_true ⟨HE.out, heq.trans HL.out⟩] at ok
          have heq2 : L < ((k + 1 : Nat) : Int) := by omega
          clear heq
          clear okd hzz
          generalize C ++ (⟨#[UInt8.ofNat (48 + (k : Int)).toNat]⟩ : ByteArray) = CC at *
          generalize (⟨#[UInt8.ofNat (48 + (k : Int)).toNat]⟩ : ByteArray) = CU at *
          go_wp2_with fail
          refine (ok _ S4.out).out.mono ?_
          rintro e w5 ⟨rfl, hb⟩
          have B5 := hide (B4.out.trans (hb.mono B4.out.size))
          clear hb
          go_wp2_with fail
          go_roundw
          case rel => exact ⟨k + 1, hk1, by go_num, .inl ⟨heq2, rfl⟩, B5⟩
          case measure => simp [intOf]; omega
        · rw [decide_eq_false (fun q => heq (q.2.trans HL.out.symm))] at ok
          have heq2 : ((k + 1 : Nat) : Int) ≤ L := by omega
          clear heq
          clear okd hzz
          generalize C ++ (⟨#[UInt8.ofNat (48 + (k : Int)).toNat]⟩ : ByteArray) = CC at *
          generalize (⟨#[UInt8.ofNat (48 + (k : Int)).toNat]⟩ : ByteArray) = CU at *
          go_wp2_with fail
          refine (ok _ S4.out).out.mono ?_
          rintro e w5 ⟨rfl, hb⟩
          have B5 := hide (B4.out.trans (hb.mono B4.out.size))
          clear hb
          go_wp2_with fail
          go_roundw
          case rel => exact ⟨k + 1, hk1, by go_num, .inr ⟨heq2, rfl⟩, B5⟩
          case measure => simp [intOf]; omega
    · obtain rfl : k = 10 := by omega
      rcases hn with ⟨hlk, rfl⟩ | ⟨hkl, rfl⟩
      · go_wp2_with fail
        refine (known_any _ (SS.out.keep B.out)).mono ?_
        rintro e w3 ⟨rfl, hb⟩
        have B3 := hide (B.out.trans (hb.mono B.out.size))
        clear hb
        go_wp2_with fail
        go_ret
        exact ⟨rfl, B3.out⟩
      · exfalso; omega
theorem identISINUnique_walk (a0 : ByteArray) (w : World) (w0 : a0.size ≤ maxLen) (hL : laidMetH Tryd.prog laid w) :
    Calls Tryd.prog 7 #[.string a0] w fun e w' => e = .returned (.bool true) ∧ Below w.heap.size w w' := by
  by_cases h : isE (a0.extract 0 (min (a0.size : Int) 100).toNat) = 0
  · exact identISINUnique_yes _ a0 w (hide (shp_of hL)) (cut_le a0) rfl h w0
  · exact identISINUnique_no _ _ a0 w (hide (shp_of hL)) (cut_le a0) rfl rfl h w0
end Go.Proofs.YtjcldaofgbcpaaaDoor
