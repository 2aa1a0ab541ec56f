/-
  Parts of the walk of IdentLEISubstitution.
-/
import Derived.Test.YtjcldaofgbcpaaaDoorLeiA
namespace Go.Proofs.YtjcldaofgbcpaaaDoor
open Go.RowKit
set_option linter.unusedVariables false

set_option maxHeartbeats 4000000 in
set_option maxRecDepth 20000 in
theorem lei_lnh (s : ByteArray) (a1 a2 : Int) (i : Nat) (w : World) (SS : Hid (Shp w)) (hs : s.size = 20) (p1 : 0 ≤ a1) (p2 : a1 ≤ 255) (q1 : 0 ≤ a2) (q2 : a2 ≤ 255) (hi : (i : Int) = a1 % 20) (hk : okI 3 s = true) (hd : isD (gB s i) = false) (heq : gB s i ≠ (65 + a2 % 26)) (hr : 19 ≤ i) :
    Calls Tryd.prog 10 #[.string s, .int .u8 a1, .int .u8 a2] w fun e w' => e = .returned (.bool true) ∧ Below w.heap.size w w' := by
  have hsi : (s.size : Int) = 20 := by omega
  have ok := fun w S => hide (ok_any 3 s w S (by omega))
  rw [hk] at ok
  have hi20 : i < 20 := by omega
  have hA := (lei_val hk).2.2
  have j1 := idx s i (by omega)
  have di := fun w => hide (ldig_any (gB s i) w)
  rw [hd] at di
  have dx := fun (x : Sub w) => hide (dig_sub (gB s i) false hd x)
  obtain ⟨g1, g2⟩ := gB_bd s i
  have t1 : a1 % 20 = (i : Int) := hi.symm
  have t2 : a1.tmod 20 = (i : Int) := by rw [Int.tmod_eq_emod_of_nonneg p1]; exact hi.symm
  have t3 : a2.tmod 10 = a2 % 10 := Int.tmod_eq_emod_of_nonneg q1
  have t3b : a2.tmod 26 = a2 % 26 := Int.tmod_eq_emod_of_nonneg q1
  have t4 : IntKind.u8.wrap (48 + a2 % 10) = 48 + a2 % 10 := by simp [IntKind.wrap, IntKind.bits, IntKind.signed]; omega
  have t5 : IntKind.u8.wrap (a2 % 10) = a2 % 10 := by simp [IntKind.wrap, IntKind.bits, IntKind.signed]; omega
  have t6 : IntKind.u8.wrap (65 + a2 % 26) = 65 + a2 % 26 := by simp [IntKind.wrap, IntKind.bits, IntKind.signed]; omega
  have t7 : IntKind.u8.wrap (a2 % 26) = a2 % 26 := by simp [IntKind.wrap, IntKind.bits, IntKind.signed]; omega
  have ec := u8_nat (x := (65 + a2 % 26)) (by omega) (by omega)
  have hdd := al_letter (hA i (by omega)) hd
  have hsub := lei_one_off (c := UInt8.ofNat (65 + a2 % 26).toNat) hi20 hk (by rw [ec]; exact .inr ⟨hdd, by omega⟩) (by rw [ec]; exact heq)
  have pz := put1_size s i (UInt8.ofNat (65 + a2 % 26).toNat) (by omega)
  have wi := fun w => hide (with_any s i (65 + a2 % 26) w (by omega) (by omega) (by omega) (by omega))
  have ok2 := fun w S => hide (ok_any 3 (put1 s i (UInt8.ofNat (65 + a2 % 26).toNat)) w S (by omega))
  rw [hsub] at ok2
  have hne : (gB s i != (65 + a2 % 26)) = true := by simpa using heq
  clear hsub pz
  generalize put1 s i (UInt8.ofNat (65 + a2 % 26).toNat) = P at *
  have hlt : ¬ (i : Int) < 19 := by omega
  have hltd : decide ((i : Int) < 19) = false := decide_eq_false hlt
  clear hi hd hdd ec hk hA heq hr
  generalize gB s i = x at *
  go_enter Tryd.func10, Tryd.ntmps10
  go_wp2_with fail
  refine (ok _ SS.out).out.mono ?_
  rintro e w1 ⟨rfl, hb⟩
  have B1 := hide hb
  clear hb
  go_wp2_with fail
  refine (di _).out.mono ?_
  rintro e w2 ⟨rfl, rfl⟩
  go_wp2_with fail
  refine (wi _).out.mono ?_
  rintro e w3 ⟨rfl, hb⟩
  have B3 := hide (B1.out.trans (hb.mono B1.out.size))
  clear hb
  go_wp2_with fail
  refine (ok2 _ (SS.out.keep B3.out)).out.mono ?_
  rintro e w4 ⟨rfl, hb⟩
  have B4 := hide (B3.out.trans (hb.mono B3.out.size))
  clear hb
  go_wp2_with fail
  refine wp_region_sub (w0 := w) (by kernel_rfl) (by kernel_rfl) B4.out.drew ?_
  repeat (first | go_big_quiet_step (fail) | quiet_step (fail))
  refine wpQuiet_nil ?_
  rintro _ ⟨xx, rfl⟩
  have BX := hide xx.below
  go_wp2_with fail
  refine (known_any _ (SS.out.keep BX.out)).mono ?_
  rintro e w9 ⟨rfl, hb⟩
  have B9 := hide (BX.out.trans (hb.mono BX.out.size))
  clear hb
  go_wp2_with fail
  go_ret
  exact ⟨rfl, B9.out⟩
end Go.Proofs.YtjcldaofgbcpaaaDoor
