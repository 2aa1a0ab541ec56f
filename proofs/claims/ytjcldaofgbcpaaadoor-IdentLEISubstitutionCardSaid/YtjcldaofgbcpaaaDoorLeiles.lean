/-
  Parts of the walk of IdentLEISubstitution.
-/
import Derived.Test.YtjcldaofgbcpaaaDoorLeiA
namespace Go.Proofs.YtjcldaofgbcpaaaDoor
open Go.RowKit
set_option linter.unusedVariables false

set_option maxHeartbeats 4000000 in
set_option maxRecDepth 20000 in
theorem lei_les (s : ByteArray) (a1 a2 : Int) (i : Nat) (w : World) (SS : Hid (Shp w)) (hs : s.size = 20) (p1 : 0 ≤ a1) (p2 : a1 ≤ 255) (q1 : 0 ≤ a2) (q2 : a2 ≤ 255) (hi : (i : Int) = a1 % 20) (hk : okI 3 s = true) (hd : isD (gB s i) = false) (heq : gB s i = (65 + a2 % 26)) (hr : i < 19) (hxy : gB s i = gB s (i + 1)) :
    Calls Tryd.prog 10 #[.string s, .int .u8 a1, .int .u8 a2] w fun e w' => e = .returned (.bool true) ∧ Below w.heap.size w w' := by
  have hsi : (s.size : Int) = 20 := by omega
  have ok := fun w S => hide (ok_any 3 s w S (by omega))
  rw [hk] at ok
  have hi20 : i < 20 := by omega
  have hA := (lei_val hk).2.2
  have j1 := idx s i (by omega)
  have di := fun w => hide (ldig_any (gB s i) w)
  rw [hd] at di
  have dx := fun (x : Sub w) => hide (dig_sub (gB s i) false hd x)
  obtain ⟨g1, g2⟩ := gB_bd s i
  have t1 : a1 % 20 = (i : Int) := hi.symm
  have t2 : a1.tmod 20 = (i : Int) := by rw [Int.tmod_eq_emod_of_nonneg p1]; exact hi.symm
  have t3 : a2.tmod 10 = a2 % 10 := Int.tmod_eq_emod_of_nonneg q1
  have t3b : a2.tmod 26 = a2 % 26 := Int.tmod_eq_emod_of_nonneg q1
  have t4 : IntKind.u8.wrap (48 + a2 % 10) = 48 + a2 % 10 := by simp [IntKind.wrap, IntKind.bits, IntKind.signed]; omega
  have t5 : IntKind.u8.wrap (a2 % 10) = a2 % 10 := by simp [IntKind.wrap, IntKind.bits, IntKind.signed]; omega
  have t6 : IntKind.u8.wrap (65 + a2 % 26) = 65 + a2 % 26 := by simp [IntKind.wrap, IntKind.bits, IntKind.signed]; omega
  have t7 : IntKind.u8.wrap (a2 % 26) = a2 % 26 := by simp [IntKind.wrap, IntKind.bits, IntKind.signed]; omega
  have ec := u8_nat (x := (65 + a2 % 26)) (by omega) (by omega)
  have hdd := al_letter (hA i (by omega)) hd
  have hne : (gB s i != (65 + a2 % 26)) = false := by simpa using heq
  have hlt : (i : Int) < 19 := by omega
  have hltd : decide ((i : Int) < 19) = true := decide_eq_true hlt
  have y1 : IntKind.i64.wrap ((i : Int) + 1) = (i : Int) + 1 := IntWalk.i64_in _ (by omega)
  have j2 : ∀ W, (Instr.index 9 (.string s) (.int .i64 ((i : Int) + 1))).run Tryd.prog W = .ok (.int .u8 (gB s (i + 1))) W := idx s (i + 1) (by omega)
  obtain ⟨g3, g4⟩ := gB_bd s (i + 1)
  have hxb : (gB s i != gB s (i + 1)) = false := by simpa using hxy
  clear hxy
  generalize gB s (i + 1) = y at *
  clear hi hd hdd ec hk hA heq hr
  generalize gB s i = x at *
  go_enter Tryd.func10, Tryd.ntmps10
  go_wp2_with fail
  refine (ok _ SS.out).out.mono ?_
  rintro e w1 ⟨rfl, hb⟩
  have B1 := hide hb
  clear hb
  go_wp2_with fail
  refine (di _).out.mono ?_
  rintro e w2 ⟨rfl, rfl⟩
  go_wp2_with fail
  refine wp_region_sub (w0 := w) (by kernel_rfl) (by kernel_rfl) B1.out.drew ?_
  repeat (first | go_big_quiet_step ((first | (go_at_call_of 22 (Value.int .u8 x); exact (dx _).out))) | quiet_step ((first | (go_at_call_of 22 (Value.int .u8 x); exact (dx _).out))))
  refine wpQuiet_nil ?_
  rintro _ ⟨xx, rfl⟩
  have BX := hide xx.below
  go_wp2_with fail
  refine (known_any _ (SS.out.keep BX.out)).mono ?_
  rintro e w9 ⟨rfl, hb⟩
  have B9 := hide (BX.out.trans (hb.mono BX.out.size))
  clear hb
  go_wp2_with fail
  go_ret
  exact ⟨rfl, B9.out⟩
end Go.Proofs.YtjcldaofgbcpaaaDoor
