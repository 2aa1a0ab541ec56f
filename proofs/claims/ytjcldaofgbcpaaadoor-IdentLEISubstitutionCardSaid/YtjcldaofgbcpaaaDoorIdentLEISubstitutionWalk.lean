/-
  The walk of IdentLEISubstitution.
-/
import Derived.Test.YtjcldaofgbcpaaaDoorLeideh
import Derived.Test.YtjcldaofgbcpaaaDoorLeides
import Derived.Test.YtjcldaofgbcpaaaDoorLeideo
import Derived.Test.YtjcldaofgbcpaaaDoorLeidew
import Derived.Test.YtjcldaofgbcpaaaDoorLeidnh
import Derived.Test.YtjcldaofgbcpaaaDoorLeidns
import Derived.Test.YtjcldaofgbcpaaaDoorLeidno
import Derived.Test.YtjcldaofgbcpaaaDoorLeidnw
import Derived.Test.YtjcldaofgbcpaaaDoorLeileh
import Derived.Test.YtjcldaofgbcpaaaDoorLeiles
import Derived.Test.YtjcldaofgbcpaaaDoorLeileo
import Derived.Test.YtjcldaofgbcpaaaDoorLeilnh
import Derived.Test.YtjcldaofgbcpaaaDoorLeilns
import Derived.Test.YtjcldaofgbcpaaaDoorLeilno
namespace Go.Proofs.YtjcldaofgbcpaaaDoor
open Go.RowKit
set_option linter.unusedVariables false

set_option maxHeartbeats 4000000 in
set_option maxRecDepth 20000 in
theorem lei_all (s : ByteArray) (a1 a2 : Int) (i : Nat) (w : World) (SS : Hid (Shp w)) (hs : s.size = 20) (p1 : 0 ≤ a1) (p2 : a1 ≤ 255) (q1 : 0 ≤ a2) (q2 : a2 ≤ 255) (hi : (i : Int) = a1 % 20) (hk : okI 3 s = true) :
    Calls Tryd.prog 10 #[.string s, .int .u8 a1, .int .u8 a2] w fun e w' => e = .returned (.bool true) ∧ Below w.heap.size w w' := by
  cases hd : isD (gB s i) with
  | true =>
    by_cases heq : gB s i = 48 + a2 % 10
    · by_cases hr : 19 ≤ i
      · exact lei_deh s a1 a2 i w SS hs p1 p2 q1 q2 hi hk hd heq hr
      · by_cases hxy : gB s i = gB s (i + 1)
        · exact lei_des s a1 a2 i w SS hs p1 p2 q1 q2 hi hk hd heq (by omega) hxy
        · cases hy : isD (gB s (i + 1)) with
          | true => exact lei_dew s a1 a2 i w SS hs p1 p2 q1 q2 hi hk hd heq (by omega) hxy hy
          | false => exact lei_deo s a1 a2 i w SS hs p1 p2 q1 q2 hi hk hd heq (by omega) hxy hy
    · by_cases hr : 19 ≤ i
      · exact lei_dnh s a1 a2 i w SS hs p1 p2 q1 q2 hi hk hd heq hr
      · by_cases hxy : gB s i = gB s (i + 1)
        · exact lei_dns s a1 a2 i w SS hs p1 p2 q1 q2 hi hk hd heq (by omega) hxy
        · cases hy : isD (gB s (i + 1)) with
          | true => exact lei_dnw s a1 a2 i w SS hs p1 p2 q1 q2 hi hk hd heq (by omega) hxy hy
          | false => exact lei_dno s a1 a2 i w SS hs p1 p2 q1 q2 hi hk hd heq (by omega) hxy hy
  | false =>
    by_cases heq : gB s i = 65 + a2 % 26
    · by_cases hr : 19 ≤ i
      · exact lei_leh s a1 a2 i w SS hs p1 p2 q1 q2 hi hk hd heq hr
      · by_cases hxy : gB s i = gB s (i + 1)
        · exact lei_les s a1 a2 i w SS hs p1 p2 q1 q2 hi hk hd heq (by omega) hxy
        · exact lei_leo s a1 a2 i w SS hs p1 p2 q1 q2 hi hk hd heq (by omega) hxy
    · by_cases hr : 19 ≤ i
      · exact lei_lnh s a1 a2 i w SS hs p1 p2 q1 q2 hi hk hd heq hr
      · by_cases hxy : gB s i = gB s (i + 1)
        · exact lei_lns s a1 a2 i w SS hs p1 p2 q1 q2 hi hk hd heq (by omega) hxy
        · exact lei_lno s a1 a2 i w SS hs p1 p2 q1 q2 hi hk hd heq (by omega) hxy
set_option maxHeartbeats 4000000 in
set_option maxRecDepth 20000 in
theorem identLEISubstitution_walk (a0 : ByteArray) (a1 : Int) (a2 : Int) (w : World) (w0 : a0.size ≤ maxLen) (w1 : (Lit.int .u8 a1).wf = true) (w2 : (Lit.int .u8 a2).wf = true) (hL : laidMetH Tryd.prog laid w) :
    Calls Tryd.prog 10 #[.string a0, .int .u8 a1, .int .u8 a2] w fun e w' => e = .returned (.bool true) ∧ Below w.heap.size w w' := by
  have S := shp_of hL
  unfold maxLen at w0
  obtain ⟨p1, p2⟩ := wf_u8 w1
  obtain ⟨q1, q2⟩ := wf_u8 w2
  have SS := hide S
  clear hL S w1 w2
  by_cases hs : a0.size = 20
  · cases hk : okI 3 a0 with
    | true => exact lei_all a0 a1 a2 (a1 % 20).toNat w SS hs p1 p2 q1 q2 (by omega) hk
    | false =>
      have hsi : (a0.size : Int) = 20 := by omega
      have ok := fun w S => hide (ok_any 3 a0 w S (by omega))
      rw [hk] at ok
      go_enter Tryd.func10, Tryd.ntmps10
      go_wp2_with fail
      refine (ok _ SS.out).out.mono ?_
      rintro e w1 ⟨rfl, hb⟩
      have B1 := hide hb
      clear hb
      go_wp2_with fail
      refine (known_any _ (SS.out.keep B1.out)).mono ?_
      rintro e w2 ⟨rfl, hb⟩
      have B2 := hide (B1.out.trans (hb.mono B1.out.size))
      clear hb
      go_wp2_with fail
      go_ret
      exact ⟨rfl, B2.out⟩
  · have hsi : ¬ (a0.size : Int) = 20 := by omega
    go_enter Tryd.func10, Tryd.ntmps10
    go_wp2_with fail
    refine (known_any _ SS.out).mono ?_
    rintro e w2 ⟨rfl, hb⟩
    have B2 := hide hb
    clear hb
    go_wp2_with fail
    go_ret
    exact ⟨rfl, B2.out⟩
end Go.Proofs.YtjcldaofgbcpaaaDoor
