/-
  The walk of RecordChecksum.
-/
import Derived.Test.YtgjdaipofekjfaaRD
namespace Go.Proofs.Ytgjdaipofekjfaa
open Go.RowKit
set_option linter.unusedVariables false
set_option linter.unusedSimpArgs false
set_option linter.unnecessarySimpa false

set_option maxHeartbeats 4000000 in
set_option maxRecDepth 100000 in
theorem recordChecksum_walk (a0 : Option Addr) (len0 cap0 : Nat) (z0 : List Int) (a1 : Option Addr) (len1 cap1 : Nat) (z1 : List Int) (w : World) (w0 : IsRow .u8 w a0 len0 cap0 z0) (w1 : IsRow .u8 w a1 len1 cap1 z1) :
    Calls Try.prog 3 #[.slice a0 len0 cap0, .slice a1 len1 cap1] w fun e w' => e = .returned (.bool true) ∧ Below w.heap.size w w' := by
  obtain ⟨la, hla, hra⟩ := w0.rd
  obtain ⟨lb, hlb, hrb⟩ := w1.rd
  obtain ⟨n, hn⟩ : ∃ n, n = min len0 1000 := ⟨_, rfl⟩
  obtain ⟨m, hm⟩ : ∃ m, m = min len1 1000 := ⟨_, rfl⟩
  obtain ⟨ha, hna⟩ := hra.first hla (n := n) (by omega)
  obtain ⟨hb, hmb⟩ := hrb.first hlb (n := m) (by omega)
  have en : min (len0 : Int) 1000 = (n : Int) := by omega
  have em : min (len1 : Int) 1000 = (m : Int) := by omega
  have LA := hide (show (la.take n).length ≤ 1000 by rw [List.length_take]; omega)
  have LB := hide (show (lb.take m).length ≤ 1000 by rw [List.length_take]; omega)
  have hna' : (n : Int) ≤ cap0 := by omega
  have hmb' : (m : Int) ≤ cap1 := by omega
  generalize la.take n = A at *
  generalize lb.take m = B at *
  have cA : Crc.crc A < 4294967296 := Crc.ext_lt (by decide) ha.1
  have HA := hide ha
  have HB := hide hb
  have KN := fun w => hide (known_any w)
  have CA := fun w' hb => hide (csum_any _ A w' (HA.out.keep hb))
  have RA := fun w' hb => hide (rsum_any _ A w' (HA.out.keep hb))
  have EB := fun w' hb => hide (ext_any (Crc.crc A) _ B w' cA (HB.out.keep hb))
  have EAB : Crc.ext (Crc.crc A) B = Crc.crc (A ++ B) := Crc.ext_append 0 A B
  rw [EAB] at EB
  have RAB := fun v w' (h : RdB w' v (A ++ B)) => hide (rsum_any v _ w' h)
  clear EAB cA ha hb hra hrb w0 w1 hla hlb hn hm hna hmb
  generalize Crc.crc A = X at *
  generalize Crc.crc (A ++ B) = Y at *
  go_enter Try.func3, Try.ntmps3
  go_wp2_with fail
  go_quiet (fail)
  have W0 := hide (below_drewN (Below.refl w.heap.size w) nq)
  go_wp2_with fail
  refine (KN _).out.mono ?_
  rintro e w1 ⟨rfl, hb⟩
  have W1 := hide (W0.out.trans (hb.mono W0.out.size))
  clear hb
  go_wp2_with fail
  refine (CA _ W1.out).out.mono ?_
  rintro e w2 ⟨rfl, hb⟩
  have W2 := hide (W1.out.trans (hb.mono W1.out.size))
  clear hb
  go_wp2_with fail
  refine (RA _ W2.out).out.mono ?_
  rintro e w3 ⟨rfl, rfl⟩
  go_wp2_with fail
  refine (CA _ W2.out).out.mono ?_
  rintro e w4 ⟨rfl, hb⟩
  have W4 := hide (W2.out.trans (hb.mono W2.out.size))
  clear hb
  go_wp2_with fail
  refine (EB _ W4.out).out.mono ?_
  rintro e w5 ⟨rfl, hb⟩
  have W5 := hide (W4.out.trans (hb.mono W4.out.size))
  clear hb
  have E5 := hide (Ow.empty w5 w.heap.size W5.out.size)
  have B5 := hide (W5.out.trans ((one_blk w5 (.cells #[] 5)).mono W5.out.size))
  go_wp2_with (first
    | (at_builtin; refine wpList_apG (W := w) B5.out E5.out (HA.out.keep B5.out) (by have := LA.out; simp; omega) (.tmp 28) (.tmp 29) rfl rfl rfl rfl ?_; intro v6 w6 HO6 HB6 HG6; rw [List.nil_append] at HO6; clear HG6)
    | (at_builtin; refine wpList_apG (W := w) HB6.out HO6.out (HB.out.keep HB6.out) (by have := LA.out; have := LB.out; omega) (.tmp 30) (.tmp 31) rfl rfl rfl rfl ?_; intro v7 w7 HO7 HB7 HG7; clear HG7))
  refine (RAB _ _ HO7.out.rd).out.mono ?_
  rintro e w8 ⟨rfl, rfl⟩
  go_wp2_with fail
  go_ret
  exact ⟨rfl, HB7.out⟩
end Go.Proofs.Ytgjdaipofekjfaa
