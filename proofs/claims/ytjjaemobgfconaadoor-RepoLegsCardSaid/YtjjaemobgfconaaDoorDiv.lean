/-
  Contract of math/bits.Div64 at this translation, for every high word below the divisor.
-/
import Derived.Test.YtjjaemobgfconaaDoorAm3
import Derived.Lib.ItoaNum
import Derived.Laws.Bits64b
import Derived.Shelf.Bits.Mul64
import Derived.Deep.DeepCutAuto
import Derived.Deep.CutBlock
import Derived.Test.YtjjaemobgfconaaDoorKn
namespace Go.Proofs.YtjjaemobgfconaaDoor
open Go.RowKit

open Kn
set_option linter.unusedVariables false

/-- The wrapped arithmetic gives what is left. -/
theorem left_wrap {u n V q : Int} (hV : 0 < V) (hV2 : V < 18446744073709551616) (h : (u * 4294967296 + n) / V = q) :
    IntKind.u64.wrap (IntKind.u64.wrap (IntKind.u64.wrap (u * 4294967296) + n) - IntKind.u64.wrap (q * V)) = (u * 4294967296 + n) % V := by
  have e := (left_over hV hV2 h).1
  rw [IntKind.wrap_u64, IntKind.wrap_u64, IntKind.wrap_u64, IntKind.wrap_u64, ← e]
  generalize q * V = p
  omega

theorem div_walk (hi lo y : Int) (s : Nat) (w : World) (h0 : 0 < hi) (h1 : hi < y) (y2 : y < 18446744073709551616) (l1 : 0 ≤ lo) (l2 : lo < 18446744073709551616) (s1 : s ≤ 63)
   (V u yn1 yn0 un10 un1 un0 : Int) (eV : IntKind.u64.wrap (y * 2 ^ s) = V) (ey1 : V / 4294967296 = yn1) (ey0 : bits .and .u64 V 4294967295 = yn0)
   (eu : bits .or .u64 (IntKind.u64.wrap (hi * 2 ^ s)) (lo / 2 ^ (64 - s)) = u)
   (e10 : IntKind.u64.wrap (lo * 2 ^ s) = un10) (e11 : un10 / 4294967296 = un1) (e12 : bits .and .u64 un10 4294967295 = un0)
   (N : Norm u un1 yn1 yn0) (hV : V = yn1 * 4294967296 + yn0) (m1 : 0 ≤ un0) (m2 : un0 < 4294967296)
   (lz : ∀ w : World, Calls Tryd.prog 52 #[.int .u64 y] w fun e w' => e = .returned (.int .i64 (s : Int)) ∧ w = w') :
    Calls Tryd.prog 41 #[.int .u64 hi, .int .u64 lo, .int .u64 y] w fun e w' => e = .returned (.tuple #[.int .u64 (((u * 4294967296 + un1) * 4294967296 + un0) / V), .int .u64 (((u * 4294967296 + un1) * 4294967296 + un0) % V / 2 ^ s)]) ∧ ∃ n, w' = w.drewN n := by
  have e0 : (y == 0) = false := by simp; omega
  have e1 : (hi == 0) = false := by simp; omega
  have LZ := fun w => hide (lz w)
  have HV := hide hV
  have p1 := N.y1
  have p2 := N.y2
  have p3 := N.z1
  have p4 := N.z2
  have p5 := N.u1
  have p6 : u < 18446744073709551616 := by have := N.u2; omega
  have p7 := N.n1
  have p8 := N.n2
  have G := N.first
  have g1 := G.q0
  have g2 := G.le
  have g3 := G.r0
  have g4 := N.firstR
  have g5 : 0 ≤ u / yn1 * yn1 := Int.mul_nonneg g1 (by omega)
  clear lz hV
  go_enter Tryd.func41, Tryd.ntmps41
  go_wp2_with fail
  refine (LZ _).out.mono ?_
  rintro e w' ⟨rfl, rfl⟩
  go_upto_block 0 with fail
  have HG := hide G
  clear G
  obtain ⟨Q, hQ⟩ : ∃ Q, Q = (u * 4294967296 + un1) / (yn1 * 4294967296 + yn0) := ⟨_, rfl⟩
  have q1 : 0 ≤ Q := by rw [hQ]; exact N.digit0
  have q2 : Q ≤ 4294967295 := by rw [hQ]; exact N.digit
  have HQ := hide hQ
  clear hQ
  go_cut [15, 16] from 67 to 85 (fun s15 s16 wc => s15 = .int .u64 Q ∧ w = wc)
  case first =>
    go_wp2_with fail
    go_loop [15, 16] (fun a b => ∃ q r : Int, a = .int .u64 q ∧ b = .int .u64 r ∧ 0 ≤ q ∧ q ≤ 4294967297 ∧ 0 ≤ r ∧ r < 4294967296 ∧ Hid (Guess u un1 yn1 yn0 q r)) (fun a _ => (intOf a).toNat)
    case atStart => exact ⟨_, _, rfl, rfl, g1, g2, g3, g4, HG⟩
    case round =>
      clear g1 g2 g3 g4 g5 HG
      obtain ⟨q, r, rfl, rfl, a1, a2, a3, a4, HG⟩ := hrel
      by_cases hq : 4294967296 ≤ q
      · have hn := hide (HG.out.next N (.inl hq))
        by_cases hr : 4294967296 ≤ r + yn1
        · have hf := hide (hn.out.brk N (by omega) hr)
          go_wp2_with fail
          go_meet
          case rel => exact ⟨by rw [HQ.out, hf.out], rfl⟩
        · go_wp2_with fail
          go_round
          case rel => exact ⟨_, _, rfl, rfl, by omega, by omega, by omega, by omega, hn⟩
          case measure => simp [intOf]; omega
      · have hb := HG.out.mul_bd N (by omega)
        obtain ⟨b1, b2⟩ := hb
        by_cases ht : 4294967296 * r + un1 < q * yn0
        · have hn := hide (HG.out.next N (.inr ht))
          have hq1 : 1 ≤ q := by have := hn.out.q0; omega
          by_cases hr : 4294967296 ≤ r + yn1
          · have hf := hide (hn.out.brk N (by omega) hr)
            go_wp2_with fail
            go_meet
            case rel => exact ⟨by rw [HQ.out, hf.out], rfl⟩
          · go_wp2_with fail
            go_round
            case rel => exact ⟨_, _, rfl, rfl, by omega, by omega, by omega, by omega, hn⟩
            case measure => simp [intOf]; omega
        · have hf := hide (HG.out.stop N ht)
          go_wp2_with fail
          go_meet
          case rel => exact ⟨by rw [HQ.out, hf.out], rfl⟩
  case rest =>
    obtain ⟨rfl, rfl⟩ := hcut
    clear g1 g2 g3 g4 g5 HG
    have hVp : 0 < V := by rw [HV.out]; omega
    have hVq : V < 18446744073709551616 := by rw [HV.out]; omega
    obtain ⟨U, hU⟩ : ∃ U, U = (u * 4294967296 + un1) % V := ⟨_, rfl⟩
    have e21 := left_wrap (u := u) (n := un1) (V := V) (q := Q) hVp hVq (by rw [HV.out, HQ.out])
    rw [← hU] at e21
    have U1 : 0 ≤ U := by rw [hU]; exact Int.emod_nonneg _ (by omega)
    have U2 : U < V := by rw [hU]; exact Int.emod_lt_of_pos _ hVp
    have U3 : U < 18446744073709551616 := by omega
    have N2 : Norm U un0 yn1 yn0 := ⟨p1, p2, p3, p4, U1, by rw [← HV.out]; exact U2, m1, m2⟩
    have G := N2.first
    have g1 := G.q0
    have g2 := G.le
    have g3 := G.r0
    have g4 := N2.firstR
    have g5 : 0 ≤ U / yn1 * yn1 := Int.mul_nonneg g1 (by omega)
    have HG := hide G
    obtain ⟨R, hR⟩ : ∃ R, R = (U * 4294967296 + un0) / (yn1 * 4294967296 + yn0) := ⟨_, rfl⟩
    have r1 : 0 ≤ R := by rw [hR]; exact N2.digit0
    have r2 : R ≤ 4294967295 := by rw [hR]; exact N2.digit
    have HR := hide hR
    have HU := hide hU
    clear G hR hU
    go_upto_block 2 with fail
    go_cut [18, 16] from 102 to 120 (fun s18 s16 wc => s18 = .int .u64 R ∧ w = wc)
    case first =>
      go_wp2_with fail
      go_loop [18, 16] (fun a b => ∃ q r : Int, a = .int .u64 q ∧ b = .int .u64 r ∧ 0 ≤ q ∧ q ≤ 4294967297 ∧ 0 ≤ r ∧ r < 4294967296 ∧ Hid (Guess U un0 yn1 yn0 q r)) (fun a _ => (intOf a).toNat)
      case atStart => exact ⟨_, _, rfl, rfl, g1, g2, g3, g4, HG⟩
      case round =>
        clear g1 g2 g3 g4 g5 HG
        obtain ⟨q, r, rfl, rfl, a1, a2, a3, a4, HG⟩ := hrel
        by_cases hq : 4294967296 ≤ q
        · have hn := hide (HG.out.next N2 (.inl hq))
          by_cases hr : 4294967296 ≤ r + yn1
          · have hf := hide (hn.out.brk N2 (by omega) hr)
            go_wp2_with fail
            go_meet
            case rel => exact ⟨by rw [HR.out, hf.out], rfl⟩
          · go_wp2_with fail
            go_round
            case rel => exact ⟨_, _, rfl, rfl, by omega, by omega, by omega, by omega, hn⟩
            case measure => simp [intOf]; omega
        · have hb := HG.out.mul_bd N2 (by omega)
          obtain ⟨b1, b2⟩ := hb
          by_cases ht : 4294967296 * r + un0 < q * yn0
          · have hn := hide (HG.out.next N2 (.inr ht))
            have hq1 : 1 ≤ q := by have := hn.out.q0; omega
            by_cases hr : 4294967296 ≤ r + yn1
            · have hf := hide (hn.out.brk N2 (by omega) hr)
              go_wp2_with fail
              go_meet
              case rel => exact ⟨by rw [HR.out, hf.out], rfl⟩
            · go_wp2_with fail
              go_round
              case rel => exact ⟨_, _, rfl, rfl, by omega, by omega, by omega, by omega, hn⟩
              case measure => simp [intOf]; omega
          · have hf := hide (HG.out.stop N2 ht)
            go_wp2_with fail
            go_meet
            case rel => exact ⟨by rw [HR.out, hf.out], rfl⟩
    case rest =>
      obtain ⟨rfl, rfl⟩ := hcut
      clear g1 g2 g3 g4 g5 HG e21
      obtain ⟨Z, hZ⟩ : ∃ Z, Z = (U * 4294967296 + un0) % V := ⟨_, rfl⟩
      have e28 := left_wrap (u := U) (n := un0) (V := V) (q := R) hVp hVq (by rw [HV.out, HR.out])
      rw [← hZ] at e28
      have Z1 : 0 ≤ Z := by rw [hZ]; exact Int.emod_nonneg _ (by omega)
      have fin : ((u * 4294967296 + un1) * 4294967296 + un0) / V = Q * 4294967296 + R ∧ ((u * 4294967296 + un1) * 4294967296 + un0) % V = Z := by
        obtain ⟨t1, t2⟩ := two_digits (u := u) (un1 := un1) (un0 := un0) (V := V) hVp
        rw [t1, t2, ← HU.out, hZ]
        refine ⟨?_, rfl⟩
        rw [HQ.out, HR.out, HV.out]
      have FIN := hide fin
      clear fin hZ
      go_wp2_with fail
      go_ret2
      exact ⟨ret_ii FIN.out.1.symm (by rw [FIN.out.2]), 0, rfl⟩

theorem div_big (hi lo y : Nat) (h0 : 0 < hi) (h1 : hi < y) (y2 : y < 18446744073709551616) (l2 : lo < 18446744073709551616) : DivC hi lo y := by
  intro w
  obtain ⟨b1, b2, b3⟩ := Lib.bitLenAux_bounds 64 y (by omega) (by omega)
  have b4 : Lib.bitLen y ≤ 64 := Lib.bitLen_le y 64 (Nat.le_refl _) (by omega)
  change 1 ≤ Lib.bitLen y at b1
  change 2 ^ (Lib.bitLen y - 1) ≤ y at b2
  change y < 2 ^ Lib.bitLen y at b3
  generalize hL : Lib.bitLen y = L at b1 b2 b3 b4
  obtain ⟨s, hs⟩ : ∃ s, s = 64 - L := ⟨_, rfl⟩
  have hT : 2 ^ L * 2 ^ s = 18446744073709551616 := by rw [← Nat.pow_add, show L + s = 64 by omega]
  have hT1 : 2 ^ (L - 1) * 2 ^ s = 9223372036854775808 := by rw [← Nat.pow_add, show L - 1 + s = 63 by omega]
  have hLs : 64 - s = L := by omega
  have tp : 0 < 2 ^ s := Nat.two_pow_pos s
  have v1 : 9223372036854775808 ≤ y * 2 ^ s := by rw [← hT1]; exact Nat.mul_le_mul_right _ b2
  have v2 : y * 2 ^ s < 18446744073709551616 := by rw [← hT]; exact Nat.mul_lt_mul_of_pos_right b3 tp
  have a2 : hi * 2 ^ s + 2 ^ s ≤ y * 2 ^ s := by rw [← Nat.succ_mul]; exact Nat.mul_le_mul_right _ h1
  have c1 : lo / 2 ^ L < 2 ^ s := Nat.div_lt_of_lt_mul (by rw [hT]; exact l2)
  have c2 : (lo % 2 ^ L) * 2 ^ s < 18446744073709551616 := by rw [← hT]; exact Nat.mul_lt_mul_of_pos_right (Nat.mod_lt _ (Nat.two_pow_pos L)) tp
  have c3 : lo * 2 ^ s = 18446744073709551616 * (lo / 2 ^ L) + (lo % 2 ^ L) * 2 ^ s := by
    conv => lhs; rw [← Nat.div_add_mod lo (2 ^ L)]
    rw [Nat.add_mul, Nat.mul_right_comm, hT]
  have hor : (hi * 2 ^ s) ||| (lo / 2 ^ L) = hi * 2 ^ s + lo / 2 ^ L := by
    have h := Nat.shiftLeft_add_eq_or_of_lt c1 hi
    rw [Nat.shiftLeft_eq] at h
    exact h.symm
  obtain ⟨V, hV⟩ : ∃ V, V = y * 2 ^ s := ⟨_, rfl⟩
  obtain ⟨T, hTT⟩ : ∃ T, T = 2 ^ s := ⟨_, rfl⟩
  obtain ⟨H, hH⟩ : ∃ H, H = hi * 2 ^ s := ⟨_, rfl⟩
  obtain ⟨C, hC⟩ : ∃ C, C = lo / 2 ^ L := ⟨_, rfl⟩
  obtain ⟨W0, hW0⟩ : ∃ W0, W0 = (lo % 2 ^ L) * 2 ^ s := ⟨_, rfl⟩
  have hLZ : ∀ w : World, Calls Tryd.prog 52 #[.int .u64 (y : Int)] w fun e w' => e = .returned (.int .i64 (s : Int)) ∧ w = w' := fun w => by
    refine (Tryd.bits_LeadingZeros64 (y : Int) w (by omega) (by omega)).mono ?_
    rintro e w' ⟨rfl, rfl⟩
    refine ⟨ret_i ?_, rfl⟩
    rw [Int.toNat_natCast, hL]; omega
  have pc : ((2 : Int) ^ s) = ((2 ^ s : Nat) : Int) := by simp
  have pcL : ((2 : Int) ^ L) = ((2 ^ L : Nat) : Int) := by simp
  have eV : IntKind.u64.wrap ((y : Int) * 2 ^ s) = (V : Int) := by
    rw [pc, ← Int.natCast_mul, ← hV, IntKind.wrap_u64]; omega
  have eu : bits .or .u64 (IntKind.u64.wrap ((hi : Int) * 2 ^ s)) ((lo : Int) / 2 ^ (64 - s)) = ((H + C : Nat) : Int) := by
    have e1 : IntKind.u64.wrap ((hi : Int) * 2 ^ s) = (H : Int) := by
      rw [pc, ← Int.natCast_mul, ← hH, IntKind.wrap_u64]; omega
    have e2 : (lo : Int) / 2 ^ (64 - s) = (C : Int) := by
      rw [hLs, pcL, hC]; exact (Int.natCast_ediv _ _).symm
    rw [e1, e2, bits_or_u64_nat H C (by omega) (by omega), hH, hC, hor]
  have e10 : IntKind.u64.wrap ((lo : Int) * 2 ^ s) = (W0 : Int) := by
    rw [pc, ← Int.natCast_mul, c3, ← hW0, IntKind.wrap_u64]; omega
  have N : Norm ((H + C : Nat) : Int) (W0 / 4294967296 : Nat) (V / 4294967296 : Nat) (V % 4294967296 : Nat) :=
    ⟨by omega, by omega, by omega, by omega, by omega, by omega, by omega, by omega⟩
  have main := div_walk (hi : Int) (lo : Int) (y : Int) s w (by omega) (by omega) (by omega) (by omega) (by omega) (by omega) (V : Int) ((H + C : Nat) : Int) (V / 4294967296 : Nat) (V % 4294967296 : Nat) (W0 : Int) (W0 / 4294967296 : Nat) (W0 % 4294967296 : Nat)
    eV (by omega) (Mul64.maskN V (by omega)) eu e10 (by omega) (Mul64.maskN W0 (by omega)) N (by omega) (by omega) (by omega) hLZ
  have tot : ((H + C : Nat) : Int) * 4294967296 * 4294967296 + (W0 / 4294967296 : Nat) * 4294967296 + (W0 % 4294967296 : Nat) = (((hi * 18446744073709551616 + lo) * T : Nat) : Int) := by
    have e : (hi * 18446744073709551616 + lo) * T = H * 18446744073709551616 + (18446744073709551616 * C + W0) := by
      rw [hTT, Nat.add_mul, c3, hH, hC, hW0, Nat.mul_right_comm]
    rw [e]; omega
  have tot2 : (((H + C : Nat) : Int) * 4294967296 + (W0 / 4294967296 : Nat)) * 4294967296 + (W0 % 4294967296 : Nat) = (((hi * 18446744073709551616 + lo) * T : Nat) : Int) := by
    rw [← tot]; omega
  rw [tot2, hV, ← hTT, ← Int.natCast_ediv, ← Int.natCast_emod] at main
  rw [hTT] at main
  rw [Nat.mul_div_mul_right _ _ tp, Nat.mul_mod_mul_right, pc, ← Int.natCast_ediv, Nat.mul_div_cancel _ tp] at main
  refine main.mono ?_
  rintro e w' ⟨rfl, n, rfl⟩
  exact ⟨ret_ii (by simp) (by simp), n, rfl⟩

/-- bits.Div64. -/
theorem div_any (hi lo y : Int) (h0 : 0 ≤ hi) (h1 : hi < y) (y2 : y < 18446744073709551616) (l1 : 0 ≤ lo) (l2 : lo < 18446744073709551616) : DivC hi lo y := by
  by_cases h : hi = 0
  · subst h; exact div_small lo y l1 l2 h1 y2
  · obtain ⟨a, rfl⟩ := Int.eq_ofNat_of_zero_le h0
    obtain ⟨b, rfl⟩ := Int.eq_ofNat_of_zero_le l1
    obtain ⟨c, rfl⟩ := Int.eq_ofNat_of_zero_le (show 0 ≤ y by omega)
    exact div_big a b c (by omega) (by omega) (by omega) (by omega)
end Go.Proofs.YtjjaemobgfconaaDoor
