/-
  Contracts of the reference's step and Sum, and of Extend and Checksum.
-/
import Derived.Test.YtgjdaipofekjfaaR3
namespace Go.Proofs.Ytgjdaipofekjfaa
open Go.RowKit
set_option linter.unusedVariables false
set_option linter.unusedSimpArgs false
set_option linter.unnecessarySimpa false

theorem rdp_one {w : World} {v : Value} {l : List Nat} (h : RdB w v l) : RdP (w.alloc (.cells #[v] 22)) (.slice (some ⟨w.heap.size, 0, none⟩) 1 1) [v] [l] := by
  refine ⟨rfl, by simp, ?_, w.heap.size, 0, 1, rfl, Nat.le_refl _, by unfold maxLen; decide, by simp, ?_⟩
  · intro k hk
    have : k = 0 := by simp at hk; exact hk
    subst this
    exact h.keep ((Below.refl _ _).alloc (Nat.le_refl _) _)
  · intro k hk
    have : k = 0 := by simp at hk; exact hk
    subst this
    rw [Nat.zero_add, World.cell?_alloc_at _ _ _ _ rfl]; rfl

theorem RdB.form {w : World} {v : Value} {l : List Nat} (h : RdB w v l) : ∃ a c, v = .slice a l.length c := by
  rcases h.2 with ⟨a0, rfl, rfl⟩ | ⟨b, off, cap, rfl, _⟩
  · exact ⟨a0, 0, rfl⟩
  · exact ⟨_, _, rfl⟩

theorem ext_any (s : Nat) (v : Value) (l : List Nat) (w : World) (hs : s < 4294967296) (h : RdB w v l) :
    Calls Try.prog 15 #[.int .u32 s, v] w fun e w' => e = .returned (.int .u32 (Crc.ext s l : Nat)) ∧ Below w.heap.size w w' := by
  have EA := hide (extall_any s _ [v] [l] (w.alloc (.cells #[v] 22)) hs (rdp_one h))
  obtain ⟨a, c, rfl⟩ := h.form
  clear h
  go_enter Try.func15, Try.ntmps15
  go_wp2_with (go_at_call 29; refine EA.out.mono ?_; rintro e w1 ⟨rfl, hb⟩)
  go_ret
  exact ⟨ret_i (by simp), ((Below.refl _ _).alloc (Nat.le_refl _) _).trans (hb.mono (by simp))⟩

theorem csum_any (v : Value) (l : List Nat) (w : World) (h : RdB w v l) :
    Calls Try.prog 13 #[v] w fun e w' => e = .returned (.int .u32 (Crc.crc l : Nat)) ∧ Below w.heap.size w w' := by
  have EA := hide (ext_any 0 v l w (by decide) h)
  clear h
  go_enter Try.func13, Try.ntmps13
  go_wp2_with (go_at_call 15; refine EA.out.mono ?_; rintro e w1 ⟨rfl, hb⟩)
  go_ret
  exact ⟨rfl, hb⟩

theorem stp_odd (r : Nat) (h : r < 4294967296) (h1 : r % 2 = 1) : bits .xor .u32 ((r : Int) / 2) 2197175160 = ((Crc.stp r : Nat) : Int) := by
  have e1 : (r : Int) / 2 = ((r / 2 : Nat) : Int) := by omega
  have := u32_xor_nat (r / 2) 2197175160 (by omega) (by decide)
  rw [e1]
  refine this.trans ?_
  unfold Crc.stp; rw [h1]; rfl
theorem stp_ev (r : Nat) (h1 : r % 2 = 0) : ((r : Int) / 2) = ((Crc.stp r : Nat) : Int) := by
  unfold Crc.stp; rw [h1]; simp

set_option maxHeartbeats 1000000 in
theorem step_any (r c : Nat) (w : World) (hr : r < 4294967296) (hc : c < 256) :
    Calls Try.prog 28 #[.int .u32 r, .int .u8 c] w fun e w' => e = .returned (.int .u32 (Crc.stps 8 (r ^^^ c) : Nat)) ∧ w = w' := by
  have X := hide (u32_xor_nat r c hr (by omega))
  have hx : r ^^^ c < 4294967296 := Nat.xor_lt_two_pow (n := 32) hr (by omega)
  have HX := hide hx
  go_enter Try.func28, Try.ntmps28
  go_wp2_with fail
  go_loop [0, 5] (fun x i => ∃ q : Nat, q ≤ 8 ∧ i = .int .i64 q ∧ x = .int .u32 (Crc.stps q (r ^^^ c) : Nat)) (fun _ i => 8 - (intOf i).toNat)
  case atStart => exact ⟨0, Nat.zero_le _, rfl, by rw [X.out]; rfl⟩
  case round =>
    obtain ⟨q, hq, rfl, rfl⟩ := hrel
    have hb : Crc.stps q (r ^^^ c) < 4294967296 := Crc.stps_lt q hx
    have SS := hide (Crc.stps_succ q (r ^^^ c))
    by_cases hq8 : q < 8
    · generalize Crc.stps q (r ^^^ c) = y at *
      have ba := band1 y hb
      rcases Nat.mod_two_eq_zero_or_one y with h1 | h1
      · have ST := hide (stp_ev y h1)
        rw [h1] at ba
        clear h1
        go_wp2_with fail
        go_round
        case rel => exact ⟨q + 1, by omega, by go_num, by rw [SS.out, ST.out]⟩
        case measure => simp [intOf]; omega
      · have ST := hide (stp_odd y hb h1)
        rw [h1] at ba
        clear h1
        go_wp2_with fail
        go_round
        case rel => exact ⟨q + 1, by omega, by go_num, by rw [SS.out, ST.out]⟩
        case measure => simp [intOf]; omega
    · obtain rfl : q = 8 := by omega
      go_wp2_with fail
      go_ret
      exact ⟨rfl, rfl⟩

set_option maxHeartbeats 1000000 in
theorem rsum_any (v : Value) (l : List Nat) (w : World) (h : RdB w v l) :
    Calls Try.prog 14 #[v] w fun e w' => e = .returned (.int .u32 (Crc.crc l : Nat)) ∧ w = w' := by
  have hBt := hide h.1
  have hlen : l.length ≤ 9223372036854775807 := by
    rcases h.2 with ⟨_, _, h⟩ | ⟨b', off', cap', hv, g1, g2, g3, gc⟩
    · rw [h]; decide
    · unfold maxLen at g2; omega
  have EQ : ∃ (a : Option Addr) (n c : Nat), v = .slice a n c ∧ n = l.length ∧ ∀ q, q < l.length → ∃ b' off', a = some ⟨b', off', none⟩ ∧ w.cell? ⟨b', off' + q, none⟩ = some (.int .u8 ((l.getD q 0 : Nat) : Int)) := by
    rcases h.2 with ⟨a0, hv, h⟩ | ⟨b', off', cap', hv, g1, g2, g3, gc⟩
    · exact ⟨a0, 0, 0, hv, by rw [h]; rfl, fun q hq => by rw [h] at hq; cases hq⟩
    · exact ⟨_, _, _, hv, rfl, fun q hq => ⟨b', off', rfl, gc q hq⟩⟩
  obtain ⟨a, n, c, rfl, rfl, hq⟩ := EQ
  have HQ := hide hq
  clear hq h
  go_enter Try.func14, Try.ntmps14
  go_wp2_with fail
  go_loop [3, 4] (fun r i => ∃ q : Nat, q ≤ l.length ∧ i = .int .i64 q ∧ r = .int .u32 (Crc.reg 4294967295 (l.take q) : Nat)) (fun _ i => l.length - (intOf i).toNat)
  case atStart => exact ⟨0, Nat.zero_le _, rfl, rfl⟩
  case round =>
    obtain ⟨q, hq, rfl, rfl⟩ := hrel
    have hr1 : Crc.reg 4294967295 (l.take q) < 4294967296 := Crc.reg_lt (by decide) (hBt.out.take q)
    by_cases hlq : q < l.length
    · obtain ⟨b', off', rfl, hcq⟩ := HQ.out q hlq
      have SN := hide (take_snocN hlq)
      have SR := hide (Crc.reg_snoc 4294967295 (l.take q) (l.getD q 0))
      have hcb := getD_lt hBt.out q
      generalize l.getD q 0 = x at *
      generalize Crc.reg 4294967295 (l.take q) = r1 at *
      go_wp2_with (go_at_call 28; refine (step_any _ _ _ hr1 hcb).mono ?_; rintro e w1 ⟨rfl, rfl⟩)
      go_round
      case rel => exact ⟨q + 1, hlq, by go_num, by rw [SN.out, SR.out]⟩
      case measure => simp [intOf]; omega
    · obtain rfl : q = l.length := by omega
      have FT := hide (show l.take l.length = l from List.take_length ..)
      have XE := hide (u32_xor_nat _ 4294967295 hr1 (by decide))
      go_wp2_with fail
      go_ret
      exact ⟨ret_i (by have := XE.out; rw [FT.out] at this; exact this), rfl⟩
end Go.Proofs.Ytgjdaipofekjfaa
