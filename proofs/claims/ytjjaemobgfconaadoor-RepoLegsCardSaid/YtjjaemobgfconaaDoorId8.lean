/-
  Contract of ident's luhnDigit at this translation.
-/
import Derived.Test.YtjjaemobgfconaaDoorId7
namespace Go.Proofs.YtjjaemobgfconaaDoor
open Go.RowKit
set_option linter.unusedVariables false

/-- The world in which luhnDigit runs: its sum and its mark. -/
def lw (w : World) (S : Int) (B : Bool) : World := (w.alloc (.cells #[.int .i64 S] 3)).alloc (.cells #[.bool B] 4)
set_option maxRecDepth 20000 in
set_option maxHeartbeats 2000000 in
theorem add_any (w : World) (S d : Int) (B : Bool) (s0 : 0 ≤ S) (s1 : S ≤ 10000) (d0 : 0 ≤ d) (d1 : d ≤ 9) :
    Calls Tryd.prog 69 #[.int .i64 d, .pointer (some ⟨w.heap.size + 1, 0, none⟩), .pointer (some ⟨w.heap.size, 0, none⟩)] (lw w S B) fun e w' => e = .returned (.tuple #[]) ∧ lw w (S + dsum B d) (!B) = w' := by
  cases B
  · have e : dsum false d = d / 10 + d % 10 := by simp [dsum]
    rw [e]
    clear e
    unfold lw
    go_enter Tryd.func69, Tryd.ntmps69
    go_wp2
    go_end0
    exact ⟨rfl, rfl⟩
  · have e : dsum true d = (d * 2) / 10 + (d * 2) % 10 := by simp [dsum]; omega
    rw [e]
    clear e
    unfold lw
    go_enter Tryd.func69, Tryd.ntmps69
    go_wp2
    go_end0
    exact ⟨rfl, rfl⟩

theorem luA_bd {l : List Int} (h : ∀ c ∈ l, al c) (hl : l.length ≤ 200) : 0 ≤ (luA l).1 ∧ (luA l).1 ≤ 3600 := by
  rw [luA_ex h]
  have := luD_bd (ex_bd h)
  have := ex_len l
  omega
theorem lw_below (w : World) (S : Int) (B : Bool) : Below w.heap.size w (lw w S B) := ((Below.refl _ _).alloc (Nat.le_refl _) _).alloc (by simp) _

set_option maxRecDepth 20000 in
set_option maxHeartbeats 2000000 in
theorem luhn_any (s : ByteArray) (w : World) (h : Als s) (hm : s.size ≤ 200) : Calls Tryd.prog 62 #[.string s] w fun e w' => e = .returned (.int .u8 (48 + luhn (bl s))) ∧ Below w.heap.size w w' := by
  have hmf : ∀ (fn : Fn) (first cap : Array Value) (w : World), (Instr.makeFunc fn first cap).run Tryd.prog w = .ok (.func fn first cap) w := fun _ _ _ _ => rfl
  have i1 := hide (idx s)
  have HA := hide h
  have HM := hide h.mem
  obtain ⟨u1, u2⟩ := luhn_bd (bl s)
  obtain ⟨U, hU⟩ : ∃ U, U = luhn (bl s) := ⟨_, rfl⟩
  rw [← hU] at u1 u2 ⊢
  have hlu := hide (show U = (10 - (luA (bl s)).1 % 10) % 10 by rw [hU]; rfl)
  clear hU
  have LB := hide (lw_below w)
  have hlast : (luA ((bl s).drop s.size)) = (0, true) := by rw [List.drop_eq_nil_of_le (by rw [bl_len]; exact Nat.le_refl _)]; rfl
  have HL := hide hlast
  have bdl : ∀ k, 0 ≤ (luA ((bl s).drop k)).1 ∧ (luA ((bl s).drop k)).1 ≤ 3600 := fun k => luA_bd (fun c hc => h.mem c (List.mem_of_mem_drop hc)) (by rw [List.length_drop, bl_len]; omega)
  have BD := hide bdl
  have ad := fun S d B a b c e => hide (add_any w S d B a b c e)
  clear h hlast bdl
  go_enter Tryd.func62, Tryd.ntmps62
  go_wp2_with fail
  go_loopw [6] (fun i wr => ∃ k : Nat, k ≤ s.size ∧ i = .int .i64 ((k : Int) - 1) ∧ wr = lw w (luA ((bl s).drop k)).1 (luA ((bl s).drop k)).2) (fun i _ => (intOf i + 1).toNat)
  case atStart => exact ⟨s.size, Nat.le_refl _, rfl, by rw [HL.out]; rfl⟩
  case round =>
    obtain ⟨k, hk, rfl, rfl⟩ := hrel
    by_cases hlt : 0 < k
    · obtain ⟨j, rfl⟩ : ∃ j, k = j + 1 := ⟨k - 1, by omega⟩
      have hj : j < s.size := by omega
      have hj2 : j ≤ s.size := by omega
      have hjj : ((j + 1 : Nat) : Int) - 1 = (j : Int) := by omega
      rw [hjj]
      have j1 := i1.out j hj
      have A := HA.out j hj
      have va := fun w => hide (val_any (gB s j) w A)
      obtain ⟨v1, v2⟩ := val_bd A
      have T := hide (bl_at s j hj)
      obtain ⟨b1, b2⟩ := BD.out (j + 1)
      generalize hS : (luA ((bl s).drop (j + 1))).1 = S at *
      generalize hB : (luA ((bl s).drop (j + 1))).2 = B at *
      have hSB : luA ((bl s).drop (j + 1)) = (S, B) := by rw [← hS, ← hB]
      clear hS hB
      have ad1 := ad S (val (gB s j) % 10) B (by omega) (by omega) (by omega) (by omega)
      have db := dsum_bd (b := B) (d := val (gB s j) % 10) (by omega) (by omega)
      have ad2 := ad (S + dsum B (val (gB s j) % 10)) (val (gB s j) / 10) (!B) (by omega) (by omega) (by omega) (by omega)
      by_cases hv : 10 ≤ val (gB s j)
      · have HN : Hid (luA ((bl s).drop j) = (S + dsum B (val (gB s j) % 10) + dsum (!B) (val (gB s j) / 10), B)) := hide (by rw [T.out]; simp only [luA]; rw [if_pos hv, hSB]; simp [lst])
        clear T A hSB hjj hlt hk db
        generalize dsum B (val (gB s j) % 10) = D1 at *
        generalize dsum (!B) (val (gB s j) / 10) = D2 at *
        generalize val (gB s j) = v at *
        generalize gB s j = x at *
        go_wp2_with fail
        refine (va _).out.mono ?_
        rintro e w' ⟨rfl, rfl⟩
        go_wp2_with fail
        refine ad1.out.mono ?_
        rintro e w' ⟨rfl, rfl⟩
        go_wp2_with fail
        refine ad2.out.mono ?_
        rintro e w' ⟨rfl, rfl⟩
        go_wp2_with fail
        go_roundw
        case rel => exact ⟨j, hj2, rfl, by rw [HN.out]⟩
        case measure => simp [intOf]
      · have HN : Hid (luA ((bl s).drop j) = (S + dsum B (val (gB s j) % 10), !B)) := hide (by rw [T.out]; simp only [luA]; rw [if_neg hv, hSB]; rfl)
        clear T A hSB hjj hlt hk db ad2
        generalize dsum B (val (gB s j) % 10) = D1 at *
        generalize val (gB s j) = v at *
        generalize gB s j = x at *
        go_wp2_with fail
        refine (va _).out.mono ?_
        rintro e w' ⟨rfl, rfl⟩
        go_wp2_with fail
        refine ad1.out.mono ?_
        rintro e w' ⟨rfl, rfl⟩
        go_wp2_with fail
        go_roundw
        case rel => exact ⟨j, hj2, rfl, by rw [HN.out]⟩
        case measure => simp [intOf]
    · obtain rfl : k = 0 := by omega
      rw [List.drop_zero]
      have hb := BD.out 0
      rw [List.drop_zero] at hb
      obtain ⟨b1, b2⟩ := hb
      have hl := hlu.out
      generalize hS : (luA (bl s)).1 = S at *
      clear hS
      generalize (luA (bl s)).2 = B at *
      have e3 : (IntKind.u8.wrap (48 + U)) = 48 + U := by simp [IntKind.wrap, IntKind.bits, IntKind.signed]; omega
      have hl2 := hl.symm
      have cS : (lw w S B).cell? ⟨w.heap.size, 0, none⟩ = some (.int .i64 S) := by unfold lw; simp [go_sem]
      clear hl
      go_wp2_with fail
      go_ret
      exact ⟨rfl, LB.out _ _⟩
end Go.Proofs.YtjjaemobgfconaaDoor
