/-
  Contract of the reference's Check at this translation.
-/
import Derived.Test.YtjjaemobgfconaaDoorId11
namespace Go.Proofs.YtjjaemobgfconaaDoor
open Go.RowKit
set_option linter.unusedVariables false

theorem pre_ok {kind lo hi : Int} {s : ByteArray} (h0 : 0 ≤ hi) (h : (pre kind lo hi s).2 = 0) : (pre kind lo hi s).1 = 0 ∧ lo ≤ (s.size : Int) ∧ (s.size : Int) ≤ hi ∧ ∀ j : Nat, j < s.size → may kind j (gB s j) = true := by
  unfold pre at *
  cases hf : firstBad kind s (min s.size hi.toNat) with
  | some J => rw [hf] at h; exact absurd (show (3 : Int) = 0 from h) (by decide)
  | none =>
    rw [hf] at h
    simp only [clE] at h
    have g := fb_none hf
    by_cases h1 : (s.size : Int) < lo
    · rw [if_pos h1] at h; exact absurd h (by decide)
    · by_cases h2 : hi < (s.size : Int)
      · rw [if_neg h1, if_pos h2] at h; exact absurd h (by decide)
      · refine ⟨?_, by omega, by omega, fun j hj => g j (by omega)⟩
        simp only [clV]
        rw [if_neg h1, if_neg h2]
theorem isLD {c : Int} (h : (isL c || isD c) = true) : al c := by
  unfold isL isD at h
  simp at h
  exact h
theorem isL_al {c : Int} (h : isL c = true) : al c := by unfold isL at h; simp at h; exact .inl h
theorem isD_al {c : Int} (h : isD c = true) : al c := by unfold isD at h; simp at h; exact .inr h
theorem al0 {s : ByteArray} (h : ∀ j : Nat, j < s.size → may 0 j (gB s j) = true) (n : Nat) (hn : n ≤ s.size) (h11 : n ≤ 11) : Als (s.extract 0 n) := by
  intro k hk
  have hk' : k < n := by have := ex_size s 0 n hn; omega
  rw [gB_extract s 0 n k hn (by omega), Nat.zero_add]
  have := h k (by omega)
  unfold may at this
  rw [if_pos rfl] at this
  by_cases h1 : (k : Int) < 2
  · rw [if_pos h1] at this; exact isL_al this
  · rw [if_neg h1, if_pos (by omega)] at this; exact isLD this
theorem al3 {s : ByteArray} (h : ∀ j : Nat, j < s.size → may 3 j (gB s j) = true) (n : Nat) (hn : n ≤ s.size) : Als (s.extract 0 n) := by
  intro k hk
  have hk' : k < n := by have := ex_size s 0 n hn; omega
  rw [gB_extract s 0 n k hn (by omega), Nat.zero_add]
  have := h k (by omega)
  unfold may at this
  rw [if_neg (show ¬ (3 : Int) = 0 by decide), if_neg (show ¬ (3 : Int) = 1 by decide), if_neg (show ¬ (3 : Int) = 2 by decide)] at this
  by_cases h1 : isD (gB s k) = true
  · exact isD_al h1
  · have h2 : isD (gB s k) = false := by simpa using h1
    rw [h2, Bool.false_or, Bool.and_eq_true] at this
    exact isL_al this.2

set_option maxHeartbeats 4000000 in
set_option maxRecDepth 20000 in
theorem chk_out (kind : Int) (s : ByteArray) (w : World) (h : kind < 0 ∨ 3 < kind) : Calls Tryd.prog 51 #[.int .i64 kind, .string s] w fun e w' => e = .returned (.tuple #[.int .i64 0, .int .i64 11]) ∧ Below w.heap.size w w' := by
  have B0 := hide (Below.refl w.heap.size w)
  rcases h with h | h
  · go_enter Tryd.func51, Tryd.ntmps51
    go_wp2_with fail
    go_ret2
    exact ⟨rfl, B0.out⟩
  · have h1 : ¬ kind < 0 := by omega
    have h2 : 4 ≤ kind := by omega
    go_enter Tryd.func51, Tryd.ntmps51
    go_wp2_with fail
    go_ret2
    exact ⟨rfl, B0.out⟩
theorem rchk_out (kind : Int) (s : ByteArray) (w : World) (h : kind < 0 ∨ 3 < kind) : Calls Tryd.prog 45 #[.int .i64 kind, .string s] w fun e w' => e = .returned (.tuple #[.int .i64 0, .int .i64 11]) ∧ Below w.heap.size w w' := by
  have B0 := hide (Below.refl w.heap.size w)
  rcases h with h | h
  · go_enter Tryd.func45, Tryd.ntmps45
    go_wp2_with fail
    go_ret2
    exact ⟨rfl, B0.out⟩
  · have h1 : ¬ kind < 0 := by omega
    go_enter Tryd.func45, Tryd.ntmps45
    go_wp2_with fail
    go_ret2
    exact ⟨rfl, B0.out⟩

set_option maxHeartbeats 4000000 in
set_option maxRecDepth 20000 in
theorem rchk_bad (kind : Int) (s : ByteArray) (w : World) (lo hi : Int) (M : Nat) (k0 : 0 ≤ kind) (k3 : kind ≤ 3) (hlo : loK kind = lo) (hhi : hiK kind = hi) (hm : s.size ≤ 9223372036854775807) (hi1 : hi ≤ 100)
    (h1 : M ≤ s.size) (h2 : (M : Int) ≤ hi) (good : ∀ j : Nat, j < M → may kind j (gB s j) = true) (h3 : M < s.size) (h4 : (M : Int) < hi) (bad : may kind M (gB s M) = false) :
    Calls Tryd.prog 45 #[.int .i64 kind, .string s] w fun e w' => e = .returned (.tuple #[.int .i64 (M : Int), .int .i64 3]) ∧ Below w.heap.size w w' := by
  have le := fun w => hide (len_any kind w)
  rw [hlo, hhi] at le
  have i1 := hide (idx s)
  have GG := hide good
  have B0 := hide (Below.refl w.heap.size w)
  have HB := hide bad
  clear bad
  clear hlo hhi good
  go_enter Tryd.func45, Tryd.ntmps45
  go_wp2_with fail
  refine (le _).out.mono ?_
  rintro e w' ⟨rfl, rfl⟩
  go_wp2_with fail
  go_loop [8] (fun i => ∃ k : Nat, k ≤ M ∧ i = .int .i64 k) (fun i => M - (intOf i).toNat)
  case atStart => exact ⟨0, Nat.zero_le _, rfl⟩
  case round =>
    obtain ⟨k, hk, rfl⟩ := hrel
    by_cases hkM : k < M
    · have hlt : k < s.size := by omega
      have hlt2 : (k : Int) < hi := by omega
      have j1 := i1.out k hlt
      have ma := fun w => hide (may_any kind k (gB s k) w (by omega))
      rw [GG.out k hkM] at ma
      have hk1 : k + 1 ≤ M := hkM
      clear hkM
      generalize gB s k = x at *
      go_wp2_with fail
      refine (ma _).out.mono ?_
      rintro e w' ⟨rfl, rfl⟩
      go_wp2_with fail
      go_round
      case rel => exact ⟨k + 1, hk1, by go_num⟩
      case measure => simp [intOf]; omega
    · obtain rfl : k = M := by omega
      have hlt : k < s.size := by omega
      have j1 := i1.out k hlt
      have ma := fun w => hide (may_any kind k (gB s k) w (by omega))
      rw [HB.out] at ma
      clear hkM HB
      generalize gB s k = x at *
      go_wp2_with fail
      refine (ma _).out.mono ?_
      rintro e w' ⟨rfl, rfl⟩
      go_wp2_with fail
      go_ret2
      exact ⟨rfl, B0.out⟩

set_option maxHeartbeats 4000000 in
set_option maxRecDepth 20000 in
theorem rchk_short1 (kind : Int) (s : ByteArray) (w : World) (lo hi : Int) (M : Nat) (k0 : 0 ≤ kind) (k3 : kind ≤ 3) (hlo : loK kind = lo) (hhi : hiK kind = hi) (hm : s.size ≤ 9223372036854775807) (hi1 : hi ≤ 100)
    (h1 : M ≤ s.size) (h2 : (M : Int) ≤ hi) (good : ∀ j : Nat, j < M → may kind j (gB s j) = true) (h3 : (s.size : Int) < lo) (h4 : M = s.size) :
    Calls Tryd.prog 45 #[.int .i64 kind, .string s] w fun e w' => e = .returned (.tuple #[.int .i64 (s.size : Int), .int .i64 4]) ∧ Below w.heap.size w w' := by
  have le := fun w => hide (len_any kind w)
  rw [hlo, hhi] at le
  have i1 := hide (idx s)
  have GG := hide good
  have B0 := hide (Below.refl w.heap.size w)
  clear hlo hhi good
  go_enter Tryd.func45, Tryd.ntmps45
  go_wp2_with fail
  refine (le _).out.mono ?_
  rintro e w' ⟨rfl, rfl⟩
  go_wp2_with fail
  go_loop [8] (fun i => ∃ k : Nat, k ≤ M ∧ i = .int .i64 k) (fun i => M - (intOf i).toNat)
  case atStart => exact ⟨0, Nat.zero_le _, rfl⟩
  case round =>
    obtain ⟨k, hk, rfl⟩ := hrel
    by_cases hkM : k < M
    · have hlt : k < s.size := by omega
      have hlt2 : (k : Int) < hi := by omega
      have j1 := i1.out k hlt
      have ma := fun w => hide (may_any kind k (gB s k) w (by omega))
      rw [GG.out k hkM] at ma
      have hk1 : k + 1 ≤ M := hkM
      clear hkM
      generalize gB s k = x at *
      go_wp2_with fail
      refine (ma _).out.mono ?_
      rintro e w' ⟨rfl, rfl⟩
      go_wp2_with fail
      go_round
      case rel => exact ⟨k + 1, hk1, by go_num⟩
      case measure => simp [intOf]; omega
    · obtain rfl : k = M := by omega
      have hge : ¬ (k : Int) < (s.size : Int) := by omega
      clear h4
      clear hkM GG
      go_wp2_with fail
      go_ret2
      exact ⟨rfl, B0.out⟩

set_option maxHeartbeats 4000000 in
set_option maxRecDepth 20000 in
theorem rchk_short2 (kind : Int) (s : ByteArray) (w : World) (lo hi : Int) (M : Nat) (k0 : 0 ≤ kind) (k3 : kind ≤ 3) (hlo : loK kind = lo) (hhi : hiK kind = hi) (hm : s.size ≤ 9223372036854775807) (hi1 : hi ≤ 100)
    (h1 : M ≤ s.size) (h2 : (M : Int) ≤ hi) (good : ∀ j : Nat, j < M → may kind j (gB s j) = true) (h3 : (s.size : Int) < lo) (h4 : (M : Int) = hi) (h5 : hi < (s.size : Int)) :
    Calls Tryd.prog 45 #[.int .i64 kind, .string s] w fun e w' => e = .returned (.tuple #[.int .i64 (s.size : Int), .int .i64 4]) ∧ Below w.heap.size w w' := by
  have le := fun w => hide (len_any kind w)
  rw [hlo, hhi] at le
  have i1 := hide (idx s)
  have GG := hide good
  have B0 := hide (Below.refl w.heap.size w)
  clear hlo hhi good
  go_enter Tryd.func45, Tryd.ntmps45
  go_wp2_with fail
  refine (le _).out.mono ?_
  rintro e w' ⟨rfl, rfl⟩
  go_wp2_with fail
  go_loop [8] (fun i => ∃ k : Nat, k ≤ M ∧ i = .int .i64 k) (fun i => M - (intOf i).toNat)
  case atStart => exact ⟨0, Nat.zero_le _, rfl⟩
  case round =>
    obtain ⟨k, hk, rfl⟩ := hrel
    by_cases hkM : k < M
    · have hlt : k < s.size := by omega
      have hlt2 : (k : Int) < hi := by omega
      have j1 := i1.out k hlt
      have ma := fun w => hide (may_any kind k (gB s k) w (by omega))
      rw [GG.out k hkM] at ma
      have hk1 : k + 1 ≤ M := hkM
      clear hkM
      generalize gB s k = x at *
      go_wp2_with fail
      refine (ma _).out.mono ?_
      rintro e w' ⟨rfl, rfl⟩
      go_wp2_with fail
      go_round
      case rel => exact ⟨k + 1, hk1, by go_num⟩
      case measure => simp [intOf]; omega
    · obtain rfl : k = M := by omega
      have hge : ¬ (k : Int) < hi := by omega
      have hge2 : (k : Int) < (s.size : Int) := by omega
      clear h4
      clear hkM GG
      go_wp2_with fail
      go_ret2
      exact ⟨rfl, B0.out⟩

set_option maxHeartbeats 4000000 in
set_option maxRecDepth 20000 in
theorem rchk_long (kind : Int) (s : ByteArray) (w : World) (lo hi : Int) (M : Nat) (k0 : 0 ≤ kind) (k3 : kind ≤ 3) (hlo : loK kind = lo) (hhi : hiK kind = hi) (hm : s.size ≤ 9223372036854775807) (hi1 : hi ≤ 100)
    (h1 : M ≤ s.size) (h2 : (M : Int) ≤ hi) (good : ∀ j : Nat, j < M → may kind j (gB s j) = true) (h3 : lo ≤ (s.size : Int)) (h4 : (M : Int) = hi) (h5 : hi < (s.size : Int)) :
    Calls Tryd.prog 45 #[.int .i64 kind, .string s] w fun e w' => e = .returned (.tuple #[.int .i64 hi, .int .i64 5]) ∧ Below w.heap.size w w' := by
  have le := fun w => hide (len_any kind w)
  rw [hlo, hhi] at le
  have i1 := hide (idx s)
  have GG := hide good
  have B0 := hide (Below.refl w.heap.size w)
  clear hlo hhi good
  go_enter Tryd.func45, Tryd.ntmps45
  go_wp2_with fail
  refine (le _).out.mono ?_
  rintro e w' ⟨rfl, rfl⟩
  go_wp2_with fail
  go_loop [8] (fun i => ∃ k : Nat, k ≤ M ∧ i = .int .i64 k) (fun i => M - (intOf i).toNat)
  case atStart => exact ⟨0, Nat.zero_le _, rfl⟩
  case round =>
    obtain ⟨k, hk, rfl⟩ := hrel
    by_cases hkM : k < M
    · have hlt : k < s.size := by omega
      have hlt2 : (k : Int) < hi := by omega
      have j1 := i1.out k hlt
      have ma := fun w => hide (may_any kind k (gB s k) w (by omega))
      rw [GG.out k hkM] at ma
      have hk1 : k + 1 ≤ M := hkM
      clear hkM
      generalize gB s k = x at *
      go_wp2_with fail
      refine (ma _).out.mono ?_
      rintro e w' ⟨rfl, rfl⟩
      go_wp2_with fail
      go_round
      case rel => exact ⟨k + 1, hk1, by go_num⟩
      case measure => simp [intOf]; omega
    · obtain rfl : k = M := by omega
      have hge : ¬ (k : Int) < hi := by omega
      have hge2 : (k : Int) < (s.size : Int) := by omega
      clear h4
      clear hkM GG
      go_wp2_with fail
      go_ret2
      exact ⟨rfl, B0.out⟩

set_option maxHeartbeats 4000000 in
set_option maxRecDepth 20000 in
theorem rchk_k1 (s : ByteArray) (w : World) (lo hi : Int) (M : Nat) (hlo : loK 1 = lo) (hhi : hiK 1 = hi) (hm : s.size ≤ 9223372036854775807) (hi1 : hi ≤ 100)
    (h1 : M ≤ s.size) (h2 : (M : Int) ≤ hi) (good : ∀ j : Nat, j < M → may 1 j (gB s j) = true) (h3 : lo ≤ (s.size : Int)) (h4 : M = s.size) (h5 : (s.size : Int) ≤ hi) :
    Calls Tryd.prog 45 #[.int .i64 1, .string s] w fun e w' => e = .returned (.tuple #[.int .i64 0, .int .i64 0]) ∧ Below w.heap.size w w' := by
  have le := fun w => hide (len_any 1 w)
  rw [hlo, hhi] at le
  have i1 := hide (idx s)
  have GG := hide good
  have B0 := hide (Below.refl w.heap.size w)
  clear hlo hhi good
  go_enter Tryd.func45, Tryd.ntmps45
  go_wp2_with fail
  refine (le _).out.mono ?_
  rintro e w' ⟨rfl, rfl⟩
  go_wp2_with fail
  go_loop [8] (fun i => ∃ k : Nat, k ≤ M ∧ i = .int .i64 k) (fun i => M - (intOf i).toNat)
  case atStart => exact ⟨0, Nat.zero_le _, rfl⟩
  case round =>
    obtain ⟨k, hk, rfl⟩ := hrel
    by_cases hkM : k < M
    · have hlt : k < s.size := by omega
      have hlt2 : (k : Int) < hi := by omega
      have j1 := i1.out k hlt
      have ma := fun w => hide (may_any 1 k (gB s k) w (by omega))
      rw [GG.out k hkM] at ma
      have hk1 : k + 1 ≤ M := hkM
      clear hkM
      generalize gB s k = x at *
      go_wp2_with fail
      refine (ma _).out.mono ?_
      rintro e w' ⟨rfl, rfl⟩
      go_wp2_with fail
      go_round
      case rel => exact ⟨k + 1, hk1, by go_num⟩
      case measure => simp [intOf]; omega
    · obtain rfl : k = M := by omega
      have hge : ¬ (k : Int) < (s.size : Int) := by omega
      clear h4 hkM GG
      go_wp2_with fail
      refine wp_region_sub (w0 := w) (by kernel_rfl) (by kernel_rfl) B0.out.drew ?_
      repeat (first | go_big_quiet_step (fail) | quiet_step (fail))
      refine wpQuiet_nil ?_
      rintro _ ⟨x, rfl⟩
      have BX := hide x.below
      go_wp2_with fail
      refine wp_region_sub (w0 := w) (by kernel_rfl) (by kernel_rfl) BX.out.drew ?_
      repeat (first | go_big_quiet_step (fail) | quiet_step (fail))
      refine wpQuiet_nil ?_
      rintro _ ⟨y, rfl⟩
      have BY := hide y.below
      go_wp2_with fail
      go_ret2
      exact ⟨rfl, BY.out⟩

set_option maxHeartbeats 4000000 in
set_option maxRecDepth 20000 in
theorem rchk_k2 (s : ByteArray) (w : World) (lo hi : Int) (M : Nat) (hlo : loK 2 = lo) (hhi : hiK 2 = hi) (hm : s.size ≤ 9223372036854775807) (hi1 : hi ≤ 100)
    (h1 : M ≤ s.size) (h2 : (M : Int) ≤ hi) (good : ∀ j : Nat, j < M → may 2 j (gB s j) = true) (h3 : lo ≤ (s.size : Int)) (h4 : M = s.size) (h5 : (s.size : Int) ≤ hi) :
    Calls Tryd.prog 45 #[.int .i64 2, .string s] w fun e w' => e = .returned (.tuple #[.int .i64 0, .int .i64 0]) ∧ Below w.heap.size w w' := by
  have le := fun w => hide (len_any 2 w)
  rw [hlo, hhi] at le
  have i1 := hide (idx s)
  have GG := hide good
  have B0 := hide (Below.refl w.heap.size w)
  clear hlo hhi good
  go_enter Tryd.func45, Tryd.ntmps45
  go_wp2_with fail
  refine (le _).out.mono ?_
  rintro e w' ⟨rfl, rfl⟩
  go_wp2_with fail
  go_loop [8] (fun i => ∃ k : Nat, k ≤ M ∧ i = .int .i64 k) (fun i => M - (intOf i).toNat)
  case atStart => exact ⟨0, Nat.zero_le _, rfl⟩
  case round =>
    obtain ⟨k, hk, rfl⟩ := hrel
    by_cases hkM : k < M
    · have hlt : k < s.size := by omega
      have hlt2 : (k : Int) < hi := by omega
      have j1 := i1.out k hlt
      have ma := fun w => hide (may_any 2 k (gB s k) w (by omega))
      rw [GG.out k hkM] at ma
      have hk1 : k + 1 ≤ M := hkM
      clear hkM
      generalize gB s k = x at *
      go_wp2_with fail
      refine (ma _).out.mono ?_
      rintro e w' ⟨rfl, rfl⟩
      go_wp2_with fail
      go_round
      case rel => exact ⟨k + 1, hk1, by go_num⟩
      case measure => simp [intOf]; omega
    · obtain rfl : k = M := by omega
      have hge : ¬ (k : Int) < (s.size : Int) := by omega
      clear h4 hkM GG
      go_wp2_with fail
      refine wp_region_sub (w0 := w) (by kernel_rfl) (by kernel_rfl) B0.out.drew ?_
      repeat (first | go_big_quiet_step (fail) | quiet_step (fail))
      refine wpQuiet_nil ?_
      rintro _ ⟨x, rfl⟩
      have BX := hide x.below
      go_wp2_with fail
      refine wp_region_sub (w0 := w) (by kernel_rfl) (by kernel_rfl) BX.out.drew ?_
      repeat (first | go_big_quiet_step (fail) | quiet_step (fail))
      refine wpQuiet_nil ?_
      rintro _ ⟨y, rfl⟩
      have BY := hide y.below
      go_wp2_with fail
      go_ret2
      exact ⟨rfl, BY.out⟩

set_option maxHeartbeats 4000000 in
set_option maxRecDepth 20000 in
theorem rchk_k0 (s : ByteArray) (w : World) (lo hi : Int) (M : Nat) (hlo : loK 0 = lo) (hhi : hiK 0 = hi) (hm : s.size ≤ 9223372036854775807) (hi1 : hi ≤ 100)
    (h1 : M ≤ s.size) (h2 : (M : Int) ≤ hi) (good : ∀ j : Nat, j < M → may 0 j (gB s j) = true) (h3 : lo = 12) (h4 : M = s.size) (h5 : s.size = 12) (h6 : hi = 12) (hq : gB s 11 = 48 + luhn (bl (s.extract 0 11))) :
    Calls Tryd.prog 45 #[.int .i64 0, .string s] w fun e w' => e = .returned (.tuple #[.int .i64 0, .int .i64 0]) ∧ Below w.heap.size w w' := by
  have le := fun w => hide (len_any 0 w)
  rw [hlo, hhi] at le
  have i1 := hide (idx s)
  have GG := hide good
  have B0 := hide (Below.refl w.heap.size w)
  have hA : Als (s.extract 0 11) := al0 (fun j hj => good j (by omega)) 11 (by omega) (by omega)
  have lu := fun W => hide (rluhn_any (s.extract 0 11) W hA (by rw [ex_size s 0 11 (by omega)]; omega))
  have j11 : ∀ W, (Instr.index 9 (.string s) (.int .i64 11)).run Tryd.prog W = .ok (.int .u8 (gB s 11)) W := idx s 11 (by omega)
  have m11 : isD (gB s 11) = true := by
    have := good 11 (by omega)
    unfold may at this
    simpa using this
  have hsi : (s.size : Int) = 12 := by omega
  have x11 : 48 ≤ gB s 11 ∧ gB s 11 ≤ 57 := by unfold isD at m11; simpa using m11
  obtain ⟨x1, x2⟩ := x11
  have e1 : IntKind.u8.wrap (gB s 11 - 48) = gB s 11 - 48 := by simp [IntKind.wrap, IntKind.bits, IntKind.signed]; omega
  have heq : ((gB s 11 - 48) != luhn (bl (s.extract 0 11))) = false := by rw [hq]; simp; omega
  clear m11 hA hq
  clear hlo hhi good
  go_enter Tryd.func45, Tryd.ntmps45
  go_wp2_with fail
  refine (le _).out.mono ?_
  rintro e w' ⟨rfl, rfl⟩
  go_wp2_with fail
  go_loop [8] (fun i => ∃ k : Nat, k ≤ M ∧ i = .int .i64 k) (fun i => M - (intOf i).toNat)
  case atStart => exact ⟨0, Nat.zero_le _, rfl⟩
  case round =>
    obtain ⟨k, hk, rfl⟩ := hrel
    by_cases hkM : k < M
    · have hlt : k < s.size := by omega
      have hlt2 : (k : Int) < hi := by omega
      have j1 := i1.out k hlt
      have ma := fun w => hide (may_any 0 k (gB s k) w (by omega))
      rw [GG.out k hkM] at ma
      have hk1 : k + 1 ≤ M := hkM
      clear hkM
      generalize gB s k = x at *
      go_wp2_with fail
      refine (ma _).out.mono ?_
      rintro e w' ⟨rfl, rfl⟩
      go_wp2_with fail
      go_round
      case rel => exact ⟨k + 1, hk1, by go_num⟩
      case measure => simp [intOf]; omega
    · obtain rfl : k = M := by omega
      have hge : ¬ (k : Int) < (s.size : Int) := by omega
      clear h4 hkM GG
      generalize luhn (bl (s.extract 0 11)) = U at *
      generalize gB s 11 = x at *
      go_wp2_with fail
      refine wp_region_sub (w0 := w) (by kernel_rfl) (by kernel_rfl) B0.out.drew ?_
      repeat (first | go_big_quiet_step ((go_at_call 57; exact sub_of _ (lu _).out)) | quiet_step ((go_at_call 57; exact sub_of _ (lu _).out)))
      refine wpQuiet_nil ?_
      rintro _ ⟨x, rfl⟩
      have BX := hide x.below
      go_wp2_with fail
      refine wp_region_sub (w0 := w) (by kernel_rfl) (by kernel_rfl) BX.out.drew ?_
      repeat (first | go_big_quiet_step (fail) | quiet_step (fail))
      refine wpQuiet_nil ?_
      rintro _ ⟨y, rfl⟩
      have BY := hide y.below
      go_wp2_with fail
      go_ret2
      exact ⟨rfl, BY.out⟩

set_option maxHeartbeats 4000000 in
set_option maxRecDepth 20000 in
theorem rchk_x0 (s : ByteArray) (w : World) (lo hi : Int) (M : Nat) (hlo : loK 0 = lo) (hhi : hiK 0 = hi) (hm : s.size ≤ 9223372036854775807) (hi1 : hi ≤ 100)
    (h1 : M ≤ s.size) (h2 : (M : Int) ≤ hi) (good : ∀ j : Nat, j < M → may 0 j (gB s j) = true) (h3 : lo = 12) (h4 : M = s.size) (h5 : s.size = 12) (h6 : hi = 12) (hq : gB s 11 ≠ 48 + luhn (bl (s.extract 0 11))) :
    Calls Tryd.prog 45 #[.int .i64 0, .string s] w fun e w' => e = .returned (.tuple #[.int .i64 11, .int .i64 18]) ∧ Below w.heap.size w w' := by
  have le := fun w => hide (len_any 0 w)
  rw [hlo, hhi] at le
  have i1 := hide (idx s)
  have GG := hide good
  have B0 := hide (Below.refl w.heap.size w)
  have hA : Als (s.extract 0 11) := al0 (fun j hj => good j (by omega)) 11 (by omega) (by omega)
  have lu := fun W => hide (rluhn_any (s.extract 0 11) W hA (by rw [ex_size s 0 11 (by omega)]; omega))
  have j11 : ∀ W, (Instr.index 9 (.string s) (.int .i64 11)).run Tryd.prog W = .ok (.int .u8 (gB s 11)) W := idx s 11 (by omega)
  have m11 : isD (gB s 11) = true := by
    have := good 11 (by omega)
    unfold may at this
    simpa using this
  have hsi : (s.size : Int) = 12 := by omega
  have x11 : 48 ≤ gB s 11 ∧ gB s 11 ≤ 57 := by unfold isD at m11; simpa using m11
  obtain ⟨x1, x2⟩ := x11
  have e1 : IntKind.u8.wrap (gB s 11 - 48) = gB s 11 - 48 := by simp [IntKind.wrap, IntKind.bits, IntKind.signed]; omega
  have heq : ((gB s 11 - 48) != luhn (bl (s.extract 0 11))) = true := by simp; omega
  clear m11 hA hq
  clear hlo hhi good
  go_enter Tryd.func45, Tryd.ntmps45
  go_wp2_with fail
  refine (le _).out.mono ?_
  rintro e w' ⟨rfl, rfl⟩
  go_wp2_with fail
  go_loop [8] (fun i => ∃ k : Nat, k ≤ M ∧ i = .int .i64 k) (fun i => M - (intOf i).toNat)
  case atStart => exact ⟨0, Nat.zero_le _, rfl⟩
  case round =>
    obtain ⟨k, hk, rfl⟩ := hrel
    by_cases hkM : k < M
    · have hlt : k < s.size := by omega
      have hlt2 : (k : Int) < hi := by omega
      have j1 := i1.out k hlt
      have ma := fun w => hide (may_any 0 k (gB s k) w (by omega))
      rw [GG.out k hkM] at ma
      have hk1 : k + 1 ≤ M := hkM
      clear hkM
      generalize gB s k = x at *
      go_wp2_with fail
      refine (ma _).out.mono ?_
      rintro e w' ⟨rfl, rfl⟩
      go_wp2_with fail
      go_round
      case rel => exact ⟨k + 1, hk1, by go_num⟩
      case measure => simp [intOf]; omega
    · obtain rfl : k = M := by omega
      have hge : ¬ (k : Int) < (s.size : Int) := by omega
      clear h4 hkM GG
      generalize luhn (bl (s.extract 0 11)) = U at *
      generalize gB s 11 = x at *
      go_wp2_with fail
      refine wp_region_sub (w0 := w) (by kernel_rfl) (by kernel_rfl) B0.out.drew ?_
      repeat (first | go_big_quiet_step ((go_at_call 57; exact sub_of _ (lu _).out)) | quiet_step ((go_at_call 57; exact sub_of _ (lu _).out)))
      refine wpQuiet_nil ?_
      rintro _ ⟨x, rfl⟩
      have BX := hide x.below
      go_wp2_with fail
      go_ret2
      exact ⟨rfl, BX.out⟩

theorem bl_00 (s : ByteArray) : bl (s ++ ⟨#[48, 48]⟩) = bl s ++ [48, 48] := by
  obtain ⟨⟨l⟩⟩ := s
  simp [bl, ByteArray.data_append]
theorem als_00 {s : ByteArray} (h : Als s) : Als (s ++ ⟨#[48, 48]⟩) := by
  intro k hk
  have hz : (s ++ (⟨#[48, 48]⟩ : ByteArray)).size = s.size + 2 := by rw [ByteArray.size_append]; rfl
  have hl : k < (bl (s ++ ⟨#[48, 48]⟩)).length := by rw [bl_len]; exact hk
  have e := bl_get _ k hk hl
  rw [← e]
  have m := List.getElem_mem hl
  generalize (bl (s ++ ⟨#[48, 48]⟩))[k] = c at *
  rw [bl_00] at m
  rcases List.mem_append.1 m with q | q
  · exact h.mem c q
  · simp at q; subst q; exact .inr (by decide)
set_option maxHeartbeats 4000000 in
set_option maxRecDepth 20000 in
theorem rchk_k3 (s : ByteArray) (w : World) (lo hi : Int) (M : Nat) (hlo : loK 3 = lo) (hhi : hiK 3 = hi) (hm : s.size ≤ 9223372036854775807) (hi1 : hi ≤ 100)
    (h1 : M ≤ s.size) (h2 : (M : Int) ≤ hi) (good : ∀ j : Nat, j < M → may 3 j (gB s j) = true) (h3 : lo = 20) (h4 : M = s.size) (h5 : s.size = 20) (h6 : hi = 20) (hq : ¬ tailOff s) :
    Calls Tryd.prog 45 #[.int .i64 3, .string s] w fun e w' => e = .returned (.tuple #[.int .i64 0, .int .i64 0]) ∧ Below w.heap.size w w' := by
  have le := fun w => hide (len_any 3 w)
  rw [hlo, hhi] at le
  have i1 := hide (idx s)
  have GG := hide good
  have B0 := hide (Below.refl w.heap.size w)
  have hA : Als (s.extract 0 18) := al3 (fun j hj => good j (by omega)) 18 (by omega)
  have hz : (s.extract 0 18).size = 18 := ex_size s 0 18 (by omega)
  have hA2 : Als (s.extract 0 18 ++ ⟨#[48, 48]⟩) := als_00 hA
  have hb2 : bl (s.extract 0 18 ++ ⟨#[48, 48]⟩) = bl (s.extract 0 18) ++ [48, 48] := bl_00 _
  have hz2 : (s.extract 0 18 ++ ⟨#[48, 48]⟩).size = 20 := by rw [ByteArray.size_append, hz]; rfl
  have mo := fun W => hide (mod_any (s.extract 0 18 ++ ⟨#[48, 48]⟩) W hA2 (by omega))
  rw [hb2, moD_00 hA.mem] at mo
  have A1 : ∀ W, (Op.stringOp .add (s.extract 0 18) ⟨#[48, 48]⟩).run Tryd.prog W = .ok (.string (s.extract 0 18 ++ ⟨#[48, 48]⟩)) W := fun W => run_string_add_sum W _ _ (by rw [hz]; decide)
  have hcd := cd_bd (bl (s.extract 0 18))
  have hcd2 : cd (bl (s.extract 0 18)) = 98 - moA 0 (bl (s.extract 0 18)) * 100 % 97 := rfl
  obtain ⟨r1, r2⟩ := moA_bd (show (0 : Int) ≤ 0 by omega) (by omega) (bl (s.extract 0 18))
  have pa := fun W => hide (pair_any (cd (bl (s.extract 0 18))) W (by omega) (by omega))
  have hsi : (s.size : Int) = 20 := by omega
  have z1 : (18 : Int) ≤ (s.size : Int) := by omega
  have hq' : s.extract 18 20 = dd (cd (bl (s.extract 0 18))) := Classical.byContradiction hq
  rw [← hq'] at pa
  clear hq'
  rw [hcd2] at pa
  have w1 : IntKind.i64.wrap (98 - moA 0 (bl (s.extract 0 18)) * 100 % 97) = 98 - moA 0 (bl (s.extract 0 18)) * 100 % 97 := IntWalk.i64_in _ (by omega)
  clear hA hA2 hb2 hz2 hcd hcd2 hq
  generalize s.extract 0 18 ++ ⟨#[48, 48]⟩ = S2 at *
  generalize moA 0 (bl (s.extract 0 18)) * 100 % 97 = R at *
  clear hlo hhi good
  go_enter Tryd.func45, Tryd.ntmps45
  go_wp2_with fail
  refine (le _).out.mono ?_
  rintro e w' ⟨rfl, rfl⟩
  go_wp2_with fail
  go_loop [8] (fun i => ∃ k : Nat, k ≤ M ∧ i = .int .i64 k) (fun i => M - (intOf i).toNat)
  case atStart => exact ⟨0, Nat.zero_le _, rfl⟩
  case round =>
    obtain ⟨k, hk, rfl⟩ := hrel
    by_cases hkM : k < M
    · have hlt : k < s.size := by omega
      have hlt2 : (k : Int) < hi := by omega
      have j1 := i1.out k hlt
      have ma := fun w => hide (may_any 3 k (gB s k) w (by omega))
      rw [GG.out k hkM] at ma
      have hk1 : k + 1 ≤ M := hkM
      clear hkM
      generalize gB s k = x at *
      go_wp2_with fail
      refine (ma _).out.mono ?_
      rintro e w' ⟨rfl, rfl⟩
      go_wp2_with fail
      go_round
      case rel => exact ⟨k + 1, hk1, by go_num⟩
      case measure => simp [intOf]; omega
    · obtain rfl : k = M := by omega
      have hge : ¬ (k : Int) < (s.size : Int) := by omega
      clear h4 hkM GG
      go_wp2_with fail
      refine wp_region_sub (w0 := w) (by kernel_rfl) (by kernel_rfl) B0.out.drew ?_
      repeat (first | go_big_quiet_step (fail) | quiet_step (fail))
      refine wpQuiet_nil ?_
      rintro _ ⟨x, rfl⟩
      have BX := hide x.below
      go_wp2_with fail
      refine wp_region_sub (w0 := w) (by kernel_rfl) (by kernel_rfl) BX.out.drew ?_
      repeat (first | go_big_quiet_step ((first | (go_at_call 59; exact sub_of _ (mo _).out) | (go_at_call 58; exact sub_of _ (pa _).out))) | quiet_step ((first | (go_at_call 59; exact sub_of _ (mo _).out) | (go_at_call 58; exact sub_of _ (pa _).out))))
      refine wpQuiet_nil ?_
      rintro _ ⟨y, rfl⟩
      have BY := hide y.below
      go_wp2_with fail
      go_ret2
      exact ⟨rfl, BY.out⟩

set_option maxHeartbeats 4000000 in
set_option maxRecDepth 20000 in
theorem rchk_x3 (s : ByteArray) (w : World) (lo hi : Int) (M : Nat) (hlo : loK 3 = lo) (hhi : hiK 3 = hi) (hm : s.size ≤ 9223372036854775807) (hi1 : hi ≤ 100)
    (h1 : M ≤ s.size) (h2 : (M : Int) ≤ hi) (good : ∀ j : Nat, j < M → may 3 j (gB s j) = true) (h3 : lo = 20) (h4 : M = s.size) (h5 : s.size = 20) (h6 : hi = 20) (hq : tailOff s) :
    Calls Tryd.prog 45 #[.int .i64 3, .string s] w fun e w' => e = .returned (.tuple #[.int .i64 18, .int .i64 18]) ∧ Below w.heap.size w w' := by
  have le := fun w => hide (len_any 3 w)
  rw [hlo, hhi] at le
  have i1 := hide (idx s)
  have GG := hide good
  have B0 := hide (Below.refl w.heap.size w)
  have hA : Als (s.extract 0 18) := al3 (fun j hj => good j (by omega)) 18 (by omega)
  have hz : (s.extract 0 18).size = 18 := ex_size s 0 18 (by omega)
  have hA2 : Als (s.extract 0 18 ++ ⟨#[48, 48]⟩) := als_00 hA
  have hb2 : bl (s.extract 0 18 ++ ⟨#[48, 48]⟩) = bl (s.extract 0 18) ++ [48, 48] := bl_00 _
  have hz2 : (s.extract 0 18 ++ ⟨#[48, 48]⟩).size = 20 := by rw [ByteArray.size_append, hz]; rfl
  have mo := fun W => hide (mod_any (s.extract 0 18 ++ ⟨#[48, 48]⟩) W hA2 (by omega))
  rw [hb2, moD_00 hA.mem] at mo
  have A1 : ∀ W, (Op.stringOp .add (s.extract 0 18) ⟨#[48, 48]⟩).run Tryd.prog W = .ok (.string (s.extract 0 18 ++ ⟨#[48, 48]⟩)) W := fun W => run_string_add_sum W _ _ (by rw [hz]; decide)
  have hcd := cd_bd (bl (s.extract 0 18))
  have hcd2 : cd (bl (s.extract 0 18)) = 98 - moA 0 (bl (s.extract 0 18)) * 100 % 97 := rfl
  obtain ⟨r1, r2⟩ := moA_bd (show (0 : Int) ≤ 0 by omega) (by omega) (bl (s.extract 0 18))
  have pa := fun W => hide (pair_any (cd (bl (s.extract 0 18))) W (by omega) (by omega))
  have hsi : (s.size : Int) = 20 := by omega
  have z1 : (18 : Int) ≤ (s.size : Int) := by omega
  have hne1 : ¬ s.extract 18 20 = dd (cd (bl (s.extract 0 18))) := hq
  have hne2 : ((s.extract 18 20).toList == (dd (cd (bl (s.extract 0 18)))).toList) = false := toList_ne hne1
  generalize dd (cd (bl (s.extract 0 18))) = D at *
  rw [hcd2] at pa
  have w1 : IntKind.i64.wrap (98 - moA 0 (bl (s.extract 0 18)) * 100 % 97) = 98 - moA 0 (bl (s.extract 0 18)) * 100 % 97 := IntWalk.i64_in _ (by omega)
  clear hA hA2 hb2 hz2 hcd hcd2 hq
  generalize s.extract 0 18 ++ ⟨#[48, 48]⟩ = S2 at *
  generalize moA 0 (bl (s.extract 0 18)) * 100 % 97 = R at *
  clear hlo hhi good
  go_enter Tryd.func45, Tryd.ntmps45
  go_wp2_with fail
  refine (le _).out.mono ?_
  rintro e w' ⟨rfl, rfl⟩
  go_wp2_with fail
  go_loop [8] (fun i => ∃ k : Nat, k ≤ M ∧ i = .int .i64 k) (fun i => M - (intOf i).toNat)
  case atStart => exact ⟨0, Nat.zero_le _, rfl⟩
  case round =>
    obtain ⟨k, hk, rfl⟩ := hrel
    by_cases hkM : k < M
    · have hlt : k < s.size := by omega
      have hlt2 : (k : Int) < hi := by omega
      have j1 := i1.out k hlt
      have ma := fun w => hide (may_any 3 k (gB s k) w (by omega))
      rw [GG.out k hkM] at ma
      have hk1 : k + 1 ≤ M := hkM
      clear hkM
      generalize gB s k = x at *
      go_wp2_with fail
      refine (ma _).out.mono ?_
      rintro e w' ⟨rfl, rfl⟩
      go_wp2_with fail
      go_round
      case rel => exact ⟨k + 1, hk1, by go_num⟩
      case measure => simp [intOf]; omega
    · obtain rfl : k = M := by omega
      have hge : ¬ (k : Int) < (s.size : Int) := by omega
      clear h4 hkM GG
      go_wp2_with fail
      refine wp_region_sub (w0 := w) (by kernel_rfl) (by kernel_rfl) B0.out.drew ?_
      repeat (first | go_big_quiet_step (fail) | quiet_step (fail))
      refine wpQuiet_nil ?_
      rintro _ ⟨x, rfl⟩
      have BX := hide x.below
      go_wp2_with fail
      refine wp_region_sub (w0 := w) (by kernel_rfl) (by kernel_rfl) BX.out.drew ?_
      repeat (first | go_big_quiet_step ((first | (go_at_call 59; exact sub_of _ (mo _).out) | (go_at_call 58; exact sub_of _ (pa _).out))) | quiet_step ((first | (go_at_call 59; exact sub_of _ (mo _).out) | (go_at_call 58; exact sub_of _ (pa _).out))))
      refine wpQuiet_nil ?_
      rintro _ ⟨y, rfl⟩
      have BY := hide y.below
      go_wp2_with fail
      go_ret2
      exact ⟨rfl, BY.out⟩

end Go.Proofs.YtjjaemobgfconaaDoor
