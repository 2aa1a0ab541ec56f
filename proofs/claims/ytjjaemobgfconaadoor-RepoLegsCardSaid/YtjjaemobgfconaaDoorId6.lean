/-
  Contract of ident's checkLength at this translation.
-/
import Derived.Test.YtjjaemobgfconaaDoorId5
namespace Go.Proofs.YtjjaemobgfconaaDoor
open Go.RowKit
set_option linter.unusedVariables false

/-- The byte of a string at an index, 0 beyond it. -/
def gB (s : ByteArray) (k : Nat) : Int := ((s.data.toList.getD k 0).toNat : Int)
theorem gB_bd (s : ByteArray) (k : Nat) : 0 ≤ gB s k ∧ gB s k ≤ 255 := by
  unfold gB
  have := (s.data.toList.getD k 0).toNat_lt
  omega
theorem idx (s : ByteArray) (k : Nat) (h : k < s.size) (w : World) : (Instr.index 9 (.string s) (.int .i64 (k : Int))).run Tryd.prog w = .ok (.int .u8 (gB s k)) w := by
  rw [Go.run_index_string w 9 s .i64 (k : Int) Tryd.underlying9]
  have hk : (0 : Int) ≤ k ∧ (k : Int) < s.size := by omega
  rw [dif_pos hk]
  obtain ⟨⟨l⟩⟩ := s
  have hl : k < l.length := h
  have e : (ByteArray.mk ⟨l⟩)[k]'hl = l.getD k 0 := by
    simp only [List.getD, List.getElem?_eq_getElem hl, Option.getD_some]
    rfl
  simp [gB, e]

/-- The numbers of a shape fit. -/
structure Fits (b c d e f g : Int) : Prop where
  b0 : 0 ≤ b
  b1 : b ≤ 100
  d0 : 0 ≤ d
  d1 : d ≤ 100
  e0 : 0 ≤ e
  e3 : e ≤ 3
  f0 : 0 ≤ f
  f3 : f ≤ 3
  g0 : 0 ≤ g
  g3 : g ≤ 3
theorem clA_bd {b c d e f g : Int} (h : Fits b c d e f g) (i : Int) : 0 ≤ clA b c d e f g i ∧ clA b c d e f g i ≤ 3 := by
  obtain ⟨_, _, _, _, h1, h2, h3, h4, h5, h6⟩ := h
  unfold clA
  split
  · omega
  · split <;> omega
theorem ca_keep (a b c d e f g i : Int) (w W : World) (h : Fits b c d e f g) (B : Hid (Below w.heap.size w W)) :
    Calls Tryd.prog 61 #[.agg #[.int .i64 a, .int .i64 b, .int .i64 c, .int .i64 d, .int .i64 e, .int .i64 f, .int .i64 g], .int .i64 i] W fun e' w' => e' = .returned (.int .i64 (clA b c d e f g i)) ∧ Hid (Below w.heap.size w w') :=
  (ca_any a b c d e f g i W h.b0 h.b1 h.d0 h.d1).mono fun _ _ q => ⟨q.1, hide (B.out.trans (q.2.mono B.out.size))⟩
theorem ic_keep (k c : Int) (w W : World) (h0 : 0 ≤ k) (h3 : k ≤ 3) (B : Hid (Below w.heap.size w W)) : Calls Tryd.prog 68 #[.int .i64 k, .int .u8 c] W fun e w' => e = .returned (.bool (inC k c)) ∧ Hid (Below w.heap.size w w') :=
  (ic_any k c W h0 h3).mono fun _ _ q => ⟨q.1, hide (B.out.trans (q.2.mono B.out.size))⟩

set_option maxHeartbeats 4000000 in
set_option maxRecDepth 20000 in
theorem cl_bad1 (s : ByteArray) (lo hi a b c d e f g : Int) (J : Nat) (w : World) (h : Fits b c d e f g) (h1 : J < s.size) (h2 : (J : Int) < hi) (h3 : hi ≤ 100) (hm : s.size ≤ maxLen) (hmn : (s.size : Int) ≤ hi)
    (good : ∀ j : Nat, j < J → inC (clA b c d e f g (j : Int)) (gB s j) = true) (bad : inC (clA b c d e f g (J : Int)) (gB s J) = false) :
    Calls Tryd.prog 60 #[.string s, .int .i64 lo, .int .i64 hi, .func (.func 61) #[.agg #[.int .i64 a, .int .i64 b, .int .i64 c, .int .i64 d, .int .i64 e, .int .i64 f, .int .i64 g]] #[]] w
      fun e' w' => e' = .returned (.tuple #[.int .i64 (J : Int), .int .i64 3]) ∧ Below w.heap.size w w' := by
  have i1 := hide (idx s)
  have GG := hide good
  have HB := hide bad
  have FF := hide h
  have B0 := hide (Below.refl w.heap.size w)
  unfold maxLen at hm
  clear good bad h
  go_enter Tryd.func60, Tryd.ntmps60
  go_wp2_with fail
  go_loopw [15] (fun i wr => ∃ k : Nat, k ≤ J ∧ i = .int .i64 k ∧ Hid (Below w.heap.size w wr)) (fun i _ => J - (intOf i).toNat)
  case atStart => exact ⟨0, Nat.zero_le _, rfl, B0⟩
  case round =>
    obtain ⟨k, hk, rfl, B⟩ := hrel
    have hlt : k < s.size := by omega
    have hlt2 : (k : Int) < hi := by omega
    have j1 := i1.out k hlt
    have ca := fun W B => ca_keep a b c d e f g k w W FF.out B
    have B' : Hid (Below w.heap.size w wr.drew) := hide B.out.drew
    by_cases hkJ : k < J
    · have hk1 : k + 1 ≤ J := hkJ
      have ic := fun W B => ic_keep (clA b c d e f g k) (gB s k) w W (clA_bd FF.out _).1 (clA_bd FF.out _).2 B
      rw [GG.out k hkJ] at ic
      clear hkJ
      generalize clA b c d e f g (k : Int) = K at *
      generalize gB s k = x at *
      go_wp2_with fail
      go_region_held3 (fun w' => Hid (Below w.heap.size w w')) (first | exact B' | assumption) (first | (go_at_call 61; refine (ca _ (by assumption)).mono ?_; rintro e w' ⟨rfl, q⟩) | (go_at_call 68; refine (ic _ (by assumption)).mono ?_; rintro e w' ⟨rfl, q⟩))
      all_goals go_wp2_with fail
      all_goals
        go_roundw
        case rel => exact ⟨k + 1, hk1, by go_num, by assumption⟩
        case measure => simp [intOf]; omega
    · obtain rfl : k = J := by omega
      have ic := fun W B => ic_keep (clA b c d e f g k) (gB s k) w W (clA_bd FF.out _).1 (clA_bd FF.out _).2 B
      rw [HB.out] at ic
      clear hkJ HB
      generalize clA b c d e f g (k : Int) = K at *
      generalize gB s k = x at *
      go_wp2_with fail
      go_region_held3 (fun w' => Hid (Below w.heap.size w w')) (first | exact B' | assumption) (first | (go_at_call 61; refine (ca _ (by assumption)).mono ?_; rintro e w' ⟨rfl, q⟩) | (go_at_call 68; refine (ic _ (by assumption)).mono ?_; rintro e w' ⟨rfl, q⟩))
      all_goals go_wp2_with fail
      all_goals go_ret2
      all_goals exact ⟨rfl, q.out⟩

set_option maxHeartbeats 4000000 in
set_option maxRecDepth 20000 in
theorem cl_bad2 (s : ByteArray) (lo hi a b c d e f g : Int) (J : Nat) (w : World) (h : Fits b c d e f g) (h1 : J < s.size) (h2 : (J : Int) < hi) (h3 : hi ≤ 100) (hm : s.size ≤ maxLen) (hmn : hi < (s.size : Int))
    (good : ∀ j : Nat, j < J → inC (clA b c d e f g (j : Int)) (gB s j) = true) (bad : inC (clA b c d e f g (J : Int)) (gB s J) = false) :
    Calls Tryd.prog 60 #[.string s, .int .i64 lo, .int .i64 hi, .func (.func 61) #[.agg #[.int .i64 a, .int .i64 b, .int .i64 c, .int .i64 d, .int .i64 e, .int .i64 f, .int .i64 g]] #[]] w
      fun e' w' => e' = .returned (.tuple #[.int .i64 (J : Int), .int .i64 3]) ∧ Below w.heap.size w w' := by
  have i1 := hide (idx s)
  have GG := hide good
  have HB := hide bad
  have FF := hide h
  have B0 := hide (Below.refl w.heap.size w)
  unfold maxLen at hm
  clear good bad h
  go_enter Tryd.func60, Tryd.ntmps60
  go_wp2_with fail
  go_loopw [15] (fun i wr => ∃ k : Nat, k ≤ J ∧ i = .int .i64 k ∧ Hid (Below w.heap.size w wr)) (fun i _ => J - (intOf i).toNat)
  case atStart => exact ⟨0, Nat.zero_le _, rfl, B0⟩
  case round =>
    obtain ⟨k, hk, rfl, B⟩ := hrel
    have hlt : k < s.size := by omega
    have hlt2 : (k : Int) < hi := by omega
    have j1 := i1.out k hlt
    have ca := fun W B => ca_keep a b c d e f g k w W FF.out B
    have B' : Hid (Below w.heap.size w wr.drew) := hide B.out.drew
    by_cases hkJ : k < J
    · have hk1 : k + 1 ≤ J := hkJ
      have ic := fun W B => ic_keep (clA b c d e f g k) (gB s k) w W (clA_bd FF.out _).1 (clA_bd FF.out _).2 B
      rw [GG.out k hkJ] at ic
      clear hkJ
      generalize clA b c d e f g (k : Int) = K at *
      generalize gB s k = x at *
      go_wp2_with fail
      go_region_held3 (fun w' => Hid (Below w.heap.size w w')) (first | exact B' | assumption) (first | (go_at_call 61; refine (ca _ (by assumption)).mono ?_; rintro e w' ⟨rfl, q⟩) | (go_at_call 68; refine (ic _ (by assumption)).mono ?_; rintro e w' ⟨rfl, q⟩))
      all_goals go_wp2_with fail
      all_goals
        go_roundw
        case rel => exact ⟨k + 1, hk1, by go_num, by assumption⟩
        case measure => simp [intOf]; omega
    · obtain rfl : k = J := by omega
      have ic := fun W B => ic_keep (clA b c d e f g k) (gB s k) w W (clA_bd FF.out _).1 (clA_bd FF.out _).2 B
      rw [HB.out] at ic
      clear hkJ HB
      generalize clA b c d e f g (k : Int) = K at *
      generalize gB s k = x at *
      go_wp2_with fail
      go_region_held3 (fun w' => Hid (Below w.heap.size w w')) (first | exact B' | assumption) (first | (go_at_call 61; refine (ca _ (by assumption)).mono ?_; rintro e w' ⟨rfl, q⟩) | (go_at_call 68; refine (ic _ (by assumption)).mono ?_; rintro e w' ⟨rfl, q⟩))
      all_goals go_wp2_with fail
      all_goals go_ret2
      all_goals exact ⟨rfl, q.out⟩

theorem cl_bad (s : ByteArray) (lo hi a b c d e f g : Int) (J : Nat) (w : World) (h : Fits b c d e f g) (h1 : J < s.size) (h2 : (J : Int) < hi) (h3 : hi ≤ 100) (hm : s.size ≤ maxLen)
    (good : ∀ j : Nat, j < J → inC (clA b c d e f g (j : Int)) (gB s j) = true) (bad : inC (clA b c d e f g (J : Int)) (gB s J) = false) :
    Calls Tryd.prog 60 #[.string s, .int .i64 lo, .int .i64 hi, .func (.func 61) #[.agg #[.int .i64 a, .int .i64 b, .int .i64 c, .int .i64 d, .int .i64 e, .int .i64 f, .int .i64 g]] #[]] w
      fun e' w' => e' = .returned (.tuple #[.int .i64 (J : Int), .int .i64 3]) ∧ Below w.heap.size w w' := by
  rcases Int.lt_or_le hi (s.size : Int) with q | q
  · exact cl_bad2 s lo hi a b c d e f g J w h h1 h2 h3 hm q good bad
  · exact cl_bad1 s lo hi a b c d e f g J w h h1 h2 h3 hm q good bad

/-- What checkLength answers where all bytes are permitted. -/
def clV (n lo hi : Int) : Int := if n < lo then n else if hi < n then hi else 0
def clE (n lo hi : Int) : Int := if n < lo then 4 else if hi < n then 5 else 0
set_option maxHeartbeats 4000000 in
set_option maxRecDepth 20000 in
theorem cl_all_s1 (s : ByteArray) (lo hi a b c d e f g : Int) (M : Nat) (w : World) (h : Fits b c d e f g) (h1 : M ≤ s.size) (h2 : (M : Int) ≤ hi) (h4 : M = s.size ∨ (M : Int) = hi) (h3 : hi ≤ 100) (hm : s.size ≤ maxLen)
    (q : (s.size : Int) < lo) (hmn : (s.size : Int) ≤ hi) (good : ∀ j : Nat, j < M → inC (clA b c d e f g (j : Int)) (gB s j) = true) :
    Calls Tryd.prog 60 #[.string s, .int .i64 lo, .int .i64 hi, .func (.func 61) #[.agg #[.int .i64 a, .int .i64 b, .int .i64 c, .int .i64 d, .int .i64 e, .int .i64 f, .int .i64 g]] #[]] w
      fun e' w' => e' = .returned (.tuple #[.int .i64 (s.size : Int), .int .i64 4]) ∧ Below w.heap.size w w' := by
  have i1 := hide (idx s)
  have GG := hide good
  have FF := hide h
  have B0 := hide (Below.refl w.heap.size w)
  unfold maxLen at hm
  clear good h
  go_enter Tryd.func60, Tryd.ntmps60
  go_wp2_with fail
  go_loopw [15] (fun i wr => ∃ k : Nat, k ≤ M ∧ i = .int .i64 k ∧ Hid (Below w.heap.size w wr)) (fun i _ => M - (intOf i).toNat)
  case atStart => exact ⟨0, Nat.zero_le _, rfl, B0⟩
  case round =>
    obtain ⟨k, hk, rfl, B⟩ := hrel
    by_cases hkM : k < M
    · have hlt : k < s.size := by omega
      have hlt2 : (k : Int) < hi := by omega
      have j1 := i1.out k hlt
      have ca := fun W B => ca_keep a b c d e f g k w W FF.out B
      have B' : Hid (Below w.heap.size w wr.drew) := hide B.out.drew
      have hk1 : k + 1 ≤ M := hkM
      have ic := fun W B => ic_keep (clA b c d e f g k) (gB s k) w W (clA_bd FF.out _).1 (clA_bd FF.out _).2 B
      rw [GG.out k hkM] at ic
      clear hkM
      generalize clA b c d e f g (k : Int) = K at *
      generalize gB s k = x at *
      go_wp2_with fail
      go_region_held3 (fun w' => Hid (Below w.heap.size w w')) (first | exact B' | assumption) (first | (go_at_call 61; refine (ca _ (by assumption)).mono ?_; rintro e w' ⟨rfl, q⟩) | (go_at_call 68; refine (ic _ (by assumption)).mono ?_; rintro e w' ⟨rfl, q⟩))
      all_goals go_wp2_with fail
      all_goals
        go_roundw
        case rel => exact ⟨k + 1, hk1, by go_num, by assumption⟩
        case measure => simp [intOf]; omega
    · have hge : ¬ (k : Int) < (s.size : Int) := by omega
      clear hkM h4
      go_wp2_with fail
      go_ret2
      exact ⟨rfl, B.out⟩

set_option maxHeartbeats 4000000 in
set_option maxRecDepth 20000 in
theorem cl_all_s2 (s : ByteArray) (lo hi a b c d e f g : Int) (M : Nat) (w : World) (h : Fits b c d e f g) (h1 : M ≤ s.size) (h2 : (M : Int) ≤ hi) (h4 : M = s.size ∨ (M : Int) = hi) (h3 : hi ≤ 100) (hm : s.size ≤ maxLen)
    (q : (s.size : Int) < lo) (hmn : hi < (s.size : Int)) (good : ∀ j : Nat, j < M → inC (clA b c d e f g (j : Int)) (gB s j) = true) :
    Calls Tryd.prog 60 #[.string s, .int .i64 lo, .int .i64 hi, .func (.func 61) #[.agg #[.int .i64 a, .int .i64 b, .int .i64 c, .int .i64 d, .int .i64 e, .int .i64 f, .int .i64 g]] #[]] w
      fun e' w' => e' = .returned (.tuple #[.int .i64 (s.size : Int), .int .i64 4]) ∧ Below w.heap.size w w' := by
  have i1 := hide (idx s)
  have GG := hide good
  have FF := hide h
  have B0 := hide (Below.refl w.heap.size w)
  unfold maxLen at hm
  clear good h
  go_enter Tryd.func60, Tryd.ntmps60
  go_wp2_with fail
  go_loopw [15] (fun i wr => ∃ k : Nat, k ≤ M ∧ i = .int .i64 k ∧ Hid (Below w.heap.size w wr)) (fun i _ => M - (intOf i).toNat)
  case atStart => exact ⟨0, Nat.zero_le _, rfl, B0⟩
  case round =>
    obtain ⟨k, hk, rfl, B⟩ := hrel
    by_cases hkM : k < M
    · have hlt : k < s.size := by omega
      have hlt2 : (k : Int) < hi := by omega
      have j1 := i1.out k hlt
      have ca := fun W B => ca_keep a b c d e f g k w W FF.out B
      have B' : Hid (Below w.heap.size w wr.drew) := hide B.out.drew
      have hk1 : k + 1 ≤ M := hkM
      have ic := fun W B => ic_keep (clA b c d e f g k) (gB s k) w W (clA_bd FF.out _).1 (clA_bd FF.out _).2 B
      rw [GG.out k hkM] at ic
      clear hkM
      generalize clA b c d e f g (k : Int) = K at *
      generalize gB s k = x at *
      go_wp2_with fail
      go_region_held3 (fun w' => Hid (Below w.heap.size w w')) (first | exact B' | assumption) (first | (go_at_call 61; refine (ca _ (by assumption)).mono ?_; rintro e w' ⟨rfl, q⟩) | (go_at_call 68; refine (ic _ (by assumption)).mono ?_; rintro e w' ⟨rfl, q⟩))
      all_goals go_wp2_with fail
      all_goals
        go_roundw
        case rel => exact ⟨k + 1, hk1, by go_num, by assumption⟩
        case measure => simp [intOf]; omega
    · have hge : ¬ (k : Int) < hi := by omega
      clear hkM h4
      go_wp2_with fail
      go_ret2
      exact ⟨rfl, B.out⟩

set_option maxHeartbeats 4000000 in
set_option maxRecDepth 20000 in
theorem cl_all_l (s : ByteArray) (lo hi a b c d e f g : Int) (M : Nat) (w : World) (h : Fits b c d e f g) (h1 : M ≤ s.size) (h2 : (M : Int) ≤ hi) (h4 : M = s.size ∨ (M : Int) = hi) (h3 : hi ≤ 100) (hm : s.size ≤ maxLen)
    (q : lo ≤ (s.size : Int)) (hmn : hi < (s.size : Int)) (good : ∀ j : Nat, j < M → inC (clA b c d e f g (j : Int)) (gB s j) = true) :
    Calls Tryd.prog 60 #[.string s, .int .i64 lo, .int .i64 hi, .func (.func 61) #[.agg #[.int .i64 a, .int .i64 b, .int .i64 c, .int .i64 d, .int .i64 e, .int .i64 f, .int .i64 g]] #[]] w
      fun e' w' => e' = .returned (.tuple #[.int .i64 hi, .int .i64 5]) ∧ Below w.heap.size w w' := by
  have i1 := hide (idx s)
  have GG := hide good
  have FF := hide h
  have B0 := hide (Below.refl w.heap.size w)
  unfold maxLen at hm
  clear good h
  go_enter Tryd.func60, Tryd.ntmps60
  go_wp2_with fail
  go_loopw [15] (fun i wr => ∃ k : Nat, k ≤ M ∧ i = .int .i64 k ∧ Hid (Below w.heap.size w wr)) (fun i _ => M - (intOf i).toNat)
  case atStart => exact ⟨0, Nat.zero_le _, rfl, B0⟩
  case round =>
    obtain ⟨k, hk, rfl, B⟩ := hrel
    by_cases hkM : k < M
    · have hlt : k < s.size := by omega
      have hlt2 : (k : Int) < hi := by omega
      have j1 := i1.out k hlt
      have ca := fun W B => ca_keep a b c d e f g k w W FF.out B
      have B' : Hid (Below w.heap.size w wr.drew) := hide B.out.drew
      have hk1 : k + 1 ≤ M := hkM
      have ic := fun W B => ic_keep (clA b c d e f g k) (gB s k) w W (clA_bd FF.out _).1 (clA_bd FF.out _).2 B
      rw [GG.out k hkM] at ic
      clear hkM
      generalize clA b c d e f g (k : Int) = K at *
      generalize gB s k = x at *
      go_wp2_with fail
      go_region_held3 (fun w' => Hid (Below w.heap.size w w')) (first | exact B' | assumption) (first | (go_at_call 61; refine (ca _ (by assumption)).mono ?_; rintro e w' ⟨rfl, q⟩) | (go_at_call 68; refine (ic _ (by assumption)).mono ?_; rintro e w' ⟨rfl, q⟩))
      all_goals go_wp2_with fail
      all_goals
        go_roundw
        case rel => exact ⟨k + 1, hk1, by go_num, by assumption⟩
        case measure => simp [intOf]; omega
    · have hge : ¬ (k : Int) < hi := by omega
      clear hkM h4
      go_wp2_with fail
      go_ret2
      exact ⟨rfl, B.out⟩

set_option maxHeartbeats 4000000 in
set_option maxRecDepth 20000 in
theorem cl_all_k (s : ByteArray) (lo hi a b c d e f g : Int) (M : Nat) (w : World) (h : Fits b c d e f g) (h1 : M ≤ s.size) (h2 : (M : Int) ≤ hi) (h4 : M = s.size ∨ (M : Int) = hi) (h3 : hi ≤ 100) (hm : s.size ≤ maxLen)
    (q : lo ≤ (s.size : Int)) (hmn : (s.size : Int) ≤ hi) (good : ∀ j : Nat, j < M → inC (clA b c d e f g (j : Int)) (gB s j) = true) :
    Calls Tryd.prog 60 #[.string s, .int .i64 lo, .int .i64 hi, .func (.func 61) #[.agg #[.int .i64 a, .int .i64 b, .int .i64 c, .int .i64 d, .int .i64 e, .int .i64 f, .int .i64 g]] #[]] w
      fun e' w' => e' = .returned (.tuple #[.int .i64 0, .int .i64 0]) ∧ Below w.heap.size w w' := by
  have i1 := hide (idx s)
  have GG := hide good
  have FF := hide h
  have B0 := hide (Below.refl w.heap.size w)
  unfold maxLen at hm
  clear good h
  go_enter Tryd.func60, Tryd.ntmps60
  go_wp2_with fail
  go_loopw [15] (fun i wr => ∃ k : Nat, k ≤ M ∧ i = .int .i64 k ∧ Hid (Below w.heap.size w wr)) (fun i _ => M - (intOf i).toNat)
  case atStart => exact ⟨0, Nat.zero_le _, rfl, B0⟩
  case round =>
    obtain ⟨k, hk, rfl, B⟩ := hrel
    by_cases hkM : k < M
    · have hlt : k < s.size := by omega
      have hlt2 : (k : Int) < hi := by omega
      have j1 := i1.out k hlt
      have ca := fun W B => ca_keep a b c d e f g k w W FF.out B
      have B' : Hid (Below w.heap.size w wr.drew) := hide B.out.drew
      have hk1 : k + 1 ≤ M := hkM
      have ic := fun W B => ic_keep (clA b c d e f g k) (gB s k) w W (clA_bd FF.out _).1 (clA_bd FF.out _).2 B
      rw [GG.out k hkM] at ic
      clear hkM
      generalize clA b c d e f g (k : Int) = K at *
      generalize gB s k = x at *
      go_wp2_with fail
      go_region_held3 (fun w' => Hid (Below w.heap.size w w')) (first | exact B' | assumption) (first | (go_at_call 61; refine (ca _ (by assumption)).mono ?_; rintro e w' ⟨rfl, q⟩) | (go_at_call 68; refine (ic _ (by assumption)).mono ?_; rintro e w' ⟨rfl, q⟩))
      all_goals go_wp2_with fail
      all_goals
        go_roundw
        case rel => exact ⟨k + 1, hk1, by go_num, by assumption⟩
        case measure => simp [intOf]; omega
    · have hge : ¬ (k : Int) < (s.size : Int) := by omega
      clear hkM h4
      go_wp2_with fail
      go_ret2
      exact ⟨rfl, B.out⟩

theorem cl_all (s : ByteArray) (lo hi a b c d e f g : Int) (M : Nat) (w : World) (h : Fits b c d e f g) (h1 : M ≤ s.size) (h2 : (M : Int) ≤ hi) (h4 : M = s.size ∨ (M : Int) = hi) (h3 : hi ≤ 100) (hm : s.size ≤ maxLen)
    (good : ∀ j : Nat, j < M → inC (clA b c d e f g (j : Int)) (gB s j) = true) :
    Calls Tryd.prog 60 #[.string s, .int .i64 lo, .int .i64 hi, .func (.func 61) #[.agg #[.int .i64 a, .int .i64 b, .int .i64 c, .int .i64 d, .int .i64 e, .int .i64 f, .int .i64 g]] #[]] w
      fun e' w' => e' = .returned (.tuple #[.int .i64 (clV s.size lo hi), .int .i64 (clE s.size lo hi)]) ∧ Below w.heap.size w w' := by
  unfold clV clE
  rcases Int.lt_or_le (s.size : Int) lo with q | q
  · rw [if_pos q, if_pos q]
    rcases Int.lt_or_le hi (s.size : Int) with q' | q'
    · exact cl_all_s2 s lo hi a b c d e f g M w h h1 h2 h4 h3 hm q q' good
    · exact cl_all_s1 s lo hi a b c d e f g M w h h1 h2 h4 h3 hm q q' good
  · have n : ¬ (s.size : Int) < lo := by omega
    rw [if_neg n, if_neg n]
    rcases Int.lt_or_le hi (s.size : Int) with q' | q'
    · rw [if_pos q', if_pos q']
      exact cl_all_l s lo hi a b c d e f g M w h h1 h2 h4 h3 hm q q' good
    · have n' : ¬ hi < (s.size : Int) := by omega
      rw [if_neg n', if_neg n']
      exact cl_all_k s lo hi a b c d e f g M w h h1 h2 h4 h3 hm q q' good
end Go.Proofs.YtjjaemobgfconaaDoor
