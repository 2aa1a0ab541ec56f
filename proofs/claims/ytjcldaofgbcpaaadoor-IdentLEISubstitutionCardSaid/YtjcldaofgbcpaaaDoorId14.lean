/-
  The check digits of identifiers; the example of the chapter.
-/
import Derived.Test.YtjcldaofgbcpaaaDoorId13
namespace Go.Proofs.YtjcldaofgbcpaaaDoor
open Go.RowKit
set_option linter.unusedVariables false

theorem als0 {s : ByteArray} (h : ∀ j : Nat, j < s.size → may 0 j (gB s j) = true) (h11 : s.size ≤ 11) : Als s := by
  intro k hk
  have := h k hk
  unfold may at this
  rw [if_pos rfl] at this
  by_cases h1 : (k : Int) < 2
  · rw [if_pos h1] at this; exact isL_al this
  · rw [if_neg h1, if_pos (by omega)] at this; exact isLD this
theorem als3 {s : ByteArray} (h : ∀ j : Nat, j < s.size → may 3 j (gB s j) = true) : Als s := by
  intro k hk
  have := h k hk
  unfold may at this
  rw [if_neg (show ¬ (3 : Int) = 0 by decide), if_neg (show ¬ (3 : Int) = 1 by decide), if_neg (show ¬ (3 : Int) = 2 by decide)] at this
  by_cases h1 : isD (gB s k) = true
  · exact isD_al h1
  · have h2 : isD (gB s k) = false := by simpa using h1
    rw [h2, Bool.false_or, Bool.and_eq_true] at this
    exact isL_al this.2
set_option maxHeartbeats 4000000 in
set_option maxRecDepth 20000 in
theorem cb0 (s : ByteArray) (w : World) (S : Shp w) (hm : s.size ≤ 200) :
    Calls Tryd.prog 33 #[.int .i64 0, .string s] w fun e w' => e = .returned (.int .i64 (pre 0 11 11 s).2) ∧ Below w.heap.size w w' := by
  have cl := fun W => hide (cl_pre 0 s 11 11 12 12 2 1 0 2 1 W fits0 (by omega) (by omega) (by unfold maxLen; omega) (fun j hj => may0 s j (by omega)))
  have c0 : w.cell? ⟨0, 0, none⟩ = some (.int .i64 12) := S.cell 0 (by decide)
  have c1 : w.cell? ⟨0, 1, none⟩ = some (.int .i64 12) := S.cell 1 (by decide)
  have c2 : w.cell? ⟨0, 2, none⟩ = some (.int .i64 2) := S.cell 2 (by decide)
  have c3 : w.cell? ⟨0, 3, none⟩ = some (.int .i64 1) := S.cell 3 (by decide)
  have c4 : w.cell? ⟨0, 4, none⟩ = some (.int .i64 0) := S.cell 4 (by decide)
  have c5 : w.cell? ⟨0, 5, none⟩ = some (.int .i64 2) := S.cell 5 (by decide)
  have c6 : w.cell? ⟨0, 6, none⟩ = some (.int .i64 1) := S.cell 6 (by decide)
  have B0 := hide ((Below.refl w.heap.size w).alloc (Nat.le_refl _) (.cells #[.int .i64 12, .int .i64 12, .int .i64 2, .int .i64 1, .int .i64 0, .int .i64 2, .int .i64 1] 47))
  have hmf : ∀ (fn : Fn) (first cap : Array Value) (w : World), (Instr.makeFunc fn first cap).run Tryd.prog w = .ok (.func fn first cap) w := fun _ _ _ _ => rfl
  clear S hm
  generalize (pre 0 11 11 s).2 = E at *
  generalize (pre 0 11 11 s).1 = V at *
  go_enter Tryd.func33, Tryd.ntmps33
  go_wp2_with fail
  refine (cl _).out.mono ?_
  rintro e w1 ⟨rfl, hb⟩
  have B1 := hide (B0.out.trans (hb.mono B0.out.size))
  clear hb
  go_wp2_with fail
  go_ret
  exact ⟨rfl, B1.out⟩
set_option maxHeartbeats 4000000 in
set_option maxRecDepth 20000 in
theorem cb3 (s : ByteArray) (w : World) (S : Shp w) (hm : s.size ≤ 200) :
    Calls Tryd.prog 33 #[.int .i64 3, .string s] w fun e w' => e = .returned (.int .i64 (pre 3 18 18 s).2) ∧ Below w.heap.size w w' := by
  have cl := fun W => hide (cl_pre 3 s 18 18 20 20 0 2 2 2 1 W fits3 (by omega) (by omega) (by unfold maxLen; omega) (fun j _ => may3 s j))
  have c0 : w.cell? ⟨0, 21, none⟩ = some (.int .i64 20) := S.cell 21 (by decide)
  have c1 : w.cell? ⟨0, 22, none⟩ = some (.int .i64 20) := S.cell 22 (by decide)
  have c2 : w.cell? ⟨0, 23, none⟩ = some (.int .i64 0) := S.cell 23 (by decide)
  have c3 : w.cell? ⟨0, 24, none⟩ = some (.int .i64 2) := S.cell 24 (by decide)
  have c4 : w.cell? ⟨0, 25, none⟩ = some (.int .i64 2) := S.cell 25 (by decide)
  have c5 : w.cell? ⟨0, 26, none⟩ = some (.int .i64 2) := S.cell 26 (by decide)
  have c6 : w.cell? ⟨0, 27, none⟩ = some (.int .i64 1) := S.cell 27 (by decide)
  have B0 := hide ((Below.refl w.heap.size w).alloc (Nat.le_refl _) (.cells #[.int .i64 20, .int .i64 20, .int .i64 0, .int .i64 2, .int .i64 2, .int .i64 2, .int .i64 1] 47))
  have hmf : ∀ (fn : Fn) (first cap : Array Value) (w : World), (Instr.makeFunc fn first cap).run Tryd.prog w = .ok (.func fn first cap) w := fun _ _ _ _ => rfl
  clear S hm
  generalize (pre 3 18 18 s).2 = E at *
  generalize (pre 3 18 18 s).1 = V at *
  go_enter Tryd.func33, Tryd.ntmps33
  go_wp2_with fail
  refine (cl _).out.mono ?_
  rintro e w1 ⟨rfl, hb⟩
  have B1 := hide (B0.out.trans (hb.mono B0.out.size))
  clear hb
  go_wp2_with fail
  go_ret
  exact ⟨rfl, B1.out⟩
set_option maxHeartbeats 4000000 in
set_option maxRecDepth 20000 in
theorem bg_bad (kind : Int) (s : ByteArray) (w : World) (n : Int) (M : Nat) (hm : s.size ≤ 200) (n1 : n ≤ 100)
    (h1 : M ≤ s.size) (h2 : (M : Int) ≤ n) (good : ∀ j : Nat, j < M → may kind j (gB s j) = true) (h3 : M < s.size) (h4 : (M : Int) < n) (bad : may kind M (gB s M) = false) :
    Calls Tryd.prog 34 #[.int .i64 kind, .int .i64 n, .string s] w fun e w' => e = .returned (.int .i64 3) ∧ w = w' := by
  have i1 := hide (idx s)
  have GG := hide good
  have HB := hide bad
  clear bad
  clear good
  go_enter Tryd.func34, Tryd.ntmps34
  go_wp2_with fail
  go_loop [7] (fun i => ∃ k : Nat, k ≤ M ∧ i = .int .i64 k) (fun i => M - (intOf i).toNat)
  case atStart => exact ⟨0, Nat.zero_le _, rfl⟩
  case round =>
    obtain ⟨k, hk, rfl⟩ := hrel
    by_cases hkM : k < M
    · have hlt : k < s.size := by omega
      have hlt2 : (k : Int) < n := by omega
      have j1 := i1.out k hlt
      have ma := fun w => hide (may_any kind k (gB s k) w (by omega))
      rw [GG.out k hkM] at ma
      have hk1 : k + 1 ≤ M := hkM
      clear hkM
      generalize gB s k = x at *
      go_wp2_with fail
      refine (ma _).out.mono ?_
      rintro e w' ⟨rfl, rfl⟩
      go_wp2_with fail
      go_round
      case rel => exact ⟨k + 1, hk1, by go_num⟩
      case measure => simp [intOf]; omega
    · obtain rfl : k = M := by omega
      have hlt : k < s.size := by omega
      have j1 := i1.out k hlt
      have ma := fun w => hide (may_any kind k (gB s k) w (by omega))
      rw [HB.out] at ma
      clear hkM HB
      generalize gB s k = x at *
      go_wp2_with fail
      refine (ma _).out.mono ?_
      rintro e w' ⟨rfl, rfl⟩
      go_wp2_with fail
      go_ret
      exact ⟨rfl, rfl⟩

set_option maxHeartbeats 4000000 in
set_option maxRecDepth 20000 in
theorem bg_short (kind : Int) (s : ByteArray) (w : World) (n : Int) (M : Nat) (hm : s.size ≤ 200) (n1 : n ≤ 100)
    (h1 : M ≤ s.size) (h2 : (M : Int) ≤ n) (good : ∀ j : Nat, j < M → may kind j (gB s j) = true) (h3 : (s.size : Int) < n) (h4 : M = s.size) :
    Calls Tryd.prog 34 #[.int .i64 kind, .int .i64 n, .string s] w fun e w' => e = .returned (.int .i64 4) ∧ w = w' := by
  have i1 := hide (idx s)
  have GG := hide good
  clear good
  go_enter Tryd.func34, Tryd.ntmps34
  go_wp2_with fail
  go_loop [7] (fun i => ∃ k : Nat, k ≤ M ∧ i = .int .i64 k) (fun i => M - (intOf i).toNat)
  case atStart => exact ⟨0, Nat.zero_le _, rfl⟩
  case round =>
    obtain ⟨k, hk, rfl⟩ := hrel
    by_cases hkM : k < M
    · have hlt : k < s.size := by omega
      have hlt2 : (k : Int) < n := by omega
      have j1 := i1.out k hlt
      have ma := fun w => hide (may_any kind k (gB s k) w (by omega))
      rw [GG.out k hkM] at ma
      have hk1 : k + 1 ≤ M := hkM
      clear hkM
      generalize gB s k = x at *
      go_wp2_with fail
      refine (ma _).out.mono ?_
      rintro e w' ⟨rfl, rfl⟩
      go_wp2_with fail
      go_round
      case rel => exact ⟨k + 1, hk1, by go_num⟩
      case measure => simp [intOf]; omega
    · obtain rfl : k = M := by omega
      have hge : ¬ (k : Int) < (s.size : Int) := by omega
      clear h4
      clear hkM GG
      go_wp2_with fail
      go_ret
      exact ⟨rfl, rfl⟩

set_option maxHeartbeats 4000000 in
set_option maxRecDepth 20000 in
theorem bg_long (kind : Int) (s : ByteArray) (w : World) (n : Int) (M : Nat) (hm : s.size ≤ 200) (n1 : n ≤ 100)
    (h1 : M ≤ s.size) (h2 : (M : Int) ≤ n) (good : ∀ j : Nat, j < M → may kind j (gB s j) = true) (h3 : n < (s.size : Int)) (h4 : (M : Int) = n) :
    Calls Tryd.prog 34 #[.int .i64 kind, .int .i64 n, .string s] w fun e w' => e = .returned (.int .i64 5) ∧ w = w' := by
  have i1 := hide (idx s)
  have GG := hide good
  clear good
  go_enter Tryd.func34, Tryd.ntmps34
  go_wp2_with fail
  go_loop [7] (fun i => ∃ k : Nat, k ≤ M ∧ i = .int .i64 k) (fun i => M - (intOf i).toNat)
  case atStart => exact ⟨0, Nat.zero_le _, rfl⟩
  case round =>
    obtain ⟨k, hk, rfl⟩ := hrel
    by_cases hkM : k < M
    · have hlt : k < s.size := by omega
      have hlt2 : (k : Int) < n := by omega
      have j1 := i1.out k hlt
      have ma := fun w => hide (may_any kind k (gB s k) w (by omega))
      rw [GG.out k hkM] at ma
      have hk1 : k + 1 ≤ M := hkM
      clear hkM
      generalize gB s k = x at *
      go_wp2_with fail
      refine (ma _).out.mono ?_
      rintro e w' ⟨rfl, rfl⟩
      go_wp2_with fail
      go_round
      case rel => exact ⟨k + 1, hk1, by go_num⟩
      case measure => simp [intOf]; omega
    · obtain rfl : k = M := by omega
      have hge : ¬ (k : Int) < n := by omega
      have hge2 : (k : Int) < (s.size : Int) := by omega
      clear h4
      clear hkM GG
      go_wp2_with fail
      go_ret
      exact ⟨rfl, rfl⟩

set_option maxHeartbeats 4000000 in
set_option maxRecDepth 20000 in
theorem bg_ok (kind : Int) (s : ByteArray) (w : World) (n : Int) (M : Nat) (hm : s.size ≤ 200) (n1 : n ≤ 100)
    (h1 : M ≤ s.size) (h2 : (M : Int) ≤ n) (good : ∀ j : Nat, j < M → may kind j (gB s j) = true) (h3 : (s.size : Int) = n) (h4 : M = s.size) :
    Calls Tryd.prog 34 #[.int .i64 kind, .int .i64 n, .string s] w fun e w' => e = .returned (.int .i64 0) ∧ w = w' := by
  have i1 := hide (idx s)
  have GG := hide good
  clear good
  go_enter Tryd.func34, Tryd.ntmps34
  go_wp2_with fail
  go_loop [7] (fun i => ∃ k : Nat, k ≤ M ∧ i = .int .i64 k) (fun i => M - (intOf i).toNat)
  case atStart => exact ⟨0, Nat.zero_le _, rfl⟩
  case round =>
    obtain ⟨k, hk, rfl⟩ := hrel
    by_cases hkM : k < M
    · have hlt : k < s.size := by omega
      have hlt2 : (k : Int) < n := by omega
      have j1 := i1.out k hlt
      have ma := fun w => hide (may_any kind k (gB s k) w (by omega))
      rw [GG.out k hkM] at ma
      have hk1 : k + 1 ≤ M := hkM
      clear hkM
      generalize gB s k = x at *
      go_wp2_with fail
      refine (ma _).out.mono ?_
      rintro e w' ⟨rfl, rfl⟩
      go_wp2_with fail
      go_round
      case rel => exact ⟨k + 1, hk1, by go_num⟩
      case measure => simp [intOf]; omega
    · obtain rfl : k = M := by omega
      have hge : ¬ (k : Int) < (s.size : Int) := by omega
      clear h4
      clear hkM GG
      go_wp2_with fail
      go_ret
      exact ⟨rfl, rfl⟩


theorem bg_any (kind : Int) (s : ByteArray) (w : World) (n : Int) (hm : s.size ≤ 200) (n0 : 0 ≤ n) (n1 : n ≤ 100) :
    Calls Tryd.prog 34 #[.int .i64 kind, .int .i64 n, .string s] w fun e w' => e = .returned (.int .i64 (pre kind n n s).2) ∧ w = w' := by
  unfold pre
  cases hf : firstBad kind s (min s.size n.toNat) with
  | some J =>
    obtain ⟨h1, h2, h4⟩ := fb_some hf
    exact bg_bad kind s w n J hm n1 (by omega) (by omega) h4 (by omega) (by omega) h2
  | none =>
    have h4 := fb_none hf
    simp only [clE]
    by_cases a : (s.size : Int) < n
    · rw [if_pos a]
      exact bg_short kind s w n (min s.size n.toNat) hm n1 (by omega) (by omega) h4 a (by omega)
    · rw [if_neg a]
      by_cases b : n < (s.size : Int)
      · rw [if_pos b]
        exact bg_long kind s w n (min s.size n.toNat) hm n1 (by omega) (by omega) h4 b (by omega)
      · rw [if_neg b]
        exact bg_ok kind s w n (min s.size n.toNat) hm n1 (by omega) (by omega) h4 (by omega) (by omega)

/-- The check digit of an ISIN, 0 for none; its error. -/
def isE (s : ByteArray) : Int := (pre 0 11 11 s).2
def isV (s : ByteArray) : Int := if isE s = 0 then 48 + luhn (bl s) else 0
/-- The check digits of an LEI, none where there is an error. -/
def leE (s : ByteArray) : Int := (pre 3 18 18 s).2
def leV (s : ByteArray) : ByteArray := if leE s = 0 then dd (cd (bl s)) else ByteArray.empty
theorem isE_als {s : ByteArray} (h : isE s = 0) : s.size = 11 ∧ Als s := by
  obtain ⟨_, a, b, c⟩ := pre_ok (kind := 0) (lo := 11) (hi := 11) (by decide) h
  exact ⟨by omega, als0 c (by omega)⟩
theorem leE_als {s : ByteArray} (h : leE s = 0) : s.size = 18 ∧ Als s := by
  obtain ⟨_, a, b, c⟩ := pre_ok (kind := 3) (lo := 18) (hi := 18) (by decide) h
  exact ⟨by omega, als3 c⟩

theorem is_any (s : ByteArray) (w : World) (S : Shp w) (hm : s.size ≤ 200) : Calls Tryd.prog 16 #[.string s] w fun e w' => e = .returned (.tuple #[.int .u8 (isV s), .int .i64 (isE s)]) ∧ Below w.heap.size w w' := by
  have cb := fun w S => hide (cb0 s w S hm)
  unfold isV
  by_cases h : isE s = 0
  · rw [if_pos h, h]
    obtain ⟨hs, hA⟩ := isE_als h
    have lu := fun w => hide (luhn_any s w hA hm)
    rw [show (pre 0 11 11 s).2 = 0 from h] at cb
    clear h hA hs
    generalize 48 + luhn (bl s) = U at *
    go_enter Tryd.func16, Tryd.ntmps16
    go_wp2_with fail
    refine (cb _ S).out.mono ?_
    rintro e w1 ⟨rfl, hb⟩
    have B1 := hide hb
    clear hb
    go_wp2_with fail
    refine (lu _).out.mono ?_
    rintro e w2 ⟨rfl, hb⟩
    have B2 := hide (B1.out.trans (hb.mono B1.out.size))
    clear hb
    go_wp2_with fail
    go_ret2
    exact ⟨rfl, B2.out⟩
  · rw [if_neg h]
    have h' : ¬ (pre 0 11 11 s).2 = 0 := h
    unfold isE
    clear h
    generalize (pre 0 11 11 s).2 = E at *
    go_enter Tryd.func16, Tryd.ntmps16
    go_wp2_with fail
    refine (cb _ S).out.mono ?_
    rintro e w1 ⟨rfl, hb⟩
    have B1 := hide hb
    clear hb
    go_wp2_with fail
    go_ret2
    exact ⟨rfl, B1.out⟩
theorem ris_any (s : ByteArray) (w : World) (hm : s.size ≤ 200) : Calls Tryd.prog 17 #[.string s] w fun e w' => e = .returned (.tuple #[.int .u8 (isV s), .int .i64 (isE s)]) ∧ Below w.heap.size w w' := by
  have bg := fun w => hide (bg_any 0 s w 11 hm (by decide) (by decide))
  have B0 := hide (Below.refl w.heap.size w)
  unfold isV
  by_cases h : isE s = 0
  · rw [if_pos h, h]
    obtain ⟨hs, hA⟩ := isE_als h
    have lu := fun w => hide (rluhn_any s w hA hm)
    obtain ⟨u1, u2⟩ := luhn_bd (bl s)
    have e1 : IntKind.u8.wrap (48 + luhn (bl s)) = 48 + luhn (bl s) := by simp [IntKind.wrap, IntKind.bits, IntKind.signed]; omega
    rw [show (pre 0 11 11 s).2 = 0 from h] at bg
    clear h hA hs
    generalize luhn (bl s) = U at *
    go_enter Tryd.func17, Tryd.ntmps17
    go_wp2_with fail
    refine (bg _).out.mono ?_
    rintro e w1 ⟨rfl, rfl⟩
    go_wp2_with fail
    refine (lu _).out.mono ?_
    rintro e w2 ⟨rfl, hb⟩
    have B2 := hide hb
    clear hb
    go_wp2_with fail
    go_ret2
    exact ⟨rfl, B2.out⟩
  · rw [if_neg h]
    have h' : ¬ (pre 0 11 11 s).2 = 0 := h
    unfold isE
    clear h
    generalize (pre 0 11 11 s).2 = E at *
    go_enter Tryd.func17, Tryd.ntmps17
    go_wp2_with fail
    refine (bg _).out.mono ?_
    rintro e w1 ⟨rfl, rfl⟩
    go_wp2_with fail
    go_ret2
    exact ⟨rfl, B0.out⟩
theorem le_any (s : ByteArray) (w : World) (S : Shp w) (hm : s.size ≤ 200) : Calls Tryd.prog 18 #[.string s] w fun e w' => e = .returned (.tuple #[.string (leV s), .int .i64 (leE s)]) ∧ Below w.heap.size w w' := by
  have cb := fun w S => hide (cb3 s w S hm)
  unfold leV
  by_cases h : leE s = 0
  · rw [if_pos h, h]
    obtain ⟨hs, hA⟩ := leE_als h
    have lu := fun w => hide (rem_any s w hA hm)
    rw [show (pre 3 18 18 s).2 = 0 from h] at cb
    clear h hA hs
    generalize dd (cd (bl s)) = U at *
    go_enter Tryd.func18, Tryd.ntmps18
    go_wp2_with fail
    refine (cb _ S).out.mono ?_
    rintro e w1 ⟨rfl, hb⟩
    have B1 := hide hb
    clear hb
    go_wp2_with fail
    refine (lu _).out.mono ?_
    rintro e w2 ⟨rfl, hb⟩
    have B2 := hide (B1.out.trans (hb.mono B1.out.size))
    clear hb
    go_wp2_with fail
    go_ret2
    exact ⟨rfl, B2.out⟩
  · rw [if_neg h]
    have h' : ¬ (pre 3 18 18 s).2 = 0 := h
    unfold leE
    clear h
    generalize (pre 3 18 18 s).2 = E at *
    go_enter Tryd.func18, Tryd.ntmps18
    go_wp2_with fail
    refine (cb _ S).out.mono ?_
    rintro e w1 ⟨rfl, hb⟩
    have B1 := hide hb
    clear hb
    go_wp2_with fail
    go_ret2
    exact ⟨rfl, B1.out⟩
theorem rle_any (s : ByteArray) (w : World) (hm : s.size ≤ 150) : Calls Tryd.prog 19 #[.string s] w fun e w' => e = .returned (.tuple #[.string (leV s), .int .i64 (leE s)]) ∧ Below w.heap.size w w' := by
  have bg := fun w => hide (bg_any 3 s w 18 (by omega) (by decide) (by decide))
  have B0 := hide (Below.refl w.heap.size w)
  unfold leV
  by_cases h : leE s = 0
  · rw [if_pos h, h]
    obtain ⟨hs, hA⟩ := leE_als h
    have hA2 : Als (s ++ ⟨#[48, 48]⟩) := als_00 hA
    have hz2 : (s ++ (⟨#[48, 48]⟩ : ByteArray)).size = 20 := by rw [ByteArray.size_append, hs]; rfl
    have mo := fun W => hide (mod_any (s ++ ⟨#[48, 48]⟩) W hA2 (by omega))
    rw [bl_00, moD_00 hA.mem] at mo
    have A1 : ∀ W, (Op.stringOp .add s ⟨#[48, 48]⟩).run Tryd.prog W = .ok (.string (s ++ ⟨#[48, 48]⟩)) W := fun W => run_string_add_sum W _ _ (by rw [hs]; decide)
    have hcd := cd_bd (bl s)
    have hcd2 : cd (bl s) = 98 - moA 0 (bl s) * 100 % 97 := rfl
    have pa := fun W => hide (pair_any (cd (bl s)) W (by omega) (by omega))
    rw [hcd2] at pa ⊢
    rw [show (pre 3 18 18 s).2 = 0 from h] at bg
    obtain ⟨r1, r2⟩ : 0 ≤ moA 0 (bl s) * 100 % 97 ∧ moA 0 (bl s) * 100 % 97 ≤ 96 := by omega
    clear h hA hs hA2 hz2 hcd hcd2
    generalize s ++ ⟨#[48, 48]⟩ = S2 at *
    generalize moA 0 (bl s) * 100 % 97 = R at *
    generalize dd (98 - R) = D at *
    go_enter Tryd.func19, Tryd.ntmps19
    go_wp2_with fail
    refine (bg _).out.mono ?_
    rintro e w1 ⟨rfl, rfl⟩
    go_wp2_with fail
    refine (mo _).out.mono ?_
    rintro e w2 ⟨rfl, hb⟩
    have B2 := hide hb
    clear hb
    go_wp2_with fail
    refine (pa _).out.mono ?_
    rintro e w3 ⟨rfl, hb⟩
    have B3 := hide (B2.out.trans (hb.mono B2.out.size))
    clear hb
    go_wp2_with fail
    go_ret2
    exact ⟨rfl, B3.out⟩
  · rw [if_neg h]
    have h' : ¬ (pre 3 18 18 s).2 = 0 := h
    unfold leE
    clear h
    generalize (pre 3 18 18 s).2 = E at *
    go_enter Tryd.func19, Tryd.ntmps19
    go_wp2_with fail
    refine (bg _).out.mono ?_
    rintro e w1 ⟨rfl, rfl⟩
    go_wp2_with fail
    go_ret2
    exact ⟨rfl, B0.out⟩

theorem k1 : ckR 0 ⟨#[85, 83, 48, 51, 55, 56, 51, 51, 49, 48, 48, 53]⟩ = (0, 0) := by kernel_rfl
theorem k2 : ckR 0 ⟨#[85, 83, 48, 51, 55, 56, 51, 51, 49, 48, 48, 52]⟩ = (11, 18) := by kernel_rfl
theorem k3 : leV ⟨#[48, 48, 48, 48, 48, 48, 48, 48, 48, 48, 48, 48, 48, 48, 48, 48, 48, 65]⟩ = ⟨#[54, 56]⟩ := by kernel_rfl
theorem k3e : leE ⟨#[48, 48, 48, 48, 48, 48, 48, 48, 48, 48, 48, 48, 48, 48, 48, 48, 48, 65]⟩ = 0 := by kernel_rfl
theorem k4 : okI 3 ⟨#[48, 48, 48, 48, 48, 48, 48, 48, 48, 48, 48, 48, 48, 48, 48, 48, 48, 48, 57, 56]⟩ = true := by kernel_rfl
theorem k5 : okI 1 ⟨#[67, 66]⟩ = false := by kernel_rfl
set_option maxHeartbeats 4000000 in
set_option maxRecDepth 20000 in
theorem known_any (w : World) (S : Shp w) : Calls Tryd.prog 14 #[] w fun e w' => e = .returned (.bool true) ∧ Below w.heap.size w w' := by
  have c1 := fun w S => hide (ck_any 0 ⟨#[85, 83, 48, 51, 55, 56, 51, 51, 49, 48, 48, 53]⟩ w S (by decide))
  have c2 := fun w S => hide (ck_any 0 ⟨#[85, 83, 48, 51, 55, 56, 51, 51, 49, 48, 48, 52]⟩ w S (by decide))
  have c3 := fun w S => hide (le_any ⟨#[48, 48, 48, 48, 48, 48, 48, 48, 48, 48, 48, 48, 48, 48, 48, 48, 48, 65]⟩ w S (by decide))
  have c4 := fun w S => hide (ok_any 3 ⟨#[48, 48, 48, 48, 48, 48, 48, 48, 48, 48, 48, 48, 48, 48, 48, 48, 48, 48, 57, 56]⟩ w S (by decide))
  have c5 := fun w S => hide (ok_any 1 ⟨#[67, 66]⟩ w S (by decide))
  rw [k1] at c1
  rw [k2] at c2
  rw [k3, k3e] at c3
  rw [k4] at c4
  rw [k5] at c5
  have SS := hide S
  have B0 := hide (Below.refl w.heap.size w)
  clear S
  go_enter Tryd.func14, Tryd.ntmps14
  go_wp2_with fail
  refine (c1 _ SS.out).out.mono ?_
  rintro e w1 ⟨rfl, hb⟩
  have B1 := hide (B0.out.trans (hb.mono B0.out.size))
  clear hb
  go_wp2_with fail
  refine (c2 _ (SS.out.keep B1.out)).out.mono ?_
  rintro e w2 ⟨rfl, hb⟩
  have B2 := hide (B1.out.trans (hb.mono B1.out.size))
  clear hb
  go_wp2_with fail
  refine (c3 _ (SS.out.keep B2.out)).out.mono ?_
  rintro e w3 ⟨rfl, hb⟩
  have B3 := hide (B2.out.trans (hb.mono B2.out.size))
  clear hb
  go_wp2_with fail
  refine (c4 _ (SS.out.keep B3.out)).out.mono ?_
  rintro e w4 ⟨rfl, hb⟩
  have B4 := hide (B3.out.trans (hb.mono B3.out.size))
  clear hb
  go_wp2_with fail
  refine (c5 _ (SS.out.keep B4.out)).out.mono ?_
  rintro e w5 ⟨rfl, hb⟩
  have B5 := hide (B4.out.trans (hb.mono B4.out.size))
  clear hb
  go_wp2_with fail
  go_ret
  exact ⟨rfl, B5.out⟩
end Go.Proofs.YtjcldaofgbcpaaaDoor
