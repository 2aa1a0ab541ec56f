/-
  Contracts of date.newYear, FromCivil and Weekday at this translation.
-/
import Derived.Test.YtahfjhmgmpbmkacDoorDa1
namespace Go.Proofs.YtahfjhmgmpbmkacDoor
open Go.RowKit
set_option linter.unusedVariables false

theorem quiet_left {P : Program} {f : FuncId} {args : Array Value} {w : World} {n : Nat} {v : Value}
    (h : Calls P f args (w.drewN n) fun e w' => e = .returned v ∧ w.drewN n = w') : Calls P f args (w.drewN n) fun e w'' => e = .returned v ∧ ∃ m, w'' = w.drewN m :=
  h.mono fun _ _ ⟨he, hm⟩ => ⟨he, n, hm.symm⟩
theorem quiet_add_left {P : Program} {f : FuncId} {args : Array Value} {w : World} {a n : Nat} {v : Value}
    (h : Calls P f args (w.drewN (a + n)) fun e w' => e = .returned v ∧ w.drewN (a + n) = w') :
    Calls P f args (w.drewN (a + n)) fun e w'' => e = .returned v ∧ ∃ m, w'' = w.drewN (a + m) :=
  h.mono fun _ _ ⟨he, hm⟩ => ⟨he, n, hm.symm⟩
theorem Tabs.drewN {w : World} (h : Tabs w) (n : Nat) : Tabs (w.drewN n) := ⟨h.months, h.pows, h.size⟩

def lb (y : Int) : Int := (y - 1) / 4 - (y - 1) / 100 + (y - 1) / 400
/-- The number of the first day of a year. -/
def NY (y : Int) : Int := (y - 2000) * 365 + lb y - lb 2000
theorem lb_any (y : Int) (w : World) (h1 : 1 ≤ y) (h2 : y ≤ 3000) : Calls Tryd.prog 57 #[.int .i64 y] w fun e w' => e = .returned (.int .i64 (lb y)) ∧ w = w' := by
  go_enter Tryd.func57, Tryd.ntmps57
  go_wp2
  go_ret
  exact ⟨rfl, rfl⟩
theorem lb_bd (y : Int) (h1 : 1 ≤ y) (h2 : y ≤ 3000) : 0 ≤ lb y ∧ lb y ≤ 1000 := by unfold lb; omega
theorem ny_any (y : Int) (w : World) (h1 : 1 ≤ y) (h2 : y ≤ 3000) : Calls Tryd.prog 45 #[.int .i64 y] w fun e w' => e = .returned (.int .i64 (NY y)) ∧ w = w' := by
  obtain ⟨b1, b2⟩ := lb_bd y h1 h2
  obtain ⟨b3, b4⟩ := lb_bd 2000 (by decide) (by decide)
  have F : Hid (Ending.returned (.int .i64 ((y - 2000) * 365 + lb y - lb 2000)) = Ending.returned (.int .i64 (NY y))) := hide rfl
  go_enter Tryd.func45, Tryd.ntmps45
  go_wp2_with (first | (go_at_call_of 57 (Value.int .i64 y); refine (lb_any _ _ h1 h2).mono ?_; rintro e w' ⟨rfl, rfl⟩) | (go_at_call 57; refine (lb_any _ _ (by decide) (by decide)).mono ?_; rintro e w' ⟨rfl, rfl⟩))
  go_ret
  exact ⟨F.out, rfl⟩

theorem leap_01 (y : Int) : NY (y + 1) = NY y + 365 + (if leapB y = true then 1 else 0) := by
  have h : leapB y = true ↔ ((y % 4 = 0 ∧ y % 100 ≠ 0) ∨ y % 400 = 0) := by unfold leapB; exact decide_eq_true_iff
  unfold NY lb
  by_cases hl : leapB y = true
  · rw [if_pos hl]; rw [h] at hl; omega
  · rw [if_neg hl]; rw [h] at hl; omega

/-- The days of the first k months. -/
def cum (y : Int) : Nat → Int
  | 0 => 0
  | k + 1 => cum y k + dim y ((k : Int) + 1)
theorem dim_bd (y m : Int) : 0 ≤ dim y m ∧ dim y m ≤ 31 := by
  unfold dim
  split
  · omega
  · split
    · omega
    · next h _ =>
      obtain ⟨k, hk⟩ : ∃ k : Nat, (m - 1).toNat = k ∧ k < 12 := ⟨_, rfl, by omega⟩
      rw [hk.1]
      have h12 : k = 0 ∨ k = 1 ∨ k = 2 ∨ k = 3 ∨ k = 4 ∨ k = 5 ∨ k = 6 ∨ k = 7 ∨ k = 8 ∨ k = 9 ∨ k = 10 ∨ k = 11 := by omega
      rcases h12 with h | h | h | h | h | h | h | h | h | h | h | h <;> rw [h] <;> decide
theorem cum_bd (y : Int) (k : Nat) : 0 ≤ cum y k ∧ cum y k ≤ 31 * k := by
  induction k with
  | zero => simp [cum]
  | succ k ih => have := dim_bd y ((k : Int) + 1); simp only [cum]; omega
theorem ny_bd (y : Int) (h1 : 1999 ≤ y) (h2 : y ≤ 2201) : -400 ≤ NY y ∧ NY y ≤ 74000 := by unfold NY lb; omega

/-- What FromCivil answers. -/
def fcE (y m d : Int) : Int := if 1 ≤ d ∧ d ≤ dim y m then 0 else 28
/-- The day number of a date. -/
def num (y m d : Int) : Int := NY y + d - 1 + cum y (m - 1).toNat
def fcV (y m d : Int) : Int := if 1 ≤ d ∧ d ≤ dim y m then num y m d else 0
theorem dim_pos {y m : Int} (h : 0 < dim y m) : 2000 ≤ y ∧ y ≤ 2199 ∧ 1 ≤ m ∧ m ≤ 12 := by
  unfold dim at h
  split at h
  · omega
  · omega

theorem fc_lo (y m d : Int) (w : World) (T : Tabs w) (h : d < 1) : Calls Tryd.prog 20 #[.agg #[.int .i64 y, .int .i64 m, .int .i64 d]] w fun e w' => e = .returned (.tuple #[.int .i64 0, .int .i64 28]) ∧ Below w.heap.size w w' := by
  go_enter Tryd.func20, Tryd.ntmps20
  go_wp2_with fail
  go_quiet (fail)
  go_wp2_with fail
  go_ret2
  exact ⟨rfl, below_drewN ((Below.refl _ _).alloc (Nat.le_refl _) _) _⟩
theorem fc_hi (y m d : Int) (w : World) (T : Tabs w) (h : 1 ≤ d) (h2 : dim y m < d) : Calls Tryd.prog 20 #[.agg #[.int .i64 y, .int .i64 m, .int .i64 d]] w fun e w' => e = .returned (.tuple #[.int .i64 0, .int .i64 28]) ∧ Below w.heap.size w w' := by
  have hd : decide (d < 1) = false := by simp; omega
  have T1 := fun o => hide (T.keep ((Below.refl _ _).alloc (Nat.le_refl _) o))
  go_enter Tryd.func20, Tryd.ntmps20
  go_wp2_with fail
  go_quiet ((go_at_call 26; exact quiet_left (dim_any _ _ _ ((T1 _).out.drewN _))))
  go_wp2_with fail
  go_ret2
  exact ⟨rfl, below_drewN ((Below.refl _ _).alloc (Nat.le_refl _) _) _⟩

theorem fc_in (y m d : Int) (w : World) (T : Tabs w) (h : 1 ≤ d) (h2 : d ≤ dim y m) : Calls Tryd.prog 20 #[.agg #[.int .i64 y, .int .i64 m, .int .i64 d]] w fun e w' => e = .returned (.tuple #[.int .i64 (num y m d), .int .i64 0]) ∧ Below w.heap.size w w' := by
  obtain ⟨y1, y2, m1, m2⟩ := dim_pos (show 0 < dim y m by omega)
  obtain ⟨n1, n2⟩ := ny_bd y (by omega) (by omega)
  have d3 := (dim_bd y m).2
  have hd : decide (d < 1) = false := by simp; omega
  have hw : IntKind.i64.wrap (NY y + d) = NY y + d := IntWalk.i64_in _ (by omega)
  have hw2 : IntKind.i64.wrap (NY y + d - 1) = NY y + d - 1 := IntWalk.i64_in _ (by omega)
  have T1 := fun o => hide (T.keep ((Below.refl _ _).alloc (Nat.le_refl _) o))
  go_enter Tryd.func20, Tryd.ntmps20
  go_wp2_with fail
  go_quiet ((go_at_call 26; exact quiet_left (dim_any _ _ _ ((T1 _).out.drewN _))))
  go_wp2_with fail
  go_quiet ((go_at_call 45; exact quiet_add_left (ny_any _ _ (by omega) (by omega))))
  go_wp2_with fail
  go_loopw [4, 5] (fun s4 s5 wr => ∃ k : Nat, (k : Int) + 1 ≤ m ∧ s5 = .int .i64 ((k : Int) + 1) ∧ (∃ n, wr = (w.alloc (.cells #[.int .i64 y, .int .i64 m, .int .i64 d] 26)).drewN n) ∧ ∃ v : Int, s4 = .int .i64 v ∧ Hid (v = NY y + d - 1 + cum y k) ∧ -400 ≤ v ∧ v ≤ 75000) (fun _ s5 _ => (m - intOf s5).toNat)
  case atStart => exact ⟨0, by omega, rfl, ⟨_, World.drewN_drewN ..⟩, _, rfl, hide (by simp [cum]), by omega, by omega⟩
  case round =>
    obtain ⟨k, hk, rfl, ⟨n, rfl⟩, v, rfl, HV, v1, v2⟩ := hrel
    by_cases hlt : (k : Int) + 1 < m
    · have db := dim_bd y ((k : Int) + 1)
      obtain ⟨db1, db2⟩ := db
      have cb := cum_bd y (k + 1)
      have hv := HV.out
      have e1 : cum y (k + 1) = cum y k + dim y ((k : Int) + 1) := rfl
      have HN : Hid (v + dim y ((k : Int) + 1) = NY y + d - 1 + cum y (k + 1)) := hide (by rw [e1, hv]; omega)
      have b2 : v + dim y ((k : Int) + 1) ≤ 75000 := by rw [HN.out]; omega
      clear hv cb e1
      go_wp2_with (go_at_call 26; refine (dim_any _ _ _ ((T1 _).out.drewN _)).mono ?_; rintro e w' ⟨rfl, rfl⟩)
      go_roundw
      case rel => exact ⟨k + 1, by omega, by go_num, ⟨_, rfl⟩, _, rfl, HN, by omega, b2⟩
      case measure => simp [intOf]; omega
    · have e : (m - 1).toNat = k := by omega
      have F : Hid (Ending.returned (.tuple #[.int .i64 v, .int .i64 0]) = Ending.returned (.tuple #[.int .i64 (num y m d), .int .i64 0])) := hide (ret_ii (by unfold num; rw [HV.out, e]) rfl)
      clear e
      go_wp2_with fail
      go_ret2
      exact ⟨F.out, below_drewN ((Below.refl _ _).alloc (Nat.le_refl _) _) _⟩

/-- date.FromCivil. -/
theorem fc_any (y m d : Int) (w : World) (T : Tabs w) : Calls Tryd.prog 20 #[.agg #[.int .i64 y, .int .i64 m, .int .i64 d]] w fun e w' => e = .returned (.tuple #[.int .i64 (fcV y m d), .int .i64 (fcE y m d)]) ∧ Below w.heap.size w w' := by
  unfold fcV fcE
  by_cases h1 : 1 ≤ d
  · by_cases h2 : d ≤ dim y m
    · rw [if_pos ⟨h1, h2⟩, if_pos ⟨h1, h2⟩]; exact fc_in y m d w T h1 h2
    · rw [if_neg (fun h => h2 h.2), if_neg (fun h => h2 h.2)]; exact fc_hi y m d w T h1 (by omega)
  · rw [if_neg (fun h => h1 h.1), if_neg (fun h => h1 h.1)]; exact fc_lo y m d w T (by omega)

theorem wkd_any (n : Int) (w : World) : Calls Tryd.prog 18 #[.int .i64 n] w fun e w' => e = .returned (.int .i64 (wkd n)) ∧ w = w' := by
  have v := fun w => hide (valid_any n w)
  unfold wkd
  by_cases h : 0 ≤ n ∧ n ≤ 73048
  · have hb := dayB_yes h.1 h.2
    rw [if_pos h]
    obtain ⟨h1, h2⟩ := h
    go_enter Tryd.func18, Tryd.ntmps18
    go_wp2_with fail
    refine (v _).out.mono ?_
    rintro e w' ⟨rfl, rfl⟩
    go_wp2_with fail
    go_ret
    exact ⟨rfl, rfl⟩
  · have hb := dayB_no (n := n) (by omega)
    rw [if_neg h]
    clear h
    go_enter Tryd.func18, Tryd.ntmps18
    go_wp2_with fail
    refine (v _).out.mono ?_
    rintro e w' ⟨rfl, rfl⟩
    go_wp2_with fail
    go_ret
    exact ⟨rfl, rfl⟩
end Go.Proofs.YtahfjhmgmpbmkacDoor
