/-
  Contracts of cmp.Compare at int, cmp.Or, and the closure that shares sorts by, at this translation.
-/
import Derived.Test.YtmdgjgeblplhpaaDoorFr11
import Derived.Deep.RegionHeld3
namespace Go.Proofs.YtmdgjgeblplhpaaDoor
open Go.RowKit
set_option linter.unusedVariables false

/-- -1, 0 or 1. -/
def cmpI (x y : Int) : Int := if x < y then -1 else if y < x then 1 else 0
theorem nanI_any (x : Int) (w : World) : Calls Tryd.prog 69 #[.int .i64 x] w fun e w' => e = .returned (.bool false) ∧ w = w' := by
  go_enter Tryd.func69, Tryd.ntmps69
  go_wp2_with fail
  go_ret
  exact ⟨by simp, rfl⟩
theorem cmpI_any (x y : Int) (w : World) : Calls Tryd.prog 58 #[.int .i64 x, .int .i64 y] w fun e w' => e = .returned (.int .i64 (cmpI x y)) ∧ w = w' := by
  have na := fun x w => hide (nanI_any x w)
  unfold cmpI
  by_cases h : x < y
  · rw [if_pos h]
    go_enter Tryd.func58, Tryd.ntmps58
    go_wp2_with fail
    refine (na _ _).out.mono ?_
    rintro e w' ⟨rfl, rfl⟩
    go_wp2_with fail
    refine (na _ _).out.mono ?_
    rintro e w' ⟨rfl, rfl⟩
    go_wp2_with fail
    go_ret
    exact ⟨rfl, rfl⟩
  · rw [if_neg h]
    by_cases h2 : y < x
    · rw [if_pos h2]
      go_enter Tryd.func58, Tryd.ntmps58
      go_wp2_with fail
      refine (na _ _).out.mono ?_
      rintro e w' ⟨rfl, rfl⟩
      go_wp2_with fail
      refine (na _ _).out.mono ?_
      rintro e w' ⟨rfl, rfl⟩
      go_wp2_with fail
      go_ret
      exact ⟨rfl, rfl⟩
    · rw [if_neg h2]
      go_enter Tryd.func58, Tryd.ntmps58
      go_wp2_with fail
      refine (na _ _).out.mono ?_
      rintro e w' ⟨rfl, rfl⟩
      go_wp2_with fail
      refine (na _ _).out.mono ?_
      rintro e w' ⟨rfl, rfl⟩
      go_wp2_with fail
      go_ret
      exact ⟨rfl, rfl⟩
theorem or_any (g : Nat) (p q : Int) (w : World) (c0 : w.cell? ⟨g, 0, none⟩ = some (.int .i64 p)) (c1 : w.cell? ⟨g, 1, none⟩ = some (.int .i64 q)) :
    Calls Tryd.prog 57 #[.slice (some ⟨g, 0, none⟩) 2 2] w fun e w' => e = .returned (.int .i64 (if p = 0 then q else p)) ∧ w = w' := by
  by_cases hp : p = 0
  · subst hp
    rw [if_pos rfl]
    by_cases hq : q = 0
    · subst hq
      go_enter Tryd.func57, Tryd.ntmps57
      go_wp2_with fail
      go_loop [8] (fun i => i = .int .i64 0 ∨ i = .int .i64 1 ∨ i = .int .i64 2) (fun i => 2 - (intOf i).toNat)
      case atStart => exact .inl rfl
      case round =>
        rcases hrel with rfl | rfl | rfl
        · go_wp2_with fail
          go_round
          case rel => exact .inr (.inl rfl)
          case measure => simp [intOf]
        · go_wp2_with fail
          go_round
          case rel => exact .inr (.inr rfl)
          case measure => simp [intOf]
        · go_wp2_with fail
          go_ret
          exact ⟨rfl, rfl⟩
    · have hq2 : (q != 0) = true := by simpa using hq
      go_enter Tryd.func57, Tryd.ntmps57
      go_wp2_with fail
      go_loop [8] (fun i => i = .int .i64 0 ∨ i = .int .i64 1) (fun i => 2 - (intOf i).toNat)
      case atStart => exact .inl rfl
      case round =>
        rcases hrel with rfl | rfl
        · go_wp2_with fail
          go_round
          case rel => exact .inr rfl
          case measure => simp [intOf]
        · go_wp2_with fail
          go_ret
          exact ⟨rfl, rfl⟩
  · rw [if_neg hp]
    have hp2 : (p != 0) = true := by simpa using hp
    go_enter Tryd.func57, Tryd.ntmps57
    go_wp2_with fail
    go_loop [8] (fun i => i = .int .i64 0) (fun i => 2 - (intOf i).toNat)
    case atStart => exact rfl
    case round =>
      obtain rfl := hrel
      go_wp2_with fail
      go_ret
      exact ⟨rfl, rfl⟩

theorem cmpI_cmpV (a b : Int) : cmpI a b = cmpV a b := rfl
/-- What the closure answers: larger remainders first, then smaller indices. -/
def cfV (ri rj i j : Int) : Int := if cmpV rj ri = 0 then cmpI i j else cmpV rj ri

set_option maxHeartbeats 4000000 in
set_option maxRecDepth 20000 in
theorem clo_any (cb rb n : Nat) (i j ri rj : Int) (w : World) (i0 : 0 ≤ i) (i1 : i < n) (j0 : 0 ≤ j) (j1 : j < n) (hn : n ≤ 4096) (lc : cb < w.heap.size) (lr : rb < w.heap.size)
    (hs : w.cell? ⟨cb, 0, none⟩ = some (.slice (some ⟨rb, 0, none⟩) n n)) (hi : w.cell? ⟨rb, i.toNat, none⟩ = some (.int .i64 ri)) (hj : w.cell? ⟨rb, j.toNat, none⟩ = some (.int .i64 rj)) :
    Calls Tryd.prog 56 #[.int .i64 i, .int .i64 j, .pointer (some ⟨cb, 0, none⟩)] w fun e w' => e = .returned (.int .i64 (cfV ri rj i j)) ∧ w' = w.drew.alloc (.cells #[.int .i64 (cmpV rj ri), .int .i64 (cmpI i j)] 3) := by
  have HC : Hid (cfV ri rj i j = if cmpV rj ri = 0 then cmpI i j else cmpV rj ri) := hide rfl
  obtain ⟨V, hV⟩ : ∃ V, V = cfV ri rj i j := ⟨_, rfl⟩
  rw [← hV] at HC ⊢
  clear hV
  have c1 := fun w => hide (cmp_any rj ri w)
  have c2 := fun w => hide (cmpI_any i j w)
  generalize hp : cmpV rj ri = p at *
  generalize hq : cmpI i j = q at *
  clear hp hq
  have oc : ∀ (g : Nat) (w : World), w.cell? ⟨g, 0, none⟩ = some (.int .i64 p) → w.cell? ⟨g, 1, none⟩ = some (.int .i64 q) → Calls Tryd.prog 57 #[.slice (some ⟨g, 0, none⟩) 2 2] w fun e w' => e = .returned (.int .i64 V) ∧ w = w' := fun g w x y => by
    have := or_any g p q w x y
    rwa [← HC.out] at this
  clear HC
  have n0 : (w.alloc (.cells #[.int .i64 p, .int .i64 q] 3)).cell? ⟨w.heap.size, 0, none⟩ = some (.int .i64 p) := by simp [go_sem]
  have n1 : (w.alloc (.cells #[.int .i64 p, .int .i64 q] 3)).cell? ⟨w.heap.size, 1, none⟩ = some (.int .i64 q) := by simp [go_sem]
  have ha : ∀ o, (w.alloc o).cell? ⟨cb, 0, none⟩ = some (.slice (some ⟨rb, 0, none⟩) n n) := fun o => (((Below.refl w.heap.size w).alloc (Nat.le_refl _) o).cell (p := ⟨cb, 0, none⟩) lc).trans hs
  have hb : ∀ o, (w.alloc o).cell? ⟨rb, i.toNat, none⟩ = some (.int .i64 ri) := fun o => (((Below.refl w.heap.size w).alloc (Nat.le_refl _) o).cell (p := ⟨rb, i.toNat, none⟩) lr).trans hi
  have hc : ∀ o, (w.alloc o).cell? ⟨rb, j.toNat, none⟩ = some (.int .i64 rj) := fun o => (((Below.refl w.heap.size w).alloc (Nat.le_refl _) o).cell (p := ⟨rb, j.toNat, none⟩) lr).trans hj
  have hs' : w.drew.cell? ⟨cb, 0, none⟩ = some (.slice (some ⟨rb, 0, none⟩) n n) := hs
  have hi' : w.drew.cell? ⟨rb, i.toNat, none⟩ = some (.int .i64 ri) := hi
  have hj' : w.drew.cell? ⟨rb, j.toNat, none⟩ = some (.int .i64 rj) := hj
  go_enter Tryd.func56, Tryd.ntmps56
  go_wp2_with fail
  go_region_held3 (fun w' => w'.cell? ⟨cb, 0, none⟩ = some (.slice (some ⟨rb, 0, none⟩) n n) ∧ w'.cell? ⟨rb, i.toNat, none⟩ = some (.int .i64 ri) ∧ w'.cell? ⟨rb, j.toNat, none⟩ = some (.int .i64 rj)) (first | exact ⟨hs', hi', hj'⟩ | exact ⟨ha _, hb _, hc _⟩) (first | (go_at_call 38; (with_reducible refine (c1 _).out.mono ?_); rintro e w' ⟨rfl, rfl⟩) | (go_at_call 58; (with_reducible refine (c2 _).out.mono ?_); rintro e w' ⟨rfl, rfl⟩) | (go_at_call 57; refine (oc _ _ (by simp [go_sem, n0]) (by simp [go_sem, n1])).mono ?_; rintro e w' ⟨rfl, rfl⟩))
  all_goals go_wp2_with fail
  all_goals go_ret
  all_goals exact ⟨rfl, rfl⟩
end Go.Proofs.YtmdgjgeblplhpaaDoor
