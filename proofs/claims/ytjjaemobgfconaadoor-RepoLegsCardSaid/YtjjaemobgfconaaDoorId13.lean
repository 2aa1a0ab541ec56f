/-
  Check, for every kind and string; the check digits; Valid; the example of the chapter.
-/
import Derived.Test.YtjjaemobgfconaaDoorId12
namespace Go.Proofs.YtjjaemobgfconaaDoor
open Go.RowKit
set_option linter.unusedVariables false

theorem lo0 : loK 0 = 12 := by decide
theorem lo1 : loK 1 = 4 := by decide
theorem lo2 : loK 2 = 1 := by decide
theorem lo3 : loK 3 = 20 := by decide
theorem hi0 : hiK 0 = 12 := by decide
theorem hi1 : hiK 1 = 8 := by decide
theorem hi2 : hiK 2 = 16 := by decide
theorem hi3 : hiK 3 = 20 := by decide

theorem ck_any (kind : Int) (s : ByteArray) (w : World) (S : Shp w) (hm : s.size ≤ 9223372036854775807) :
    Calls Tryd.prog 51 #[.int .i64 kind, .string s] w fun e w' => e = .returned (.tuple #[.int .i64 (ckR kind s).1, .int .i64 (ckR kind s).2]) ∧ Below w.heap.size w w' := by
  have hm' : s.size ≤ maxLen := by unfold maxLen; omega
  unfold ckR
  by_cases hk : kind < 0 ∨ 3 < kind
  · rw [if_pos hk]; exact chk_out kind s w hk
  · rw [if_neg hk]
    have hk4 : kind = 0 ∨ kind = 1 ∨ kind = 2 ∨ kind = 3 := by omega
    rcases hk4 with rfl | rfl | rfl | rfl
    · rw [lo0, hi0]
      by_cases h : (pre 0 12 12 s).2 ≠ 0
      · rw [if_pos h]; exact chk_e0 s w S hm' h
      · rw [if_neg h]
        have h' : (pre 0 12 12 s).2 = 0 := Classical.byContradiction h
        obtain ⟨q1, q2, q3, q4⟩ := pre_ok (by decide) h'
        have hs : s.size = 12 := by omega
        by_cases hq : gB s 11 = 48 + luhn (bl (s.extract 0 11))
        · rw [if_neg (fun q => q.2 hq), if_neg (fun q => absurd q.1 (by decide))]
          exact chk_k0 s w S hm' h' q1 hs (al0 q4 11 (by omega) (by omega)) hq
        · rw [if_pos ⟨rfl, hq⟩]
          exact chk_x0 s w S hm' h' q1 hs (al0 q4 11 (by omega) (by omega)) hq
    · rw [lo1, hi1]
      by_cases h : (pre 1 4 8 s).2 ≠ 0
      · rw [if_pos h]; exact chk_e1 s w S hm' h
      · rw [if_neg h]
        have h' : (pre 1 4 8 s).2 = 0 := Classical.byContradiction h
        obtain ⟨q1, q2, q3, q4⟩ := pre_ok (by decide) h'
        rw [if_neg (fun q => absurd q.1 (by decide)), if_neg (fun q => absurd q.1 (by decide))]
        exact chk_k1 s w S hm' h' q1 q3
    · rw [lo2, hi2]
      by_cases h : (pre 2 1 16 s).2 ≠ 0
      · rw [if_pos h]; exact chk_e2 s w S hm' h
      · rw [if_neg h]
        have h' : (pre 2 1 16 s).2 = 0 := Classical.byContradiction h
        obtain ⟨q1, q2, q3, q4⟩ := pre_ok (by decide) h'
        rw [if_neg (fun q => absurd q.1 (by decide)), if_neg (fun q => absurd q.1 (by decide))]
        exact chk_k2 s w S hm' h' q1 q3
    · rw [lo3, hi3]
      by_cases h : (pre 3 20 20 s).2 ≠ 0
      · rw [if_pos h]; exact chk_e3 s w S hm' h
      · rw [if_neg h]
        have h' : (pre 3 20 20 s).2 = 0 := Classical.byContradiction h
        obtain ⟨q1, q2, q3, q4⟩ := pre_ok (by decide) h'
        have hs : s.size = 20 := by omega
        rw [if_neg (fun q => absurd q.1 (by decide))]
        by_cases hq : tailOff s
        · rw [if_pos ⟨rfl, hq⟩]
          exact chk_x3 s w S hm' h' q1 hs (al3 q4 18 (by omega)) hq
        · rw [if_neg (fun q => hq q.2)]
          exact chk_k3 s w S hm' h' q1 hs (al3 q4 18 (by omega)) hq

theorem rchk_e (kind : Int) (s : ByteArray) (w : World) (lo hi : Int) (k0 : 0 ≤ kind) (k3 : kind ≤ 3) (hlo : loK kind = lo) (hhi : hiK kind = hi) (hm : s.size ≤ 9223372036854775807) (hi0 : 0 ≤ hi) (hi1 : hi ≤ 100) (h : (pre kind lo hi s).2 ≠ 0) :
    Calls Tryd.prog 45 #[.int .i64 kind, .string s] w fun e w' => e = .returned (.tuple #[.int .i64 (pre kind lo hi s).1, .int .i64 (pre kind lo hi s).2]) ∧ Below w.heap.size w w' := by
  unfold pre at *
  cases hf : firstBad kind s (min s.size hi.toNat) with
  | some J =>
    obtain ⟨h1, h2, h4⟩ := fb_some hf
    exact rchk_bad kind s w lo hi J k0 k3 hlo hhi hm hi1 (by omega) (by omega) h4 (by omega) (by omega) h2
  | none =>
    have h4 := fb_none hf
    rw [hf] at h
    simp only [clE, clV] at *
    by_cases a : (s.size : Int) < lo
    · rw [if_pos a, if_pos a]
      by_cases b : hi < (s.size : Int)
      · exact rchk_short2 kind s w lo hi (min s.size hi.toNat) k0 k3 hlo hhi hm hi1 (by omega) (by omega) h4 a (by omega) b
      · exact rchk_short1 kind s w lo hi (min s.size hi.toNat) k0 k3 hlo hhi hm hi1 (by omega) (by omega) h4 a (by omega)
    · rw [if_neg a, if_neg a]
      rw [if_neg a] at h
      by_cases b : hi < (s.size : Int)
      · rw [if_pos b, if_pos b]
        exact rchk_long kind s w lo hi (min s.size hi.toNat) k0 k3 hlo hhi hm hi1 (by omega) (by omega) h4 (by omega) (by omega) b
      · rw [if_neg b] at h
        exact absurd rfl h

theorem rck_any (kind : Int) (s : ByteArray) (w : World) (hm : s.size ≤ 9223372036854775807) :
    Calls Tryd.prog 45 #[.int .i64 kind, .string s] w fun e w' => e = .returned (.tuple #[.int .i64 (ckR kind s).1, .int .i64 (ckR kind s).2]) ∧ Below w.heap.size w w' := by
  unfold ckR
  by_cases hk : kind < 0 ∨ 3 < kind
  · rw [if_pos hk]; exact rchk_out kind s w hk
  · rw [if_neg hk]
    have hk4 : kind = 0 ∨ kind = 1 ∨ kind = 2 ∨ kind = 3 := by omega
    rcases hk4 with rfl | rfl | rfl | rfl
    · rw [lo0, hi0]
      by_cases h : (pre 0 12 12 s).2 ≠ 0
      · rw [if_pos h]; exact rchk_e 0 s w 12 12 (by decide) (by decide) lo0 hi0 hm (by decide) (by decide) h
      · rw [if_neg h]
        have h' : (pre 0 12 12 s).2 = 0 := Classical.byContradiction h
        obtain ⟨q1, q2, q3, q4⟩ := pre_ok (by decide) h'
        have hs : s.size = 12 := by omega
        by_cases hq : gB s 11 = 48 + luhn (bl (s.extract 0 11))
        · rw [if_neg (fun q => q.2 hq), if_neg (fun q => absurd q.1 (by decide))]
          exact rchk_k0 s w 12 12 s.size lo0 hi0 hm (by decide) (by omega) q3 q4 rfl rfl hs rfl hq
        · rw [if_pos ⟨rfl, hq⟩]
          exact rchk_x0 s w 12 12 s.size lo0 hi0 hm (by decide) (by omega) q3 q4 rfl rfl hs rfl hq
    · rw [lo1, hi1]
      by_cases h : (pre 1 4 8 s).2 ≠ 0
      · rw [if_pos h]; exact rchk_e 1 s w 4 8 (by decide) (by decide) lo1 hi1 hm (by decide) (by decide) h
      · rw [if_neg h]
        have h' : (pre 1 4 8 s).2 = 0 := Classical.byContradiction h
        obtain ⟨q1, q2, q3, q4⟩ := pre_ok (by decide) h'
        rw [if_neg (fun q => absurd q.1 (by decide)), if_neg (fun q => absurd q.1 (by decide))]
        exact rchk_k1 s w 4 8 s.size lo1 hi1 hm (by decide) (by omega) q3 q4 q2 rfl q3
    · rw [lo2, hi2]
      by_cases h : (pre 2 1 16 s).2 ≠ 0
      · rw [if_pos h]; exact rchk_e 2 s w 1 16 (by decide) (by decide) lo2 hi2 hm (by decide) (by decide) h
      · rw [if_neg h]
        have h' : (pre 2 1 16 s).2 = 0 := Classical.byContradiction h
        obtain ⟨q1, q2, q3, q4⟩ := pre_ok (by decide) h'
        rw [if_neg (fun q => absurd q.1 (by decide)), if_neg (fun q => absurd q.1 (by decide))]
        exact rchk_k2 s w 1 16 s.size lo2 hi2 hm (by decide) (by omega) q3 q4 q2 rfl q3
    · rw [lo3, hi3]
      by_cases h : (pre 3 20 20 s).2 ≠ 0
      · rw [if_pos h]; exact rchk_e 3 s w 20 20 (by decide) (by decide) lo3 hi3 hm (by decide) (by decide) h
      · rw [if_neg h]
        have h' : (pre 3 20 20 s).2 = 0 := Classical.byContradiction h
        obtain ⟨q1, q2, q3, q4⟩ := pre_ok (by decide) h'
        have hs : s.size = 20 := by omega
        rw [if_neg (fun q => absurd q.1 (by decide))]
        by_cases hq : tailOff s
        · rw [if_pos ⟨rfl, hq⟩]
          exact rchk_x3 s w 20 20 s.size lo3 hi3 hm (by decide) (by omega) q3 q4 rfl rfl hs rfl hq
        · rw [if_neg (fun q => hq q.2)]
          exact rchk_k3 s w 20 20 s.size lo3 hi3 hm (by decide) (by omega) q3 q4 rfl rfl hs rfl hq

/-- An identifier is valid. -/
def okI (kind : Int) (s : ByteArray) : Bool := decide ((ckR kind s).2 = 0)
theorem ok_any (kind : Int) (s : ByteArray) (w : World) (S : Shp w) (hm : s.size ≤ 9223372036854775807) :
    Calls Tryd.prog 38 #[.int .i64 kind, .string s] w fun e w' => e = .returned (.bool (okI kind s)) ∧ Below w.heap.size w w' := by
  have ck := fun w S => hide (ck_any kind s w S hm)
  by_cases h : (ckR kind s).2 = 0
  · have e : okI kind s = true := decide_eq_true h
    rw [e]
    rw [h] at ck
    clear e h
    generalize (ckR kind s).1 = V at *
    go_enter Tryd.func38, Tryd.ntmps38
    go_wp2_with fail
    refine (ck _ S).out.mono ?_
    rintro e w1 ⟨rfl, hb⟩
    have B := hide hb
    clear hb
    go_wp2_with fail
    go_ret
    exact ⟨rfl, B.out⟩
  · have e : okI kind s = false := decide_eq_false h
    rw [e]
    clear e
    generalize (ckR kind s).1 = V at *
    generalize (ckR kind s).2 = E at *
    go_enter Tryd.func38, Tryd.ntmps38
    go_wp2_with fail
    refine (ck _ S).out.mono ?_
    rintro e w1 ⟨rfl, hb⟩
    have B := hide hb
    clear hb
    have hE : (E == 0) = false := by simpa using h
    go_wp2_with fail
    go_ret
    exact ⟨rfl, B.out⟩
end Go.Proofs.YtjjaemobgfconaaDoor
