/-
  Identifiers: plain facts on bytes, expansions and check digits. No program in this text.
-/
import Derived.WalkKit
namespace Go.Proofs.YtjjaemobgfconaaDoor
open Go.RowKit
set_option linter.unusedVariables false

/-- A capital letter; a digit. -/
def isL (c : Int) : Bool := decide (65 ≤ c ∧ c ≤ 90)
def isD (c : Int) : Bool := decide (48 ≤ c ∧ c ≤ 57)
/-- A letter or digit. -/
def al (c : Int) : Prop := (65 ≤ c ∧ c ≤ 90) ∨ (48 ≤ c ∧ c ≤ 57)
/-- The value of a letter or digit. -/
def val (c : Int) : Int := if c ≤ 57 then c - 48 else c - 55
theorem val_bd {c : Int} (h : al c) : 0 ≤ val c ∧ val c ≤ 35 := by unfold al at h; unfold val; split <;> omega
/-- The digits of a byte; of a list of bytes. -/
def exc (c : Int) : List Int := if c ≤ 57 then [c - 48] else [(c - 55) / 10, (c - 55) % 10]
def ex : List Int → List Int
  | [] => []
  | c :: r => exc c ++ ex r
theorem ex_append (a b : List Int) : ex (a ++ b) = ex a ++ ex b := by
  induction a with
  | nil => rfl
  | cons c a ih => simp only [List.cons_append, ex, ih, List.append_assoc]
theorem exc_bd {c : Int} (h : al c) : ∀ d ∈ exc c, 0 ≤ d ∧ d ≤ 9 := by
  intro d hd
  unfold exc at hd
  unfold al at h
  split at hd
  · simp only [List.mem_cons, List.not_mem_nil, or_false] at hd; omega
  · simp only [List.mem_cons, List.not_mem_nil, or_false] at hd; omega
theorem ex_bd {l : List Int} (h : ∀ c ∈ l, al c) : ∀ d ∈ ex l, 0 ≤ d ∧ d ≤ 9 := by
  induction l with
  | nil => intro d hd; simp [ex] at hd
  | cons c r ih =>
    intro d hd
    rcases List.mem_append.1 hd with a | a
    · exact exc_bd (h c (by simp)) d a
    · exact ih (fun x hx => h x (by simp [hx])) d a
theorem exc_len (c : Int) : (exc c).length ≤ 2 := by unfold exc; split <;> simp
theorem ex_len (l : List Int) : (ex l).length ≤ 2 * l.length := by
  induction l with
  | nil => simp [ex]
  | cons c r ih => simp only [ex, List.length_append, List.length_cons]; have := exc_len c; omega

/-- What a digit adds. -/
def dsum (b : Bool) (d : Int) : Int := if b = true then (2 * d) / 10 + (2 * d) % 10 else d / 10 + d % 10
/-- One digit more, from the end. -/
def lst (a : Int × Bool) (d : Int) : Int × Bool := (a.1 + dsum a.2 d, !a.2)
/-- The sum over digits, from the end; whether the next is doubled. -/
def luD : List Int → Int × Bool
  | [] => (0, true)
  | d :: r => lst (luD r) d
/-- The same over bytes. -/
def luA : List Int → Int × Bool
  | [] => (0, true)
  | c :: r => if 10 ≤ val c then lst (lst (luA r) (val c % 10)) (val c / 10) else lst (luA r) (val c % 10)
theorem luA_ex {l : List Int} (h : ∀ c ∈ l, al c) : luA l = luD (ex l) := by
  induction l with
  | nil => rfl
  | cons c r ih =>
    have hc := h c (by simp)
    have ih' := ih (fun x hx => h x (by simp [hx]))
    simp only [luA, ex, exc]
    rw [ih']
    unfold al at hc
    by_cases h57 : c ≤ 57
    · have v : val c = c - 48 := if_pos h57
      rw [v, if_neg (by omega), if_pos h57, show (c - 48) % 10 = c - 48 by omega]
      rfl
    · have v : val c = c - 55 := if_neg h57
      rw [v, if_pos (by omega), if_neg h57]
      rfl
theorem dsum_bd {b : Bool} {d : Int} (h1 : 0 ≤ d) (h2 : d ≤ 9) : 0 ≤ dsum b d ∧ dsum b d ≤ 9 := by
  unfold dsum; split <;> omega
theorem luD_bd {l : List Int} (h : ∀ d ∈ l, 0 ≤ d ∧ d ≤ 9) : 0 ≤ (luD l).1 ∧ (luD l).1 ≤ 9 * l.length := by
  induction l with
  | nil => simp [luD]
  | cons d r ih =>
    have ih' := ih (fun x hx => h x (by simp [hx]))
    have hd := h d (by simp)
    have := dsum_bd (b := (luD r).2) hd.1 hd.2
    simp only [luD, lst, List.length_cons]
    omega
theorem luD_par (l : List Int) : (luD l).2 = decide (l.length % 2 = 0) := by
  induction l with
  | nil => rfl
  | cons d r ih =>
    simp only [luD, lst, List.length_cons, ih]
    by_cases h : r.length % 2 = 0
    · rw [decide_eq_true h, decide_eq_false (by omega)]; rfl
    · rw [decide_eq_false h, decide_eq_true (by omega)]; rfl
/-- The check digit by Luhn. -/
def luhn (l : List Int) : Int := (10 - (luA l).1 % 10) % 10
theorem luhn_bd (l : List Int) : 0 ≤ luhn l ∧ luhn l ≤ 9 := by unfold luhn; omega

/-- One digit more, read as a number modulo 97. -/
def mst (r d : Int) : Int := (10 * r + d) % 97
def moD (r : Int) (l : List Int) : Int := l.foldl mst r
def mas (r c : Int) : Int := ((if 10 ≤ val c then r * 10 else r) * 10 + val c) % 97
def moA (r : Int) (l : List Int) : Int := l.foldl mas r
theorem moA_ex {l : List Int} (h : ∀ c ∈ l, al c) (r : Int) : moA r l = moD r (ex l) := by
  induction l generalizing r with
  | nil => rfl
  | cons c l ih =>
    have hc := h c (by simp)
    have ih' := ih (fun x hx => h x (by simp [hx]))
    unfold moA moD at *
    simp only [List.foldl_cons, ex, List.foldl_append]
    rw [ih']
    congr 1
    unfold mas exc mst
    unfold al at hc
    by_cases h57 : c ≤ 57
    · have v : val c = c - 48 := if_pos h57
      rw [v, if_neg (by omega), if_pos h57]
      simp only [List.foldl_cons, List.foldl_nil]
      rw [Int.mul_comm]
    · have v : val c = c - 55 := if_neg h57
      rw [v, if_pos (by omega), if_neg h57]
      simp only [List.foldl_cons, List.foldl_nil]
      omega
theorem mas_bd (r c : Int) : 0 ≤ mas r c ∧ mas r c ≤ 96 := by unfold mas; omega
theorem moA_bd {r : Int} (h1 : 0 ≤ r) (h2 : r ≤ 96) (l : List Int) : 0 ≤ moA r l ∧ moA r l ≤ 96 := by
  induction l generalizing r with
  | nil => exact ⟨h1, h2⟩
  | cons c l ih => exact ih (mas_bd r c).1 (mas_bd r c).2
theorem moA_append (r : Int) (a b : List Int) : moA r (a ++ b) = moA (moA r a) b := List.foldl_append ..
theorem moD_append (r : Int) (a b : List Int) : moD r (a ++ b) = moD (moD r a) b := List.foldl_append ..
/-- The remainder of the expansion with two zeros behind it. -/
theorem moD_00 {l : List Int} (h : ∀ c ∈ l, al c) : moD 0 (ex (l ++ [48, 48])) = moA 0 l * 100 % 97 := by
  rw [ex_append, moD_append, ← moA_ex h]
  have b := moA_bd (show (0 : Int) ≤ 0 by omega) (by omega) l
  generalize moA 0 l = x at *
  show mst (mst x (48 - 48)) (48 - 48) = _
  unfold mst
  omega
/-- The check digits of an LEI as a number. -/
def cd (l : List Int) : Int := 98 - moA 0 l * 100 % 97
theorem cd_bd (l : List Int) : 2 ≤ cd l ∧ cd l ≤ 98 := by unfold cd; omega

/-- The remainder as a sum: what a list adds, and by what it multiplies what stood before. -/
theorem moA_lin (l : List Int) : ∃ a b : Int, (∀ r, 0 ≤ r → moA r l % 97 = (r * a + b) % 97) ∧ a % 97 ≠ 0 := by
  induction l with
  | nil => exact ⟨1, 0, fun r _ => by simp [moA], by decide⟩
  | cons c l ih =>
    obtain ⟨a, b, h1, h2⟩ := ih
    have e : ∀ r, moA r (c :: l) = moA (mas r c) l := fun r => rfl
    by_cases hv : 10 ≤ val c
    · refine ⟨100 * a, val c * a + b, fun r hr => ?_, ?_⟩
      · rw [e, h1 _ (mas_bd r c).1]
        unfold mas
        rw [if_pos hv]
        have : ((r * 10 * 10 + val c) % 97 * a + b) % 97 = ((r * 10 * 10 + val c) * a + b) % 97 := by
          rw [Int.add_emod, Int.mul_emod, Int.emod_emod_of_dvd _ (Int.dvd_refl 97), ← Int.mul_emod, ← Int.add_emod]
        rw [this]
        congr 1
        rw [Int.add_mul, Int.mul_assoc, Int.mul_assoc, ← Int.mul_assoc 10 10 a, Int.add_assoc]
        rfl
      · intro h
        have : (100 * a) % 97 = (3 * a) % 97 := by omega
        omega
    · refine ⟨10 * a, val c * a + b, fun r hr => ?_, ?_⟩
      · rw [e, h1 _ (mas_bd r c).1]
        unfold mas
        rw [if_neg hv]
        have : ((r * 10 + val c) % 97 * a + b) % 97 = ((r * 10 + val c) * a + b) % 97 := by
          rw [Int.add_emod, Int.mul_emod, Int.emod_emod_of_dvd _ (Int.dvd_refl 97), ← Int.mul_emod, ← Int.add_emod]
        rw [this]
        congr 1
        rw [Int.add_mul, Int.mul_assoc, Int.add_assoc]
      · intro h
        omega
theorem mul97 (x a : Int) (ha : a % 97 ≠ 0) (h : (x * a) % 97 = 0) : x % 97 = 0 := by
  have hd : (97 : Int) ∣ x * a := Int.dvd_of_emod_eq_zero h
  have p : Nat.gcd 97 a.natAbs = 1 := by
    have h1 : Nat.gcd 97 a.natAbs ∣ 97 := Nat.gcd_dvd_left ..
    have h2 : Nat.gcd 97 a.natAbs ∣ a.natAbs := Nat.gcd_dvd_right ..
    have h3 : Nat.gcd 97 a.natAbs ≤ 97 := Nat.le_of_dvd (by decide) h1
    have h4 : ∀ n, n ≤ 97 → n ∣ 97 → n = 1 ∨ n = 97 := by decide
    rcases h4 _ h3 h1 with e | e
    · exact e
    · rw [e] at h2
      exfalso
      apply ha
      exact Int.emod_eq_zero_of_dvd (Int.ofNat_dvd_left.2 h2)
  have hd' : (97 : Nat) ∣ x.natAbs * a.natAbs := by rw [← Int.natAbs_mul]; exact Int.ofNat_dvd_left.1 hd
  have := Nat.Coprime.dvd_of_dvd_mul_right p hd'
  exact Int.emod_eq_zero_of_dvd (Int.ofNat_dvd_left.2 this)
/-- Two remainders before the same rest differ if they did. -/
theorem moA_inj {r r' : Int} (l : List Int) (h0 : 0 ≤ r) (h0' : 0 ≤ r') (hb : r ≤ 96) (hb' : r' ≤ 96) (h : moA r l = moA r' l) : r = r' := by
  obtain ⟨a, b, h1, h2⟩ := moA_lin l
  have e1 := h1 r h0
  have e2 := h1 r' h0'
  rw [h] at e1
  have e3 : (r * a + b) % 97 = (r' * a + b) % 97 := by rw [← e1, ← e2]
  have e4 : ((r - r') * a) % 97 = 0 := by
    rw [Int.sub_mul]
    have := Int.emod_emod_of_dvd
    generalize r * a = x at *
    generalize r' * a = y at *
    omega
  have := mul97 _ _ h2 e4
  omega
end Go.Proofs.YtjjaemobgfconaaDoor
