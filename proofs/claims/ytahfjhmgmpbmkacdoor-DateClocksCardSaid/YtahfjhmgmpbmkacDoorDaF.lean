/-
  The text of a date and of a point in time: plain facts.
-/
import Derived.Test.YtahfjhmgmpbmkacDoorDaE
import Derived.Test.YtahfjhmgmpbmkacDoorDaA
namespace Go.Proofs.YtahfjhmgmpbmkacDoor
open Go.RowKit
set_option linter.unusedVariables false

/-- The byte of a digit. -/
def dgt (x : Int) : UInt8 := UInt8.ofNat (48 + x).toNat
theorem dgt_val {x : Int} (h1 : 0 ≤ x) (h2 : x ≤ 9) : ((dgt x).toNat : Int) = 48 + x := by
  unfold dgt
  rw [UInt8.toNat_ofNat']
  omega
theorem dgt_of {c : UInt8} {x : Int} (h1 : 48 ≤ (c.toNat : Int)) (h : x = (c.toNat : Int) - 48) : dgt x = c := by
  subst h
  unfold dgt
  have : (48 + ((c.toNat : Int) - 48)).toNat = c.toNat := by omega
  rw [this, UInt8.ofNat_toNat]

/-- Four digits. -/
def d4 (y : Int) : List UInt8 := [dgt (y / 1000), dgt (y / 100 % 10), dgt (y / 10 % 10), dgt (y % 10)]
theorem itoa4 (y : Int) (h1 : 1000 ≤ y) (h2 : y ≤ 9999) : Lib.itoa y = d4 y := by
  obtain ⟨n, rfl⟩ : ∃ n : Nat, y = n := ⟨y.toNat, by omega⟩
  unfold Lib.itoa
  rw [if_neg (by omega), Int.toNat_natCast, Lib.decDigits, dif_neg (by omega), Lib.decDigits, dif_neg (by omega), Lib.decDigits, dif_neg (by omega), Lib.decDigits, dif_pos (by omega)]
  have e1 : (48 + (n : Int) / 1000).toNat = 48 + n / 10 / 10 / 10 := by omega
  have e2 : (48 + (n : Int) / 100 % 10).toNat = 48 + n / 10 / 10 % 10 := by omega
  have e3 : (48 + (n : Int) / 10 % 10).toNat = 48 + n / 10 % 10 := by omega
  have e4 : (48 + (n : Int) % 10).toNat = 48 + n % 10 := by omega
  unfold d4 dgt
  rw [e1, e2, e3, e4]
  rfl

/-- The text of a date, byte by byte. -/
def txt (y m d : Int) : List UInt8 := [dgt (y / 1000), dgt (y / 100 % 10), dgt (y / 10 % 10), dgt (y % 10), 45, dgt (m / 10), dgt (m % 10), 45, dgt (d / 10), dgt (d % 10)]
theorem fmtS_txt (y m d : Int) (y1 : 1000 ≤ y) (y2 : y ≤ 9999) : fmtS y m d = ⟨⟨txt y m d⟩⟩ := by
  unfold fmtS
  rw [itoa4 y y1 y2]
  apply ByteArray.ext
  simp [ByteArray.data_append, dd, d4, txt, dgt]

theorem gB_mk (l : List UInt8) (k : Nat) : gB ⟨⟨l⟩⟩ k = ((l.getD k 0).toNat : Int) := rfl
theorem ten {s : ByteArray} (h : s.size = 10) : ∃ a b c d e f g i j k, s = ⟨⟨[a, b, c, d, e, f, g, i, j, k]⟩⟩ := by
  obtain ⟨⟨l⟩⟩ := s
  have h' : l.length = 10 := h
  match l, h' with
  | [a, b, c, d, e, f, g, i, j, k], _ => exact ⟨a, b, c, d, e, f, g, i, j, k, rfl⟩
theorem u8_of {c : UInt8} {n : UInt8} (h : (c.toNat : Int) = (n.toNat : Int)) : c = n := UInt8.toNat_inj.1 (by omega)

theorem form_txt {s : ByteArray} (h : HasForm s dform) : s = ⟨⟨txt (nv s 0 4) (nv s 5 2) (nv s 8 2)⟩⟩ := by
  obtain ⟨c0, c1, c2, c3, c4, c5, c6, c7, c8, c9, rfl⟩ := ten h.1
  have d0 := (dig h 0 (by omega) (by omega) (by omega)).1
  have d1 := (dig h 1 (by omega) (by omega) (by omega)).1
  have d2 := (dig h 2 (by omega) (by omega) (by omega)).1
  have d3 := (dig h 3 (by omega) (by omega) (by omega)).1
  have d5 := (dig h 5 (by omega) (by omega) (by omega)).1
  have d6 := (dig h 6 (by omega) (by omega) (by omega)).1
  have d8 := (dig h 8 (by omega) (by omega) (by omega)).1
  have d9 := (dig h 9 (by omega) (by omega) (by omega)).1
  have u0 := (dig h 0 (by omega) (by omega) (by omega)).2
  have u1 := (dig h 1 (by omega) (by omega) (by omega)).2
  have u2 := (dig h 2 (by omega) (by omega) (by omega)).2
  have u3 := (dig h 3 (by omega) (by omega) (by omega)).2
  have u5 := (dig h 5 (by omega) (by omega) (by omega)).2
  have u6 := (dig h 6 (by omega) (by omega) (by omega)).2
  have u8 := (dig h 8 (by omega) (by omega) (by omega)).2
  have u9 := (dig h 9 (by omega) (by omega) (by omega)).2
  have e4 : c4 = 45 := by
    rcases h.2 4 (by rw [h.1]; decide) with ⟨a, _⟩ | ⟨_, b⟩
    · exact absurd a (by decide)
    · exact u8_of b
  have e7 : c7 = 45 := by
    rcases h.2 7 (by rw [h.1]; decide) with ⟨a, _⟩ | ⟨_, b⟩
    · exact absurd a (by decide)
    · exact u8_of b
  subst e4 e7
  have g0 : gB ⟨⟨[c0, c1, c2, c3, 45, c5, c6, 45, c8, c9]⟩⟩ 0 = (c0.toNat : Int) := rfl
  have g1 : gB ⟨⟨[c0, c1, c2, c3, 45, c5, c6, 45, c8, c9]⟩⟩ 1 = (c1.toNat : Int) := rfl
  have g2 : gB ⟨⟨[c0, c1, c2, c3, 45, c5, c6, 45, c8, c9]⟩⟩ 2 = (c2.toNat : Int) := rfl
  have g3 : gB ⟨⟨[c0, c1, c2, c3, 45, c5, c6, 45, c8, c9]⟩⟩ 3 = (c3.toNat : Int) := rfl
  have g5 : gB ⟨⟨[c0, c1, c2, c3, 45, c5, c6, 45, c8, c9]⟩⟩ 5 = (c5.toNat : Int) := rfl
  have g6 : gB ⟨⟨[c0, c1, c2, c3, 45, c5, c6, 45, c8, c9]⟩⟩ 6 = (c6.toNat : Int) := rfl
  have g8 : gB ⟨⟨[c0, c1, c2, c3, 45, c5, c6, 45, c8, c9]⟩⟩ 8 = (c8.toNat : Int) := rfl
  have g9 : gB ⟨⟨[c0, c1, c2, c3, 45, c5, c6, 45, c8, c9]⟩⟩ 9 = (c9.toNat : Int) := rfl
  have n1 : nv ⟨⟨[c0, c1, c2, c3, 45, c5, c6, 45, c8, c9]⟩⟩ 0 4 = 1000 * ((c0.toNat : Int) - 48) + 100 * ((c1.toNat : Int) - 48) + 10 * ((c2.toNat : Int) - 48) + ((c3.toNat : Int) - 48) := by
    simp only [nv, Nat.zero_add]; rw [g0, g1, g2, g3]; omega
  have n2 : nv ⟨⟨[c0, c1, c2, c3, 45, c5, c6, 45, c8, c9]⟩⟩ 5 2 = 10 * ((c5.toNat : Int) - 48) + ((c6.toNat : Int) - 48) := by
    simp only [nv, Nat.add_zero]; rw [g5, g6]; omega
  have n3 : nv ⟨⟨[c0, c1, c2, c3, 45, c5, c6, 45, c8, c9]⟩⟩ 8 2 = 10 * ((c8.toNat : Int) - 48) + ((c9.toNat : Int) - 48) := by
    simp only [nv, Nat.add_zero]; rw [g8, g9]; omega
  rw [n1, n2, n3]
  rw [g0] at d0 u0; rw [g1] at d1 u1; rw [g2] at d2 u2; rw [g3] at d3 u3; rw [g5] at d5 u5; rw [g6] at d6 u6; rw [g8] at d8 u8; rw [g9] at d9 u9
  clear n1 n2 n3 g0 g1 g2 g3 g5 g6 g8 g9 h
  unfold txt
  rw [dgt_of d0 (by omega), dgt_of d1 (by omega), dgt_of d2 (by omega), dgt_of d3 (by omega), dgt_of d5 (by omega), dgt_of d6 (by omega), dgt_of d8 (by omega), dgt_of d9 (by omega)]

/-- A date within the texts' range. -/
structure In2 (y m d : Int) : Prop where
  y1 : 0 ≤ y
  y2 : y ≤ 9999
  m1 : 0 ≤ m
  m2 : m ≤ 99
  d1 : 0 ≤ d
  d2 : d ≤ 99

theorem txt_dig {y m d : Int} (h : In2 y m d) : ((dgt (y / 1000)).toNat : Int) = 48 + y / 1000 ∧ ((dgt (y / 100 % 10)).toNat : Int) = 48 + y / 100 % 10 ∧ ((dgt (y / 10 % 10)).toNat : Int) = 48 + y / 10 % 10 ∧ ((dgt (y % 10)).toNat : Int) = 48 + y % 10 ∧
    ((dgt (m / 10)).toNat : Int) = 48 + m / 10 ∧ ((dgt (m % 10)).toNat : Int) = 48 + m % 10 ∧ ((dgt (d / 10)).toNat : Int) = 48 + d / 10 ∧ ((dgt (d % 10)).toNat : Int) = 48 + d % 10 := by
  obtain ⟨a, b, c, e, f, g⟩ := h
  exact ⟨dgt_val (by omega) (by omega), dgt_val (by omega) (by omega), dgt_val (by omega) (by omega), dgt_val (by omega) (by omega), dgt_val (by omega) (by omega), dgt_val (by omega) (by omega), dgt_val (by omega) (by omega), dgt_val (by omega) (by omega)⟩

theorem suits_dig {x y : Int} (hy : y = 48) (h1 : 48 ≤ x) (h2 : x ≤ 57) : suits x y := .inl ⟨hy, h1, h2⟩
theorem txt_form {y m d : Int} (h : In2 y m d) : HasForm ⟨⟨txt y m d⟩⟩ dform := by
  obtain ⟨q0, q1, q2, q3, q5, q6, q8, q9⟩ := txt_dig h
  obtain ⟨a, b, c, e, f, g⟩ := h
  refine ⟨rfl, fun j hj => ?_⟩
  have hj' : j < 10 := hj
  have : j = 0 ∨ j = 1 ∨ j = 2 ∨ j = 3 ∨ j = 4 ∨ j = 5 ∨ j = 6 ∨ j = 7 ∨ j = 8 ∨ j = 9 := by omega
  rcases this with rfl | rfl | rfl | rfl | rfl | rfl | rfl | rfl | rfl | rfl
  · exact suits_dig rfl (by show 48 ≤ ((dgt (y / 1000)).toNat : Int); omega) (by show ((dgt (y / 1000)).toNat : Int) ≤ 57; omega)
  · exact suits_dig rfl (by show 48 ≤ ((dgt (y / 100 % 10)).toNat : Int); omega) (by show ((dgt (y / 100 % 10)).toNat : Int) ≤ 57; omega)
  · exact suits_dig rfl (by show 48 ≤ ((dgt (y / 10 % 10)).toNat : Int); omega) (by show ((dgt (y / 10 % 10)).toNat : Int) ≤ 57; omega)
  · exact suits_dig rfl (by show 48 ≤ ((dgt (y % 10)).toNat : Int); omega) (by show ((dgt (y % 10)).toNat : Int) ≤ 57; omega)
  · exact .inr ⟨by decide, rfl⟩
  · exact suits_dig rfl (by show 48 ≤ ((dgt (m / 10)).toNat : Int); omega) (by show ((dgt (m / 10)).toNat : Int) ≤ 57; omega)
  · exact suits_dig rfl (by show 48 ≤ ((dgt (m % 10)).toNat : Int); omega) (by show ((dgt (m % 10)).toNat : Int) ≤ 57; omega)
  · exact .inr ⟨by decide, rfl⟩
  · exact suits_dig rfl (by show 48 ≤ ((dgt (d / 10)).toNat : Int); omega) (by show ((dgt (d / 10)).toNat : Int) ≤ 57; omega)
  · exact suits_dig rfl (by show 48 ≤ ((dgt (d % 10)).toNat : Int); omega) (by show ((dgt (d % 10)).toNat : Int) ≤ 57; omega)
theorem txt_nv {y m d : Int} (h : In2 y m d) : nv ⟨⟨txt y m d⟩⟩ 0 4 = y ∧ nv ⟨⟨txt y m d⟩⟩ 5 2 = m ∧ nv ⟨⟨txt y m d⟩⟩ 8 2 = d := by
  obtain ⟨q0, q1, q2, q3, q5, q6, q8, q9⟩ := txt_dig h
  obtain ⟨a, b, c, e, f, g⟩ := h
  have g0 : gB ⟨⟨txt y m d⟩⟩ 0 = ((dgt (y / 1000)).toNat : Int) := rfl
  have g1 : gB ⟨⟨txt y m d⟩⟩ 1 = ((dgt (y / 100 % 10)).toNat : Int) := rfl
  have g2 : gB ⟨⟨txt y m d⟩⟩ 2 = ((dgt (y / 10 % 10)).toNat : Int) := rfl
  have g3 : gB ⟨⟨txt y m d⟩⟩ 3 = ((dgt (y % 10)).toNat : Int) := rfl
  have g5 : gB ⟨⟨txt y m d⟩⟩ 5 = ((dgt (m / 10)).toNat : Int) := rfl
  have g6 : gB ⟨⟨txt y m d⟩⟩ 6 = ((dgt (m % 10)).toNat : Int) := rfl
  have g8 : gB ⟨⟨txt y m d⟩⟩ 8 = ((dgt (d / 10)).toNat : Int) := rfl
  have g9 : gB ⟨⟨txt y m d⟩⟩ 9 = ((dgt (d % 10)).toNat : Int) := rfl
  refine ⟨?_, ?_, ?_⟩
  · simp only [nv, Nat.zero_add]; rw [g0, g1, g2, g3]; omega
  · simp only [nv, Nat.add_zero]; rw [g5, g6]; omega
  · simp only [nv, Nat.add_zero]; rw [g8, g9]; omega

/-- The order of the texts. -/
theorem lex_step {a b : UInt8} {l l' : List UInt8} : (a :: l < b :: l') ↔ ((a.toNat : Int) < b.toNat ∨ ((a.toNat : Int) = b.toNat ∧ l < l')) := by
  rw [List.cons_lt_cons_iff, UInt8.lt_iff_toNat_lt, ← UInt8.toNat_inj]
  constructor
  · rintro (h | ⟨h, h'⟩)
    · exact .inl (by omega)
    · exact .inr ⟨by omega, h'⟩
  · rintro (h | ⟨h, h'⟩)
    · exact .inl (by omega)
    · exact .inr ⟨by omega, h'⟩
theorem txt_lt {y m d y' m' d' : Int} (h : In2 y m d) (h' : In2 y' m' d') (hl : y < y' ∨ (y = y' ∧ (m < m' ∨ (m = m' ∧ d < d')))) : txt y m d < txt y' m' d' := by
  obtain ⟨q0, q1, q2, q3, q5, q6, q8, q9⟩ := txt_dig h
  obtain ⟨p0, p1, p2, p3, p5, p6, p8, p9⟩ := txt_dig h'
  obtain ⟨a, b, c, e, f, g⟩ := h
  obtain ⟨a', b', c', e', f', g'⟩ := h'
  unfold txt
  simp only [lex_step]
  rw [q0, q1, q2, q3, q5, q6, q8, q9, p0, p1, p2, p3, p5, p6, p8, p9]
  clear q0 q1 q2 q3 q5 q6 q8 q9 p0 p1 p2 p3 p5 p6 p8 p9
  simp only [true_and, Int.lt_irrefl, false_or]
  rcases hl with hl | ⟨rfl, hl | ⟨rfl, hl⟩⟩
  · by_cases z0 : y / 1000 = y' / 1000
    · by_cases z1 : y / 100 % 10 = y' / 100 % 10
      · by_cases z2 : y / 10 % 10 = y' / 10 % 10
        · exact .inr ⟨by omega, .inr ⟨by omega, .inr ⟨by omega, .inl (by omega)⟩⟩⟩
        · exact .inr ⟨by omega, .inr ⟨by omega, .inl (by omega)⟩⟩
      · exact .inr ⟨by omega, .inl (by omega)⟩
    · exact .inl (by omega)
  · by_cases z0 : m / 10 = m' / 10
    · exact .inr ⟨rfl, .inr ⟨rfl, .inr ⟨rfl, .inr ⟨rfl, .inr ⟨by omega, .inl (by omega)⟩⟩⟩⟩⟩
    · exact .inr ⟨rfl, .inr ⟨rfl, .inr ⟨rfl, .inr ⟨rfl, .inl (by omega)⟩⟩⟩⟩
  · by_cases z0 : d / 10 = d' / 10
    · exact .inr ⟨rfl, .inr ⟨rfl, .inr ⟨rfl, .inr ⟨rfl, .inr ⟨rfl, .inr ⟨rfl, .inr ⟨by omega, .inl (by omega)⟩⟩⟩⟩⟩⟩⟩
    · exact .inr ⟨rfl, .inr ⟨rfl, .inr ⟨rfl, .inr ⟨rfl, .inr ⟨rfl, .inr ⟨rfl, .inl (by omega)⟩⟩⟩⟩⟩⟩

/-- The order of days is that of their dates. -/
theorem inMonth_lt {n y n' y' : Int} {k k' : Nat} (h : InMonth n y k) (h' : InMonth n' y' k') (hn : n < n') :
    y < y' ∨ (y = y' ∧ (((k : Int) + 1 < (k' : Int) + 1) ∨ ((k : Int) + 1 = (k' : Int) + 1 ∧ n - NY y - cum y k + 1 < n' - NY y' - cum y' k' + 1))) := by
  by_cases a : y < y'
  · exact .inl a
  · by_cases b : y' < y
    · have m := ny_mono (show y' + 1 ≤ y by omega)
      have := h.lo
      have := h'.hi
      omega
    · obtain rfl : y = y' := by omega
      refine .inr ⟨rfl, ?_⟩
      by_cases c : k < k'
      · exact .inl (by omega)
      · by_cases d : k' < k
        · have m := cum_mono y (show k' + 1 ≤ k by omega)
          have := h.c1
          have := h'.c2
          omega
        · obtain rfl : k = k' := by omega
          exact .inr ⟨rfl, by omega⟩
theorem in2_of {n y : Int} {k : Nat} (h : InMonth n y k) : In2 y ((k : Int) + 1) (n - NY y - cum y k + 1) := by
  have d1 := h.c1
  have d2 := h.c2
  have d3 := (dim_bd y ((k : Int) + 1)).2
  obtain ⟨y1, y2, _, _, k12, _, _⟩ := h
  simp only [cum] at d2
  exact ⟨by omega, by omega, by omega, by omega, by omega, by omega⟩
end Go.Proofs.YtahfjhmgmpbmkacDoor
