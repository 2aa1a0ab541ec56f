/-
  Check digits of an LEI with another byte: plain facts.
-/
import Derived.Test.YtjcldaofgbcpaaaDoorWith
namespace Go.Proofs.YtjcldaofgbcpaaaDoor
open Go.RowKit
set_option linter.unusedVariables false

theorem bl_dd {n : Int} (h1 : 0 ≤ n) (h2 : n ≤ 99) : bl (dd n) = [48 + n / 10, 48 + n % 10] := by
  have e1 := u8_nat (x := 48 + n / 10) (by omega) (by omega)
  have e2 := u8_nat (x := 48 + n % 10) (by omega) (by omega)
  show [((UInt8.ofNat (48 + n / 10).toNat).toNat : Int), ((UInt8.ofNat (48 + n % 10).toNat).toNat : Int)] = _
  rw [e1, e2]
theorem bl_tail (s : ByteArray) (hs : s.size = 20) : bl (s.extract 18 20) = (bl s).drop 18 := by
  obtain ⟨⟨l⟩⟩ := s
  have hl : l.length = 20 := hs
  have e1 : (⟨⟨l⟩⟩ : ByteArray).extract 18 20 = ⟨⟨l.drop 18⟩⟩ := by
    refine (Go.ByteArray.extract_mk l 18 20).trans ?_
    rw [List.take_of_length_le (by simp [hl])]
  rw [e1, bl_mk, bl_mk]
  simp
/-- An LEI leaves 1. -/
theorem lei_val {s : ByteArray} (h : okI 3 s = true) : s.size = 20 ∧ moA 0 (bl s) = 1 ∧ Als s := by
  rw [okI3_iff] at h
  obtain ⟨h1, h2⟩ := h
  obtain ⟨_, a, b, c⟩ := pre_ok (by decide) h1
  have hs : s.size = 20 := by omega
  refine ⟨hs, ?_, als3 c⟩
  have ht : s.extract 18 20 = dd (cd (bl (s.extract 0 18))) := Classical.byContradiction h2
  have hcd := cd_bd (bl (s.extract 0 18))
  have e := bl_tail s hs
  rw [ht, bl_dd (by omega) (by omega), bl_cut s 18 (by omega)] at e
  have := List.take_append_drop 18 (bl s)
  rw [← this, ← e]
  exact lei_one
theorem al_letter {c : Int} (h : al c) (hd : isD c = false) : 65 ≤ c ∧ c ≤ 90 := by
  unfold al at h
  rcases h with h | h
  · exact h
  · rw [isD_yes h.1 h.2] at hd; exact absurd hd (by decide)
theorem bl_split (s : ByteArray) (i : Nat) (h : i < s.size) : bl s = (bl s).take i ++ gB s i :: (bl s).drop (i + 1) := by
  have := List.take_append_drop i (bl s)
  rw [bl_at s i h] at this
  exact this.symm
/-- Another byte of the same class in an LEI is detected. -/
theorem lei_one_off {s : ByteArray} {i : Nat} {c : UInt8} (hi : i < 20) (h : okI 3 s = true) (hs : sameC (gB s i) (c.toNat : Int)) (hne : gB s i ≠ (c.toNat : Int)) : okI 3 (put1 s i c) = false := by
  cases hk : okI 3 (put1 s i c) with
  | false => rfl
  | true =>
    exfalso
    obtain ⟨z1, m1, _⟩ := lei_val h
    obtain ⟨z2, m2, _⟩ := lei_val hk
    rw [bl_put1 s i c (by omega)] at m2
    rw [bl_split s i (by omega)] at m1
    exact hne (lei_sub _ _ hs (m1.trans m2.symm))
/-- Two adjacent digits exchanged in an LEI are detected. -/
theorem lei_exch {s : ByteArray} {i : Nat} (hi : i < 19) (h : okI 3 s = true) (x1 : 48 ≤ gB s i) (x2 : gB s i ≤ 57) (y1 : 48 ≤ gB s (i + 1)) (y2 : gB s (i + 1) ≤ 57) (hne : gB s i ≠ gB s (i + 1)) :
    okI 3 (put1 (put1 s i (UInt8.ofNat (gB s (i + 1)).toNat)) (i + 1) (UInt8.ofNat (gB s i).toNat)) = false := by
  cases hk : okI 3 (put1 (put1 s i (UInt8.ofNat (gB s (i + 1)).toNat)) (i + 1) (UInt8.ofNat (gB s i).toNat)) with
  | false => rfl
  | true =>
    exfalso
    obtain ⟨z1, m1, _⟩ := lei_val h
    obtain ⟨z2, m2, _⟩ := lei_val hk
    have e1 := u8_nat (x := gB s (i + 1)) (by omega) (by omega)
    have e2 := u8_nat (x := gB s i) (by omega) (by omega)
    have hp := put1_size s i (UInt8.ofNat (gB s (i + 1)).toNat) (by omega)
    rw [bl_put1 _ (i + 1) _ (by omega), bl_put1 s i _ (by omega), e1, e2] at m2
    have hl : ((bl s).take i).length = i := by rw [List.length_take, bl_len]; omega
    rw [List.take_append, hl, List.take_of_length_le (by omega), show i + 1 - i = 0 + 1 by omega, List.take_succ_cons, List.take_zero, List.drop_append, hl, List.drop_eq_nil_of_le (by omega), show i + 1 + 1 - i = 1 + 1 by omega, List.drop_succ_cons, List.drop_drop] at m2
    rw [bl_split s i (by omega), bl_at s (i + 1) (by omega)] at m1
    have m2' : moA 0 ((bl s).take i ++ gB s (i + 1) :: gB s i :: (bl s).drop (i + 1 + 1)) = 1 := by simpa using m2
    exact hne (lei_swap _ _ x1 x2 y1 y2 (m1.trans m2'.symm))
theorem dig_sub {w0 : World} (c : Int) (b : Bool) (h : isD c = b) (x : Sub w0) : Calls Tryd.prog 22 #[.int .u8 c] x.val fun e w'' => e = .returned (.bool b) ∧ ∃ y : Sub w0, w'' = y.val := by
  rw [← h]
  exact sub_of x ((ldig_any c x.val).mono fun _ _ ⟨a, b⟩ => ⟨a, b ▸ Below.refl _ _⟩)

end Go.Proofs.YtjcldaofgbcpaaaDoor
