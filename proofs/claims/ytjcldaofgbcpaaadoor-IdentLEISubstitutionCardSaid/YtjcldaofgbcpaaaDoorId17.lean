/-
  Identifiers with their check digits behind them: plain facts.
-/
import Derived.Test.YtjcldaofgbcpaaaDoorId15
namespace Go.Proofs.YtjcldaofgbcpaaaDoor
open Go.RowKit
set_option linter.unusedVariables false

theorem cut_le (s : ByteArray) : (s.extract 0 (min (s.size : Int) 100).toNat).size ≤ 100 := by rw [ByteArray.size_extract]; omega
theorem cat (a l : List UInt8) : (⟨⟨a⟩⟩ : ByteArray) ++ ⟨⟨l⟩⟩ = ⟨⟨a ++ l⟩⟩ := by
  apply ByteArray.ext
  simp [ByteArray.data_append]
theorem app_size (C : ByteArray) (t : List UInt8) : (C ++ (⟨⟨t⟩⟩ : ByteArray)).size = C.size + t.length := by rw [ByteArray.size_append]; rfl
theorem gB_app_l (C : ByteArray) (t : List UInt8) (j : Nat) (h : j < C.size) : gB (C ++ ⟨⟨t⟩⟩) j = gB C j := by
  obtain ⟨⟨l⟩⟩ := C
  have h' : j < l.length := h
  rw [cat]
  show (((l ++ t).getD j 0).toNat : Int) = ((l.getD j 0).toNat : Int)
  rw [List.getD, List.getD, List.getElem?_append_left h']
theorem gB_app_r (C : ByteArray) (t : List UInt8) (j : Nat) : gB (C ++ ⟨⟨t⟩⟩) (C.size + j) = ((t.getD j 0).toNat : Int) := by
  obtain ⟨⟨l⟩⟩ := C
  rw [cat]
  show (((l ++ t).getD (l.length + j) 0).toNat : Int) = ((t.getD j 0).toNat : Int)
  rw [List.getD, List.getD, List.getElem?_append_right (by omega), show l.length + j - l.length = j by omega]
theorem app_head (C : ByteArray) (t : List UInt8) : (C ++ (⟨⟨t⟩⟩ : ByteArray)).extract 0 C.size = C := by
  obtain ⟨⟨l⟩⟩ := C
  rw [cat]
  have := Go.ByteArray.extract_mk (l ++ t) 0 l.length
  refine this.trans ?_
  simp
theorem app_tail (C : ByteArray) (t : List UInt8) : (C ++ (⟨⟨t⟩⟩ : ByteArray)).extract C.size (C.size + t.length) = ⟨⟨t⟩⟩ := by
  obtain ⟨⟨l⟩⟩ := C
  rw [cat]
  have := Go.ByteArray.extract_mk (l ++ t) l.length (l.length + t.length)
  refine this.trans ?_
  simp

theorem fb_good {kind : Int} {s : ByteArray} {n : Nat} (h : ∀ j : Nat, j < n → may kind j (gB s j) = true) : firstBad kind s n = none := by
  unfold firstBad
  rw [List.find?_range_eq_none]
  intro j hj
  simp [h j hj]
theorem fb_first {kind : Int} {s : ByteArray} {n J : Nat} (hJ : J < n) (hb : may kind J (gB s J) = false) (h : ∀ j : Nat, j < J → may kind j (gB s j) = true) : firstBad kind s n = some J := by
  unfold firstBad
  rw [List.find?_range_eq_some]
  exact ⟨by simpa using hb, List.mem_range.2 hJ, fun j hj => by simp [h j hj]⟩
theorem pre_zero {kind n : Int} {s : ByteArray} (hs : (s.size : Int) = n) (h : ∀ j : Nat, j < s.size → may kind j (gB s j) = true) : (pre kind n n s).2 = 0 := by
  unfold pre
  rw [fb_good (fun j hj => h j (by omega))]
  simp only [clE]
  rw [if_neg (by omega), if_neg (by omega)]

theorem okI0_iff (s : ByteArray) : okI 0 s = true ↔ (pre 0 12 12 s).2 = 0 ∧ gB s 11 = 48 + luhn (bl (s.extract 0 11)) := by
  unfold okI ckR
  rw [decide_eq_true_iff, if_neg (by decide), lo0, hi0]
  by_cases h : (pre 0 12 12 s).2 ≠ 0
  · rw [if_pos h]
    exact ⟨fun q => absurd q h, fun q => absurd q.1 h⟩
  · rw [if_neg h]
    have h' : (pre 0 12 12 s).2 = 0 := Classical.byContradiction h
    by_cases q : gB s 11 = 48 + luhn (bl (s.extract 0 11))
    · rw [if_neg (fun x => x.2 q), if_neg (fun x => absurd x.1 (by decide))]
      exact ⟨fun _ => ⟨h', q⟩, fun _ => rfl⟩
    · rw [if_pos ⟨rfl, q⟩]
      exact ⟨fun x => absurd x (by decide), fun x => absurd x.2 q⟩
theorem okI3_iff (s : ByteArray) : okI 3 s = true ↔ (pre 3 20 20 s).2 = 0 ∧ ¬ tailOff s := by
  unfold okI ckR
  rw [decide_eq_true_iff, if_neg (by decide), lo3, hi3]
  by_cases h : (pre 3 20 20 s).2 ≠ 0
  · rw [if_pos h]
    exact ⟨fun q => absurd q h, fun q => absurd q.1 h⟩
  · rw [if_neg h]
    have h' : (pre 3 20 20 s).2 = 0 := Classical.byContradiction h
    rw [if_neg (fun x => absurd x.1 (by decide))]
    by_cases q : tailOff s
    · rw [if_pos ⟨rfl, q⟩]
      exact ⟨fun x => absurd x (by decide), fun x => absurd q x.2⟩
    · rw [if_neg (fun x => q x.2)]
      exact ⟨fun _ => ⟨h', q⟩, fun _ => rfl⟩

theorem okI0_app (C : ByteArray) (b : UInt8) (h1 : 48 ≤ (b.toNat : Int)) (h2 : (b.toNat : Int) ≤ 57) : okI 0 (C ++ ⟨⟨[b]⟩⟩) = true ↔ isE C = 0 ∧ (b.toNat : Int) = 48 + luhn (bl C) := by
  rw [okI0_iff]
  have hz := app_size C [b]
  have hz' : (C ++ (⟨⟨[b]⟩⟩ : ByteArray)).size = C.size + 1 := hz
  constructor
  · rintro ⟨h, q⟩
    obtain ⟨_, a1, a2, a3⟩ := pre_ok (by decide) h
    have hs : C.size = 11 := by omega
    have hd := app_head C [b]
    rw [hs] at hd
    rw [hd] at q
    have g := gB_app_r C [b] 0
    rw [hs] at g
    have g' : gB (C ++ ⟨⟨[b]⟩⟩) 11 = (b.toNat : Int) := g
    rw [g'] at q
    refine ⟨?_, q⟩
    exact pre_zero (by omega) (fun j hj => by
      have := a3 j (by omega)
      rwa [gB_app_l C [b] j hj] at this)
  · rintro ⟨h, q⟩
    obtain ⟨_, a1, a2, a3⟩ := pre_ok (kind := 0) (lo := 11) (hi := 11) (by decide) h
    have hs : C.size = 11 := by omega
    have hd := app_head C [b]
    rw [hs] at hd
    have g := gB_app_r C [b] 0
    rw [hs] at g
    have g' : gB (C ++ ⟨⟨[b]⟩⟩) 11 = (b.toNat : Int) := g
    rw [hd, g']
    refine ⟨pre_zero (by omega) (fun j hj => ?_), q⟩
    by_cases hj11 : j < 11
    · rw [gB_app_l C [b] j (by omega)]
      exact a3 j (by omega)
    · obtain rfl : j = 11 := by omega
      rw [g']
      unfold may
      rw [if_pos rfl, if_neg (by decide), if_neg (by decide), if_pos (by decide)]
      exact isD_yes h1 h2
theorem okI3_app (C : ByteArray) (a b : UInt8) (a1 : 48 ≤ (a.toNat : Int)) (a2 : (a.toNat : Int) ≤ 57) (b1 : 48 ≤ (b.toNat : Int)) (b2 : (b.toNat : Int) ≤ 57) :
    okI 3 (C ++ ⟨⟨[a, b]⟩⟩) = true ↔ leE C = 0 ∧ (⟨⟨[a, b]⟩⟩ : ByteArray) = dd (cd (bl C)) := by
  rw [okI3_iff]
  have hz' : (C ++ (⟨⟨[a, b]⟩⟩ : ByteArray)).size = C.size + 2 := app_size C [a, b]
  have hd := app_head C [a, b]
  have ht := app_tail C [a, b]
  have hl : [a, b].length = 2 := rfl
  rw [hl] at ht
  constructor
  · rintro ⟨h, q⟩
    obtain ⟨_, p1, p2, p3⟩ := pre_ok (by decide) h
    have hs : C.size = 18 := by omega
    rw [hs] at hd ht
    have q' : ¬ ((C ++ (⟨⟨[a, b]⟩⟩ : ByteArray)).extract 18 20 ≠ dd (cd (bl ((C ++ (⟨⟨[a, b]⟩⟩ : ByteArray)).extract 0 18)))) := q
    rw [hd, ht] at q'
    refine ⟨?_, Classical.byContradiction q'⟩
    exact pre_zero (by omega) (fun j hj => by
      have := p3 j (by omega)
      rwa [gB_app_l C [a, b] j hj] at this)
  · rintro ⟨h, q⟩
    obtain ⟨_, p1, p2, p3⟩ := pre_ok (kind := 3) (lo := 18) (hi := 18) (by decide) h
    have hs : C.size = 18 := by omega
    rw [hs] at hd ht
    have g0 := gB_app_r C [a, b] 0
    have g1 := gB_app_r C [a, b] 1
    rw [hs] at g0 g1
    have g0' : gB (C ++ ⟨⟨[a, b]⟩⟩) 18 = (a.toNat : Int) := g0
    have g1' : gB (C ++ ⟨⟨[a, b]⟩⟩) 19 = (b.toNat : Int) := g1
    refine ⟨pre_zero (by omega) (fun j hj => ?_), ?_⟩
    · by_cases hj18 : j < 18
      · rw [gB_app_l C [a, b] j (by omega)]
        exact p3 j (by omega)
      · unfold may
        rw [if_neg (show ¬ (3 : Int) = 0 by decide), if_neg (show ¬ (3 : Int) = 1 by decide), if_neg (show ¬ (3 : Int) = 2 by decide)]
        by_cases h18 : j = 18
        · subst h18; rw [g0', isD_yes a1 a2]; rfl
        · obtain rfl : j = 19 := by omega
          rw [g1', isD_yes b1 b2]; rfl
    · show ¬ ((C ++ (⟨⟨[a, b]⟩⟩ : ByteArray)).extract 18 20 ≠ dd (cd (bl ((C ++ (⟨⟨[a, b]⟩⟩ : ByteArray)).extract 0 18))))
      rw [hd, ht]
      exact fun x => x q

theorem u8_nat {x : Int} (h1 : 0 ≤ x) (h2 : x ≤ 255) : ((UInt8.ofNat x.toNat).toNat : Int) = x := by rw [UInt8.toNat_ofNat']; omega
/-- The string of a slice of one byte that was just made. -/
theorem conv1 (W : World) (x : Int) : (convert 33 9 (.slice (some ⟨W.heap.size, 0, none⟩) 1 1)).run Tryd.prog (W.alloc (.cells #[.int .u8 x] 5)) =
    .ok (.string ⟨#[UInt8.ofNat x.toNat]⟩) (W.alloc (.cells #[.int .u8 x] 5)) := by
  refine run_convert_bytes_arg _ 33 5 Tryd.underlying33 Tryd.underlying5 W.heap.size 0 1 1 [x] rfl (fun i hi => ?_) 9 Tryd.underlying9
  have : i = 0 := by omega
  subst this
  simp [World.cell?_alloc_new]
/-- With the digit d behind it, an ISIN's body is an ISIN if d is its check digit. -/
theorem okI0_digit (C : ByteArray) (d : Int) (h1 : 0 ≤ d) (h2 : d ≤ 9) : okI 0 (C ++ ⟨#[UInt8.ofNat (48 + d).toNat]⟩) = decide (isE C = 0 ∧ d = luhn (bl C)) := by
  have e := u8_nat (x := 48 + d) (by omega) (by omega)
  have := okI0_app C (UInt8.ofNat (48 + d).toNat) (by rw [e]; omega) (by rw [e]; omega)
  rw [e] at this
  rw [Bool.eq_iff_iff, decide_eq_true_iff]
  refine this.trans ⟨fun q => ⟨q.1, by omega⟩, fun q => ⟨q.1, by omega⟩⟩
theorem dd_inj {d d' : Int} (h1 : 0 ≤ d) (h2 : d ≤ 99) (h1' : 0 ≤ d') (h2' : d' ≤ 99) (h : dd d = dd d') : d = d' := by
  unfold dd at h
  injection h with h
  injection h with h
  injection h with a b
  injection b with b
  have e1 := u8_nat (x := 48 + d / 10) (by omega) (by omega)
  have e2 := u8_nat (x := 48 + d % 10) (by omega) (by omega)
  have e3 := u8_nat (x := 48 + d' / 10) (by omega) (by omega)
  have e4 := u8_nat (x := 48 + d' % 10) (by omega) (by omega)
  rw [a] at e1
  rw [b] at e2
  omega
theorem okI3_digits (C : ByteArray) (d : Int) (h1 : 0 ≤ d) (h2 : d ≤ 99) : okI 3 (C ++ dd d) = decide (leE C = 0 ∧ d = cd (bl C)) := by
  have e1 := u8_nat (x := 48 + d / 10) (by omega) (by omega)
  have e2 := u8_nat (x := 48 + d % 10) (by omega) (by omega)
  have := okI3_app C (UInt8.ofNat (48 + d / 10).toNat) (UInt8.ofNat (48 + d % 10).toNat) (by rw [e1]; omega) (by rw [e1]; omega) (by rw [e2]; omega) (by rw [e2]; omega)
  have c := cd_bd (bl C)
  rw [Bool.eq_iff_iff, decide_eq_true_iff]
  refine Iff.trans this ⟨fun q => ⟨q.1, dd_inj h1 h2 (by omega) (by omega) q.2⟩, fun q => ⟨q.1, ?_⟩⟩
  rw [← q.2]
  rfl
end Go.Proofs.YtjcldaofgbcpaaaDoor
