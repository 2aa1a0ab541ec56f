/-
  A late trade by value; the contracts of the rules of its check at this translation.
-/
import Derived.Test.YtkmpmegiiaamdaaDoorId15
import Derived.Laws.EntriesVeiled
namespace Go.Proofs.YtkmpmegiiaamdaaDoor
open Go.RowKit
set_option linter.unusedVariables false
set_option linter.unusedSimpArgs false
set_option linter.unnecessarySimpa false

/-- A late trade. -/
structure Cs where
  rf : ByteArray
  d : ByteArray
  r : ByteArray
  a : ByteArray
  q : Int
  v : Int
  sd : Int
  ft : Int
structure Cs.Ok (t : Cs) : Prop where
  q : -9223372036854775808 ≤ t.q ∧ t.q ≤ 9223372036854775807
  v : -9223372036854775808 ≤ t.v ∧ t.v ≤ 9223372036854775807
  sd : -9223372036854775808 ≤ t.sd ∧ t.sd ≤ 9223372036854775807
  ft : -9223372036854775808 ≤ t.ft ∧ t.ft ≤ 9223372036854775807
  rf : t.rf.size ≤ 9223372036854775807
  d : t.d.size ≤ 9223372036854775807
  r : t.r.size ≤ 9223372036854775807
  a : t.a.size ≤ 9223372036854775807
theorem two_allocs (w : World) (a b : Obj) : Below w.heap.size w ((w.alloc a).alloc b) := ((Below.refl _ _).alloc (Nat.le_refl _) _).alloc (by simp) _
theorem one_alloc (w : World) (a : Obj) : Below w.heap.size w (w.alloc a) := (Below.refl _ _).alloc (Nat.le_refl _) _
/-- A block holds a late trade. -/
structure TB (b : Nat) (t : Cs) (wx : World) : Prop where
  lt : b < wx.heap.size
  c0 : wx.cell? ⟨b, 0, none⟩ = some (.string t.rf)
  c1 : wx.cell? ⟨b, 1, none⟩ = some (.string t.d)
  c2 : wx.cell? ⟨b, 2, none⟩ = some (.string t.r)
  c3 : wx.cell? ⟨b, 3, none⟩ = some (.string t.a)
  c4 : wx.cell? ⟨b, 4, none⟩ = some (.int .i64 t.q)
  c5 : wx.cell? ⟨b, 5, none⟩ = some (.int .i64 t.v)
  c6 : wx.cell? ⟨b, 6, none⟩ = some (.int .i64 t.sd)
  c7 : wx.cell? ⟨b, 7, none⟩ = some (.int .i64 t.ft)
theorem TB.keep {b : Nat} {t : Cs} {wx wy : World} (h : TB b t wx) (hb : Below wx.heap.size wx wy) : TB b t wy := by
  have l := h.lt
  have s := hb.size
  exact ⟨by omega, (hb.cell (p := ⟨b, 0, none⟩) (by simpa using l)).trans h.c0, (hb.cell (p := ⟨b, 1, none⟩) (by simpa using l)).trans h.c1, (hb.cell (p := ⟨b, 2, none⟩) (by simpa using l)).trans h.c2, (hb.cell (p := ⟨b, 3, none⟩) (by simpa using l)).trans h.c3, (hb.cell (p := ⟨b, 4, none⟩) (by simpa using l)).trans h.c4, (hb.cell (p := ⟨b, 5, none⟩) (by simpa using l)).trans h.c5, (hb.cell (p := ⟨b, 6, none⟩) (by simpa using l)).trans h.c6, (hb.cell (p := ⟨b, 7, none⟩) (by simpa using l)).trans h.c7⟩
theorem TB.new (t : Cs) (w : World) (T : TypeId) : TB w.heap.size t (w.alloc (Obj.cells #[.string t.rf, .string t.d, .string t.r, .string t.a, .int .i64 t.q, .int .i64 t.v, .int .i64 t.sd, .int .i64 t.ft] T)) := by
  refine ⟨by simp, ?_, ?_, ?_, ?_, ?_, ?_, ?_, ?_⟩ <;> simp [go_sem]
def amB (x : Int) : Bool := decide (0 ≤ x) && decide (x ≤ 1000000000000000)
def dyB (x : Int) : Bool := decide (0 ≤ x) && decide (x ≤ 73048)
theorem am_any (x : Int) (w : World) : Calls Tryd.prog 23 #[.int .i64 x] w fun e w' => e = .returned (.bool (amB x)) ∧ w = w' := by
  unfold amB
  by_cases h0 : 0 ≤ x
  · by_cases h1 : x ≤ 1000000000000000
    · rw [decide_eq_true h0, decide_eq_true h1]
      go_enter Tryd.func23, Tryd.ntmps23
      go_wp2_with fail
      go_ret
      exact ⟨rfl, rfl⟩
    · rw [decide_eq_true h0, decide_eq_false h1]
      have h1 : 1000000000000000 < x := by omega
      go_enter Tryd.func23, Tryd.ntmps23
      go_wp2_with fail
      go_ret
      exact ⟨rfl, rfl⟩
  · rw [decide_eq_false h0, Bool.false_and]
    have h0 : x < 0 := by omega
    go_enter Tryd.func23, Tryd.ntmps23
    go_wp2_with fail
    go_ret
    exact ⟨rfl, rfl⟩
theorem dy_any (x : Int) (w : World) : Calls Tryd.prog 26 #[.int .i64 x] w fun e w' => e = .returned (.bool (dyB x)) ∧ w = w' := by
  unfold dyB
  by_cases h0 : 0 ≤ x
  · by_cases h1 : x ≤ 73048
    · rw [decide_eq_true h0, decide_eq_true h1]
      go_enter Tryd.func26, Tryd.ntmps26
      go_wp2_with fail
      go_ret
      exact ⟨rfl, rfl⟩
    · rw [decide_eq_true h0, decide_eq_false h1]
      have h1 : 73048 < x := by omega
      go_enter Tryd.func26, Tryd.ntmps26
      go_wp2_with fail
      go_ret
      exact ⟨rfl, rfl⟩
  · rw [decide_eq_false h0, Bool.false_and]
    have h0 : x < 0 := by omega
    go_enter Tryd.func26, Tryd.ntmps26
    go_wp2_with fail
    go_ret
    exact ⟨rfl, rfl⟩
theorem rule0 (t : Cs) (b : Nat) (w : World) (HB : TB b t w) (S : Shp w) (hs : t.rf.size ≤ 9223372036854775807) : Calls Tryd.prog 16 #[.pointer (some ⟨b, 0, none⟩)] w fun e w' => e = .returned (.bool (okI 2 t.rf)) ∧ Below w.heap.size w w' := by
  obtain ⟨_, c0, c1, c2, c3, c4, c5, c6, c7⟩ := HB
  have OK := fun w S => hide (ok_any 2 t.rf w S hs)
  have S := hide S
  clear hs
  generalize okI 2 t.rf = B at *
  go_enter Tryd.func16, Tryd.ntmps16
  go_wp2_with fail
  refine ((OK _ S.out).out).mono ?_
  rintro e x1 ⟨rfl, hb⟩
  have HR := hide hb
  clear hb c0 c1 c2 c3 c4 c5 c6 c7
  go_wp2_with fail
  go_ret
  exact ⟨rfl, HR.out⟩
theorem rule1 (t : Cs) (b : Nat) (w : World) (HB : TB b t w) (S : Shp w) (hs : t.d.size ≤ 9223372036854775807) : Calls Tryd.prog 18 #[.pointer (some ⟨b, 0, none⟩)] w fun e w' => e = .returned (.bool (okI 1 t.d)) ∧ Below w.heap.size w w' := by
  obtain ⟨_, c0, c1, c2, c3, c4, c5, c6, c7⟩ := HB
  have OK := fun w S => hide (ok_any 1 t.d w S hs)
  have S := hide S
  clear hs
  generalize okI 1 t.d = B at *
  go_enter Tryd.func18, Tryd.ntmps18
  go_wp2_with fail
  refine ((OK _ S.out).out).mono ?_
  rintro e x1 ⟨rfl, hb⟩
  have HR := hide hb
  clear hb c0 c1 c2 c3 c4 c5 c6 c7
  go_wp2_with fail
  go_ret
  exact ⟨rfl, HR.out⟩
theorem rule2 (t : Cs) (b : Nat) (w : World) (HB : TB b t w) (S : Shp w) (hs : t.r.size ≤ 9223372036854775807) : Calls Tryd.prog 19 #[.pointer (some ⟨b, 0, none⟩)] w fun e w' => e = .returned (.bool (okI 1 t.r)) ∧ Below w.heap.size w w' := by
  obtain ⟨_, c0, c1, c2, c3, c4, c5, c6, c7⟩ := HB
  have OK := fun w S => hide (ok_any 1 t.r w S hs)
  have S := hide S
  clear hs
  generalize okI 1 t.r = B at *
  go_enter Tryd.func19, Tryd.ntmps19
  go_wp2_with fail
  refine ((OK _ S.out).out).mono ?_
  rintro e x1 ⟨rfl, hb⟩
  have HR := hide hb
  clear hb c0 c1 c2 c3 c4 c5 c6 c7
  go_wp2_with fail
  go_ret
  exact ⟨rfl, HR.out⟩
theorem rule3 (t : Cs) (b : Nat) (w : World) (HB : TB b t w) : Calls Tryd.prog 20 #[.pointer (some ⟨b, 0, none⟩)] w fun e w' => e = .returned (.bool (!(t.d.toList == t.r.toList))) ∧ Below w.heap.size w w' := by
  obtain ⟨_, c0, c1, c2, c3, c4, c5, c6, c7⟩ := HB
  go_enter Tryd.func20, Tryd.ntmps20
  go_wp2_with fail
  go_ret
  exact ⟨rfl, Below.refl _ _⟩
theorem rule4 (t : Cs) (b : Nat) (w : World) (HB : TB b t w) (S : Shp w) (hs : t.a.size ≤ 9223372036854775807) : Calls Tryd.prog 21 #[.pointer (some ⟨b, 0, none⟩)] w fun e w' => e = .returned (.bool (okI 0 t.a)) ∧ Below w.heap.size w w' := by
  obtain ⟨_, c0, c1, c2, c3, c4, c5, c6, c7⟩ := HB
  have OK := fun w S => hide (ok_any 0 t.a w S hs)
  have S := hide S
  clear hs
  generalize okI 0 t.a = B at *
  go_enter Tryd.func21, Tryd.ntmps21
  go_wp2_with fail
  refine ((OK _ S.out).out).mono ?_
  rintro e x1 ⟨rfl, hb⟩
  have HR := hide hb
  clear hb c0 c1 c2 c3 c4 c5 c6 c7
  go_wp2_with fail
  go_ret
  exact ⟨rfl, HR.out⟩
theorem rule5 (t : Cs) (b : Nat) (w : World) (HB : TB b t w) : Calls Tryd.prog 22 #[.pointer (some ⟨b, 0, none⟩)] w fun e w' => e = .returned (.bool (decide (1 ≤ t.q) && amB t.q)) ∧ Below w.heap.size w w' := by
  obtain ⟨_, c0, c1, c2, c3, c4, c5, c6, c7⟩ := HB
  have AM := fun w => hide (am_any t.q w)
  generalize amB t.q = B at *
  by_cases h1 : 1 ≤ t.q
  · rw [decide_eq_true h1, Bool.true_and]
    go_enter Tryd.func22, Tryd.ntmps22
    go_wp2_with fail
    refine ((AM _).out).mono ?_
    rintro e x1 ⟨rfl, rfl⟩
    go_wp2_with fail
    go_ret
    exact ⟨rfl, Below.refl _ _⟩
  · rw [decide_eq_false h1, Bool.false_and]
    have h1 : t.q < 1 := by omega
    go_enter Tryd.func22, Tryd.ntmps22
    go_wp2_with fail
    go_ret
    exact ⟨rfl, Below.refl _ _⟩
theorem rule6 (t : Cs) (b : Nat) (w : World) (HB : TB b t w) : Calls Tryd.prog 24 #[.pointer (some ⟨b, 0, none⟩)] w fun e w' => e = .returned (.bool (amB t.v)) ∧ Below w.heap.size w w' := by
  obtain ⟨_, c0, c1, c2, c3, c4, c5, c6, c7⟩ := HB
  have AM := fun w => hide (am_any t.v w)
  generalize amB t.v = B at *
  go_enter Tryd.func24, Tryd.ntmps24
  go_wp2_with fail
  refine ((AM _).out).mono ?_
  rintro e x1 ⟨rfl, rfl⟩
  go_wp2_with fail
  go_ret
  exact ⟨rfl, Below.refl _ _⟩
theorem rule7 (t : Cs) (b : Nat) (w : World) (HB : TB b t w) : Calls Tryd.prog 25 #[.pointer (some ⟨b, 0, none⟩)] w fun e w' => e = .returned (.bool (dyB t.sd)) ∧ Below w.heap.size w w' := by
  obtain ⟨_, c0, c1, c2, c3, c4, c5, c6, c7⟩ := HB
  have AM := fun w => hide (dy_any t.sd w)
  generalize dyB t.sd = B at *
  go_enter Tryd.func25, Tryd.ntmps25
  go_wp2_with fail
  refine ((AM _).out).mono ?_
  rintro e x1 ⟨rfl, rfl⟩
  go_wp2_with fail
  go_ret
  exact ⟨rfl, Below.refl _ _⟩
theorem rule8 (t : Cs) (b : Nat) (w : World) (HB : TB b t w) : Calls Tryd.prog 27 #[.pointer (some ⟨b, 0, none⟩)] w fun e w' => e = .returned (.bool (decide (t.ft = 0) || decide (t.ft = 1))) ∧ Below w.heap.size w w' := by
  obtain ⟨_, c0, c1, c2, c3, c4, c5, c6, c7⟩ := HB
  by_cases f0 : t.ft = 0
  · rw [decide_eq_true f0, Bool.true_or]
    have k0 : (t.ft == 0) = true := by simpa using f0
    clear f0
    go_enter Tryd.func27, Tryd.ntmps27
    go_wp2_with fail
    go_ret
    exact ⟨rfl, Below.refl _ _⟩
  · rw [decide_eq_false f0, Bool.false_or]
    have k0 : (t.ft == 0) = false := by simpa using f0
    by_cases f1 : t.ft = 1
    · rw [decide_eq_true f1]
      have k1 : (t.ft == 1) = true := by simpa using f1
      clear f0 f1
      go_enter Tryd.func27, Tryd.ntmps27
      go_wp2_with fail
      go_ret
      exact ⟨rfl, Below.refl _ _⟩
    · rw [decide_eq_false f1]
      have k1 : (t.ft == 1) = false := by simpa using f1
      clear f0 f1
      go_enter Tryd.func27, Tryd.ntmps27
      go_wp2_with fail
      go_ret
      exact ⟨rfl, Below.refl _ _⟩
end Go.Proofs.YtkmpmegiiaamdaaDoor
