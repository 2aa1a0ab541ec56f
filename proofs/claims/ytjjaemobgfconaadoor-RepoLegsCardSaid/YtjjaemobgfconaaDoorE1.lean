/-
  An agreement; the contracts of the days and of the names at this translation.
-/
import Derived.Test.YtjjaemobgfconaaDoorId13
import Derived.Test.YtjjaemobgfconaaDoorFr5
import Derived.Test.YtjjaemobgfconaaDoorLeaf
import Derived.WalkKit
import Derived.Deep.QuietTactic
import Derived.BigQuiet
import Derived.Laws.EntriesVeiled
import Derived.Lib.MinMax
import Derived.Deep.Light
namespace Go.Proofs.YtjjaemobgfconaaDoor
open Go.RowKit
set_option linter.unusedVariables false
set_option linter.unusedSimpArgs false
set_option linter.unnecessarySimpa false

/-- An agreement. -/
structure Ag where
  rf : ByteArray
  se : ByteArray
  bu : ByteArray
  sn : ByteArray
  q : Int
  c : Int
  n : Int
  d : Int
  op : Int
  cl : Int
structure Ag.Ok (t : Ag) : Prop where
  rf : t.rf.size ≤ 9223372036854775807
  se : t.se.size ≤ 9223372036854775807
  bu : t.bu.size ≤ 9223372036854775807
  sn : t.sn.size ≤ 9223372036854775807
  q : -9223372036854775808 ≤ t.q ∧ t.q ≤ 9223372036854775807
  c : -9223372036854775808 ≤ t.c ∧ t.c ≤ 9223372036854775807
  n : -9223372036854775808 ≤ t.n ∧ t.n ≤ 9223372036854775807
  d : -9223372036854775808 ≤ t.d ∧ t.d ≤ 9223372036854775807
  op : -9223372036854775808 ≤ t.op ∧ t.op ≤ 9223372036854775807
  cl : -9223372036854775808 ≤ t.cl ∧ t.cl ≤ 9223372036854775807
theorem two_allocs (w : World) (a b : Obj) : Below w.heap.size w ((w.alloc a).alloc b) := ((Below.refl _ _).alloc (Nat.le_refl _) _).alloc (by simp) _
theorem one_alloc (w : World) (a : Obj) : Below w.heap.size w (w.alloc a) := (Below.refl _ _).alloc (Nat.le_refl _) _
/-- A block holds an agreement. -/
structure RB (b : Nat) (t : Ag) (wx : World) : Prop where
  lt : b < wx.heap.size
  c0 : wx.cell? ⟨b, 0, none⟩ = some (.string t.rf)
  c1 : wx.cell? ⟨b, 1, none⟩ = some (.string t.se)
  c2 : wx.cell? ⟨b, 2, none⟩ = some (.string t.bu)
  c3 : wx.cell? ⟨b, 3, none⟩ = some (.string t.sn)
  c4 : wx.cell? ⟨b, 4, none⟩ = some (.int .i64 t.q)
  c5 : wx.cell? ⟨b, 5, none⟩ = some (.int .i64 t.c)
  c6 : wx.cell? ⟨b, 6, none⟩ = some (.int .i64 t.n)
  c7 : wx.cell? ⟨b, 7, none⟩ = some (.int .i64 t.d)
  c8 : wx.cell? ⟨b, 8, none⟩ = some (.int .i64 t.op)
  c9 : wx.cell? ⟨b, 9, none⟩ = some (.int .i64 t.cl)
theorem RB.keep {b : Nat} {t : Ag} {wx wy : World} (h : RB b t wx) (hb : Below wx.heap.size wx wy) : RB b t wy := by
  have l := h.lt
  have s := hb.size
  exact ⟨by omega, (hb.cell (p := ⟨b, 0, none⟩) (by simpa using l)).trans h.c0, (hb.cell (p := ⟨b, 1, none⟩) (by simpa using l)).trans h.c1, (hb.cell (p := ⟨b, 2, none⟩) (by simpa using l)).trans h.c2, (hb.cell (p := ⟨b, 3, none⟩) (by simpa using l)).trans h.c3, (hb.cell (p := ⟨b, 4, none⟩) (by simpa using l)).trans h.c4, (hb.cell (p := ⟨b, 5, none⟩) (by simpa using l)).trans h.c5, (hb.cell (p := ⟨b, 6, none⟩) (by simpa using l)).trans h.c6, (hb.cell (p := ⟨b, 7, none⟩) (by simpa using l)).trans h.c7, (hb.cell (p := ⟨b, 8, none⟩) (by simpa using l)).trans h.c8, (hb.cell (p := ⟨b, 9, none⟩) (by simpa using l)).trans h.c9⟩
theorem RB.new (t : Ag) (w : World) (T : TypeId) : RB w.heap.size t (w.alloc (Obj.cells #[.string t.rf, .string t.se, .string t.bu, .string t.sn, .int .i64 t.q, .int .i64 t.c, .int .i64 t.n, .int .i64 t.d, .int .i64 t.op, .int .i64 t.cl] T)) := by
  refine ⟨by simp, ?_, ?_, ?_, ?_, ?_, ?_, ?_, ?_, ?_, ?_⟩ <;> simp [go_sem]
def dyB (x : Int) : Bool := decide (0 ≤ x) && decide (x ≤ 73048)
theorem dy_any (x : Int) (w : World) : Calls Tryd.prog 44 #[.int .i64 x] w fun e w' => e = .returned (.bool (dyB x)) ∧ w = w' := by
  unfold dyB
  by_cases h0 : 0 ≤ x
  · by_cases h1 : x ≤ 73048
    · rw [decide_eq_true h0, decide_eq_true h1]
      go_enter Tryd.func44, Tryd.ntmps44
      go_wp2_with fail
      go_ret
      exact ⟨rfl, rfl⟩
    · rw [decide_eq_true h0, decide_eq_false h1]
      have h1 : 73048 < x := by omega
      go_enter Tryd.func44, Tryd.ntmps44
      go_wp2_with fail
      go_ret
      exact ⟨rfl, rfl⟩
  · rw [decide_eq_false h0, Bool.false_and]
    have h0 : x < 0 := by omega
    go_enter Tryd.func44, Tryd.ntmps44
    go_wp2_with fail
    go_ret
    exact ⟨rfl, rfl⟩
theorem rdy_any (x : Int) (w : World) : Calls Tryd.prog 36 #[.int .i64 x] w fun e w' => e = .returned (.bool (dyB x)) ∧ w = w' := by
  unfold dyB
  by_cases h0 : 0 ≤ x
  · by_cases h1 : x ≤ 73048
    · rw [decide_eq_true h0, decide_eq_true h1]
      go_enter Tryd.func36, Tryd.ntmps36
      go_wp2_with fail
      go_ret
      exact ⟨rfl, rfl⟩
    · rw [decide_eq_true h0, decide_eq_false h1]
      have h1 : 73048 < x := by omega
      go_enter Tryd.func36, Tryd.ntmps36
      go_wp2_with fail
      go_ret
      exact ⟨rfl, rfl⟩
  · rw [decide_eq_false h0, Bool.false_and]
    have h0 : x < 0 := by omega
    go_enter Tryd.func36, Tryd.ntmps36
    go_wp2_with fail
    go_ret
    exact ⟨rfl, rfl⟩
theorem rok_any (kind : Int) (s : ByteArray) (w : World) (hm : s.size ≤ 9223372036854775807) :
    Calls Tryd.prog 34 #[.int .i64 kind, .string s] w fun e w' => e = .returned (.bool (okI kind s)) ∧ Below w.heap.size w w' := by
  have ck := fun w => hide (rck_any kind s w hm)
  unfold okI
  generalize (ckR kind s).1 = V at *
  generalize (ckR kind s).2 = E at *
  by_cases h : E = 0
  · have hE : (E == 0) = true := by simpa using h
    have e : decide (E = 0) = true := decide_eq_true h
    rw [e]
    clear h e
    go_enter Tryd.func34, Tryd.ntmps34
    go_wp2_with fail
    refine (ck _).out.mono ?_
    rintro e w1 ⟨rfl, hb⟩
    have B := hide hb
    clear hb
    go_wp2_with fail
    go_ret
    exact ⟨rfl, B.out⟩
  · have hE : (E == 0) = false := by simpa using h
    have e : decide (E = 0) = false := decide_eq_false h
    rw [e]
    clear h e
    go_enter Tryd.func34, Tryd.ntmps34
    go_wp2_with fail
    refine (ck _).out.mono ?_
    rintro e w1 ⟨rfl, hb⟩
    have B := hide hb
    clear hb
    go_wp2_with fail
    go_ret
    exact ⟨rfl, B.out⟩
theorem ref_len {s : ByteArray} (h : okI 2 s = true) : s.size ≤ 16 := by
  unfold okI at h
  have h := of_decide_eq_true h
  unfold ckR at h
  rw [if_neg (by decide)] at h
  have e1 : loK 2 = 1 := rfl
  have e2 : hiK 2 = 16 := rfl
  rw [e1, e2] at h
  by_cases hp : (pre 2 1 16 s).2 = 0
  · unfold pre at hp
    split at hp
    · cases hp
    · unfold clE at hp
      simp only at hp
      split at hp
      · cases hp
      · split at hp
        · cases hp
        · omega
  · rw [if_pos hp] at h
    exact absurd h hp
/-- The reference of the opening leg. -/
def dA : ByteArray := ⟨#[45, 65]⟩
def nmEb (b0 b1 b2 b3 same b4 : Bool) : Int := if b0 = false then 6 else if b1 = false then 6 else if b2 = false then 6 else if b3 = false then 6 else if same = true then 1 else if b4 = false then 6 else 0
def nmE (t : Ag) : Int := nmEb (okI 2 t.rf) (okI 2 (t.rf ++ ⟨#[45, 65]⟩)) (okI 1 t.se) (okI 1 t.bu) (t.se.toList == t.bu.toList) (okI 0 t.sn)

end Go.Proofs.YtjjaemobgfconaaDoor
