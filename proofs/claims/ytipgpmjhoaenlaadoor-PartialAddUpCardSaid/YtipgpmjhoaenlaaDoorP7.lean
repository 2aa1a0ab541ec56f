/-
  Blocks that a split writes; what a split answers.
-/
import Derived.Test.YtipgpmjhoaenlaaDoorP6
namespace Go.Proofs.YtipgpmjhoaenlaaDoor
open Go.RowKit
set_option linter.unusedVariables false
set_option linter.unusedSimpArgs false

/-- No trade. -/
def zT : Tr := ⟨0, ⟨#[]⟩, ⟨#[]⟩, ⟨#[]⟩, 0, 0, 0, 0, 0, false, 0, ⟨#[]⟩, ⟨#[]⟩⟩
/-- A block that holds a trade and may be written. -/
structure RB (b : Nat) (t : Tr) (wx : World) : Prop where
  tb : TB b t wx
  z : ∀ i, wx.frozen? ⟨b, i, none⟩ = false
theorem RB.keep {b : Nat} {t : Tr} {wx wy : World} (h : RB b t wx) (hb : Below wx.heap.size wx wy) : RB b t wy :=
  ⟨h.tb.keep hb, fun i => (hb.frozen (p := ⟨b, i, none⟩) (by simpa using h.tb.lt)).trans (h.z i)⟩
theorem RB.new (t : Tr) (w : World) (T : TypeId) : RB w.heap.size t (w.alloc (Obj.cells #[.int .i64 t.k, .string t.d, .string t.r, .string t.a, .int .i64 t.q, .int .i64 t.m, .int .i64 t.td, .int .i64 t.sd, .int .i64 t.p, .bool t.pa, .int .i64 t.ml, .string t.r0, .string t.r1] T)) := ⟨TB.new t w T, fun i => by simp [go_sem]⟩
theorem TB.other {b p i : Nat} {t : Tr} {x : World} {v : Value} (h : TB b t x) (hn : b ≠ p) : TB b t (x.setCell ⟨p, i, none⟩ v) := by
  have n0 : ¬ b = p := hn
  have n1 : ¬ p = b := fun e => hn e.symm
  exact ⟨by simpa using h.lt, by simp [go_sem, n0, n1, h.c0], by simp [go_sem, n0, n1, h.c1], by simp [go_sem, n0, n1, h.c2], by simp [go_sem, n0, n1, h.c3], by simp [go_sem, n0, n1, h.c4], by simp [go_sem, n0, n1, h.c5], by simp [go_sem, n0, n1, h.c6], by simp [go_sem, n0, n1, h.c7], by simp [go_sem, n0, n1, h.c8], by simp [go_sem, n0, n1, h.c9], by simp [go_sem, n0, n1, h.c10], by simp [go_sem, n0, n1, h.c11], by simp [go_sem, n0, n1, h.c12]⟩
theorem RB.other {b p i : Nat} {t : Tr} {x : World} {v : Value} (h : RB b t x) (hn : b ≠ p) : RB b t (x.setCell ⟨p, i, none⟩ v) :=
  ⟨h.tb.other hn, fun j => by have := h.z j; simp [go_sem, this]⟩
theorem RB.set4 {b : Nat} {t : Tr} {x : World} (v : Int) (h : RB b t x) : RB b { t with q := v } (x.setCell ⟨b, 4, none⟩ (.int .i64 v)) := by
  obtain ⟨⟨lt, c0, c1, c2, c3, c4, c5, c6, c7, c8, c9, c10, c11, c12⟩, z⟩ := h
  exact ⟨⟨by simpa using lt, by simp [go_sem, c0, z], by simp [go_sem, c1, z], by simp [go_sem, c2, z], by simp [go_sem, c3, z], by simp [go_sem, c4, z], by simp [go_sem, c5, z], by simp [go_sem, c6, z], by simp [go_sem, c7, z], by simp [go_sem, c8, z], by simp [go_sem, c9, z], by simp [go_sem, c10, z], by simp [go_sem, c11, z], by simp [go_sem, c12, z]⟩, fun j => by have := z j; simp [go_sem, this]⟩
theorem RB.set5 {b : Nat} {t : Tr} {x : World} (v : Int) (h : RB b t x) : RB b { t with m := v } (x.setCell ⟨b, 5, none⟩ (.int .i64 v)) := by
  obtain ⟨⟨lt, c0, c1, c2, c3, c4, c5, c6, c7, c8, c9, c10, c11, c12⟩, z⟩ := h
  exact ⟨⟨by simpa using lt, by simp [go_sem, c0, z], by simp [go_sem, c1, z], by simp [go_sem, c2, z], by simp [go_sem, c3, z], by simp [go_sem, c4, z], by simp [go_sem, c5, z], by simp [go_sem, c6, z], by simp [go_sem, c7, z], by simp [go_sem, c8, z], by simp [go_sem, c9, z], by simp [go_sem, c10, z], by simp [go_sem, c11, z], by simp [go_sem, c12, z]⟩, fun j => by have := z j; simp [go_sem, this]⟩
theorem RB.set9 {b : Nat} {t : Tr} {x : World} (v : Bool) (h : RB b t x) : RB b { t with pa := v } (x.setCell ⟨b, 9, none⟩ (.bool v)) := by
  obtain ⟨⟨lt, c0, c1, c2, c3, c4, c5, c6, c7, c8, c9, c10, c11, c12⟩, z⟩ := h
  exact ⟨⟨by simpa using lt, by simp [go_sem, c0, z], by simp [go_sem, c1, z], by simp [go_sem, c2, z], by simp [go_sem, c3, z], by simp [go_sem, c4, z], by simp [go_sem, c5, z], by simp [go_sem, c6, z], by simp [go_sem, c7, z], by simp [go_sem, c8, z], by simp [go_sem, c9, z], by simp [go_sem, c10, z], by simp [go_sem, c11, z], by simp [go_sem, c12, z]⟩, fun j => by have := z j; simp [go_sem, this]⟩
theorem RB.set10 {b : Nat} {t : Tr} {x : World} (v : Int) (h : RB b t x) : RB b { t with ml := v } (x.setCell ⟨b, 10, none⟩ (.int .i64 v)) := by
  obtain ⟨⟨lt, c0, c1, c2, c3, c4, c5, c6, c7, c8, c9, c10, c11, c12⟩, z⟩ := h
  exact ⟨⟨by simpa using lt, by simp [go_sem, c0, z], by simp [go_sem, c1, z], by simp [go_sem, c2, z], by simp [go_sem, c3, z], by simp [go_sem, c4, z], by simp [go_sem, c5, z], by simp [go_sem, c6, z], by simp [go_sem, c7, z], by simp [go_sem, c8, z], by simp [go_sem, c9, z], by simp [go_sem, c10, z], by simp [go_sem, c11, z], by simp [go_sem, c12, z]⟩, fun j => by have := z j; simp [go_sem, this]⟩
/-- What a split answers. -/
def spE (t : Tr) (n : Int) : Int := if tE t ≠ 0 then tE t else if alB t = false then 10 else if ptB t n = false then 2 else 0
def spA (t : Tr) (n : Int) : Tr := if spE t n = 0 then (⟨t.k, t.d, t.r, t.a, n, csh t n, t.td, t.sd, t.p, false, 0, t.r0, t.r1⟩ : Tr) else zT
def spB (t : Tr) (n : Int) : Tr := if spE t n = 0 then (if t.q - n < t.ml then (⟨t.k, t.d, t.r, t.a, t.q - n, t.m - csh t n, t.td, t.sd, t.p, false, 0, t.r0, t.r1⟩ : Tr) else (⟨t.k, t.d, t.r, t.a, t.q - n, t.m - csh t n, t.td, t.sd, t.p, t.pa, t.ml, t.r0, t.r1⟩ : Tr)) else zT
/-- What is known where a split is made. -/
structure Spl (t : Tr) (n : Int) : Prop where
  n1 : 1 ≤ n
  nq : n < t.q
  q2 : t.q ≤ 1000000000000000
  m2 : t.m ≤ 1000000000000000
  v0 : 0 ≤ csh t n
  vm : csh t n ≤ t.m
  e : cE t n = 0
  v : cV t n = csh t n
theorem spl_of {t : Tr} {n : Int} (hE : tE t = 0) (hP : ptB t n = true) : Spl t n := by
  unfold ptB at hP
  simp only [Bool.and_eq_true, decide_eq_true_eq] at hP
  obtain ⟨p1, p2, p3, p4⟩ := hP
  have g := good_of hE
  obtain ⟨_, _, v0, v1⟩ := cash_in hE p1 (by omega)
  refine ⟨p1, p2, g.q2, g.m2, v0, v1, ?_, ?_⟩
  · unfold cE; rw [if_neg (fun h => h hE), if_neg (by omega)]
  · unfold cV; rw [if_neg (fun h => h hE), if_neg (by omega)]
end Go.Proofs.YtipgpmjhoaenlaaDoor
