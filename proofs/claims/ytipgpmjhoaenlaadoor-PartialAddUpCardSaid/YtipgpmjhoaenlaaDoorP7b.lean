/-
  Blocks that hold a trade, written whole; what stays as it was meanwhile.
-/
import Derived.Test.YtipgpmjhoaenlaaDoorP7
import Derived.Test.YtipgpmjhoaenlaaDoorInv
namespace Go.Proofs.YtipgpmjhoaenlaaDoor
open Go.RowKit
set_option linter.unusedVariables false
set_option linter.unusedSimpArgs false

theorem RB.set0 {b : Nat} {t : Tr} {x : World} (v : Int) (h : RB b t x) : RB b { t with k := v } (x.setCell ⟨b, 0, none⟩ (.int .i64 v)) := by
  obtain ⟨⟨lt, c0, c1, c2, c3, c4, c5, c6, c7, c8, c9, c10, c11, c12⟩, z⟩ := h
  exact ⟨⟨by simpa using lt, by simp [go_sem, c0, z], by simp [go_sem, c1, z], by simp [go_sem, c2, z], by simp [go_sem, c3, z], by simp [go_sem, c4, z], by simp [go_sem, c5, z], by simp [go_sem, c6, z], by simp [go_sem, c7, z], by simp [go_sem, c8, z], by simp [go_sem, c9, z], by simp [go_sem, c10, z], by simp [go_sem, c11, z], by simp [go_sem, c12, z]⟩, fun j => by have := z j; simp [go_sem, this]⟩
theorem RB.set1 {b : Nat} {t : Tr} {x : World} (v : ByteArray) (h : RB b t x) : RB b { t with d := v } (x.setCell ⟨b, 1, none⟩ (.string v)) := by
  obtain ⟨⟨lt, c0, c1, c2, c3, c4, c5, c6, c7, c8, c9, c10, c11, c12⟩, z⟩ := h
  exact ⟨⟨by simpa using lt, by simp [go_sem, c0, z], by simp [go_sem, c1, z], by simp [go_sem, c2, z], by simp [go_sem, c3, z], by simp [go_sem, c4, z], by simp [go_sem, c5, z], by simp [go_sem, c6, z], by simp [go_sem, c7, z], by simp [go_sem, c8, z], by simp [go_sem, c9, z], by simp [go_sem, c10, z], by simp [go_sem, c11, z], by simp [go_sem, c12, z]⟩, fun j => by have := z j; simp [go_sem, this]⟩
theorem RB.set2 {b : Nat} {t : Tr} {x : World} (v : ByteArray) (h : RB b t x) : RB b { t with r := v } (x.setCell ⟨b, 2, none⟩ (.string v)) := by
  obtain ⟨⟨lt, c0, c1, c2, c3, c4, c5, c6, c7, c8, c9, c10, c11, c12⟩, z⟩ := h
  exact ⟨⟨by simpa using lt, by simp [go_sem, c0, z], by simp [go_sem, c1, z], by simp [go_sem, c2, z], by simp [go_sem, c3, z], by simp [go_sem, c4, z], by simp [go_sem, c5, z], by simp [go_sem, c6, z], by simp [go_sem, c7, z], by simp [go_sem, c8, z], by simp [go_sem, c9, z], by simp [go_sem, c10, z], by simp [go_sem, c11, z], by simp [go_sem, c12, z]⟩, fun j => by have := z j; simp [go_sem, this]⟩
theorem RB.set3 {b : Nat} {t : Tr} {x : World} (v : ByteArray) (h : RB b t x) : RB b { t with a := v } (x.setCell ⟨b, 3, none⟩ (.string v)) := by
  obtain ⟨⟨lt, c0, c1, c2, c3, c4, c5, c6, c7, c8, c9, c10, c11, c12⟩, z⟩ := h
  exact ⟨⟨by simpa using lt, by simp [go_sem, c0, z], by simp [go_sem, c1, z], by simp [go_sem, c2, z], by simp [go_sem, c3, z], by simp [go_sem, c4, z], by simp [go_sem, c5, z], by simp [go_sem, c6, z], by simp [go_sem, c7, z], by simp [go_sem, c8, z], by simp [go_sem, c9, z], by simp [go_sem, c10, z], by simp [go_sem, c11, z], by simp [go_sem, c12, z]⟩, fun j => by have := z j; simp [go_sem, this]⟩
theorem RB.set6 {b : Nat} {t : Tr} {x : World} (v : Int) (h : RB b t x) : RB b { t with td := v } (x.setCell ⟨b, 6, none⟩ (.int .i64 v)) := by
  obtain ⟨⟨lt, c0, c1, c2, c3, c4, c5, c6, c7, c8, c9, c10, c11, c12⟩, z⟩ := h
  exact ⟨⟨by simpa using lt, by simp [go_sem, c0, z], by simp [go_sem, c1, z], by simp [go_sem, c2, z], by simp [go_sem, c3, z], by simp [go_sem, c4, z], by simp [go_sem, c5, z], by simp [go_sem, c6, z], by simp [go_sem, c7, z], by simp [go_sem, c8, z], by simp [go_sem, c9, z], by simp [go_sem, c10, z], by simp [go_sem, c11, z], by simp [go_sem, c12, z]⟩, fun j => by have := z j; simp [go_sem, this]⟩
theorem RB.set7 {b : Nat} {t : Tr} {x : World} (v : Int) (h : RB b t x) : RB b { t with sd := v } (x.setCell ⟨b, 7, none⟩ (.int .i64 v)) := by
  obtain ⟨⟨lt, c0, c1, c2, c3, c4, c5, c6, c7, c8, c9, c10, c11, c12⟩, z⟩ := h
  exact ⟨⟨by simpa using lt, by simp [go_sem, c0, z], by simp [go_sem, c1, z], by simp [go_sem, c2, z], by simp [go_sem, c3, z], by simp [go_sem, c4, z], by simp [go_sem, c5, z], by simp [go_sem, c6, z], by simp [go_sem, c7, z], by simp [go_sem, c8, z], by simp [go_sem, c9, z], by simp [go_sem, c10, z], by simp [go_sem, c11, z], by simp [go_sem, c12, z]⟩, fun j => by have := z j; simp [go_sem, this]⟩
theorem RB.set8 {b : Nat} {t : Tr} {x : World} (v : Int) (h : RB b t x) : RB b { t with p := v } (x.setCell ⟨b, 8, none⟩ (.int .i64 v)) := by
  obtain ⟨⟨lt, c0, c1, c2, c3, c4, c5, c6, c7, c8, c9, c10, c11, c12⟩, z⟩ := h
  exact ⟨⟨by simpa using lt, by simp [go_sem, c0, z], by simp [go_sem, c1, z], by simp [go_sem, c2, z], by simp [go_sem, c3, z], by simp [go_sem, c4, z], by simp [go_sem, c5, z], by simp [go_sem, c6, z], by simp [go_sem, c7, z], by simp [go_sem, c8, z], by simp [go_sem, c9, z], by simp [go_sem, c10, z], by simp [go_sem, c11, z], by simp [go_sem, c12, z]⟩, fun j => by have := z j; simp [go_sem, this]⟩
theorem RB.set11 {b : Nat} {t : Tr} {x : World} (v : ByteArray) (h : RB b t x) : RB b { t with r0 := v } (x.setCell ⟨b, 11, none⟩ (.string v)) := by
  obtain ⟨⟨lt, c0, c1, c2, c3, c4, c5, c6, c7, c8, c9, c10, c11, c12⟩, z⟩ := h
  exact ⟨⟨by simpa using lt, by simp [go_sem, c0, z], by simp [go_sem, c1, z], by simp [go_sem, c2, z], by simp [go_sem, c3, z], by simp [go_sem, c4, z], by simp [go_sem, c5, z], by simp [go_sem, c6, z], by simp [go_sem, c7, z], by simp [go_sem, c8, z], by simp [go_sem, c9, z], by simp [go_sem, c10, z], by simp [go_sem, c11, z], by simp [go_sem, c12, z]⟩, fun j => by have := z j; simp [go_sem, this]⟩
theorem RB.set12 {b : Nat} {t : Tr} {x : World} (v : ByteArray) (h : RB b t x) : RB b { t with r1 := v } (x.setCell ⟨b, 12, none⟩ (.string v)) := by
  obtain ⟨⟨lt, c0, c1, c2, c3, c4, c5, c6, c7, c8, c9, c10, c11, c12⟩, z⟩ := h
  exact ⟨⟨by simpa using lt, by simp [go_sem, c0, z], by simp [go_sem, c1, z], by simp [go_sem, c2, z], by simp [go_sem, c3, z], by simp [go_sem, c4, z], by simp [go_sem, c5, z], by simp [go_sem, c6, z], by simp [go_sem, c7, z], by simp [go_sem, c8, z], by simp [go_sem, c9, z], by simp [go_sem, c10, z], by simp [go_sem, c11, z], by simp [go_sem, c12, z]⟩, fun j => by have := z j; simp [go_sem, this]⟩
theorem RB.put {b : Nat} {t : Tr} {x : World} (t1 : Tr) (h : RB b t x) : RB b t1 (((((((((((((x.setCell ⟨b, 0, none⟩ (.int .i64 t1.k)).setCell ⟨b, 1, none⟩ (.string t1.d)).setCell ⟨b, 2, none⟩ (.string t1.r)).setCell ⟨b, 3, none⟩ (.string t1.a)).setCell ⟨b, 4, none⟩ (.int .i64 t1.q)).setCell ⟨b, 5, none⟩ (.int .i64 t1.m)).setCell ⟨b, 6, none⟩ (.int .i64 t1.td)).setCell ⟨b, 7, none⟩ (.int .i64 t1.sd)).setCell ⟨b, 8, none⟩ (.int .i64 t1.p)).setCell ⟨b, 9, none⟩ (.bool t1.pa)).setCell ⟨b, 10, none⟩ (.int .i64 t1.ml)).setCell ⟨b, 11, none⟩ (.string t1.r0)).setCell ⟨b, 12, none⟩ (.string t1.r1)) := by
  have h0 := RB.set0 t1.k h
  have h1 := RB.set1 t1.d h0
  have h2 := RB.set2 t1.r h1
  have h3 := RB.set3 t1.a h2
  have h4 := RB.set4 t1.q h3
  have h5 := RB.set5 t1.m h4
  have h6 := RB.set6 t1.td h5
  have h7 := RB.set7 t1.sd h6
  have h8 := RB.set8 t1.p h7
  have h9 := RB.set9 t1.pa h8
  have h10 := RB.set10 t1.ml h9
  have h11 := RB.set11 t1.r0 h10
  have h12 := RB.set12 t1.r1 h11
  exact h12
theorem TB.puto {b p : Nat} {t : Tr} {x : World} (t1 : Tr) (h : TB b t x) (hn : b ≠ p) : TB b t (((((((((((((x.setCell ⟨p, 0, none⟩ (.int .i64 t1.k)).setCell ⟨p, 1, none⟩ (.string t1.d)).setCell ⟨p, 2, none⟩ (.string t1.r)).setCell ⟨p, 3, none⟩ (.string t1.a)).setCell ⟨p, 4, none⟩ (.int .i64 t1.q)).setCell ⟨p, 5, none⟩ (.int .i64 t1.m)).setCell ⟨p, 6, none⟩ (.int .i64 t1.td)).setCell ⟨p, 7, none⟩ (.int .i64 t1.sd)).setCell ⟨p, 8, none⟩ (.int .i64 t1.p)).setCell ⟨p, 9, none⟩ (.bool t1.pa)).setCell ⟨p, 10, none⟩ (.int .i64 t1.ml)).setCell ⟨p, 11, none⟩ (.string t1.r0)).setCell ⟨p, 12, none⟩ (.string t1.r1)) := (TB.other (TB.other (TB.other (TB.other (TB.other (TB.other (TB.other (TB.other (TB.other (TB.other (TB.other (TB.other (TB.other h hn) hn) hn) hn) hn) hn) hn) hn) hn) hn) hn) hn) hn)
theorem RB.puto {b p : Nat} {t : Tr} {x : World} (t1 : Tr) (h : RB b t x) (hn : b ≠ p) : RB b t (((((((((((((x.setCell ⟨p, 0, none⟩ (.int .i64 t1.k)).setCell ⟨p, 1, none⟩ (.string t1.d)).setCell ⟨p, 2, none⟩ (.string t1.r)).setCell ⟨p, 3, none⟩ (.string t1.a)).setCell ⟨p, 4, none⟩ (.int .i64 t1.q)).setCell ⟨p, 5, none⟩ (.int .i64 t1.m)).setCell ⟨p, 6, none⟩ (.int .i64 t1.td)).setCell ⟨p, 7, none⟩ (.int .i64 t1.sd)).setCell ⟨p, 8, none⟩ (.int .i64 t1.p)).setCell ⟨p, 9, none⟩ (.bool t1.pa)).setCell ⟨p, 10, none⟩ (.int .i64 t1.ml)).setCell ⟨p, 11, none⟩ (.string t1.r0)).setCell ⟨p, 12, none⟩ (.string t1.r1)) := (RB.other (RB.other (RB.other (RB.other (RB.other (RB.other (RB.other (RB.other (RB.other (RB.other (RB.other (RB.other (RB.other h hn) hn) hn) hn) hn) hn) hn) hn) hn) hn) hn) hn) hn)
theorem below_put {B p : Nat} {w x : World} (t1 : Tr) (h : Below B w x) (hn : B ≤ p) : Below B w (((((((((((((x.setCell ⟨p, 0, none⟩ (.int .i64 t1.k)).setCell ⟨p, 1, none⟩ (.string t1.d)).setCell ⟨p, 2, none⟩ (.string t1.r)).setCell ⟨p, 3, none⟩ (.string t1.a)).setCell ⟨p, 4, none⟩ (.int .i64 t1.q)).setCell ⟨p, 5, none⟩ (.int .i64 t1.m)).setCell ⟨p, 6, none⟩ (.int .i64 t1.td)).setCell ⟨p, 7, none⟩ (.int .i64 t1.sd)).setCell ⟨p, 8, none⟩ (.int .i64 t1.p)).setCell ⟨p, 9, none⟩ (.bool t1.pa)).setCell ⟨p, 10, none⟩ (.int .i64 t1.ml)).setCell ⟨p, 11, none⟩ (.string t1.r0)).setCell ⟨p, 12, none⟩ (.string t1.r1)) := (Below.setCell (Below.setCell (Below.setCell (Below.setCell (Below.setCell (Below.setCell (Below.setCell (Below.setCell (Below.setCell (Below.setCell (Below.setCell (Below.setCell (Below.setCell h hn _) hn _) hn _) hn _) hn _) hn _) hn _) hn _) hn _) hn _) hn _) hn _) hn _)
/-- What stays as it was while both copies are made. -/
structure WS (w : World) (t : Tr) (wx : World) : Prop where
  below : Below w.heap.size w wx
  b0 : TB w.heap.size t wx
  b4 : RB (w.heap.size + 1) zT wx
  b5 : RB (w.heap.size + 1 + 1) zT wx
theorem WS.keep {w wx wy : World} {t : Tr} (h : WS w t wx) (hb : Below wx.heap.size wx wy) : WS w t wy :=
  ⟨h.below.trans (hb.mono h.below.size), h.b0.keep hb, h.b4.keep hb, h.b5.keep hb⟩
theorem WS.put {w wx : World} {t : Tr} {p : Nat} (t1 : Tr) (h : WS w t wx) (hp : w.heap.size + 1 + 1 < p) : WS w t (((((((((((((wx.setCell ⟨p, 0, none⟩ (.int .i64 t1.k)).setCell ⟨p, 1, none⟩ (.string t1.d)).setCell ⟨p, 2, none⟩ (.string t1.r)).setCell ⟨p, 3, none⟩ (.string t1.a)).setCell ⟨p, 4, none⟩ (.int .i64 t1.q)).setCell ⟨p, 5, none⟩ (.int .i64 t1.m)).setCell ⟨p, 6, none⟩ (.int .i64 t1.td)).setCell ⟨p, 7, none⟩ (.int .i64 t1.sd)).setCell ⟨p, 8, none⟩ (.int .i64 t1.p)).setCell ⟨p, 9, none⟩ (.bool t1.pa)).setCell ⟨p, 10, none⟩ (.int .i64 t1.ml)).setCell ⟨p, 11, none⟩ (.string t1.r0)).setCell ⟨p, 12, none⟩ (.string t1.r1)) :=
  ⟨below_put t1 h.below (by omega), h.b0.puto t1 (by omega), h.b4.puto t1 (by omega), h.b5.puto t1 (by omega)⟩
end Go.Proofs.YtipgpmjhoaenlaaDoor
