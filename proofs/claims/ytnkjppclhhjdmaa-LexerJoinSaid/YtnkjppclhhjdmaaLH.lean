/-
  known.
-/
import Derived.Test.YtnkjppclhhjdmaaRows
import Derived.Test.YtnkjppclhhjdmaaLG
import Derived.WalkKit
import Derived.WalkSpells
import Derived.StillTactics
import Derived.Laws.Pointers
import Derived.Laws.Strings
import Derived.Laws.Strings2
import Derived.Laws.BytesArg
import Derived.LoopTactic
import Derived.Outline
import Derived.Below
import Derived.Laws.Externs
import Derived.Deep.QuietTactic
import Derived.Deep.RegionWith
import Derived.BigQuiet
import Derived.RegionTactic
import Derived.ChangeAlike
import Derived.OwnWalk
import Derived.Laws.OwnMore
import Derived.Laws.Rows
import Derived.Laws.EntriesVeiled
import Derived.Lib.MinMax
import Derived.Lib.Strings
namespace Go.Proofs.Ytnkjppclhhjdmaa
open Go.RowKit
set_option linter.unusedVariables false
set_option linter.unusedSimpArgs false
set_option linter.unnecessarySimpa false

theorem cell_of_row (w : World) (g i : Nat) (cur : Array Value) (T : TypeId) (fr : Nat × Nat) (h : w.heap[g]? = some (.cells cur T fr)) : w.cell? ⟨g, i, none⟩ = cur.toList[i]? := by
  simp [World.cell?, h, go_sem]
theorem OwT.row {w : World} {base : Nat} {v : Value} {L : List Lx.Tk} (h : OwT w base v L) (h0 : L.length ≠ 0) : ∃ g cap, v = .slice (some ⟨g, 0, none⟩) L.length cap ∧ g < w.heap.size ∧ ∀ i u, (tkL L)[i]? = some u → w.cell? ⟨g, i, none⟩ = some u := by
  rcases h.2 with ⟨hv, hz⟩ | ⟨g, cap, cur, hv, hb, hg, hc, hm, hs, ht⟩
  · exact absurd hz h0
  · refine ⟨g, cap, hv, (Array.getElem?_eq_some_iff.1 hg).1, fun i u hu => ?_⟩
    rw [cell_of_row w g i cur 37 (0, 0) hg]
    rw [← ht, List.getElem?_take] at hu
    split at hu
    · exact hu
    · cases hu
def L6 : List Lx.Tk := [⟨0, [112, 97, 121], 0⟩, ⟨1, [80, 49], 4⟩, ⟨0, [97, 109, 111, 117, 110, 116], 7⟩, ⟨3, [49, 53, 48, 48, 46, 48, 48], 14⟩, ⟨0, [100, 97, 121], 22⟩, ⟨4, [50, 48, 50, 54, 45, 49, 49, 45, 49, 54], 26⟩]
def s6 : ByteArray := ⟨#[112, 97, 121, 32, 80, 49, 32, 97, 109, 111, 117, 110, 116, 32, 49, 53, 48, 48, 46, 48, 48, 32, 100, 97, 121, 32, 50, 48, 50, 54, 45, 49, 49, 45, 49, 54, 32, 35, 32, 115, 97, 108, 97, 114, 121]⟩
theorem tok6 : Lx.tok 0 (bn s6) = (L6, 0, 0) := by decide +kernel
theorem kind7 : Lx.kindK (bn ⟨#[48, 48, 55]⟩) = 1 ∧ Lx.kindE (bn ⟨#[48, 48, 55]⟩) = 0 := by decide +kernel
theorem tk6 (w : World) : Calls Try.prog 13 #[.string ⟨#[112, 97, 121, 32, 80, 49, 32, 97, 109, 111, 117, 110, 116, 32, 49, 53, 48, 48, 46, 48, 48, 32, 100, 97, 121, 32, 50, 48, 50, 54, 45, 49, 49, 45, 49, 54, 32, 35, 32, 115, 97, 108, 97, 114, 121]⟩] w fun e w' => ∃ g cap, e = .returned (.tuple #[.slice (some ⟨g, 0, none⟩) 6 cap, .int .i64 0, .int .i64 0]) ∧ g < w'.heap.size ∧ (∀ i u, (tkL L6)[i]? = some u → w'.cell? ⟨g, i, none⟩ = some u) ∧ Below w.heap.size w w' := by
  refine (tokenize_any s6 w (by decide)).mono ?_
  rintro e w' ⟨v, p, er, rfl, hp, hb⟩
  unfold TkP at hp
  rw [if_neg (by decide), tok6] at hp
  obtain ⟨rfl, rfl, _, ho⟩ := hp
  obtain ⟨g, cap, rfl, hg, hc⟩ := ho.row (by decide)
  exact ⟨g, cap, rfl, hg, hc, hb⟩
theorem cls7 (w : World) : Calls Try.prog 10 #[.string ⟨#[48, 48, 55]⟩] w fun e w' => e = .returned (.tuple #[.int .i64 1, .int .i64 0]) ∧ Below w.heap.size w w' := by
  have h := classify_any ⟨#[48, 48, 55]⟩ w (by decide)
  rw [kind7.1, kind7.2] at h
  exact h
theorem row6 (w : World) : ∀ i u, (tkL L6)[i]? = some u → (w.alloc (Obj.cells #[.int .i64 0, .string ⟨#[112, 97, 121]⟩, .int .i64 0, .int .i64 1, .string ⟨#[80, 49]⟩, .int .i64 4, .int .i64 0, .string ⟨#[97, 109, 111, 117, 110, 116]⟩, .int .i64 7, .int .i64 3, .string ⟨#[49, 53, 48, 48, 46, 48, 48]⟩, .int .i64 14, .int .i64 0, .string ⟨#[100, 97, 121]⟩, .int .i64 22, .int .i64 4, .string ⟨#[50, 48, 50, 54, 45, 49, 49, 45, 49, 54]⟩, .int .i64 26] 36)).cell? ⟨w.heap.size, i, none⟩ = some u := by
  intro i u hu
  rw [World.cell?_alloc_at _ _ _ _ rfl]
  rw [← Array.getElem?_toList]
  exact hu
set_option maxHeartbeats 8000000 in
set_option maxRecDepth 20000 in
theorem known_any (w : World) : Calls Try.prog 12 #[] w fun e w' => e = .returned (.bool true) ∧ Below w.heap.size w w' := by
  have TK := fun w => hide (tk6 w)
  have C7 := fun w => hide (cls7 w)
  have R6 := fun w => hide (row6 w)
  go_enter Try.func12, Try.ntmps12
  go_wp2_with fail
  refine (TK _).out.mono ?_
  rintro e w1 ⟨g, cap, rfl, hg, hc, hb⟩
  have G := hide hg
  have HC := hide hc
  have B1 := hide hb
  clear hg hc hb
  go_wp2_with fail
  have B2 := hide (one_alloc w1 (Obj.cells #[.int .i64 0, .string ⟨#[112, 97, 121]⟩, .int .i64 0, .int .i64 1, .string ⟨#[80, 49]⟩, .int .i64 4, .int .i64 0, .string ⟨#[97, 109, 111, 117, 110, 116]⟩, .int .i64 7, .int .i64 3, .string ⟨#[49, 53, 48, 48, 46, 48, 48]⟩, .int .i64 14, .int .i64 0, .string ⟨#[100, 97, 121]⟩, .int .i64 22, .int .i64 4, .string ⟨#[50, 48, 50, 54, 45, 49, 49, 45, 49, 54]⟩, .int .i64 26] 36))
  have HC2 := hide (show ∀ i u, (tkL L6)[i]? = some u → (w1.alloc (Obj.cells #[.int .i64 0, .string ⟨#[112, 97, 121]⟩, .int .i64 0, .int .i64 1, .string ⟨#[80, 49]⟩, .int .i64 4, .int .i64 0, .string ⟨#[97, 109, 111, 117, 110, 116]⟩, .int .i64 7, .int .i64 3, .string ⟨#[49, 53, 48, 48, 46, 48, 48]⟩, .int .i64 14, .int .i64 0, .string ⟨#[100, 97, 121]⟩, .int .i64 22, .int .i64 4, .string ⟨#[50, 48, 50, 54, 45, 49, 49, 45, 49, 54]⟩, .int .i64 26] 36)).cell? ⟨g, i, none⟩ = some u from fun i u hu => (B2.out.cell (p := ⟨g, i, none⟩) G.out).trans (HC.out i u hu))
  have HR2 := R6 w1
  have G2 := hide (show g < (w1.alloc (Obj.cells #[.int .i64 0, .string ⟨#[112, 97, 121]⟩, .int .i64 0, .int .i64 1, .string ⟨#[80, 49]⟩, .int .i64 4, .int .i64 0, .string ⟨#[97, 109, 111, 117, 110, 116]⟩, .int .i64 7, .int .i64 3, .string ⟨#[49, 53, 48, 48, 46, 48, 48]⟩, .int .i64 14, .int .i64 0, .string ⟨#[100, 97, 121]⟩, .int .i64 22, .int .i64 4, .string ⟨#[50, 48, 50, 54, 45, 49, 49, 45, 49, 54]⟩, .int .i64 26] 36)).heap.size by have := G.out; have := B2.out.size; omega)
  have R2 := hide (show w1.heap.size < (w1.alloc (Obj.cells #[.int .i64 0, .string ⟨#[112, 97, 121]⟩, .int .i64 0, .int .i64 1, .string ⟨#[80, 49]⟩, .int .i64 4, .int .i64 0, .string ⟨#[97, 109, 111, 117, 110, 116]⟩, .int .i64 7, .int .i64 3, .string ⟨#[49, 53, 48, 48, 46, 48, 48]⟩, .int .i64 14, .int .i64 0, .string ⟨#[100, 97, 121]⟩, .int .i64 22, .int .i64 4, .string ⟨#[50, 48, 50, 54, 45, 49, 49, 45, 49, 54]⟩, .int .i64 26] 36)).heap.size by simp)
  have B3 := hide (B1.out.trans (B2.out.mono B1.out.size))
  clear HC G B1 B2 TK
  generalize hX : w1.alloc (Obj.cells #[.int .i64 0, .string ⟨#[112, 97, 121]⟩, .int .i64 0, .int .i64 1, .string ⟨#[80, 49]⟩, .int .i64 4, .int .i64 0, .string ⟨#[97, 109, 111, 117, 110, 116]⟩, .int .i64 7, .int .i64 3, .string ⟨#[49, 53, 48, 48, 46, 48, 48]⟩, .int .i64 14, .int .i64 0, .string ⟨#[100, 97, 121]⟩, .int .i64 22, .int .i64 4, .string ⟨#[50, 48, 50, 54, 45, 49, 49, 45, 49, 54]⟩, .int .i64 26] 36) = X at *
  go_loopw [5] (fun v5 wr => ∃ i : Int, v5 = .int .i64 i ∧ 0 ≤ i ∧ i ≤ 6 ∧ Hid (Below X.heap.size X wr)) (fun v5 _ => (6 - intOf v5).toNat)
  case atStart => exact ⟨0, rfl, by omega, by omega, hide (Below.refl _ _)⟩
  case round =>
    obtain ⟨i, rfl, i0, i6, BL⟩ := hrel
    have hi : i = 0 ∨ i = 1 ∨ i = 2 ∨ i = 3 ∨ i = 4 ∨ i = 5 ∨ i = 6 := by omega
    clear i0 i6
    rcases hi with rfl | rfl | rfl | rfl | rfl | rfl | rfl
    · skip
      have a0 : wr.cell? ⟨g, 0, none⟩ = some (.int .i64 0) := (BL.out.cell (p := ⟨g, 0, none⟩) G2.out).trans (HC2.out 0 _ rfl)
      have b0 : wr.cell? ⟨w1.heap.size, 0, none⟩ = some (.int .i64 0) := (BL.out.cell (p := ⟨w1.heap.size, 0, none⟩) R2.out).trans (HR2.out 0 _ rfl)
      have a1 : wr.cell? ⟨g, 1, none⟩ = some (.string ⟨#[112, 97, 121]⟩) := (BL.out.cell (p := ⟨g, 1, none⟩) G2.out).trans (HC2.out 1 _ rfl)
      have b1 : wr.cell? ⟨w1.heap.size, 1, none⟩ = some (.string ⟨#[112, 97, 121]⟩) := (BL.out.cell (p := ⟨w1.heap.size, 1, none⟩) R2.out).trans (HR2.out 1 _ rfl)
      have a2 : wr.cell? ⟨g, 2, none⟩ = some (.int .i64 0) := (BL.out.cell (p := ⟨g, 2, none⟩) G2.out).trans (HC2.out 2 _ rfl)
      have b2 : wr.cell? ⟨w1.heap.size, 2, none⟩ = some (.int .i64 0) := (BL.out.cell (p := ⟨w1.heap.size, 2, none⟩) R2.out).trans (HR2.out 2 _ rfl)
      go_wp2_with fail
      go_quiet (fail)
      go_wp2_with fail
      go_roundw
      case rel => exact ⟨1, rfl, by omega, by omega, hide (below_drewN BL.out _)⟩
      case measure => simp [intOf]
    · skip
      have a0 : wr.cell? ⟨g, 3, none⟩ = some (.int .i64 1) := (BL.out.cell (p := ⟨g, 3, none⟩) G2.out).trans (HC2.out 3 _ rfl)
      have b0 : wr.cell? ⟨w1.heap.size, 3, none⟩ = some (.int .i64 1) := (BL.out.cell (p := ⟨w1.heap.size, 3, none⟩) R2.out).trans (HR2.out 3 _ rfl)
      have a1 : wr.cell? ⟨g, 4, none⟩ = some (.string ⟨#[80, 49]⟩) := (BL.out.cell (p := ⟨g, 4, none⟩) G2.out).trans (HC2.out 4 _ rfl)
      have b1 : wr.cell? ⟨w1.heap.size, 4, none⟩ = some (.string ⟨#[80, 49]⟩) := (BL.out.cell (p := ⟨w1.heap.size, 4, none⟩) R2.out).trans (HR2.out 4 _ rfl)
      have a2 : wr.cell? ⟨g, 5, none⟩ = some (.int .i64 4) := (BL.out.cell (p := ⟨g, 5, none⟩) G2.out).trans (HC2.out 5 _ rfl)
      have b2 : wr.cell? ⟨w1.heap.size, 5, none⟩ = some (.int .i64 4) := (BL.out.cell (p := ⟨w1.heap.size, 5, none⟩) R2.out).trans (HR2.out 5 _ rfl)
      go_wp2_with fail
      go_quiet (fail)
      go_wp2_with fail
      go_roundw
      case rel => exact ⟨2, rfl, by omega, by omega, hide (below_drewN BL.out _)⟩
      case measure => simp [intOf]
    · skip
      have a0 : wr.cell? ⟨g, 6, none⟩ = some (.int .i64 0) := (BL.out.cell (p := ⟨g, 6, none⟩) G2.out).trans (HC2.out 6 _ rfl)
      have b0 : wr.cell? ⟨w1.heap.size, 6, none⟩ = some (.int .i64 0) := (BL.out.cell (p := ⟨w1.heap.size, 6, none⟩) R2.out).trans (HR2.out 6 _ rfl)
      have a1 : wr.cell? ⟨g, 7, none⟩ = some (.string ⟨#[97, 109, 111, 117, 110, 116]⟩) := (BL.out.cell (p := ⟨g, 7, none⟩) G2.out).trans (HC2.out 7 _ rfl)
      have b1 : wr.cell? ⟨w1.heap.size, 7, none⟩ = some (.string ⟨#[97, 109, 111, 117, 110, 116]⟩) := (BL.out.cell (p := ⟨w1.heap.size, 7, none⟩) R2.out).trans (HR2.out 7 _ rfl)
      have a2 : wr.cell? ⟨g, 8, none⟩ = some (.int .i64 7) := (BL.out.cell (p := ⟨g, 8, none⟩) G2.out).trans (HC2.out 8 _ rfl)
      have b2 : wr.cell? ⟨w1.heap.size, 8, none⟩ = some (.int .i64 7) := (BL.out.cell (p := ⟨w1.heap.size, 8, none⟩) R2.out).trans (HR2.out 8 _ rfl)
      go_wp2_with fail
      go_quiet (fail)
      go_wp2_with fail
      go_roundw
      case rel => exact ⟨3, rfl, by omega, by omega, hide (below_drewN BL.out _)⟩
      case measure => simp [intOf]
    · skip
      have a0 : wr.cell? ⟨g, 9, none⟩ = some (.int .i64 3) := (BL.out.cell (p := ⟨g, 9, none⟩) G2.out).trans (HC2.out 9 _ rfl)
      have b0 : wr.cell? ⟨w1.heap.size, 9, none⟩ = some (.int .i64 3) := (BL.out.cell (p := ⟨w1.heap.size, 9, none⟩) R2.out).trans (HR2.out 9 _ rfl)
      have a1 : wr.cell? ⟨g, 10, none⟩ = some (.string ⟨#[49, 53, 48, 48, 46, 48, 48]⟩) := (BL.out.cell (p := ⟨g, 10, none⟩) G2.out).trans (HC2.out 10 _ rfl)
      have b1 : wr.cell? ⟨w1.heap.size, 10, none⟩ = some (.string ⟨#[49, 53, 48, 48, 46, 48, 48]⟩) := (BL.out.cell (p := ⟨w1.heap.size, 10, none⟩) R2.out).trans (HR2.out 10 _ rfl)
      have a2 : wr.cell? ⟨g, 11, none⟩ = some (.int .i64 14) := (BL.out.cell (p := ⟨g, 11, none⟩) G2.out).trans (HC2.out 11 _ rfl)
      have b2 : wr.cell? ⟨w1.heap.size, 11, none⟩ = some (.int .i64 14) := (BL.out.cell (p := ⟨w1.heap.size, 11, none⟩) R2.out).trans (HR2.out 11 _ rfl)
      go_wp2_with fail
      go_quiet (fail)
      go_wp2_with fail
      go_roundw
      case rel => exact ⟨4, rfl, by omega, by omega, hide (below_drewN BL.out _)⟩
      case measure => simp [intOf]
    · skip
      have a0 : wr.cell? ⟨g, 12, none⟩ = some (.int .i64 0) := (BL.out.cell (p := ⟨g, 12, none⟩) G2.out).trans (HC2.out 12 _ rfl)
      have b0 : wr.cell? ⟨w1.heap.size, 12, none⟩ = some (.int .i64 0) := (BL.out.cell (p := ⟨w1.heap.size, 12, none⟩) R2.out).trans (HR2.out 12 _ rfl)
      have a1 : wr.cell? ⟨g, 13, none⟩ = some (.string ⟨#[100, 97, 121]⟩) := (BL.out.cell (p := ⟨g, 13, none⟩) G2.out).trans (HC2.out 13 _ rfl)
      have b1 : wr.cell? ⟨w1.heap.size, 13, none⟩ = some (.string ⟨#[100, 97, 121]⟩) := (BL.out.cell (p := ⟨w1.heap.size, 13, none⟩) R2.out).trans (HR2.out 13 _ rfl)
      have a2 : wr.cell? ⟨g, 14, none⟩ = some (.int .i64 22) := (BL.out.cell (p := ⟨g, 14, none⟩) G2.out).trans (HC2.out 14 _ rfl)
      have b2 : wr.cell? ⟨w1.heap.size, 14, none⟩ = some (.int .i64 22) := (BL.out.cell (p := ⟨w1.heap.size, 14, none⟩) R2.out).trans (HR2.out 14 _ rfl)
      go_wp2_with fail
      go_quiet (fail)
      go_wp2_with fail
      go_roundw
      case rel => exact ⟨5, rfl, by omega, by omega, hide (below_drewN BL.out _)⟩
      case measure => simp [intOf]
    · skip
      have a0 : wr.cell? ⟨g, 15, none⟩ = some (.int .i64 4) := (BL.out.cell (p := ⟨g, 15, none⟩) G2.out).trans (HC2.out 15 _ rfl)
      have b0 : wr.cell? ⟨w1.heap.size, 15, none⟩ = some (.int .i64 4) := (BL.out.cell (p := ⟨w1.heap.size, 15, none⟩) R2.out).trans (HR2.out 15 _ rfl)
      have a1 : wr.cell? ⟨g, 16, none⟩ = some (.string ⟨#[50, 48, 50, 54, 45, 49, 49, 45, 49, 54]⟩) := (BL.out.cell (p := ⟨g, 16, none⟩) G2.out).trans (HC2.out 16 _ rfl)
      have b1 : wr.cell? ⟨w1.heap.size, 16, none⟩ = some (.string ⟨#[50, 48, 50, 54, 45, 49, 49, 45, 49, 54]⟩) := (BL.out.cell (p := ⟨w1.heap.size, 16, none⟩) R2.out).trans (HR2.out 16 _ rfl)
      have a2 : wr.cell? ⟨g, 17, none⟩ = some (.int .i64 26) := (BL.out.cell (p := ⟨g, 17, none⟩) G2.out).trans (HC2.out 17 _ rfl)
      have b2 : wr.cell? ⟨w1.heap.size, 17, none⟩ = some (.int .i64 26) := (BL.out.cell (p := ⟨w1.heap.size, 17, none⟩) R2.out).trans (HR2.out 17 _ rfl)
      go_wp2_with fail
      go_quiet (fail)
      go_wp2_with fail
      go_roundw
      case rel => exact ⟨6, rfl, by omega, by omega, hide (below_drewN BL.out _)⟩
      case measure => simp [intOf]
    · go_wp2_with fail
      refine (C7 _).out.mono ?_
      rintro e w2 ⟨rfl, hb⟩
      have B4 := hide (B3.out.trans ((BL.out.mono B3.out.size).trans (hb.mono (Nat.le_trans B3.out.size BL.out.size))))
      clear hb
      go_wp2_with fail
      go_ret
      exact ⟨rfl, B4.out⟩

end Go.Proofs.Ytnkjppclhhjdmaa
