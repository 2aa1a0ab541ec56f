/-
  Classify.
-/
import Derived.Test.YtnkjppclhhjdmaaRows
import Derived.Test.YtnkjppclhhjdmaaLA
import Derived.WalkKit
import Derived.WalkSpells
import Derived.StillTactics
import Derived.Laws.Pointers
import Derived.Laws.Strings
import Derived.Laws.Strings2
import Derived.Laws.BytesArg
import Derived.LoopTactic
import Derived.Outline
import Derived.Below
import Derived.Laws.Externs
import Derived.Deep.QuietTactic
import Derived.Deep.RegionWith
import Derived.BigQuiet
import Derived.RegionTactic
import Derived.ChangeAlike
import Derived.OwnWalk
import Derived.Laws.OwnMore
import Derived.Laws.Rows
import Derived.Laws.EntriesVeiled
import Derived.Lib.MinMax
import Derived.Lib.Strings
namespace Go.Proofs.Ytnkjppclhhjdmaa
open Go.RowKit
set_option linter.unusedVariables false
set_option linter.unusedSimpArgs false
set_option linter.unnecessarySimpa false
structure RP (p : Nat) (wx : World) : Prop where
  lt : p < wx.heap.size
  c0 : wx.cell? ⟨p, 0, none⟩ = some (.int .i64 4)
  c1 : wx.cell? ⟨p, 1, none⟩ = some (.func (.func 20) #[] #[])
  c2 : wx.cell? ⟨p, 2, none⟩ = some (.int .i64 2)
  c3 : wx.cell? ⟨p, 3, none⟩ = some (.func (.func 21) #[] #[])
  c4 : wx.cell? ⟨p, 4, none⟩ = some (.int .i64 3)
  c5 : wx.cell? ⟨p, 5, none⟩ = some (.func (.func 23) #[] #[])
  c6 : wx.cell? ⟨p, 6, none⟩ = some (.int .i64 1)
  c7 : wx.cell? ⟨p, 7, none⟩ = some (.func (.func 24) #[] #[])
  c8 : wx.cell? ⟨p, 8, none⟩ = some (.int .i64 0)
  c9 : wx.cell? ⟨p, 9, none⟩ = some (.func (.func 27) #[] #[])
theorem RP.keep {p : Nat} {wx wy : World} (h : RP p wx) (hb : Below wx.heap.size wx wy) : RP p wy := by
  have l := h.lt
  have s := hb.size
  exact ⟨by omega, (hb.cell (p := ⟨p, 0, none⟩) (by simpa using l)).trans h.c0, (hb.cell (p := ⟨p, 1, none⟩) (by simpa using l)).trans h.c1, (hb.cell (p := ⟨p, 2, none⟩) (by simpa using l)).trans h.c2, (hb.cell (p := ⟨p, 3, none⟩) (by simpa using l)).trans h.c3, (hb.cell (p := ⟨p, 4, none⟩) (by simpa using l)).trans h.c4, (hb.cell (p := ⟨p, 5, none⟩) (by simpa using l)).trans h.c5, (hb.cell (p := ⟨p, 6, none⟩) (by simpa using l)).trans h.c6, (hb.cell (p := ⟨p, 7, none⟩) (by simpa using l)).trans h.c7, (hb.cell (p := ⟨p, 8, none⟩) (by simpa using l)).trans h.c8, (hb.cell (p := ⟨p, 9, none⟩) (by simpa using l)).trans h.c9⟩
theorem RP.new (w : World) (T : TypeId) : RP w.heap.size (w.alloc (Obj.cells #[.int .i64 4, .func (.func 20) #[] #[], .int .i64 2, .func (.func 21) #[] #[], .int .i64 3, .func (.func 23) #[] #[], .int .i64 1, .func (.func 24) #[] #[], .int .i64 0, .func (.func 27) #[] #[]] T)) := by
  refine ⟨by simp, ?_, ?_, ?_, ?_, ?_, ?_, ?_, ?_, ?_, ?_⟩ <;> simp [go_sem]
theorem one_alloc (w : World) (o : Obj) : Below w.heap.size w (w.alloc o) := (Below.refl _ _).alloc (Nat.le_refl _) _
def kkB (b0 b1 b2 b3 b4 : Bool) : Int := if b0 = true then 4 else if b1 = true then 2 else if b2 = true then 3 else if b3 = true then 1 else 0
def keB (b0 b1 b2 b3 b4 : Bool) : Int := if b0 = true then 0 else if b1 = true then 0 else if b2 = true then 0 else if b3 = true then 0 else if b4 = true then 0 else 30
theorem kk_eq (l : List Nat) (h : 0 < l.length) (h32 : ¬ 32 < l.length) : (Lx.kindK l : Int) = kkB (Lx.dateB l) (Lx.whole l && decide (l.length ≤ 16)) (Lx.decB l) (l.all Lx.nm) (l.all Lx.lw) := by
  unfold Lx.kindK Lx.nameB kkB
  rw [if_neg h32, decide_eq_true h, Bool.and_true]
  split <;> rename_i h1
  · simp [h1]
  · split <;> rename_i h2
    · simp [h1, h2]
    · split <;> rename_i h3
      · simp [h1, h2, h3]
      · split <;> rename_i h4 <;> simp [h1, h2, h3, h4]
theorem ke_eq (l : List Nat) (h : 0 < l.length) (h32 : ¬ 32 < l.length) : (Lx.kindE l : Int) = keB (Lx.dateB l) (Lx.whole l && decide (l.length ≤ 16)) (Lx.decB l) (l.all Lx.nm) (l.all Lx.lw) := by
  unfold Lx.kindE Lx.nameB Lx.wordB keB
  rw [if_neg h32, decide_eq_true h, Bool.and_true, Bool.and_true]
  generalize Lx.dateB l = b0
  generalize (Lx.whole l && decide (l.length ≤ 16)) = b1
  generalize Lx.decB l = b2
  generalize l.all Lx.nm = b3
  generalize l.all Lx.lw = b4
  cases b0 <;> cases b1 <;> cases b2 <;> cases b3 <;> cases b4 <;> rfl
theorem kind_nil : Lx.kindK [] = 0 ∧ Lx.kindE [] = 30 := by decide
theorem kind_long (l : List Nat) (h : 32 < l.length) : Lx.kindK l = 0 ∧ Lx.kindE l = 5 := by
  unfold Lx.kindK Lx.kindE
  rw [if_pos h, if_pos h]; exact ⟨rfl, rfl⟩
theorem ret_t {a b c d : Int} (h1 : a = c) (h2 : b = d) : Ending.returned (.tuple #[.int .i64 a, .int .i64 b]) = .returned (.tuple #[.int .i64 c, .int .i64 d]) := by rw [h1, h2]
theorem below_eq {P : Program} {f : FuncId} {args : Array Value} {w : World} {v : Value} (h : Calls P f args w fun e w' => e = .returned v ∧ w = w') : Calls P f args w fun e w' => e = .returned v ∧ Below w.heap.size w w' := h.mono fun _ _ q => ⟨q.1, q.2 ▸ Below.refl _ _⟩
set_option maxHeartbeats 8000000 in
set_option maxRecDepth 20000 in
theorem classify_any (s : ByteArray) (w : World) (hm : s.size ≤ 100000) : Calls Try.prog 10 #[.string s] w fun e w' => e = .returned (.tuple #[.int .i64 (Lx.kindK (bn s) : Int), .int .i64 (Lx.kindE (bn s) : Int)]) ∧ Below w.heap.size w w' := by
  have hI : (s.size : Int) ≤ 100000 := by omega
  by_cases h32 : 32 < s.size
  · have h32' : (32 : Int) < s.size := by omega
    have HE := hide (kind_long (bn s) (by rw [bn_len]; exact h32))
    generalize Lx.kindK (bn s) = K at *
    generalize Lx.kindE (bn s) = E at *
    clear h32
    go_enter Try.func10, Try.ntmps10
    go_wp2_with fail
    exact bodyPost_ret (v := .tuple #[.int .i64 0, .int .i64 5]) (by simp [results, Try.results10, go_sem]) rfl ⟨ret_t (by rw [HE.out.1]; rfl) (by rw [HE.out.2]; rfl), Below.refl _ _⟩
  · have h32' : ¬ (32 : Int) < s.size := by omega
    by_cases h0 : s = ⟨#[]⟩
    · subst h0
      have HE := hide (show Lx.kindK (bn ⟨#[]⟩) = 0 ∧ Lx.kindE (bn ⟨#[]⟩) = 30 from kind_nil)
      generalize Lx.kindK (bn ⟨#[]⟩) = K at *
      generalize Lx.kindE (bn ⟨#[]⟩) = E at *
      go_enter Try.func10, Try.ntmps10
      go_wp2_with fail
      exact bodyPost_ret (v := .tuple #[.int .i64 0, .int .i64 30]) (by simp [results, Try.results10, go_sem]) rfl ⟨ret_t (by rw [HE.out.1]; rfl) (by rw [HE.out.2]; rfl), Below.refl _ _⟩
    · have z0 : s.toList.isEmpty = false := by
        rw [List.isEmpty_eq_false_iff]
        intro e
        rw [Lib.toList_data] at e
        exact h0 (ByteArray.ext (Array.toList_inj.1 (e.trans rfl)))
      have hp := size_ne h0
      have HK := hide (kk_eq (bn s) (by rw [bn_len]; exact hp) (by rw [bn_len]; exact h32))
      have HE := hide (ke_eq (bn s) (by rw [bn_len]; exact hp) (by rw [bn_len]; exact h32))
      have R0 := fun w => hide (isDate_any s w hm)
      have R1 := fun w => hide (below_eq (c1_any s w hm))
      have R2 := fun w => hide (isDecimal_any s w hm)
      have R3 := fun w => hide (below_eq (c2_any s w hm))
      have R4 := fun w => hide (below_eq (c3_any s w hm))
      generalize (Lx.kindK (bn s) : Int) = K at *
      generalize (Lx.kindE (bn s) : Int) = E at *
      generalize Lx.dateB (bn s) = B0 at *
      generalize (Lx.whole (bn s) && decide ((bn s).length ≤ 16)) = B1 at *
      generalize Lx.decB (bn s) = B2 at *
      generalize (bn s).all Lx.nm = B3 at *
      generalize (bn s).all Lx.lw = B4 at *
      clear h0 hp h32
      have HR := hide (one_alloc w (Obj.cells #[.int .i64 4, .func (.func 20) #[] #[], .int .i64 2, .func (.func 21) #[] #[], .int .i64 3, .func (.func 23) #[] #[], .int .i64 1, .func (.func 24) #[] #[], .int .i64 0, .func (.func 27) #[] #[]] 50))
      have HP := hide (RP.new w 50)
      go_enter Try.func10, Try.ntmps10
      go_wp2_with fail
      go_loopw [20] (fun s27 wr => ∃ i : Int, s27 = .int .i64 i ∧ 0 ≤ i ∧ i ≤ 5 ∧ Hid ((0 < i → B0 = false) ∧ (1 < i → B1 = false) ∧ (2 < i → B2 = false) ∧ (3 < i → B3 = false) ∧ (4 < i → B4 = false)) ∧ Hid (RP w.heap.size wr) ∧ Hid (Below w.heap.size w wr)) (fun s27 _ => (5 - intOf s27).toNat)
      case atStart => exact ⟨0, rfl, by omega, by omega, hide ⟨fun h => absurd h (by decide), fun h => absurd h (by decide), fun h => absurd h (by decide), fun h => absurd h (by decide), fun h => absurd h (by decide)⟩, HP, HR⟩
      case round =>
        clear HP HR
        obtain ⟨i, rfl, i0, i9, PV, HP, HR⟩ := hrel
        have hi : i = 0 ∨ i = 1 ∨ i = 2 ∨ i = 3 ∨ i = 4 ∨ i = 5 := by omega
        clear i0 i9
        rcases hi with rfl | rfl | rfl | rfl | rfl | rfl
        · cases B0
          · obtain ⟨_, p0, p1, p2, p3, p4, p5, p6, p7, p8, p9⟩ := HP.out
            go_wp2_with fail
            clear p0 p1 p2 p3 p4 p5 p6 p7 p8 p9
            have hx : (wr.alloc (Obj.cells #[.int .i64 4, .func (.func 20) #[] #[]] 50)).cell? ⟨wr.heap.size, 0, none⟩ = some (.int .i64 4) := by simp [go_sem]
            have lx : wr.heap.size < (wr.alloc (Obj.cells #[.int .i64 4, .func (.func 20) #[] #[]] 50)).heap.size := by simp
            have hb := one_alloc wr (Obj.cells #[.int .i64 4, .func (.func 20) #[] #[]] 50)
            have HP := hide (HP.out.keep hb)
            have HR := hide (HR.out.trans (hb.mono HR.out.size))
            clear hb
            generalize wr.alloc (Obj.cells #[.int .i64 4, .func (.func 20) #[] #[]] 50) = X at *
            refine (R0 _).out.mono ?_
            rintro e x1 ⟨rfl, hb⟩
            have hx := (hb.cell (p := ⟨wr.heap.size, 0, none⟩) (by simpa using lx)).trans hx
            have HP := hide (HP.out.keep hb)
            have HR := hide (HR.out.trans (hb.mono HR.out.size))
            clear hb lx
            go_wp2_with fail
            go_roundw
            case rel => exact ⟨1, rfl, by omega, by omega, hide ⟨fun _ => (by first | rfl | trivial), fun h => absurd h (by decide), fun h => absurd h (by decide), fun h => absurd h (by decide), fun h => absurd h (by decide)⟩, HP, HR⟩
            case measure => simp [intOf]
          · obtain ⟨_, p0, p1, p2, p3, p4, p5, p6, p7, p8, p9⟩ := HP.out
            go_wp2_with fail
            clear p0 p1 p2 p3 p4 p5 p6 p7 p8 p9
            have hx : (wr.alloc (Obj.cells #[.int .i64 4, .func (.func 20) #[] #[]] 50)).cell? ⟨wr.heap.size, 0, none⟩ = some (.int .i64 4) := by simp [go_sem]
            have lx : wr.heap.size < (wr.alloc (Obj.cells #[.int .i64 4, .func (.func 20) #[] #[]] 50)).heap.size := by simp
            have hb := one_alloc wr (Obj.cells #[.int .i64 4, .func (.func 20) #[] #[]] 50)
            have HP := hide (HP.out.keep hb)
            have HR := hide (HR.out.trans (hb.mono HR.out.size))
            clear hb
            generalize wr.alloc (Obj.cells #[.int .i64 4, .func (.func 20) #[] #[]] 50) = X at *
            refine (R0 _).out.mono ?_
            rintro e x1 ⟨rfl, hb⟩
            have hx := (hb.cell (p := ⟨wr.heap.size, 0, none⟩) (by simpa using lx)).trans hx
            have HP := hide (HP.out.keep hb)
            have HR := hide (HR.out.trans (hb.mono HR.out.size))
            clear hb lx
            go_wp2_with fail
            exact bodyPost_ret (v := .tuple #[.int .i64 4, .int .i64 0]) (by simp [results, Try.results10, go_sem]) rfl ⟨ret_t (by rw [HK.out]; simp [kkB]) (by rw [HE.out]; simp [keB]), HR.out⟩
        · cases B1
          · obtain ⟨_, p0, p1, p2, p3, p4, p5, p6, p7, p8, p9⟩ := HP.out
            go_wp2_with fail
            clear p0 p1 p2 p3 p4 p5 p6 p7 p8 p9
            have hx : (wr.alloc (Obj.cells #[.int .i64 2, .func (.func 21) #[] #[]] 50)).cell? ⟨wr.heap.size, 0, none⟩ = some (.int .i64 2) := by simp [go_sem]
            have lx : wr.heap.size < (wr.alloc (Obj.cells #[.int .i64 2, .func (.func 21) #[] #[]] 50)).heap.size := by simp
            have hb := one_alloc wr (Obj.cells #[.int .i64 2, .func (.func 21) #[] #[]] 50)
            have HP := hide (HP.out.keep hb)
            have HR := hide (HR.out.trans (hb.mono HR.out.size))
            clear hb
            generalize wr.alloc (Obj.cells #[.int .i64 2, .func (.func 21) #[] #[]] 50) = X at *
            refine (R1 _).out.mono ?_
            rintro e x1 ⟨rfl, hb⟩
            have hx := (hb.cell (p := ⟨wr.heap.size, 0, none⟩) (by simpa using lx)).trans hx
            have HP := hide (HP.out.keep hb)
            have HR := hide (HR.out.trans (hb.mono HR.out.size))
            clear hb lx
            go_wp2_with fail
            go_roundw
            case rel => exact ⟨2, rfl, by omega, by omega, hide ⟨fun _ => PV.out.1 (by decide), fun _ => (by first | rfl | trivial), fun h => absurd h (by decide), fun h => absurd h (by decide), fun h => absurd h (by decide)⟩, HP, HR⟩
            case measure => simp [intOf]
          · obtain ⟨_, p0, p1, p2, p3, p4, p5, p6, p7, p8, p9⟩ := HP.out
            go_wp2_with fail
            clear p0 p1 p2 p3 p4 p5 p6 p7 p8 p9
            have hx : (wr.alloc (Obj.cells #[.int .i64 2, .func (.func 21) #[] #[]] 50)).cell? ⟨wr.heap.size, 0, none⟩ = some (.int .i64 2) := by simp [go_sem]
            have lx : wr.heap.size < (wr.alloc (Obj.cells #[.int .i64 2, .func (.func 21) #[] #[]] 50)).heap.size := by simp
            have hb := one_alloc wr (Obj.cells #[.int .i64 2, .func (.func 21) #[] #[]] 50)
            have HP := hide (HP.out.keep hb)
            have HR := hide (HR.out.trans (hb.mono HR.out.size))
            clear hb
            generalize wr.alloc (Obj.cells #[.int .i64 2, .func (.func 21) #[] #[]] 50) = X at *
            refine (R1 _).out.mono ?_
            rintro e x1 ⟨rfl, hb⟩
            have hx := (hb.cell (p := ⟨wr.heap.size, 0, none⟩) (by simpa using lx)).trans hx
            have HP := hide (HP.out.keep hb)
            have HR := hide (HR.out.trans (hb.mono HR.out.size))
            clear hb lx
            go_wp2_with fail
            have h0 := PV.out.1 (by decide)
            exact bodyPost_ret (v := .tuple #[.int .i64 2, .int .i64 0]) (by simp [results, Try.results10, go_sem]) rfl ⟨ret_t (by rw [HK.out]; simp [kkB, h0]) (by rw [HE.out]; simp [keB, h0]), HR.out⟩
        · cases B2
          · obtain ⟨_, p0, p1, p2, p3, p4, p5, p6, p7, p8, p9⟩ := HP.out
            go_wp2_with fail
            clear p0 p1 p2 p3 p4 p5 p6 p7 p8 p9
            have hx : (wr.alloc (Obj.cells #[.int .i64 3, .func (.func 23) #[] #[]] 50)).cell? ⟨wr.heap.size, 0, none⟩ = some (.int .i64 3) := by simp [go_sem]
            have lx : wr.heap.size < (wr.alloc (Obj.cells #[.int .i64 3, .func (.func 23) #[] #[]] 50)).heap.size := by simp
            have hb := one_alloc wr (Obj.cells #[.int .i64 3, .func (.func 23) #[] #[]] 50)
            have HP := hide (HP.out.keep hb)
            have HR := hide (HR.out.trans (hb.mono HR.out.size))
            clear hb
            generalize wr.alloc (Obj.cells #[.int .i64 3, .func (.func 23) #[] #[]] 50) = X at *
            refine (R2 _).out.mono ?_
            rintro e x1 ⟨rfl, hb⟩
            have hx := (hb.cell (p := ⟨wr.heap.size, 0, none⟩) (by simpa using lx)).trans hx
            have HP := hide (HP.out.keep hb)
            have HR := hide (HR.out.trans (hb.mono HR.out.size))
            clear hb lx
            go_wp2_with fail
            go_roundw
            case rel => exact ⟨3, rfl, by omega, by omega, hide ⟨fun _ => PV.out.1 (by decide), fun _ => PV.out.2.1 (by decide), fun _ => (by first | rfl | trivial), fun h => absurd h (by decide), fun h => absurd h (by decide)⟩, HP, HR⟩
            case measure => simp [intOf]
          · obtain ⟨_, p0, p1, p2, p3, p4, p5, p6, p7, p8, p9⟩ := HP.out
            go_wp2_with fail
            clear p0 p1 p2 p3 p4 p5 p6 p7 p8 p9
            have hx : (wr.alloc (Obj.cells #[.int .i64 3, .func (.func 23) #[] #[]] 50)).cell? ⟨wr.heap.size, 0, none⟩ = some (.int .i64 3) := by simp [go_sem]
            have lx : wr.heap.size < (wr.alloc (Obj.cells #[.int .i64 3, .func (.func 23) #[] #[]] 50)).heap.size := by simp
            have hb := one_alloc wr (Obj.cells #[.int .i64 3, .func (.func 23) #[] #[]] 50)
            have HP := hide (HP.out.keep hb)
            have HR := hide (HR.out.trans (hb.mono HR.out.size))
            clear hb
            generalize wr.alloc (Obj.cells #[.int .i64 3, .func (.func 23) #[] #[]] 50) = X at *
            refine (R2 _).out.mono ?_
            rintro e x1 ⟨rfl, hb⟩
            have hx := (hb.cell (p := ⟨wr.heap.size, 0, none⟩) (by simpa using lx)).trans hx
            have HP := hide (HP.out.keep hb)
            have HR := hide (HR.out.trans (hb.mono HR.out.size))
            clear hb lx
            go_wp2_with fail
            have h0 := PV.out.1 (by decide)
            have h1 := PV.out.2.1 (by decide)
            exact bodyPost_ret (v := .tuple #[.int .i64 3, .int .i64 0]) (by simp [results, Try.results10, go_sem]) rfl ⟨ret_t (by rw [HK.out]; simp [kkB, h0, h1]) (by rw [HE.out]; simp [keB, h0, h1]), HR.out⟩
        · cases B3
          · obtain ⟨_, p0, p1, p2, p3, p4, p5, p6, p7, p8, p9⟩ := HP.out
            go_wp2_with fail
            clear p0 p1 p2 p3 p4 p5 p6 p7 p8 p9
            have hx : (wr.alloc (Obj.cells #[.int .i64 1, .func (.func 24) #[] #[]] 50)).cell? ⟨wr.heap.size, 0, none⟩ = some (.int .i64 1) := by simp [go_sem]
            have lx : wr.heap.size < (wr.alloc (Obj.cells #[.int .i64 1, .func (.func 24) #[] #[]] 50)).heap.size := by simp
            have hb := one_alloc wr (Obj.cells #[.int .i64 1, .func (.func 24) #[] #[]] 50)
            have HP := hide (HP.out.keep hb)
            have HR := hide (HR.out.trans (hb.mono HR.out.size))
            clear hb
            generalize wr.alloc (Obj.cells #[.int .i64 1, .func (.func 24) #[] #[]] 50) = X at *
            refine (R3 _).out.mono ?_
            rintro e x1 ⟨rfl, hb⟩
            have hx := (hb.cell (p := ⟨wr.heap.size, 0, none⟩) (by simpa using lx)).trans hx
            have HP := hide (HP.out.keep hb)
            have HR := hide (HR.out.trans (hb.mono HR.out.size))
            clear hb lx
            go_wp2_with fail
            go_roundw
            case rel => exact ⟨4, rfl, by omega, by omega, hide ⟨fun _ => PV.out.1 (by decide), fun _ => PV.out.2.1 (by decide), fun _ => PV.out.2.2.1 (by decide), fun _ => (by first | rfl | trivial), fun h => absurd h (by decide)⟩, HP, HR⟩
            case measure => simp [intOf]
          · obtain ⟨_, p0, p1, p2, p3, p4, p5, p6, p7, p8, p9⟩ := HP.out
            go_wp2_with fail
            clear p0 p1 p2 p3 p4 p5 p6 p7 p8 p9
            have hx : (wr.alloc (Obj.cells #[.int .i64 1, .func (.func 24) #[] #[]] 50)).cell? ⟨wr.heap.size, 0, none⟩ = some (.int .i64 1) := by simp [go_sem]
            have lx : wr.heap.size < (wr.alloc (Obj.cells #[.int .i64 1, .func (.func 24) #[] #[]] 50)).heap.size := by simp
            have hb := one_alloc wr (Obj.cells #[.int .i64 1, .func (.func 24) #[] #[]] 50)
            have HP := hide (HP.out.keep hb)
            have HR := hide (HR.out.trans (hb.mono HR.out.size))
            clear hb
            generalize wr.alloc (Obj.cells #[.int .i64 1, .func (.func 24) #[] #[]] 50) = X at *
            refine (R3 _).out.mono ?_
            rintro e x1 ⟨rfl, hb⟩
            have hx := (hb.cell (p := ⟨wr.heap.size, 0, none⟩) (by simpa using lx)).trans hx
            have HP := hide (HP.out.keep hb)
            have HR := hide (HR.out.trans (hb.mono HR.out.size))
            clear hb lx
            go_wp2_with fail
            have h0 := PV.out.1 (by decide)
            have h1 := PV.out.2.1 (by decide)
            have h2 := PV.out.2.2.1 (by decide)
            exact bodyPost_ret (v := .tuple #[.int .i64 1, .int .i64 0]) (by simp [results, Try.results10, go_sem]) rfl ⟨ret_t (by rw [HK.out]; simp [kkB, h0, h1, h2]) (by rw [HE.out]; simp [keB, h0, h1, h2]), HR.out⟩
        · cases B4
          · obtain ⟨_, p0, p1, p2, p3, p4, p5, p6, p7, p8, p9⟩ := HP.out
            go_wp2_with fail
            clear p0 p1 p2 p3 p4 p5 p6 p7 p8 p9
            have hx : (wr.alloc (Obj.cells #[.int .i64 0, .func (.func 27) #[] #[]] 50)).cell? ⟨wr.heap.size, 0, none⟩ = some (.int .i64 0) := by simp [go_sem]
            have lx : wr.heap.size < (wr.alloc (Obj.cells #[.int .i64 0, .func (.func 27) #[] #[]] 50)).heap.size := by simp
            have hb := one_alloc wr (Obj.cells #[.int .i64 0, .func (.func 27) #[] #[]] 50)
            have HP := hide (HP.out.keep hb)
            have HR := hide (HR.out.trans (hb.mono HR.out.size))
            clear hb
            generalize wr.alloc (Obj.cells #[.int .i64 0, .func (.func 27) #[] #[]] 50) = X at *
            refine (R4 _).out.mono ?_
            rintro e x1 ⟨rfl, hb⟩
            have hx := (hb.cell (p := ⟨wr.heap.size, 0, none⟩) (by simpa using lx)).trans hx
            have HP := hide (HP.out.keep hb)
            have HR := hide (HR.out.trans (hb.mono HR.out.size))
            clear hb lx
            go_wp2_with fail
            go_roundw
            case rel => exact ⟨5, rfl, by omega, by omega, hide ⟨fun _ => PV.out.1 (by decide), fun _ => PV.out.2.1 (by decide), fun _ => PV.out.2.2.1 (by decide), fun _ => PV.out.2.2.2.1 (by decide), fun _ => (by first | rfl | trivial)⟩, HP, HR⟩
            case measure => simp [intOf]
          · obtain ⟨_, p0, p1, p2, p3, p4, p5, p6, p7, p8, p9⟩ := HP.out
            go_wp2_with fail
            clear p0 p1 p2 p3 p4 p5 p6 p7 p8 p9
            have hx : (wr.alloc (Obj.cells #[.int .i64 0, .func (.func 27) #[] #[]] 50)).cell? ⟨wr.heap.size, 0, none⟩ = some (.int .i64 0) := by simp [go_sem]
            have lx : wr.heap.size < (wr.alloc (Obj.cells #[.int .i64 0, .func (.func 27) #[] #[]] 50)).heap.size := by simp
            have hb := one_alloc wr (Obj.cells #[.int .i64 0, .func (.func 27) #[] #[]] 50)
            have HP := hide (HP.out.keep hb)
            have HR := hide (HR.out.trans (hb.mono HR.out.size))
            clear hb
            generalize wr.alloc (Obj.cells #[.int .i64 0, .func (.func 27) #[] #[]] 50) = X at *
            refine (R4 _).out.mono ?_
            rintro e x1 ⟨rfl, hb⟩
            have hx := (hb.cell (p := ⟨wr.heap.size, 0, none⟩) (by simpa using lx)).trans hx
            have HP := hide (HP.out.keep hb)
            have HR := hide (HR.out.trans (hb.mono HR.out.size))
            clear hb lx
            go_wp2_with fail
            have h0 := PV.out.1 (by decide)
            have h1 := PV.out.2.1 (by decide)
            have h2 := PV.out.2.2.1 (by decide)
            have h3 := PV.out.2.2.2.1 (by decide)
            exact bodyPost_ret (v := .tuple #[.int .i64 0, .int .i64 0]) (by simp [results, Try.results10, go_sem]) rfl ⟨ret_t (by rw [HK.out]; simp [kkB, h0, h1, h2, h3]) (by rw [HE.out]; simp [keB, h0, h1, h2, h3]), HR.out⟩
        · go_wp2_with fail
          have h0 := PV.out.1 (by decide)
          have h1 := PV.out.2.1 (by decide)
          have h2 := PV.out.2.2.1 (by decide)
          have h3 := PV.out.2.2.2.1 (by decide)
          have h4 := PV.out.2.2.2.2 (by decide)
          exact bodyPost_ret (v := .tuple #[.int .i64 0, .int .i64 30]) (by simp [results, Try.results10, go_sem]) rfl ⟨ret_t (by rw [HK.out]; simp [kkB, h0, h1, h2, h3]) (by rw [HE.out]; simp [keB, h0, h1, h2, h3, h4]), HR.out⟩

end Go.Proofs.Ytnkjppclhhjdmaa
