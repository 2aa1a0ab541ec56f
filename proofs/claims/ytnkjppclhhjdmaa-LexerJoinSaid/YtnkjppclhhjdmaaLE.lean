/-
  The reference: Kind.
-/
import Derived.Test.YtnkjppclhhjdmaaRows
import Derived.Test.YtnkjppclhhjdmaaLD
import Derived.WalkKit
import Derived.WalkSpells
import Derived.StillTactics
import Derived.Laws.Pointers
import Derived.Laws.Strings
import Derived.Laws.Strings2
import Derived.Laws.BytesArg
import Derived.LoopTactic
import Derived.Outline
import Derived.Below
import Derived.Laws.Externs
import Derived.Deep.QuietTactic
import Derived.Deep.RegionWith
import Derived.BigQuiet
import Derived.RegionTactic
import Derived.ChangeAlike
import Derived.OwnWalk
import Derived.Laws.OwnMore
import Derived.Laws.Rows
import Derived.Laws.EntriesVeiled
import Derived.Lib.MinMax
import Derived.Lib.Strings
namespace Go.Proofs.Ytnkjppclhhjdmaa
open Go.RowKit
set_option linter.unusedVariables false
set_option linter.unusedSimpArgs false
set_option linter.unnecessarySimpa false

def rkB (b0 b1 l b2 b3 b4 : Bool) : Int := if b0 = true then 4 else if (b1 && l) = true then 2 else if b2 = true then 3 else if b3 = true then 1 else 0
def reB (b0 b1 l b2 b3 b4 : Bool) : Int := if b0 = true then 0 else if (b1 && l) = true then 0 else if b2 = true then 0 else if b3 = true then 0 else if b4 = true then 0 else 30
theorem rk_eq (l : List Nat) (h32 : ¬ 32 < l.length) : (Lx.kindK l : Int) = rkB (Lx.dateB l) (Lx.whole l) (decide (l.length ≤ 16)) (Lx.decB l) (Lx.nameB l) (Lx.wordB l) := by
  unfold Lx.kindK rkB
  rw [if_neg h32]
  generalize Lx.dateB l = b0
  generalize (Lx.whole l && decide (l.length ≤ 16)) = b1
  generalize Lx.decB l = b2
  generalize Lx.nameB l = b3
  cases b0 <;> cases b1 <;> cases b2 <;> cases b3 <;> rfl
theorem re_eq (l : List Nat) (h32 : ¬ 32 < l.length) : (Lx.kindE l : Int) = reB (Lx.dateB l) (Lx.whole l) (decide (l.length ≤ 16)) (Lx.decB l) (Lx.nameB l) (Lx.wordB l) := by
  unfold Lx.kindE reB
  rw [if_neg h32]
  generalize Lx.dateB l = b0
  generalize (Lx.whole l && decide (l.length ≤ 16)) = b1
  generalize Lx.decB l = b2
  generalize Lx.nameB l = b3
  generalize Lx.wordB l = b4
  cases b0 <;> cases b1 <;> cases b2 <;> cases b3 <;> cases b4 <;> rfl
set_option maxHeartbeats 8000000 in
set_option maxRecDepth 20000 in
theorem rkind_any (s : ByteArray) (w : World) (hm : s.size ≤ 100000) : Calls Try.prog 11 #[.string s] w fun e w' => e = .returned (.tuple #[.int .i64 (Lx.kindK (bn s) : Int), .int .i64 (Lx.kindE (bn s) : Int)]) ∧ w = w' := by
  have hI : (s.size : Int) ≤ 100000 := by omega
  by_cases h32 : 32 < s.size
  · have h32' : (32 : Int) < s.size := by omega
    have HE := hide (kind_long (bn s) (by rw [bn_len]; exact h32))
    generalize Lx.kindK (bn s) = K at *
    generalize Lx.kindE (bn s) = E at *
    clear h32
    go_enter Try.func11, Try.ntmps11
    go_wp2_with fail
    exact bodyPost_ret (v := .tuple #[.int .i64 0, .int .i64 5]) (by simp [results, Try.results11, go_sem]) rfl ⟨ret_t (by rw [HE.out.1]; rfl) (by rw [HE.out.2]; rfl), rfl⟩
  · have h32' : ¬ (32 : Int) < s.size := by omega
    have HK := hide (rk_eq (bn s) (by rw [bn_len]; exact h32))
    have HE := hide (re_eq (bn s) (by rw [bn_len]; exact h32))
    rw [bn_len] at HK HE
    have R0 := fun w => hide (rdate_any s w hm)
    have R1 := fun w => hide (rdigits_any s w hm)
    have R2 := fun w => hide (rdecimal_any s w hm)
    have R3 := fun w => hide (rname_any s w hm)
    have R4 := fun w => hide (rword_any s w hm)
    generalize (Lx.kindK (bn s) : Int) = K at *
    generalize (Lx.kindE (bn s) : Int) = E at *
    generalize Lx.dateB (bn s) = B0 at *
    generalize Lx.whole (bn s) = B1 at *
    generalize Lx.decB (bn s) = B2 at *
    generalize Lx.nameB (bn s) = B3 at *
    generalize Lx.wordB (bn s) = B4 at *
    clear h32
    cases B0
    · cases B1
      · cases B2
        · cases B3
          · cases B4
            · go_enter Try.func11, Try.ntmps11
              go_wp2_with fail
              refine (R0 _).out.mono ?_
              rintro e w' ⟨rfl, rfl⟩
              go_wp2_with fail
              refine (R1 _).out.mono ?_
              rintro e w' ⟨rfl, rfl⟩
              go_wp2_with fail
              refine (R2 _).out.mono ?_
              rintro e w' ⟨rfl, rfl⟩
              go_wp2_with fail
              refine (R3 _).out.mono ?_
              rintro e w' ⟨rfl, rfl⟩
              go_wp2_with fail
              refine (R4 _).out.mono ?_
              rintro e w' ⟨rfl, rfl⟩
              go_wp2_with fail
              exact bodyPost_ret (v := .tuple #[.int .i64 0, .int .i64 30]) (by simp [results, Try.results11, go_sem]) rfl ⟨ret_t (by rw [HK.out]; simp [rkB, go_sem]) (by rw [HE.out]; simp [reB, go_sem]), rfl⟩
            · go_enter Try.func11, Try.ntmps11
              go_wp2_with fail
              refine (R0 _).out.mono ?_
              rintro e w' ⟨rfl, rfl⟩
              go_wp2_with fail
              refine (R1 _).out.mono ?_
              rintro e w' ⟨rfl, rfl⟩
              go_wp2_with fail
              refine (R2 _).out.mono ?_
              rintro e w' ⟨rfl, rfl⟩
              go_wp2_with fail
              refine (R3 _).out.mono ?_
              rintro e w' ⟨rfl, rfl⟩
              go_wp2_with fail
              refine (R4 _).out.mono ?_
              rintro e w' ⟨rfl, rfl⟩
              go_wp2_with fail
              exact bodyPost_ret (v := .tuple #[.int .i64 0, .int .i64 0]) (by simp [results, Try.results11, go_sem]) rfl ⟨ret_t (by rw [HK.out]; simp [rkB, go_sem]) (by rw [HE.out]; simp [reB, go_sem]), rfl⟩
          · go_enter Try.func11, Try.ntmps11
            go_wp2_with fail
            refine (R0 _).out.mono ?_
            rintro e w' ⟨rfl, rfl⟩
            go_wp2_with fail
            refine (R1 _).out.mono ?_
            rintro e w' ⟨rfl, rfl⟩
            go_wp2_with fail
            refine (R2 _).out.mono ?_
            rintro e w' ⟨rfl, rfl⟩
            go_wp2_with fail
            refine (R3 _).out.mono ?_
            rintro e w' ⟨rfl, rfl⟩
            go_wp2_with fail
            exact bodyPost_ret (v := .tuple #[.int .i64 1, .int .i64 0]) (by simp [results, Try.results11, go_sem]) rfl ⟨ret_t (by rw [HK.out]; simp [rkB, go_sem]) (by rw [HE.out]; simp [reB, go_sem]), rfl⟩
        · go_enter Try.func11, Try.ntmps11
          go_wp2_with fail
          refine (R0 _).out.mono ?_
          rintro e w' ⟨rfl, rfl⟩
          go_wp2_with fail
          refine (R1 _).out.mono ?_
          rintro e w' ⟨rfl, rfl⟩
          go_wp2_with fail
          refine (R2 _).out.mono ?_
          rintro e w' ⟨rfl, rfl⟩
          go_wp2_with fail
          exact bodyPost_ret (v := .tuple #[.int .i64 3, .int .i64 0]) (by simp [results, Try.results11, go_sem]) rfl ⟨ret_t (by rw [HK.out]; simp [rkB, go_sem]) (by rw [HE.out]; simp [reB, go_sem]), rfl⟩
      · by_cases h16 : s.size ≤ 16
        · have h16' : (s.size : Int) ≤ 16 := by omega
          rw [decide_eq_true h16] at HK HE
          clear h16
          go_enter Try.func11, Try.ntmps11
          go_wp2_with fail
          refine (R0 _).out.mono ?_
          rintro e w' ⟨rfl, rfl⟩
          go_wp2_with fail
          refine (R1 _).out.mono ?_
          rintro e w' ⟨rfl, rfl⟩
          go_wp2_with fail
          exact bodyPost_ret (v := .tuple #[.int .i64 2, .int .i64 0]) (by simp [results, Try.results11, go_sem]) rfl ⟨ret_t (by rw [HK.out]; simp [rkB, go_sem]) (by rw [HE.out]; simp [reB, go_sem]), rfl⟩
        · have h16' : ¬ (s.size : Int) ≤ 16 := by omega
          rw [decide_eq_false h16] at HK HE
          clear h16
          cases B2
          · cases B3
            · cases B4
              · go_enter Try.func11, Try.ntmps11
                go_wp2_with fail
                refine (R0 _).out.mono ?_
                rintro e w' ⟨rfl, rfl⟩
                go_wp2_with fail
                refine (R1 _).out.mono ?_
                rintro e w' ⟨rfl, rfl⟩
                go_wp2_with fail
                refine (R2 _).out.mono ?_
                rintro e w' ⟨rfl, rfl⟩
                go_wp2_with fail
                refine (R3 _).out.mono ?_
                rintro e w' ⟨rfl, rfl⟩
                go_wp2_with fail
                refine (R4 _).out.mono ?_
                rintro e w' ⟨rfl, rfl⟩
                go_wp2_with fail
                exact bodyPost_ret (v := .tuple #[.int .i64 0, .int .i64 30]) (by simp [results, Try.results11, go_sem]) rfl ⟨ret_t (by rw [HK.out]; simp [rkB, go_sem]) (by rw [HE.out]; simp [reB, go_sem]), rfl⟩
              · go_enter Try.func11, Try.ntmps11
                go_wp2_with fail
                refine (R0 _).out.mono ?_
                rintro e w' ⟨rfl, rfl⟩
                go_wp2_with fail
                refine (R1 _).out.mono ?_
                rintro e w' ⟨rfl, rfl⟩
                go_wp2_with fail
                refine (R2 _).out.mono ?_
                rintro e w' ⟨rfl, rfl⟩
                go_wp2_with fail
                refine (R3 _).out.mono ?_
                rintro e w' ⟨rfl, rfl⟩
                go_wp2_with fail
                refine (R4 _).out.mono ?_
                rintro e w' ⟨rfl, rfl⟩
                go_wp2_with fail
                exact bodyPost_ret (v := .tuple #[.int .i64 0, .int .i64 0]) (by simp [results, Try.results11, go_sem]) rfl ⟨ret_t (by rw [HK.out]; simp [rkB, go_sem]) (by rw [HE.out]; simp [reB, go_sem]), rfl⟩
            · go_enter Try.func11, Try.ntmps11
              go_wp2_with fail
              refine (R0 _).out.mono ?_
              rintro e w' ⟨rfl, rfl⟩
              go_wp2_with fail
              refine (R1 _).out.mono ?_
              rintro e w' ⟨rfl, rfl⟩
              go_wp2_with fail
              refine (R2 _).out.mono ?_
              rintro e w' ⟨rfl, rfl⟩
              go_wp2_with fail
              refine (R3 _).out.mono ?_
              rintro e w' ⟨rfl, rfl⟩
              go_wp2_with fail
              exact bodyPost_ret (v := .tuple #[.int .i64 1, .int .i64 0]) (by simp [results, Try.results11, go_sem]) rfl ⟨ret_t (by rw [HK.out]; simp [rkB, go_sem]) (by rw [HE.out]; simp [reB, go_sem]), rfl⟩
          · go_enter Try.func11, Try.ntmps11
            go_wp2_with fail
            refine (R0 _).out.mono ?_
            rintro e w' ⟨rfl, rfl⟩
            go_wp2_with fail
            refine (R1 _).out.mono ?_
            rintro e w' ⟨rfl, rfl⟩
            go_wp2_with fail
            refine (R2 _).out.mono ?_
            rintro e w' ⟨rfl, rfl⟩
            go_wp2_with fail
            exact bodyPost_ret (v := .tuple #[.int .i64 3, .int .i64 0]) (by simp [results, Try.results11, go_sem]) rfl ⟨ret_t (by rw [HK.out]; simp [rkB, go_sem]) (by rw [HE.out]; simp [reB, go_sem]), rfl⟩
    · go_enter Try.func11, Try.ntmps11
      go_wp2_with fail
      refine (R0 _).out.mono ?_
      rintro e w' ⟨rfl, rfl⟩
      go_wp2_with fail
      exact bodyPost_ret (v := .tuple #[.int .i64 4, .int .i64 0]) (by simp [results, Try.results11, go_sem]) rfl ⟨ret_t (by rw [HK.out]; simp [rkB, go_sem]) (by rw [HE.out]; simp [reB, go_sem]), rfl⟩

end Go.Proofs.Ytnkjppclhhjdmaa
