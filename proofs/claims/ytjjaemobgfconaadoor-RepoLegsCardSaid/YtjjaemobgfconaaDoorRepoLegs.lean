/-
  RepoLegs: for every input the Go function 'giro/girolaw41.RepoLegs' returns true and leaves its arguments as they were. Conditions: the listed package-level variables read as the program's text lays them (tied by the card).
-/
import Derived.Test.YtjjaemobgfconaaDoorRows
import Derived.Test.YtjjaemobgfconaaDoorRepoLegsWalk
import Derived.Test.YtjjaemobgfconaaDoorCards
import Derived.Test.YtjjaemobgfconaaDoorTie
import Derived.SevenTiedAt
import Derived.Test.YtjjaemobgfconaaDoorLeaf
import Derived.WalkKit
import Derived.ProofKit
import Derived.OpenShut
import Derived.ShutString
import Derived.ChangeOld
import Derived.Below
import Derived.LaidMore
import Derived.Stop.Joined
namespace Go.Proofs.YtjjaemobgfconaaDoor.RepoLegs
open Go.ChangeShapes Go.WideShapes Go.ChangeAt Go.RowKit
open Go.ChangeMaps (open_string shut_string)
set_option linter.unusedVariables false

theorem own : ownKnob Tryd.prog.godebug = none := by kernel_rfl
theorem laidOut : laidOutB Tryd.prog = true := by kernel_rfl
def laid : List (String × DataW Unit) := [("giro/ident.shapes", Rows.laid_giro_ident_shapes)]
theorem door_met (os : Os) (args : Array Value) : laidMetH Tryd.prog laid ((World.doorLaid Tryd.prog 400 os).forCall (fun _ _ => 0) ⟨#[], args, []⟩).memory :=
  laidMetH_of_parts3 (fuel := 8) (laidMet_of_run' 8 (by kernel_rfl) (by kernel_rfl)) (by kernel_rfl) (by kernel_rfl)

set_option maxHeartbeats 8000000 in
set_option maxRecDepth 100000 in
theorem lifted (os : Os) (started : os.Started) (H : Type) (enc : TypeId × Value → H) :
    ReturnsInHanded {} Tryd.checked os 7 .any (fun w args => (Rows.repoLegsSpec.pre enc Tryd.prog Tryd.f7 [] false w args ∧ laidMetH Tryd.prog laid w) ∧ sizedMet enc Tryd.prog Tryd.f7 (OpenSpec.ofChange Rows.repoLegsSpec) false w args)
      (Rows.repoLegsSpec.post enc Tryd.prog Tryd.f7 false true false false) := by
  refine returnsInHanded_of_change_and (C := Tryd.checked) (X := fun w _ => laidMetH Tryd.prog laid w) (fun _ _ _ hh h => h.of_heap hh) own started (by kernel_rfl) Tryd.func7
    (ChangeSpec.witness_shaped (enc := enc) (C := Tryd.checked) (os := os) (X := fun w _ => laidMetH Tryd.prog laid w) false (World.doorLaid Tryd.prog 400 os) #[.agg #[.string ByteArray.empty, .string ByteArray.empty, .string ByteArray.empty, .string ByteArray.empty, .int .i64 0, .int .i64 0, .int .i64 0, .int .i64 0, .int .i64 0, .int .i64 0]] 8 rfl (World.shaped_of_RefB (by kernel_rfl) (by kernel_rfl)) (by kernel_rfl) (by kernel_rfl) (by kernel_rfl) (door_met os _)) ?_
  intro W base args ds gs before hval0 hW _ hsz hL _
  have hval : ∀ (j : Nat) t v, Tryd.f7.params[j]? = some t → args[j]? = some v → Value.okWide Tryd.prog W .any base t v := hval0
  have hW' := hW
  obtain ⟨p, q, hA0, hV, rfl, hfz, hnd⟩ := hW
  have hA : DataW.TrodAll enc Tryd.prog W 0 (fun _ => true) true Tryd.f7.params.toList args.toList ds p := hA0
  rw [Tryd.params7] at hA hval
  obtain ⟨v0, vs0, d0, ds0, p0, q0, hargs, rfl, rfl, h0, r0⟩ := trodAll_cons hA
  obtain ⟨rfl, rfl, rfl⟩ := trodAll_nil r0
  obtain rfl : args = #[v0] := by cases args; simp_all
  obtain ⟨rfl, rfl⟩ := trodVars_none hV
  have k0 := h0
  have lt0 : ∀ x ∈ p0, x.block < W.heap.size := by obtain ⟨m, hm⟩ := k0; exact DataW.trod_lt m _ _ _ hm
  obtain ⟨cs0, rfl, sz0⟩ := okWide_struct Tryd.underlying25 (hval 0 25 v0 rfl rfl)
  rw [show Tryd.prog.cellsOf 25 = 10 by kernel_rfl] at sz0
  obtain ⟨l0⟩ := cs0
  replace sz0 : l0.length = 10 := sz0
  obtain ⟨d0_0, m0_0, rfl, sz0_0⟩ := len_succ sz0
  obtain ⟨d0_1, m0_1, rfl, sz0_1⟩ := len_succ sz0_0
  obtain ⟨d0_2, m0_2, rfl, sz0_2⟩ := len_succ sz0_1
  obtain ⟨d0_3, m0_3, rfl, sz0_3⟩ := len_succ sz0_2
  obtain ⟨d0_4, m0_4, rfl, sz0_4⟩ := len_succ sz0_3
  obtain ⟨d0_5, m0_5, rfl, sz0_5⟩ := len_succ sz0_4
  obtain ⟨d0_6, m0_6, rfl, sz0_6⟩ := len_succ sz0_5
  obtain ⟨d0_7, m0_7, rfl, sz0_7⟩ := len_succ sz0_6
  obtain ⟨d0_8, m0_8, rfl, sz0_8⟩ := len_succ sz0_7
  obtain ⟨d0_9, m0_9, rfl, sz0_9⟩ := len_succ sz0_8
  obtain rfl := len_zero sz0_9
  obtain ⟨e0_0, rfl, w0_0⟩ := (leaf_of h0 8 0 9 (by kernel_rfl) d0_0 rfl).2.2 Tryd.underlying9
  obtain ⟨e0_1, rfl, w0_1⟩ := (leaf_of h0 8 1 9 (by kernel_rfl) d0_1 rfl).2.2 Tryd.underlying9
  obtain ⟨e0_2, rfl, w0_2⟩ := (leaf_of h0 8 2 9 (by kernel_rfl) d0_2 rfl).2.2 Tryd.underlying9
  obtain ⟨e0_3, rfl, w0_3⟩ := (leaf_of h0 8 3 9 (by kernel_rfl) d0_3 rfl).2.2 Tryd.underlying9
  obtain ⟨e0_4, rfl, w0_4⟩ := (leaf_of h0 8 4 2 (by kernel_rfl) d0_4 rfl).1 .i64 Tryd.underlying2
  obtain ⟨e0_5, rfl, w0_5⟩ := (leaf_of h0 8 5 2 (by kernel_rfl) d0_5 rfl).1 .i64 Tryd.underlying2
  obtain ⟨e0_6, rfl, w0_6⟩ := (leaf_of h0 8 6 2 (by kernel_rfl) d0_6 rfl).1 .i64 Tryd.underlying2
  obtain ⟨e0_7, rfl, w0_7⟩ := (leaf_of h0 8 7 2 (by kernel_rfl) d0_7 rfl).1 .i64 Tryd.underlying2
  obtain ⟨e0_8, rfl, w0_8⟩ := (leaf_of h0 8 8 3 (by kernel_rfl) d0_8 rfl).1 .i64 Tryd.underlying3
  obtain ⟨e0_9, rfl, w0_9⟩ := (leaf_of h0 8 9 3 (by kernel_rfl) d0_9 rfl).1 .i64 Tryd.underlying3
  clear hA0 hval0
  have OK0 : (⟨e0_0, e0_1, e0_2, e0_3, e0_4, e0_5, e0_6, e0_7, e0_8, e0_9⟩ : Ag).Ok := ⟨w0_0, w0_1, w0_2, w0_3, wfi w0_4, wfi w0_5, wfi w0_6, wfi w0_7, wfi w0_8, wfi w0_9⟩
  have WK := (repoLegs_walk (⟨e0_0, e0_1, e0_2, e0_3, e0_4, e0_5, e0_6, e0_7, e0_8, e0_9⟩ : Ag) W OK0 hL)
  dsimp only at WK
  refine WK.mono fun e W' ⟨he, bel⟩ => ?_
  subst he
  exact ⟨_, rfl, _, _, _, [], _, [], hW', trodAll_mk1 (shut_bool Tryd.underlying4 _), (trodAll_cons_mk (Below.trod laidOut (by kernel_rfl) (of_decide_eq_true (by kernel_rfl)) k0 bel lt0) trodAll_mk0), rfl, bel.frame _, fun h => by cases h⟩

theorem over : Rows.RepoLegsSaid :=
  OpenClaim.holds_of_wide 7 Tryd.f7 rfl rfl rfl rfl rfl rfl rfl ⟨rfl, rfl, rfl, rfl, rfl⟩ rfl rfl rfl rfl rfl (by kernel_rfl) Tryd.func7 (by kernel_rfl)
    (of_decide_eq_true (by kernel_rfl)) (by unfold Func.isWrapper; rw [if_neg (of_decide_eq_false (by kernel_rfl))]; exact ⟨rfl, rfl⟩)
    (fun os started H enc _ => lifted os started H enc)

/-- The statement. -/
theorem card_holds : Rows.RepoLegsCardSaid :=
  Claim7.holds_tied_plain_at .later [] [.data] true (true, "407f182c70e33ace43c04bdb95a9513599f42238c2b31f7aa20a33d3221331a8") false
    over (fun _ h => by cases h) (by kernel_rfl) (fun _ h => by cases h) repoLegs_row_tie rfl ⟨rfl, rfl⟩ (by kernel_rfl) rfl
    (fun f fn hf hfn => by
      obtain rfl : f = 7 := Option.some.inj ((show Tryd.prog.funcNamed "giro/girolaw41.RepoLegs" = some 7 by kernel_rfl).symm.trans hf) |>.symm
      obtain rfl : fn = Tryd.f7 := (Option.some.inj (Tryd.func7.symm.trans hfn)).symm
      exact ⟨by kernel_rfl, fun j t ht => by
        rw [Tryd.params7] at ht
        have hm : t ∈ [25] := by simpa using Array.mem_of_getElem? ht
        have hall : ([25].all fun u => !Tryd.prog.wantsStandIn u) = true := by kernel_rfl
        exact (show Tryd.prog.wantsStandIn t = false by simpa using List.all_eq_true.1 hall t hm)⟩)
    (by kernel_rfl)
#print axioms card_holds
end Go.Proofs.YtjjaemobgfconaaDoor.RepoLegs
