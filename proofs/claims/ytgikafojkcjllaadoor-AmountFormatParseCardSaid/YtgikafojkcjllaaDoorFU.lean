/-
  The decimal numeral of an unsigned number at this translation.
-/
import Derived.Test.YtgikafojkcjllaaDoorAm7
import Derived.Lib.ItoaMem
import Derived.Lib.AppendIntMem
import Derived.Lib.Walk
import Derived.BigCall
import Derived.BigGuard
namespace Go.Proofs.YtgikafojkcjllaaDoor
open Go.RowKit Go.Sort Go.Shelf
set_option linter.unusedVariables false
set_option linter.unusedSimpArgs false

/-- A byte as a cell's value. -/
abbrev bv : UInt8 → Value := fun (b : UInt8) => Value.int .u8 (b.toNat : Int)
/-- The table of the powers of ten is laid. -/
def Pow (w : World) : Prop := Lib.TabIs Tryd.prog w "internal/strconv.uint64pow10" .u64 Lib.pow10Tab
theorem zero_row (w : World) (nd : Nat) (hs : nd ≤ 24) : Holds bv (w.alloc (.cells Lib.zeros24 57)) w.heap.size 0 (Array.replicate nd (0 : UInt8)) := fun j hj => by
  have hj' : j < nd := by simpa using hj
  refine ⟨?_, World.frozen?_alloc_new _ _ _ _⟩
  rw [World.cell?_alloc_new, Lib.zeros24_at _ (by omega), getElem!_pos _ j hj]
  simp
theorem row_world (w : World) (dk : Array UInt8) (k : Nat) : Below w.heap.size w ((putRow bv (w.alloc (.cells Lib.zeros24 57)) w.heap.size 0 dk).drewN k) := by
  rw [alloc_eq_grow]
  obtain ⟨os, _, e⟩ := putRow_grow_new bv w #[.cells Lib.zeros24 57] w.heap.size 0 dk (Nat.le_refl _)
  rw [e]
  exact Lib.below_grow w.heap.size w (Nat.le_refl _) k os
set_option maxHeartbeats 4000000 in
set_option maxRecDepth 100000 in
theorem fu23_big (u : Nat) (h1 : 100 ≤ u) (hu : u < 18446744073709551616) (w : World) (ht : Pow w) :
    Calls Tryd.prog 23 #[.int .u64 u, .int .i64 10] w fun e w' => e = .returned (.string ⟨(Lib.decDigits u).toArray⟩) ∧ Below w.heap.size w w' := by
  have hn : Lib.nDigits u ≤ 20 := by have := Lib.numDigits_eq u (by omega) hu; split at this <;> omega
  have hal : Tryd.prog.arrayLen 57 = 24 := by kernel_rfl
  have cut : ∀ W, (Instr.sliceAt 57 (.pointer (some ⟨w.heap.size, 0, none⟩)) none (some (.int .i64 (Lib.nDigits u : Int))) none).run Tryd.prog W = .ok (.slice (some ⟨w.heap.size, 0, none⟩) (Lib.nDigits u) 24) W := fun W => by
    rw [run_sliceAt_array_h W 57 ⟨w.heap.size, 0, none⟩ (by simp [Program.arrayLen, Program.elem, Tryd.underlying57]) .i64 (Lib.nDigits u : Int) (by omega) (by rw [hal]; omega)]
    go_simp
    try omega
  have H0 := zero_row w (Lib.nDigits u) (by omega)
  have FM := Tryd.internal_strconv_formatBase10 w.heap.size 0 24 u (Array.replicate (Lib.nDigits u) 0) (w.alloc (.cells Lib.zeros24 57)) H0 (by rw [Array.size_replicate]; exact Lib.lt_pow_nDigits u) hu (by rw [Array.size_replicate]; omega)
  rw [Array.size_replicate] at FM
  have ND := fun W h => hide (Tryd.internal_strconv_numDigits u (by omega) hu W h)
  have HH := hide H0
  have HT := hide ht
  have FM := hide FM
  have q1 : ¬ ((u : Int) < 100) := by omega
  clear H0 hal ht
  go_enter Tryd.func23, Tryd.ntmps23
  go_wp2_with fail
  refine (ND _ (Lib.tabIs_alloc HT.out _)).out.mono ?_
  rintro e w' ⟨rfl, rfl⟩
  go_wp2_with fail
  refine FM.out.mono ?_
  rintro e w' ⟨rfl, k, v', dk, rfl, hF⟩
  have cv : (convert 36 9 (.slice (some ⟨w.heap.size, 0, none⟩) (Lib.nDigits u) 24)).run Tryd.prog ((putRow bv (w.alloc (.cells Lib.zeros24 57)) w.heap.size 0 dk).drewN k) = .ok (.string ⟨(Lib.decDigits u).toArray⟩) ((putRow bv (w.alloc (.cells Lib.zeros24 57)) w.heap.size 0 dk).drewN k) := by
    have h := run_convert_bytes_back (P := Tryd.prog) ((putRow bv (w.alloc (.cells Lib.zeros24 57)) w.heap.size 0 dk).drewN k) 36 9 5 ⟨w.heap.size, 0, none⟩ 24 (Lib.decDigits u) Tryd.underlying36 Tryd.underlying5 Tryd.underlying9 (fun j hj => by
      rw [Lib.row_is_numeral hF j hj, Lib.add_plain, World.cell?_drewN]
      exact cell?_putRow bv _ w.heap.size 0 _ dk HH.out (by rw [hF.size, Array.size_replicate]) j (by rw [hF.size]; rw [Lib.decDigits_length] at hj; exact hj))
    rw [Lib.decDigits_length] at h
    exact h
  have HW := hide (row_world w dk k)
  clear hF
  go_wp2_with fail
  go_ret
  exact ⟨rfl, HW.out⟩
theorem fu_any (u : Nat) (hu : u < 18446744073709551616) (w : World) (ht : Pow w) :
    Calls Tryd.prog 12 #[.int .u64 u, .int .i64 10] w fun e w' => e = .returned (.string ⟨(Lib.decDigits u).toArray⟩) ∧ Below w.heap.size w w' := by
  by_cases h : u < 100
  · exact (fu_small u h w).mono (by rintro e w' ⟨rfl, rfl⟩; exact ⟨rfl, Below.refl _ _⟩)
  · have F := fun w ht => hide (fu23_big u (by omega) hu w ht)
    go_enter Tryd.func12, Tryd.ntmps12
    go_wp2_with fail
    refine (F _ ht).out.mono ?_
    rintro e w' ⟨rfl, hb⟩
    have HB := hide hb
    clear hb
    go_wp2_with fail
    go_ret
    exact ⟨rfl, HB.out⟩
end Go.Proofs.YtgikafojkcjllaaDoor
