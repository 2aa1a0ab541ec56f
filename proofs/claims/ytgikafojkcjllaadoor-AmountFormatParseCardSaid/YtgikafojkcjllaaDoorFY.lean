/-
  The digits of a text: amount.allDigits at this translation.
-/
import Derived.Test.YtgikafojkcjllaaDoorFX
import Derived.Lib.ConvBytes
namespace Go.Proofs.YtgikafojkcjllaaDoor
open Go.RowKit
set_option linter.unusedVariables false
set_option linter.unusedSimpArgs false

/-- The byte at a place. -/
def gb (s : ByteArray) (j : Nat) : Int := ((s.data.toList.getD j 0).toNat : Int)
theorem gb_bd (s : ByteArray) (j : Nat) : 0 ≤ gb s j ∧ gb s j ≤ 255 := by
  unfold gb
  have := (s.data.toList.getD j 0).toNat_lt
  omega
def Dg (c : Int) : Prop := 48 ≤ c ∧ c ≤ 57
theorem bytes_below (w : World) (s : ByteArray) : Below w.heap.size w (Lib.bytesWorld w 5 s) :=
  ⟨rfl, rfl, rfl, by rw [Lib.bytesWorld_size]; omega, fun k hk => Lib.bytesWorld_at_old w 5 s k hk⟩
theorem alld_yes (s : ByteArray) (w : World) (hm : s.size ≤ 1000000) (h : ∀ j, j < s.size → Dg (gb s j)) : Calls Tryd.prog 21 #[.string s] w fun e w' => e = .returned (.bool true) ∧ Below w.heap.size w w' := by
  have CV := Lib.run_convert_string_bytes (P := Tryd.prog) w 9 36 5 s Tryd.underlying9 Tryd.underlying36 Tryd.underlying5
  have CL := hide (fun j hj => Lib.bytesWorld_cell w 5 s j hj)
  have CL : Hid (∀ j, j < s.size → (Lib.bytesWorld w 5 s).cell? ⟨w.heap.size, j, none⟩ = some (.int .u8 (gb s j))) := CL
  have HB := hide (bytes_below w s)
  have HD := hide h
  clear h
  generalize grownCap w s.size 0 5 = cap at *
  generalize Lib.bytesWorld w 5 s = X at *
  generalize hn : s.size = n at *
  go_enter Tryd.func21, Tryd.ntmps21
  go_wp2_with fail
  go_loop [4, 8] (fun v4 v8 => ∃ (k : Nat), v8 = .int .i64 (k : Int) ∧ k ≤ n) (fun _ v8 => n - (intOf v8).toNat)
  case atStart => exact ⟨0, rfl, Nat.zero_le _⟩
  case round =>
    obtain ⟨k, rfl, hk⟩ := hrel
    by_cases hlt : k < n
    · have hc := CL.out k hlt
      obtain ⟨d1, d2⟩ := HD.out k hlt
      generalize gb s k = c at *
      go_wp2_with fail
      go_round
      case rel => exact ⟨k + 1, by go_num, by omega⟩
      case measure => simp [intOf]; omega
    · go_wp2_with fail
      go_ret
      exact ⟨rfl, HB.out⟩
theorem alld_no (s : ByteArray) (w : World) (m : Nat) (hm : s.size ≤ 1000000) (hlt0 : m < s.size) (h : ∀ j, j < m → Dg (gb s j)) (hb : ¬ Dg (gb s m)) : Calls Tryd.prog 21 #[.string s] w fun e w' => e = .returned (.bool false) ∧ Below w.heap.size w w' := by
  have CV := Lib.run_convert_string_bytes (P := Tryd.prog) w 9 36 5 s Tryd.underlying9 Tryd.underlying36 Tryd.underlying5
  have CL := hide (fun j hj => Lib.bytesWorld_cell w 5 s j hj)
  have CL : Hid (∀ j, j < s.size → (Lib.bytesWorld w 5 s).cell? ⟨w.heap.size, j, none⟩ = some (.int .u8 (gb s j))) := CL
  have HB := hide (bytes_below w s)
  have HD := hide h
  have HN := hide hb
  clear h hb
  generalize grownCap w s.size 0 5 = cap at *
  generalize Lib.bytesWorld w 5 s = X at *
  generalize hn : s.size = n at *
  go_enter Tryd.func21, Tryd.ntmps21
  go_wp2_with fail
  go_loop [4, 8] (fun v4 v8 => ∃ (k : Nat), v8 = .int .i64 (k : Int) ∧ k ≤ m) (fun _ v8 => n - (intOf v8).toNat)
  case atStart => exact ⟨0, rfl, Nat.zero_le _⟩
  case round =>
    obtain ⟨k, rfl, hk⟩ := hrel
    have hlt : k < n := by omega
    have hc := CL.out k hlt
    by_cases hkm : k < m
    · obtain ⟨d1, d2⟩ := HD.out k hkm
      generalize gb s k = c at *
      go_wp2_with fail
      go_round
      case rel => exact ⟨k + 1, by go_num, by omega⟩
      case measure => simp [intOf]; omega
    · obtain rfl : k = m := by omega
      have hN := HN.out
      clear HN HD CL
      have hbd := gb_bd s k
      generalize gb s k = c at *
      unfold Dg at hN
      by_cases c1 : c < 48
      · clear hN
        go_wp2_with fail
        go_ret
        exact ⟨rfl, HB.out⟩
      · have c2 : 57 < c := by omega
        clear hN
        go_wp2_with fail
        go_ret
        exact ⟨rfl, HB.out⟩
end Go.Proofs.YtgikafojkcjllaaDoor
