/-
  Contracts: Same, word and field (a number's four bytes), read and number (their number), bytes.Clone.
-/
import Derived.Test.YtgjdaipofekjfaaR5
import Derived.Deep.QuietTactic
import Derived.Lib.Strings
namespace Go.Proofs.Ytgjdaipofekjfaa
open Go.RowKit
set_option linter.unusedVariables false
set_option linter.unusedSimpArgs false
set_option linter.unnecessarySimpa false

/-- The bytes as a string. -/
def sB (l : List Nat) : ByteArray := strOfNums (l.map fun c : Nat => (c : Int))
theorem sB_inj {a b : List Nat} (ha : Crc.Bts a) (hb : Crc.Bts b) : sB a = sB b ↔ a = b := by
  constructor
  · intro h
    have h1 := congrArg (fun x => x.data.toList) h
    simp only [sB, strOfNums_data, List.map_map] at h1
    have hl : a.length = b.length := by have := congrArg List.length h1; simpa using this
    apply List.ext_getElem hl
    intro i h2 h3
    have h4 := congrArg (fun x => x[i]?) h1
    simp only [List.getElem?_map, List.getElem?_eq_getElem h2, List.getElem?_eq_getElem h3, Option.map_some, Function.comp, Int.toNat_natCast, Option.some.injEq] at h4
    have ea := ha _ (List.getElem_mem h2)
    have eb := hb _ (List.getElem_mem h3)
    have h5 := congrArg UInt8.toNat h4
    simp at h5
    rwa [Nat.mod_eq_of_lt ea, Nat.mod_eq_of_lt eb] at h5
  · rintro rfl; rfl

theorem conv_rd {w : World} {v : Value} {l : List Nat} (h : RdB w v l) : (convert 22 9 v).run Try.prog w = .ok (.string (sB l)) w := by
  rcases h.2 with ⟨a0, rfl, rfl⟩ | ⟨b, off, cap, rfl, g1, g2, g3, gc⟩
  · rw [run_convert_bytes_string (P := Try.prog) w 22 9 5 a0 0 0 Try.underlying22 Try.underlying5 Try.underlying9]
    cases a0 with
    | none => simp [Conv.bytesToString, sB, strOfNums]; rfl
    | some x => simp [Conv.bytesToString, loadCells, loadCellsFrom, sB, strOfNums]; rfl
  · exact run_convert_bytes_arg (P := Try.prog) w 22 5 Try.underlying22 Try.underlying5 b off l.length cap (l.map fun c : Nat => (c : Int)) (by simp) (fun i hi => by
      rw [gc i hi]; congr 2; simp [List.getD_eq_getElem?_getD, hi]) 9 Try.underlying9

theorem same_any (v1 v2 : Value) (l1 l2 : List Nat) (w : World) (h1 : RdB w v1 l1) (h2 : RdB w v2 l2) :
    Calls Try.prog 18 #[v1, v2] w fun e w' => e = .returned (.bool (decide (l1 = l2))) ∧ w = w' := by
  have c1 := conv_rd h1
  have c2 := conv_rd h2
  have HI := hide (sB_inj h1.1 h2.1)
  obtain ⟨a1, k1, rfl⟩ := h1.form
  obtain ⟨a2, k2, rfl⟩ := h2.form
  clear h1 h2
  generalize sB l1 = s1 at *
  generalize sB l2 = s2 at *
  go_enter Try.func18, Try.ntmps18
  go_wp2_with fail
  go_ret
  refine ⟨ret_b ?_, rfl⟩
  have hb : (s1.toList == s2.toList) = decide (l1 = l2) := by
    rw [Bool.eq_iff_iff]
    simp only [beq_iff_eq, decide_eq_true_eq]
    rw [← HI.out, Lib.toList_data, Lib.toList_data]
    exact ⟨fun e => ByteArray.ext (Array.toList_inj.1 e), fun e => by rw [e]⟩
  exact hb

theorem word_any (n : Nat) (w : World) (hn : n < 4294967296) : Calls Try.prog 30 #[.int .u32 n] w fun e w' => e = .returned (.slice (some ⟨w.heap.size, 0, none⟩) 4 4) ∧ w' = w.alloc (.cells (cB (Crc.le4 n)).toArray 5) := by
  go_enter Try.func30, Try.ntmps30
  go_wp2_with fail
  go_ret
  exact ⟨rfl, by congr 2 <;> simp [cB, Crc.le4] <;> omega⟩
theorem field_any (n : Nat) (w : World) (hn : n < 4294967296) : Calls Try.prog 31 #[.int .u32 n] w fun e w' => e = .returned (.slice (some ⟨w.heap.size, 0, none⟩) 4 4) ∧ w' = w.alloc (.cells (cB (Crc.le4 n)).toArray 5) := by
  go_enter Try.func31, Try.ntmps31
  go_wp2_with fail
  go_ret
  exact ⟨rfl, by congr 2 <;> simp [cB, Crc.le4] <;> omega⟩
theorem read_any (v : Value) (l : List Nat) (w : World) (h : RdB w v l) (hl : 4 ≤ l.length) : Calls Try.prog 34 #[v] w fun e w' => e = .returned (.int .u32 (Crc.rd4 l : Nat)) ∧ ∃ n, w' = w.drewN n := by
  rcases h.2 with ⟨a0, rfl, rfl⟩ | ⟨b, off, cap, rfl, g1, g2, g3, gc⟩
  · simp at hl
  have b0 := getD_lt h.1 0
  have b1 := getD_lt h.1 1
  have b2 := getD_lt h.1 2
  have b3 := getD_lt h.1 3
  have c0 : w.cell? ⟨b, off, none⟩ = some (.int .u8 ((l.getD 0 0 : Nat) : Int)) := gc 0 (by omega)
  have c1 := gc 1 (by omega)
  have c2 := gc 2 (by omega)
  have c3 := gc 3 (by omega)
  have E := hide (by unfold Crc.rd4; rfl : Crc.rd4 l = l.getD 0 0 + 256 * l.getD 1 0 + 65536 * l.getD 2 0 + 16777216 * l.getD 3 0)
  generalize l.getD 0 0 = x0 at *
  generalize l.getD 1 0 = x1 at *
  generalize l.getD 2 0 = x2 at *
  generalize l.getD 3 0 = x3 at *
  unfold maxLen at g2
  clear gc h
  generalize l.length = m at *
  have l0 : 0 < m := by omega
  have l1 : (1 : Int) < m := by omega
  have l2 : (2 : Int) < m := by omega
  have l3 : (3 : Int) < m := by omega
  go_enter Try.func34, Try.ntmps34
  go_wp2_with fail
  go_quiet (fail)
  go_wp2_with fail
  go_ret
  exact ⟨ret_i (by rw [E.out]; simp; omega), _, rfl⟩
theorem or_join (a b k : Nat) (ha : a < 2 ^ k) (hb : b * 2 ^ k < 4294967296) (ha2 : a < 4294967296) : bits .or .u32 (a : Int) ((b * 2 ^ k : Nat) : Int) = ((a + b * 2 ^ k : Nat) : Int) := by
  have h := Nat.two_pow_add_eq_or_of_lt ha b
  rw [u32_or_nat a (b * 2 ^ k) ha2 hb, Nat.or_comm, Nat.mul_comm b, ← h, Nat.add_comm]

theorem number_any (v : Value) (l : List Nat) (w : World) (h : RdB w v l) (hl : 4 ≤ l.length) : Calls Try.prog 37 #[v] w fun e w' => e = .returned (.int .u32 (Crc.rd4 l : Nat)) ∧ ∃ n, w' = w.drewN n := by
  rcases h.2 with ⟨a0, rfl, rfl⟩ | ⟨b, off, cap, rfl, g1, g2, g3, gc⟩
  · simp at hl
  have b0 := getD_lt h.1 0
  have b1 := getD_lt h.1 1
  have b2 := getD_lt h.1 2
  have b3 := getD_lt h.1 3
  have c0 : w.cell? ⟨b, off, none⟩ = some (.int .u8 ((l.getD 0 0 : Nat) : Int)) := gc 0 (by omega)
  have c1 := gc 1 (by omega)
  have c2 := gc 2 (by omega)
  have c3 := gc 3 (by omega)
  have E := hide (by unfold Crc.rd4; rfl : Crc.rd4 l = l.getD 0 0 + 256 * l.getD 1 0 + 65536 * l.getD 2 0 + 16777216 * l.getD 3 0)
  generalize l.getD 0 0 = x0 at *
  generalize l.getD 1 0 = x1 at *
  generalize l.getD 2 0 = x2 at *
  generalize l.getD 3 0 = x3 at *
  unfold maxLen at g2
  clear gc h
  generalize l.length = m at *
  have l0 : 0 < m := by omega
  have l1 : (1 : Int) < m := by omega
  have l2 : (2 : Int) < m := by omega
  have l3 : (3 : Int) < m := by omega
  have J1 := or_join x0 x1 8 (by omega) (by omega) (by omega)
  have J2 := or_join (x0 + x1 * 256) x2 16 (by omega) (by omega) (by omega)
  have J3 := or_join (x0 + x1 * 256 + x2 * 65536) x3 24 (by omega) (by omega) (by omega)
  simp only [Nat.reducePow, Int.natCast_add, Int.natCast_mul, Int.cast_ofNat_Int] at J1 J2 J3
  go_enter Try.func37, Try.ntmps37
  go_wp2_with fail
  go_quiet (fail)
  go_wp2_with fail
  go_ret
  exact ⟨ret_i (by rw [E.out]; simp; omega), _, rfl⟩
theorem below_own {w w1 w2 : World} {v : Value} {l : List Nat} (hb : Below w.heap.size w w1) (hown : Ow w1 w.heap.size v l) (hg : w1.grownBy w2 v.ownBlock) : Below w.heap.size w w2 :=
  hb.grown hg hb.size (fun k hk => (hown.2.lt k hk).1)

theorem clone_any (v : Value) (l : List Nat) (w : World) (h : RdB w v l) (hl : l.length ≤ 140737488355328) :
    Calls Try.prog 33 #[v] w fun e w' => ∃ v', e = .returned v' ∧ Ow w' w.heap.size v' l ∧ Below w.heap.size w w' := by
  obtain ⟨a, c, rfl⟩ := h.form
  have q22 : ∀ (w : World) (a : Option Addr) (n c n' c' : Nat), (binOp .eql 22 (Value.slice a n c) (Value.slice none n' c')).run Try.prog w = .ok (.bool a.isNone) w := fun w a n c n' c' => Lib.run_eql_slice_nil w _ _ a n c n' c' Try.underlying22
  have H := hide h
  cases a with
  | none =>
    have e0 : l = [] := by
      rcases h.2 with ⟨a0, hv, e⟩ | ⟨b, off, cap, hv, r⟩
      · exact e
      · simp at hv
    subst e0
    clear h
    go_enter Try.func33, Try.ntmps33
    go_wp2_with fail
    go_ret
    exact ⟨_, rfl, Ow.nil _ _, Below.refl _ _⟩
  | some a =>
    have EM := hide (Ow.empty w w.heap.size (Nat.le_refl _))
    have RM := hide (h.keep ((Below.refl _ _).alloc (Nat.le_refl _) (.cells #[] 5)))
    clear h
    go_enter Try.func33, Try.ntmps33
    go_wp2_with (refine wpList_app rfl (.tmp 5) (.tmp 6) rfl w.heap.size _ [] rfl EM.out _ l rfl RM.out (by simp; omega) (by simp) ?_; intro v' w1 ho hg)
    go_wp2_with fail
    go_ret
    exact ⟨_, rfl, ho, below_own ((Below.refl _ _).alloc (Nat.le_refl _) _) EM.out hg⟩
end Go.Proofs.Ytgjdaipofekjfaa
