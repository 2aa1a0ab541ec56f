/-
  A string with another byte: plain facts; the contracts of the statements' 'with' and 'digit'.
-/
import Derived.Test.YtjcldaofgbcpaaaDoorId17
import Derived.RegionTactic
namespace Go.Proofs.YtjcldaofgbcpaaaDoor
open Go.RowKit
set_option linter.unusedVariables false

theorem wf_u8 {a : Int} (h : (Lit.int .u8 a).wf = true) : 0 ≤ a ∧ a ≤ 255 := by
  simp [Lit.wf] at h; simp [IntKind.min, IntKind.max, IntKind.signed, IntKind.bits] at h; exact h
/-- A string with another byte at an index. -/
def put1 (s : ByteArray) (i : Nat) (c : UInt8) : ByteArray := s.extract 0 i ++ ⟨#[c]⟩ ++ s.extract (i + 1) s.size
theorem put1_list (l : List UInt8) (i : Nat) (c : UInt8) : put1 ⟨⟨l⟩⟩ i c = ⟨⟨l.take i ++ c :: l.drop (i + 1)⟩⟩ := by
  unfold put1
  have e1 : (⟨⟨l⟩⟩ : ByteArray).extract 0 i = ⟨⟨l.take i⟩⟩ := (Go.ByteArray.extract_mk l 0 i).trans (by simp)
  have e2 : (⟨⟨l⟩⟩ : ByteArray).extract (i + 1) (⟨⟨l⟩⟩ : ByteArray).size = ⟨⟨l.drop (i + 1)⟩⟩ := by
    refine (Go.ByteArray.extract_mk l (i + 1) l.length).trans ?_
    rw [List.take_of_length_le (by simp)]
  rw [e1, e2]
  have e3 : (⟨#[c]⟩ : ByteArray) = ⟨⟨[c]⟩⟩ := rfl
  rw [e3, cat, cat]
  simp
theorem put1_size (s : ByteArray) (i : Nat) (c : UInt8) (h : i < s.size) : (put1 s i c).size = s.size := by
  obtain ⟨⟨l⟩⟩ := s
  have h' : i < l.length := h
  rw [put1_list]
  show (l.take i ++ c :: l.drop (i + 1)).length = l.length
  simp
  omega
theorem bl_mk (l : List UInt8) : bl ⟨⟨l⟩⟩ = l.map fun c => (c.toNat : Int) := rfl
theorem bl_put1 (s : ByteArray) (i : Nat) (c : UInt8) (h : i < s.size) : bl (put1 s i c) = (bl s).take i ++ (c.toNat : Int) :: (bl s).drop (i + 1) := by
  obtain ⟨⟨l⟩⟩ := s
  rw [put1_list, bl_mk, bl_mk]
  simp
theorem bl_cut (s : ByteArray) (n : Nat) (h : n ≤ s.size) : bl (s.extract 0 n) = (bl s).take n := by
  obtain ⟨⟨l⟩⟩ := s
  have e1 : (⟨⟨l⟩⟩ : ByteArray).extract 0 n = ⟨⟨l.take n⟩⟩ := (Go.ByteArray.extract_mk l 0 n).trans (by simp)
  rw [e1, bl_mk, bl_mk]
  simp
theorem gB_of_bl (s : ByteArray) (k : Nat) (h : k < s.size) : gB s k = (bl s).getD k 0 := by
  have hl : k < (bl s).length := by rw [bl_len]; exact h
  rw [← bl_get s k h hl]
  simp [List.getD, hl]
theorem gB_put1_eq (s : ByteArray) (i : Nat) (c : UInt8) (h : i < s.size) : gB (put1 s i c) i = (c.toNat : Int) := by
  rw [gB_of_bl _ _ (by rw [put1_size s i c h]; exact h), bl_put1 s i c h]
  have hl : ((bl s).take i).length = i := by rw [List.length_take, bl_len]; omega
  rw [List.getD, List.getElem?_append_right (by omega), hl, Nat.sub_self]
  rfl
theorem gB_put1_ne (s : ByteArray) (i : Nat) (c : UInt8) (k : Nat) (h : i < s.size) (hk : k < s.size) (hn : k ≠ i) : gB (put1 s i c) k = gB s k := by
  rw [gB_of_bl _ _ (by rw [put1_size s i c h]; exact hk), gB_of_bl s k hk, bl_put1 s i c h]
  have hl : ((bl s).take i).length = i := by rw [List.length_take, bl_len]; omega
  rw [List.getD, List.getD]
  by_cases q : k < i
  · rw [List.getElem?_append_left (by omega), List.getElem?_take_of_lt q]
  · obtain ⟨m, hm⟩ : ∃ m, k - i = m + 1 := ⟨k - i - 1, by omega⟩
    rw [List.getElem?_append_right (by omega), hl, hm, List.getElem?_cons_succ, List.getElem?_drop, show i + 1 + m = k by omega]
theorem put1_head (s : ByteArray) (i : Nat) (c : UInt8) (h : i < s.size) : (put1 s i c).extract 0 i = s.extract 0 i := by
  obtain ⟨⟨l⟩⟩ := s
  have h' : i < l.length := h
  rw [put1_list]
  refine (Go.ByteArray.extract_mk _ 0 i).trans ?_
  refine Eq.trans ?_ (Go.ByteArray.extract_mk l 0 i).symm
  have hl : (l.take i).length = i := by rw [List.length_take]; omega
  congr 2
  rw [List.drop_zero, List.drop_zero, List.take_append, hl]
  simp [List.take_take]

theorem ldig_any (c : Int) (w : World) : Calls Tryd.prog 22 #[.int .u8 c] w fun e w' => e = .returned (.bool (isD c)) ∧ w = w' := by
  by_cases h1 : 48 ≤ c
  · by_cases h2 : c ≤ 57
    · rw [isD_yes h1 h2]
      go_enter Tryd.func22, Tryd.ntmps22
      go_wp2
      go_ret
      exact ⟨rfl, rfl⟩
    · rw [isD_no (by omega)]
      have h3 : 57 < c := by omega
      go_enter Tryd.func22, Tryd.ntmps22
      go_wp2
      go_ret
      exact ⟨rfl, rfl⟩
  · rw [isD_no (by omega)]
    have h3 : c < 48 := by omega
    go_enter Tryd.func22, Tryd.ntmps22
    go_wp2
    go_ret
    exact ⟨rfl, rfl⟩
set_option maxHeartbeats 4000000 in
set_option maxRecDepth 20000 in
theorem with_any (s : ByteArray) (i : Nat) (c : Int) (w : World) (h : i < s.size) (hm : s.size ≤ 200) (c0 : 0 ≤ c) (c1 : c ≤ 255) :
    Calls Tryd.prog 23 #[.string s, .int .i64 (i : Int), .int .u8 c] w fun e w' => e = .returned (.string (put1 s i (UInt8.ofNat c.toNat))) ∧ Below w.heap.size w w' := by
  have hcv : (convert 33 9 (.slice (some ⟨w.heap.size, 0, none⟩) 1 1)).run Tryd.prog (w.alloc (.cells #[.int .u8 c] 5)).drew = .ok (.string ⟨#[UInt8.ofNat c.toNat]⟩) (w.alloc (.cells #[.int .u8 c] 5)).drew := conv1 w.drew c
  have z1 : (s.extract 0 i).size = i := ex_size s 0 i (by omega)
  have z2 : (s.extract (i + 1) s.size).size = s.size - (i + 1) := ex_size s (i + 1) s.size (Nat.le_refl _)
  have z3 : (s.extract 0 i ++ (⟨#[UInt8.ofNat c.toNat]⟩ : ByteArray)).size = i + 1 := by rw [ByteArray.size_append, z1]; rfl
  have A1 : ∀ W, (Op.stringOp .add (s.extract 0 i) ⟨#[UInt8.ofNat c.toNat]⟩).run Tryd.prog W = .ok (.string (s.extract 0 i ++ ⟨#[UInt8.ofNat c.toNat]⟩)) W := fun W => run_string_add_sum W _ _ (by rw [z1]; show i + 1 ≤ 9223372036854775807; omega)
  have A2 : ∀ W, (Op.stringOp .add (s.extract 0 i ++ ⟨#[UInt8.ofNat c.toNat]⟩) (s.extract (i + 1) s.size)).run Tryd.prog W = .ok (.string (s.extract 0 i ++ ⟨#[UInt8.ofNat c.toNat]⟩ ++ s.extract (i + 1) s.size)) W := fun W => run_string_add_sum W _ _ (by rw [z3, z2]; omega)
  have HP : Hid (put1 s i (UInt8.ofNat c.toNat) = s.extract 0 i ++ ⟨#[UInt8.ofNat c.toNat]⟩ ++ s.extract (i + 1) s.size) := hide rfl
  have hi1 : (i : Int) ≤ (s.size : Int) := by omega
  have hi2 : (i : Int) + 1 ≤ (s.size : Int) := by omega
  have hi3 : (0 : Int) ≤ (i : Int) + 1 := by omega
  have y1 : IntKind.i64.wrap ((i : Int) + 1) = (i : Int) + 1 := IntWalk.i64_in _ (by omega)
  have y2 : ((i : Int) + 1).toNat = i + 1 := by omega
  have HB := hide (((Below.refl w.heap.size w).drew).alloc (Nat.le_refl _) (.cells #[.int .u8 c] 5))
  generalize put1 s i (UInt8.ofNat c.toNat) = P at *
  clear z1 z2 z3
  go_enter Tryd.func23, Tryd.ntmps23
  go_wp2_with fail
  go_region
  all_goals go_wp2_with fail
  all_goals go_ret
  all_goals exact ⟨by rw [HP.out]; rfl, HB.out⟩
end Go.Proofs.YtjcldaofgbcpaaaDoor
