/-
  Parse gives back the amount of a text that Format made.
-/
import Derived.Test.YtgikafojkcjllaaDoorGD
namespace Go.Proofs.YtgikafojkcjllaaDoor
open Go.RowKit
set_option linter.unusedVariables false
set_option linter.unusedSimpArgs false

theorem wh_list (A : Nat) : (whT A).data.toList = Lib.decDigits (A / 100) := rfl
theorem ce_list (A : Nat) : (ceT A).data.toList = [UInt8.ofNat (48 + A / 10 % 10), UInt8.ofNat (48 + A % 10)] := rfl
theorem wh_len (A : Nat) : (whT A).size = (Lib.decDigits (A / 100)).length := by
  rw [← wh_list, Array.length_toList]
  rfl
theorem ext_of {a b : ByteArray} (h : a.data.toList = b.data.toList) : a = b := ByteArray.ext (Array.toList_inj.1 h)
theorem dd_pos (n : Nat) : 0 < (Lib.decDigits n).length := by
  by_cases h : 0 < n
  · obtain ⟨b, l, e, _⟩ := dd_first n h
    rw [e]
    exact Nat.succ_pos _
  · obtain rfl : n = 0 := by omega
    rw [dd_small 0 (by omega)]
    exact Nat.succ_pos _
def dT (A : Nat) : ByteArray := whT A ++ ⟨#[46]⟩ ++ ceT A
theorem d_list (A : Nat) : (dT A).data.toList = Lib.decDigits (A / 100) ++ 46 :: [UInt8.ofNat (48 + A / 10 % 10), UInt8.ofNat (48 + A % 10)] := by
  unfold dT
  simp only [ByteArray.data_append, Array.toList_append, wh_list, ce_list]
  simp
theorem d_size (A : Nat) : (dT A).size = (Lib.decDigits (A / 100)).length + 3 := by
  have h : (dT A).data.toList.length = (dT A).size := Array.length_toList
  rw [← h, d_list]
  simp
theorem s_list (x : Int) : (fmtT x).data.toList = (if x < 0 then [45] else []) ++ (dT x.natAbs).data.toList := by
  have e : fmtT x = sgT x ++ dT x.natAbs := by
    unfold fmtT dT
    apply ext_of
    simp [ByteArray.data_append, List.append_assoc]
  rw [e]
  simp only [ByteArray.data_append, Array.toList_append]
  unfold sgT
  split <;> rfl
theorem d_cut1 (A : Nat) : (dT A).extract 0 (Lib.decDigits (A / 100)).length = whT A := by
  apply ext_of
  rw [ByteArray.data_extract, Array.toList_extract, d_list, wh_list]
  simp
theorem d_cut2 (A : Nat) : (dT A).extract ((Lib.decDigits (A / 100)).length + 1) (dT A).size = ceT A := by
  apply ext_of
  rw [ByteArray.data_extract, Array.toList_extract, d_list, ce_list, d_size]
  simp [List.extract_eq_take_drop, List.drop_append, List.drop_eq_nil_of_le (Nat.le_succ (Lib.decDigits (A / 100)).length)]
theorem t_list (A : Nat) : (whT A ++ ceT A).data.toList = Lib.decDigits (A / 100) ++ [UInt8.ofNat (48 + A / 10 % 10)] ++ [UInt8.ofNat (48 + A % 10)] := by
  simp only [ByteArray.data_append, Array.toList_append, wh_list, ce_list]
  simp
theorem t_val (A : Nat) : vL (whT A ++ ceT A).data.toList = A := by
  rw [t_list, vL_snoc, vL_snoc, vL_dd, (dgU_of (A / 10 % 10) (by omega)).2, (dgU_of (A % 10) (by omega)).2]
  omega
theorem ce_dig (A : Nat) : ∀ b ∈ (ceT A).data.toList, dgU b := by
  intro b hb
  rw [ce_list] at hb
  simp only [List.mem_cons, List.not_mem_nil, or_false] at hb
  rcases hb with rfl | rfl
  · exact (dgU_of _ (by omega)).1
  · exact (dgU_of _ (by omega)).1
theorem t_dig (A : Nat) : ∀ b ∈ (whT A ++ ceT A).data.toList, dgU b := by
  intro b hb
  simp only [ByteArray.data_append, Array.toList_append, List.mem_append] at hb
  rcases hb with hb | hb
  · exact dd_digits _ b (by rw [wh_list] at hb; exact hb)
  · exact ce_dig A b hb
theorem wh_first (A : Nat) : gb (whT A) 0 ≠ 48 ∨ (whT A).size = 1 := by
  by_cases h : 0 < A / 100
  · left
    obtain ⟨b, l, e, hb⟩ := dd_first (A / 100) h
    unfold gb
    rw [wh_list, e]
    simp only [List.getD_cons_zero]
    omega
  · right
    rw [wh_len, dd_small (A / 100) (by omega)]
    rfl
theorem d_head (A : Nat) : ∃ b l, (dT A).data.toList = b :: l ∧ dgU b := by
  have hp := dd_pos (A / 100)
  have hd := dd_digits (A / 100)
  rw [d_list]
  cases hl : Lib.decDigits (A / 100) with
  | nil => rw [hl] at hp; exact absurd hp (Nat.lt_irrefl 0)
  | cons b l => exact ⟨b, _, rfl, hd b (by rw [hl]; exact List.mem_cons_self ..)⟩
theorem no_minus (A : Nat) : Lib.hasPrefix (dT A).data.toList [45] = false := by
  obtain ⟨b, l, e, hb⟩ := d_head A
  rw [e]
  have : (45 == b) = false := by
    rw [beq_eq_false_iff_ne]
    rintro rfl
    exact absurd hb.1 (by decide)
  simp [Lib.hasPrefix, List.isPrefixOf, this]
theorem s_pre (x : Int) : Lib.hasPrefix (fmtT x).data.toList [45] = decide (x < 0) := by
  rw [s_list]
  by_cases h : x < 0
  · rw [if_pos h, decide_eq_true h]
    simp [Lib.hasPrefix, List.isPrefixOf]
  · rw [if_neg h, decide_eq_false h, List.nil_append, no_minus]
theorem s_trim (x : Int) : Lib.trimPrefix (fmtT x).data.toList [45] = (dT x.natAbs).data.toList := by
  unfold Lib.trimPrefix
  rw [s_pre]
  by_cases h : x < 0
  · rw [decide_eq_true h, if_pos rfl, s_list, if_pos h]
    rfl
  · rw [decide_eq_false h, if_neg (by decide), s_list, if_neg h]
    rfl
theorem not_zero (x : Int) : fmtT x ≠ ⟨#[45, 48, 46, 48, 48]⟩ := by
  intro e
  have el : (fmtT x).data.toList = [45, 48, 46, 48, 48] := by rw [e]
  have h1 := s_trim x
  have h2 := s_pre x
  rw [el] at h1 h2
  have h3 : x < 0 := by
    have : Lib.hasPrefix [45, 48, 46, 48, 48] [45] = true := rfl
    rw [this] at h2
    exact of_decide_eq_true h2.symm
  have h4 : (dT x.natAbs).data.toList = [48, 46, 48, 48] := h1.symm
  rw [d_list] at h4
  have hlen : (Lib.decDigits (x.natAbs / 100)).length = 1 := by
    have := congrArg List.length h4
    simp at this
    omega
  match hd : Lib.decDigits (x.natAbs / 100), hlen with
  | [b], _ =>
    rw [hd] at h4
    simp only [List.cons_append, List.nil_append, List.cons.injEq, and_true, true_and] at h4
    obtain ⟨e1, e2, e3⟩ := h4
    have v := vL_dd (x.natAbs / 100)
    rw [hd, e1] at v
    have v0 : vL [48] = 0 := rfl
    have q2 := (dgU_of (x.natAbs / 10 % 10) (by omega)).2
    have q3 := (dgU_of (x.natAbs % 10) (by omega)).2
    rw [e2] at q2
    rw [e3] at q3
    have t48 : (48 : UInt8).toNat = 48 := rfl
    omega
theorem parse_fmt (x : Int) (w : World) (h : okA x) : Calls Tryd.prog 8 #[.string (fmtT x)] w fun e w' => e = .returned (.tuple #[.int .i64 x, .int .i64 0]) ∧ Below w.heap.size w w' := by
  have hA : x.natAbs ≤ 1000000000000000 := by unfold okA at h; omega
  have w20 := wh_size x.natAbs (by omega)
  have dsz := d_size x.natAbs
  have wl := wh_len x.natAbs
  have csz : (ceT x.natAbs).size = 2 := rfl
  have ssz : (fmtT x).size ≤ 100 := by
    have hl : (fmtT x).data.toList.length = (fmtT x).size := Array.length_toList
    have hl2 : (dT x.natAbs).data.toList.length = (dT x.natAbs).size := Array.length_toList
    rw [← hl, s_list, List.length_append, hl2]
    split <;> simp <;> omega
  have tsz : (whT x.natAbs ++ ceT x.natAbs).size = (whT x.natAbs).size + 2 := by rw [ByteArray.size_append, csz]
  have dt := gb_mem (whT x.natAbs ++ ceT x.natAbs) (t_dig x.natAbs)
  have va := (vl_all (whT x.natAbs ++ ceT x.natAbs)).trans (t_val x.natAbs)
  have hv : ∀ j, j ≤ (whT x.natAbs ++ ceT x.natAbs).size → 0 ≤ vl (whT x.natAbs ++ ceT x.natAbs) j ∧ vl (whT x.natAbs ++ ceT x.natAbs) j ≤ 1000000000000000 := fun j hj => by
    have u1 := (vl_up _ dt j hj).1
    have u2 := (vl_up _ dt _ (Nat.le_refl _)).2 j hj
    rw [va] at u2
    omega
  have hdot : Lib.indexByte (dT x.natAbs).data.toList 46 = ((Lib.decDigits (x.natAbs / 100)).length : Int) := by rw [d_list]; exact dot_at _ _ (dd_digits _)
  have P := parse_yes (fmtT x) (dT x.natAbs) (whT x.natAbs) (ceT x.natAbs) (decide (x < 0)) (Lib.decDigits (x.natAbs / 100)).length w (by omega) (by omega) (by omega) (s_trim x) (s_pre x) (by omega) hdot (d_cut1 _) (d_cut2 _)
    (by rw [wl]; exact dd_pos _) (gb_mem _ (by rw [wh_list]; exact dd_digits _)) (wh_first _) csz (gb_mem _ (ce_dig _)) (not_zero x) hv dt
  rw [va] at P
  have ex : (if decide (x < 0) = true then -((x.natAbs : Nat) : Int) else ((x.natAbs : Nat) : Int)) = x := by
    by_cases hx : x < 0
    · rw [if_pos (decide_eq_true hx)]; omega
    · rw [if_neg (by rw [decide_eq_false hx]; decide)]; omega
  rw [ex] at P
  exact P
end Go.Proofs.YtgikafojkcjllaaDoor
