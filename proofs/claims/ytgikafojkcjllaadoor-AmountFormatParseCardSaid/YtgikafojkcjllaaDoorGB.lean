/-
  amount.Parse at a text that is an amount's, at this translation.
-/
import Derived.Test.YtgikafojkcjllaaDoorGA
namespace Go.Proofs.YtgikafojkcjllaaDoor
open Go.RowKit
set_option linter.unusedVariables false
set_option linter.unusedSimpArgs false

/-- The value of the first digits. -/
def vl (s : ByteArray) : Nat → Int
  | 0 => 0
  | k + 1 => vl s k * 10 + (gb s k - 48)
set_option maxHeartbeats 4000000 in
set_option maxRecDepth 20000 in
theorem parse_yes (s d a c : ByteArray) (neg : Bool) (k : Nat) (w : World) (hs : s.size ≤ 100000) (hd : d.size ≤ 100000) (ha0 : a.size ≤ 100000)
    (hp : Lib.trimPrefix s.data.toList [45] = d.data.toList) (hn : Lib.hasPrefix s.data.toList [45] = neg) (hk : k < d.size) (hx : Lib.indexByte d.data.toList 46 = (k : Int))
    (ha : d.extract 0 k = a) (hc : d.extract (k + 1) d.size = c) (wa : 0 < a.size) (da : ∀ j, j < a.size → Dg (gb a j)) (za : gb a 0 ≠ 48 ∨ a.size = 1) (wc : c.size = 2) (dc : ∀ j, j < c.size → Dg (gb c j))
    (hz : s ≠ ⟨#[45, 48, 46, 48, 48]⟩) (hv : ∀ j, j ≤ (a ++ c).size → 0 ≤ vl (a ++ c) j ∧ vl (a ++ c) j ≤ 1000000000000000) (dac : ∀ j, j < (a ++ c).size → Dg (gb (a ++ c) j)) :
    Calls Tryd.prog 8 #[.string s] w fun e w' => e = .returned (.tuple #[.int .i64 (if neg = true then - vl (a ++ c) (a ++ c).size else vl (a ++ c) (a ++ c).size), .int .i64 0]) ∧ Below w.heap.size w w' := by
  have CP : ∀ w, Hid (Calls Tryd.prog 18 #[.string s, .string ⟨#[45]⟩] w fun e w' => e = .returned (.tuple #[.string d, .bool neg]) ∧ w' = w) := fun w => hide (by
    have h := Tryd.strings_CutPrefix s ⟨#[45]⟩ w
    rw [show (⟨#[45]⟩ : ByteArray).data.toList = [45] from rfl, hp, hn] at h
    exact h)
  have CT : ∀ w, Hid (Calls Tryd.prog 19 #[.string d, .string ⟨#[46]⟩] w fun e w' => e = .returned (.tuple #[.string a, .string c, .bool true]) ∧ Below w.heap.size w w') := fun w => hide (by
    have h := cut_yes d k w hd hk hx
    rw [ha, hc] at h
    exact h)
  have IW := fun w => hide (isw_yes a w (by omega) wa da za)
  have AD := fun w => hide (alld_yes c w (by omega) dc)
  have n2 : (s.toList == [45, 48, 46, 48, 48]) = false := by
    have h := txt_ne hz
    rw [Lib.toList_data ⟨#[45, 48, 46, 48, 48]⟩] at h
    exact h
  have n3 : ¬ s.toList = [45, 48, 46, 48, 48] := by simpa using n2
  have VA := fun x h1 h2 w => hide (valid_yes x w h1 h2)
  have SZ : (a ++ c).size = a.size + 2 := by rw [ByteArray.size_append, wc]
  have r1 : ∀ w : World, (Op.stringOp .add a c).run Tryd.prog w = .ok (.string (a ++ c)) w := fun w => run_string_add w _ _ (by omega) (by omega)
  clear hp hn ha hc hx dc da za wa hz
  generalize (a ++ c : ByteArray) = T at *
  have CV := fun w => Lib.run_convert_string_bytes (P := Tryd.prog) w 9 36 5 T Tryd.underlying9 Tryd.underlying36 Tryd.underlying5
  have HV := hide hv
  have HD := hide dac
  have ST : T.size ≤ 100002 := by omega
  have wc' : (c.size : Int) = 2 := by omega
  clear hv dac SZ
  go_enter Tryd.func8, Tryd.ntmps8
  go_wp2_with fail
  refine (CP _).out.mono ?_
  rintro e w' ⟨rfl, rfl⟩
  go_wp2_with fail
  refine (CT _).out.mono ?_
  rintro e w1 ⟨rfl, hb⟩
  have HB := hide hb
  clear hb
  go_wp2_with fail
  refine (IW _).out.mono ?_
  rintro e w2 ⟨rfl, hb⟩
  have HB := hide (HB.out.trans (hb.mono HB.out.size))
  clear hb
  go_wp2_with fail
  refine (AD _).out.mono ?_
  rintro e w3 ⟨rfl, hb⟩
  have HB := hide (HB.out.trans (hb.mono HB.out.size))
  clear hb
  have CL : Hid (∀ j, j < T.size → (Lib.bytesWorld w3 5 T).cell? ⟨w3.heap.size, j, none⟩ = some (.int .u8 (gb T j))) := hide (fun j hj => Lib.bytesWorld_cell w3 5 T j hj)
  have hbb := bytes_below w3 T
  have HB := hide (HB.out.trans (hbb.mono HB.out.size))
  have CV3 := CV w3
  clear hbb CV
  generalize grownCap w3 T.size 0 5 = cap at *
  generalize Lib.bytesWorld w3 5 T = X at *
  generalize hn : T.size = n at *
  go_wp2_with fail
  go_loop [9, 11, 45] (fun v9 v11 v45 => ∃ (j : Nat), v9 = .int .i64 (vl T j) ∧ v45 = .int .i64 (j : Int) ∧ j ≤ n) (fun _ _ v45 => n - (intOf v45).toNat)
  case atStart => exact ⟨0, rfl, rfl, Nat.zero_le _⟩
  case round =>
    obtain ⟨j, rfl, rfl, hj⟩ := hrel
    by_cases hlt : j < n
    · have hc := CL.out j hlt
      obtain ⟨d1, d2⟩ := HD.out j hlt
      obtain ⟨v1, v2⟩ := HV.out j hj
      obtain ⟨u1, u2⟩ := HV.out (j + 1) hlt
      have eN := hide (show vl T (j + 1) = vl T j * 10 + (gb T j - 48) from rfl)
      rw [eN.out] at u1 u2
      generalize gb T j = x at *
      generalize hV : vl T j = y at *
      have HY := hide hV
      clear hV
      go_wp2_with fail
      refine (VA _ (by omega) (by omega) _).out.mono ?_
      rintro e w' ⟨rfl, rfl⟩
      go_wp2_with fail
      go_round
      case rel => exact ⟨j + 1, by rw [eN.out], by go_num, by omega⟩
      case measure => simp [intOf]; omega
    · obtain rfl : j = n := by omega
      obtain ⟨v1, v2⟩ := HV.out j hj
      cases neg
      · go_wp2_with fail
        go_ret2
        exact ⟨rfl, HB.out⟩
      · go_wp2_with fail
        go_ret2
        exact ⟨rfl, HB.out⟩
end Go.Proofs.YtgikafojkcjllaaDoor
