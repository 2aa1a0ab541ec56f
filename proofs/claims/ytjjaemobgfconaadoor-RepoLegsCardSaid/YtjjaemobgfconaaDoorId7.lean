/-
  Contracts of ident's luhnDigit and remainderDigits at this translation.
-/
import Derived.Test.YtjjaemobgfconaaDoorId6
import Derived.OneCell
namespace Go.Proofs.YtjjaemobgfconaaDoor
open Go.RowKit
set_option linter.unusedVariables false

/-- The bytes of a string as numbers. -/
def bl (s : ByteArray) : List Int := s.data.toList.map fun c => (c.toNat : Int)
theorem bl_len (s : ByteArray) : (bl s).length = s.size := by
  obtain ⟨⟨l⟩⟩ := s
  show (l.map _).length = l.length
  rw [List.length_map]
theorem bl_get (s : ByteArray) (k : Nat) (h : k < s.size) (hl : k < (bl s).length) : (bl s)[k] = gB s k := by
  obtain ⟨⟨l⟩⟩ := s
  have h' : k < l.length := h
  simp [bl, gB, List.getD, List.getElem?_eq_getElem h']
theorem bl_at (s : ByteArray) (k : Nat) (h : k < s.size) : (bl s).drop k = gB s k :: (bl s).drop (k + 1) := by
  have hl : k < (bl s).length := by rw [bl_len]; exact h
  rw [List.drop_eq_getElem_cons hl, bl_get s k h hl]
theorem bl_take (s : ByteArray) (k : Nat) (h : k < s.size) : (bl s).take (k + 1) = (bl s).take k ++ [gB s k] := by
  have hl : k < (bl s).length := by rw [bl_len]; exact h
  rw [List.take_succ_eq_append_getElem hl, bl_get s k h hl]
/-- All bytes are letters or digits. -/
def Als (s : ByteArray) : Prop := ∀ k, k < s.size → al (gB s k)
theorem Als.mem {s : ByteArray} (h : Als s) : ∀ c ∈ bl s, al c := by
  intro c hc
  obtain ⟨k, hk, rfl⟩ := List.mem_iff_getElem.1 hc
  have hk' : k < s.size := by rw [← bl_len]; exact hk
  have := h k hk'
  rw [bl_get s k hk' hk]; exact this

theorem tmod97 {a : Int} (h : 0 ≤ a) : a.tmod 97 = a % 97 := Int.tmod_eq_emod_of_nonneg h

set_option maxRecDepth 20000 in
set_option maxHeartbeats 2000000 in
theorem rem_any (s : ByteArray) (w : World) (h : Als s) (hm : s.size ≤ 200) : Calls Tryd.prog 63 #[.string s] w fun e w' => e = .returned (.string (dd (cd (bl s)))) ∧ Below w.heap.size w w' := by
  have i1 := hide (idx s)
  have HA := hide h
  have hcv := conv2 w (48 + cd (bl s) / 10) (48 + cd (bl s) % 10)
  have hcd := hide (show cd (bl s) = 98 - moA 0 (bl s) * 100 % 97 from rfl)
  obtain ⟨c1, c2⟩ := cd_bd (bl s)
  have e3 : (IntKind.u8.wrap (48 + cd (bl s) / 10)) = 48 + cd (bl s) / 10 := by simp [IntKind.wrap, IntKind.bits, IntKind.signed]; omega
  have e4 : (IntKind.u8.wrap (48 + cd (bl s) % 10)) = 48 + cd (bl s) % 10 := by simp [IntKind.wrap, IntKind.bits, IntKind.signed]; omega
  have hlast : (bl s).take s.size = bl s := by rw [List.take_of_length_le]; rw [bl_len]; exact Nat.le_refl _
  have HL := hide hlast
  have HB := hide ((Below.refl w.heap.size w).alloc (Nat.le_refl _) (.cells #[.int .u8 (48 + cd (bl s) / 10), .int .u8 (48 + cd (bl s) % 10)] 5))
  have HR : Hid (dd (cd (bl s)) = ⟨#[UInt8.ofNat (48 + cd (bl s) / 10).toNat, UInt8.ofNat (48 + cd (bl s) % 10).toNat]⟩) := hide rfl
  generalize dd (cd (bl s)) = R at *
  clear h hlast
  go_enter Tryd.func63, Tryd.ntmps63
  go_wp2_with fail
  go_loop [3, 9] (fun r i => ∃ k : Nat, k ≤ s.size ∧ i = .int .i64 k ∧ r = .int .i64 (moA 0 ((bl s).take k))) (fun _ i => s.size - (intOf i).toNat)
  case atStart => exact ⟨0, Nat.zero_le _, rfl, by simp [moA]⟩
  case round =>
    obtain ⟨k, hk, rfl, rfl⟩ := hrel
    obtain ⟨r1, r2⟩ := moA_bd (show (0 : Int) ≤ 0 by omega) (by omega) ((bl s).take k)
    by_cases hlt : k < s.size
    · have hlt1 : k + 1 ≤ s.size := hlt
      have j1 := i1.out k hlt
      have A := HA.out k hlt
      have va := fun w => hide (val_any (gB s k) w A)
      obtain ⟨v1, v2⟩ := val_bd A
      have T := hide (bl_take s k hlt)
      have HN : Hid (moA 0 ((bl s).take (k + 1)) = mas (moA 0 ((bl s).take k)) (gB s k)) := hide (by rw [T.out, moA_append]; rfl)
      have HM : ∀ r c : Int, mas r c = ((if 10 ≤ val c then r * 10 else r) * 10 + val c) % 97 := fun _ _ => rfl
      have HMM := hide HM
      clear T A HM hcv hlt
      generalize moA 0 ((bl s).take k) = r at *
      by_cases hv : 10 ≤ val (gB s k)
      · have HV := hide (show mas r (gB s k) = (r * 10 * 10 + val (gB s k)) % 97 by rw [HMM.out, if_pos hv])
        generalize mas r (gB s k) = NN at *
        generalize val (gB s k) = v at *
        generalize gB s k = x at *
        go_wp2_with fail
        refine (va _).out.mono ?_
        rintro e w' ⟨rfl, rfl⟩
        go_wp2_with fail
        go_round
        case rel => exact ⟨k + 1, hlt1, by go_num, by rw [HN.out, HV.out]⟩
        case measure => simp [intOf]; omega
      · have HV := hide (show mas r (gB s k) = (r * 10 + val (gB s k)) % 97 by rw [HMM.out, if_neg hv])
        generalize mas r (gB s k) = NN at *
        generalize val (gB s k) = v at *
        generalize gB s k = x at *
        go_wp2_with fail
        refine (va _).out.mono ?_
        rintro e w' ⟨rfl, rfl⟩
        go_wp2_with fail
        go_round
        case rel => exact ⟨k + 1, hlt1, by go_num, by rw [HN.out, HV.out]⟩
        case measure => simp [intOf]; omega
    · obtain rfl : k = s.size := by omega
      rw [HL.out] at *
      have hq : 98 - moA 0 (bl s) * 100 % 97 = cd (bl s) := hcd.out.symm
      generalize moA 0 (bl s) = r at *
      generalize cd (bl s) = c at *
      go_wp2_with fail
      go_ret
      exact ⟨by rw [HR.out]; rfl, HB.out⟩
end Go.Proofs.YtjjaemobgfconaaDoor
