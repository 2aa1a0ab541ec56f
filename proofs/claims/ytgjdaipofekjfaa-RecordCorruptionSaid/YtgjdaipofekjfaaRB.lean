/-
  Contracts of record.Encode, of the reference's All, and of known.
-/
import Derived.Test.YtgjdaipofekjfaaRA
import Derived.Lib.SlBytesConst
import Derived.Laws.IdiomStrings
namespace Go.Proofs.Ytgjdaipofekjfaa
open Go.RowKit
set_option linter.unusedVariables false
set_option linter.unusedSimpArgs false
set_option linter.unnecessarySimpa false

theorem enc_any (v : Value) (l : List Nat) (w : World) (h : RdB w v l) : Calls Try.prog 17 #[v] w (EaP w [l]) := by
  have EA := hide (encall_any _ [v] [l] (w.alloc (.cells #[v] 22)) (rdp_one h))
  obtain ⟨a, c, rfl⟩ := h.form
  clear h
  go_enter Try.func17, Try.ntmps17
  go_wp2_with fail
  refine EA.out.mono ?_
  rintro e w1 ⟨b, rfl, ho, hb⟩
  have HO := hide (ho.low (show w.heap.size ≤ (w.alloc (.cells #[.slice a l.length c] 22)).heap.size by simp))
  have HB := hide ((one_blk w (.cells #[.slice a l.length c] 22)).trans (hb.mono (by simp)))
  generalize hI : (if AllOk [l] then (0 : Int) else 5) = ie at *
  have HI := hide hI
  clear ho hb hI
  go_wp2_with fail
  go_ret2
  exact ⟨b, by rw [HI.out]; rfl, HO.out, HB.out⟩

theorem crc_known : Crc.crc [49, 50, 51, 52, 53, 54, 55, 56, 57] = 3808858755 := by kernel_rfl
theorem rec_known : Crc.recs [[]] = [0, 0, 0, 0, 199, 75, 103, 72] := by kernel_rfl

theorem lit_rd (w : World) (cs : Array Value) (fr : Nat × Nat) (l : List Nat) (hl : Crc.Bts l) (hc : cs = (cB l).toArray) (hm : l.length ≤ 1000000) : RdB (w.alloc (.cells cs 5 fr)) (.slice (some ⟨w.heap.size, 0, none⟩) l.length l.length) l := by
  subst hc
  refine ⟨hl, .inr ⟨w.heap.size, 0, l.length, rfl, Nat.le_refl _, by unfold maxLen; omega, by simp, fun k hk => ?_⟩⟩
  rw [Nat.zero_add, World.cell?_alloc_mark]
  simp [cB, hk]

set_option maxHeartbeats 4000000 in
set_option maxRecDepth 100000 in
theorem known_any (w : World) : Calls Try.prog 12 #[] w fun e w' => e = .returned (.bool true) ∧ Below w.heap.size w w' := by
  have kc := fun (w : World) (C : Array Value) (n c : Nat) => Lib.run_convert_bytes_const (P := Try.prog) w 22 5 C n c Try.underlying22 Try.underlying5
  have CK := hide crc_known
  have EN := hide (enc_any (.slice none 0 0) [] w (RdB.nil w))
  have NL := fun w => hide (csum_any (.slice none 0 0) [] w (RdB.nil w))
  have LT := fun w => hide (lit_rd w #[.int .u8 49, .int .u8 50, .int .u8 51, .int .u8 52, .int .u8 53, .int .u8 54, .int .u8 55, .int .u8 56, .int .u8 57] (9, 10) [49, 50, 51, 52, 53, 54, 55, 56, 57] (by unfold Crc.Bts; decide) rfl (by decide))
  have LR := fun w => hide (lit_rd w #[.int .u8 0, .int .u8 0, .int .u8 0, .int .u8 0, .int .u8 199, .int .u8 75, .int .u8 103, .int .u8 72] (0, 0) [0, 0, 0, 0, 199, 75, 103, 72] (by unfold Crc.Bts; decide) rfl (by decide))
  go_enter Try.func12, Try.ntmps12
  go_wp2_with fail
  refine EN.out.mono ?_
  rintro e w1 ⟨b, rfl, ho, hb⟩
  have HO := hide (show RdB w1 b [0, 0, 0, 0, 199, 75, 103, 72] from rec_known ▸ ho.rd)
  have HB := hide hb
  clear ho hb
  have C1 := hide (csum_any _ _ _ (LT w1).out)
  rw [crc_known] at C1
  have B1 := hide (HB.out.trans ((one_blk w1 (.cells #[.int .u8 49, .int .u8 50, .int .u8 51, .int .u8 52, .int .u8 53, .int .u8 54, .int .u8 55, .int .u8 56, .int .u8 57] 5 (9, 10))).mono HB.out.size))
  go_wp2_with fail
  refine C1.out.mono ?_
  rintro e w2 ⟨rfl, hb⟩
  have B2 := hide (B1.out.trans (hb.mono B1.out.size))
  have D2 := hide ((one_blk w1 (.cells #[.int .u8 49, .int .u8 50, .int .u8 51, .int .u8 52, .int .u8 53, .int .u8 54, .int .u8 55, .int .u8 56, .int .u8 57] 5 (9, 10))).trans (hb.mono (by simp)))
  clear hb
  go_wp2_with fail
  refine (NL _).out.mono ?_
  rintro e w3 ⟨rfl, hb⟩
  have B3 := hide (B2.out.trans (hb.mono B2.out.size))
  have D3 := hide (D2.out.trans (hb.mono D2.out.size))
  clear hb
  have S1 := hide (same_any b _ [0, 0, 0, 0, 199, 75, 103, 72] _ _ ((HO.out.keep D3.out).keep (one_blk w3 _)) (LR w3).out)
  have B4 := hide (B3.out.trans ((one_blk w3 (.cells #[.int .u8 0, .int .u8 0, .int .u8 0, .int .u8 0, .int .u8 199, .int .u8 75, .int .u8 103, .int .u8 72] 5)).mono B3.out.size))
  go_wp2_with fail
  refine S1.out.mono ?_
  rintro e w5 ⟨rfl, rfl⟩
  go_wp2_with fail
  go_ret
  exact ⟨rfl, B4.out⟩
end Go.Proofs.Ytgjdaipofekjfaa
