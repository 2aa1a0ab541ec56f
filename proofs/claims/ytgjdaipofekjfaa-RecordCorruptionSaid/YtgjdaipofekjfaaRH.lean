/-
  Contracts of record.Scan and of the reference's Scan.
-/
import Derived.Test.YtgjdaipofekjfaaRG
import Derived.Test.YtgjdaipofekjfaaC3
namespace Go.Proofs.Ytgjdaipofekjfaa
open Go.RowKit
set_option linter.unusedVariables false
set_option linter.unusedSimpArgs false
set_option linter.unnecessarySimpa false

/-- What Scan answers. -/
def ScP (w : World) (l : List Nat) (e : Ending) (w' : World) : Prop :=
  ∃ v, e = .returned (.tuple #[v, .int .i64 ((Crc.scan l).2.1 : Nat), .int .i64 ((Crc.scan l).2.2 : Nat)]) ∧ OwL w' w.heap.size v (Crc.scan l).1 ∧ Below w.heap.size w w' ∧ (Crc.scan l).1.length ≤ 1000000
theorem scP_of {w w' : World} {l : List Nat} {v : Value} {L : List (List Nat)} {n e : Nat} {i j : Int} (h : Crc.scan l = (L, n, e)) (hi : i = (n : Int)) (hj : j = (e : Int)) (ho : OwL w' w.heap.size v L) (hb : Below w.heap.size w w') (hl : L.length ≤ 1000000) :
    ScP w l (.returned (.tuple #[v, .int .i64 i, .int .i64 j])) w' := ⟨v, by rw [h, hi, hj], by rw [h]; exact ho, hb, by rw [h]; exact hl⟩

set_option maxHeartbeats 4000000 in
set_option maxRecDepth 100000 in
theorem scan_any (v : Value) (l : List Nat) (w : World) (h : RdB w v l) (hl : l.length ≤ 1000000) : Calls Try.prog 24 #[v] w (ScP w l) := by
  obtain ⟨a, c, rfl⟩ := h.form
  have HR := hide h
  have HL := hide hl
  have hli : (l.length : Int) ≤ 1000000 := by omega
  have hPart := fun at' (ha : at' ≤ l.length) => run_part w _ l h at' l.length ha (Nat.le_refl _) (some (.int .i64 (at' : Int))) none (.inr rfl) (.inl ⟨rfl, rfl⟩)
  have HP := hide hPart
  clear h hl hPart
  go_enter Try.func24, Try.ntmps24
  go_wp2_with fail
  go_step3
  go_wp2_with fail
  go_step3
  go_wp2_with fail
  go_loopw [5, 6, 7] (fun v i r wr => ∃ (at' : Nat) (L : List (List Nat)), i = .int .i64 at' ∧ r = .int .i64 0 ∧ Hid (Crc.Mid l L at' ∧ L.length ≤ at') ∧ Hid (OwL wr w.heap.size v L) ∧ Hid (Below w.heap.size w wr)) (fun _ i _ _ => l.length - (intOf i).toNat)
  case atStart => exact ⟨0, [], rfl, rfl, hide ⟨Crc.mid_start l, Nat.le_refl _⟩, hide (OwL.nil _ _), hide (Below.refl _ _)⟩
  case round =>
    obtain ⟨at', L, rfl, rfl, HM, HO, BL⟩ := hrel
    have hat : at' ≤ l.length := HM.out.1.1
    have hLl := hide (show L.length ≤ 1000000 by have := HM.out.2; have := HL.out; omega)
    by_cases hlt : at' < l.length
    · obtain ⟨vr, hvr, hrun⟩ := HP.out at' hat
      rw [List.take_of_length_le (by rw [List.length_drop]; omega)] at hvr
      have RN := hide hrun
      have NX := hide (next_any _ (l.drop at') wr (hvr.keep BL.out) (by rw [List.length_drop]; have := HL.out; omega))
      clear hrun hvr
      have hlt' : (at' : Int) < l.length := by omega
      by_cases hE : Crc.nxtE (l.drop at') = 0
      · have MS := hide (Crc.mid_step HM.out.1 hlt hE)
        have KO := hide (Crc.nxt_ok hE)
        have NB := hide (show at' + Crc.nxtN (l.drop at') ≤ l.length ∧ 8 ≤ Crc.nxtN (l.drop at') by
          have h1 := (Crc.nxt_ok hE).1
          have h2 := (Crc.nxt_ok hE).2.2.1
          rw [List.length_drop] at h1
          omega)
        go_wp2_with (refine wpList_part rfl (.tmp 16) (some (.tmp 17)) none rfl vr RN.out ?_)
        refine NX.out.mono ?_
        rintro e w1 ⟨p, rfl, ho, hb⟩
        have EP := hide (Elm.own (base := w.heap.size) ho)
        have B1 := hide (BL.out.trans (hb.mono BL.out.size))
        have HO1 := hide (HO.out.keep hb)
        rw [hE]
        clear ho hb hE NX
        obtain ⟨nn, hnn⟩ : ∃ nn : Nat, nn = Crc.nxtN (l.drop at') := ⟨_, rfl⟩
        rw [← hnn] at MS NB ⊢
        have hnb : (at' : Int) + nn ≤ 1000000 := by have := NB.out.1; omega
        have LS := hide (show (L ++ [Crc.nxtP (l.drop at')]).length ≤ at' + nn by rw [List.length_append]; have := HM.out.2; have := NB.out.2; simp; omega)
        have ME := hide (show l.length - (at' + nn) < l.length - at' by have := NB.out; omega)
        generalize Crc.nxtP (l.drop at') = P at *
        clear hnn KO
        obtain ⟨pa, pn, pc, hpf⟩ := EP.out.1.formV
        subst hpf
        have EP2 := hide (EP.out.keep (one_blk w1 (.cells #[.slice pa pn pc] 22)))
        have B2 := hide (B1.out.trans ((one_blk w1 (.cells #[.slice pa pn pc] 22)).mono B1.out.size))
        have HO2 := hide (HO1.out.keep (one_blk w1 (.cells #[.slice pa pn pc] 22)))
        go_wp2_with (refine wpList_apL (W := w) B2.out HO2.out (One.new w1 (.slice pa pn pc)) EP2.out hLl.out rfl (.tmp 26) (.tmp 28) rfl rfl rfl ?_; intro v3 w3 HO3 HB3 HG3; clear HG3)
        go_roundw
        case rel => exact ⟨at' + nn, _, by go_num, rfl, hide ⟨MS.out, LS.out⟩, HO3, HB3⟩
        case measure => have := ME.out; simp [intOf]; omega
      · have SB := hide (Crc.mid_bad HM.out.1 hlt hE)
        have hE' : (((Crc.nxtE (l.drop at') : Nat) : Int) != 0) = true := by simp; omega
        go_wp2_with (refine wpList_part rfl (.tmp 16) (some (.tmp 17)) none rfl vr RN.out ?_)
        refine NX.out.mono ?_
        rintro e w1 ⟨p, rfl, ho, hb⟩
        have B1 := hide (BL.out.trans (hb.mono BL.out.size))
        have HO1 := hide (HO.out.keep hb)
        clear ho hb hE NX
        obtain ⟨ne, hne⟩ : ∃ ne : Int, ((Crc.nxtE (l.drop at') : Nat) : Int) = ne := ⟨_, rfl⟩
        have HNE := hide hne
        rw [hne] at hE' ⊢
        clear hne
        go_wp2_with fail
        exact bodyPost_ret (v := .tuple #[u5, .int .i64 at', .int .i64 ne]) (by simp [results, Try.results24, go_sem]) rfl (scP_of SB.out rfl HNE.out.symm HO1.out B1.out hLl.out)
    · have SE := hide (Crc.mid_end HM.out.1 hlt)
      have hge : ¬ ((at' : Int) < l.length) := by omega
      go_wp2_with fail
      exact bodyPost_ret (v := .tuple #[u5, .int .i64 at', .int .i64 0]) (by simp [results, Try.results24, go_sem]) rfl (scP_of SE.out.1 rfl rfl HO.out BL.out hLl.out)

set_option maxHeartbeats 4000000 in
set_option maxRecDepth 100000 in
theorem rscan_any (v : Value) (l : List Nat) (w : World) (h : RdB w v l) (hl : l.length ≤ 1000000) : Calls Try.prog 25 #[v] w (ScP w l) := by
  obtain ⟨a, c, rfl⟩ := h.form
  have HR := hide h
  have HL := hide hl
  have hli : (l.length : Int) ≤ 1000000 := by omega
  have hPart := fun at' (ha : at' ≤ l.length) => run_part w _ l h at' l.length ha (Nat.le_refl _) (some (.int .i64 (at' : Int))) none (.inr rfl) (.inl ⟨rfl, rfl⟩)
  have HP := hide hPart
  clear h hl hPart
  go_enter Try.func25, Try.ntmps25
  go_wp2_with fail
  go_loopw [5, 6] (fun v i wr => ∃ (at' : Nat) (L : List (List Nat)), i = .int .i64 at' ∧ Hid (Crc.Mid l L at' ∧ L.length ≤ at') ∧ Hid (OwL wr w.heap.size v L) ∧ Hid (Below w.heap.size w wr)) (fun _ i _ => l.length - (intOf i).toNat)
  case atStart => exact ⟨0, [], rfl, hide ⟨Crc.mid_start l, Nat.le_refl _⟩, hide (OwL.nil _ _), hide (Below.refl _ _)⟩
  case round =>
    obtain ⟨at', L, rfl, HM, HO, BL⟩ := hrel
    have hat : at' ≤ l.length := HM.out.1.1
    have hLl := hide (show L.length ≤ 1000000 by have := HM.out.2; have := HL.out; omega)
    by_cases hlt : at' < l.length
    · obtain ⟨vr, hvr, hrun⟩ := HP.out at' hat
      rw [List.take_of_length_le (by rw [List.length_drop]; omega)] at hvr
      have RN := hide hrun
      have NX := hide (rnext_any _ (l.drop at') wr (hvr.keep BL.out) (by rw [List.length_drop]; have := HL.out; omega))
      clear hrun hvr
      have hlt' : (at' : Int) < l.length := by omega
      by_cases hE : Crc.nxtE (l.drop at') = 0
      · have MS := hide (Crc.mid_step HM.out.1 hlt hE)
        have KO := hide (Crc.nxt_ok hE)
        have NB := hide (show at' + Crc.nxtN (l.drop at') ≤ l.length ∧ 8 ≤ Crc.nxtN (l.drop at') by
          have h1 := (Crc.nxt_ok hE).1
          have h2 := (Crc.nxt_ok hE).2.2.1
          rw [List.length_drop] at h1
          omega)
        go_wp2_with (refine wpList_part rfl (.tmp 15) (some (.tmp 16)) none rfl vr RN.out ?_)
        refine NX.out.mono ?_
        rintro e w1 ⟨p, rfl, ho, hb⟩
        have EP := hide (Elm.own (base := w.heap.size) ho)
        have B1 := hide (BL.out.trans (hb.mono BL.out.size))
        have HO1 := hide (HO.out.keep hb)
        rw [hE]
        clear ho hb hE NX
        obtain ⟨nn, hnn⟩ : ∃ nn : Nat, nn = Crc.nxtN (l.drop at') := ⟨_, rfl⟩
        rw [← hnn] at MS NB ⊢
        have hnb : (at' : Int) + nn ≤ 1000000 := by have := NB.out.1; omega
        have LS := hide (show (L ++ [Crc.nxtP (l.drop at')]).length ≤ at' + nn by rw [List.length_append]; have := HM.out.2; have := NB.out.2; simp; omega)
        have ME := hide (show l.length - (at' + nn) < l.length - at' by have := NB.out; omega)
        generalize Crc.nxtP (l.drop at') = P at *
        clear hnn KO
        obtain ⟨pa, pn, pc, hpf⟩ := EP.out.1.formV
        subst hpf
        have EP2 := hide (EP.out.keep (one_blk w1 (.cells #[.slice pa pn pc] 22)))
        have B2 := hide (B1.out.trans ((one_blk w1 (.cells #[.slice pa pn pc] 22)).mono B1.out.size))
        have HO2 := hide (HO1.out.keep (one_blk w1 (.cells #[.slice pa pn pc] 22)))
        go_wp2_with (refine wpList_apL (W := w) B2.out HO2.out (One.new w1 (.slice pa pn pc)) EP2.out hLl.out rfl (.tmp 27) (.tmp 29) rfl rfl rfl ?_; intro v3 w3 HO3 HB3 HG3; clear HG3)
        go_roundw
        case rel => exact ⟨at' + nn, _, by go_num, hide ⟨MS.out, LS.out⟩, HO3, HB3⟩
        case measure => have := ME.out; simp [intOf]; omega
      · have SB := hide (Crc.mid_bad HM.out.1 hlt hE)
        have hE' : (((Crc.nxtE (l.drop at') : Nat) : Int) != 0) = true := by simp; omega
        go_wp2_with (refine wpList_part rfl (.tmp 15) (some (.tmp 16)) none rfl vr RN.out ?_)
        refine NX.out.mono ?_
        rintro e w1 ⟨p, rfl, ho, hb⟩
        have B1 := hide (BL.out.trans (hb.mono BL.out.size))
        have HO1 := hide (HO.out.keep hb)
        clear ho hb hE NX
        obtain ⟨ne, hne⟩ : ∃ ne : Int, ((Crc.nxtE (l.drop at') : Nat) : Int) = ne := ⟨_, rfl⟩
        have HNE := hide hne
        rw [hne] at hE' ⊢
        clear hne
        go_wp2_with fail
        exact bodyPost_ret (v := .tuple #[u5, .int .i64 at', .int .i64 ne]) (by simp [results, Try.results25, go_sem]) rfl (scP_of SB.out rfl HNE.out.symm HO1.out B1.out hLl.out)
    · have SE := hide (Crc.mid_end HM.out.1 hlt)
      have hge : ¬ ((at' : Int) < l.length) := by omega
      go_wp2_with fail
      exact bodyPost_ret (v := .tuple #[u5, .int .i64 at', .int .i64 0]) (by simp [results, Try.results25, go_sem]) rfl (scP_of SE.out.1 rfl rfl HO.out BL.out hLl.out)
theorem RdL.first {w : World} {a : Option Addr} {n c k : Nat} {L : List (List Nat)} (h : RdL w (.slice a n c) L) (hk : k ≤ L.length) : RdL w (.slice a k c) (L.take k) ∧ k ≤ c := by
  have ht : (L.take k).length = k := by rw [List.length_take]; omega
  rcases h with ⟨hv, rfl⟩ | ⟨vs, h1, h2, h3, b, off, cap, hv, g1, g2, g3, gc⟩
  · simp at hv
    obtain ⟨rfl, rfl, rfl⟩ := hv
    have : k = 0 := by simpa using hk
    subst this
    exact ⟨.inl ⟨rfl, by simp⟩, Nat.le_refl _⟩
  · simp at hv
    obtain ⟨rfl, rfl, rfl⟩ := hv
    refine ⟨.inr ⟨vs.take k, by simp; omega, by omega, fun j hj => ?_, b, off, c, by rw [ht], by omega, g2, g3, fun j hj => ?_⟩, by omega⟩
    · rw [ht] at hj
      have := h3 j (by omega)
      simp only [List.getD_eq_getElem?_getD, List.getElem?_take, if_pos hj] at this ⊢
      exact this
    · rw [ht] at hj
      have := gc j (by omega)
      simp only [List.getD_eq_getElem?_getD, List.getElem?_take, if_pos hj] at this ⊢
      exact this
end Go.Proofs.Ytgjdaipofekjfaa
