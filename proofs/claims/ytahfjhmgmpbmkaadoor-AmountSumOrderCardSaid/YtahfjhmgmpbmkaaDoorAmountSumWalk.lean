/-
  The walk of the statement AmountSum: amount.Sum against the reference, over at most 100 numbers.
-/
import Derived.Test.YtahfjhmgmpbmkaaDoorRefSum
import Derived.Deep.DeepFit
namespace Go.Proofs.YtahfjhmgmpbmkaaDoor
open Go.RowKit

/-- What a walk over the first n numbers of a slice that came in is told. -/
theorem row_first {w : World} {x : Addr} {cap n : Nat} {zs : List Int} (hz : zs.length = cap) (hn : n ≤ cap) (h0 : 0 < n) (hcell : ∀ i, i < zs.length → w.cell? (x.add i) = some (.int .i64 (zs.getD i 0))) :
    ∃ b off, x = ⟨b, off, none⟩ ∧ ∀ j, j < n → w.cell? ⟨b, off + j, none⟩ = some (.int .i64 ((zs.take n).getD j 0)) := by
  obtain ⟨b, off, spot⟩ := x
  have hc := hcell 0 (by omega)
  have hspot : spot = none := by simpa [Addr.add] using World.cell?_spot hc
  subst hspot
  refine ⟨b, off, rfl, fun j hj => ?_⟩
  have h := hcell j (by omega)
  have e : (zs.take n).getD j 0 = zs.getD j 0 := by
    rw [List.getD_eq_getElem?_getD, List.getD_eq_getElem?_getD, List.getElem?_take, if_pos hj]
  rw [e]
  by_cases h0 : j = 0
  · subst h0; simpa [Addr.add] using h
  · simpa [Addr.add, h0] using h

theorem amountSum_walk (a0 : Option Addr) (len0 cap0 : Nat) (z0 : List Int) (w : World) (w0 : IsRow .i64 w a0 len0 cap0 z0) :
    Calls Tryd.prog 4 #[.slice a0 len0 cap0] w fun e w' => e = .returned (.bool true) ∧ Below w.heap.size w w' := by
  have kn := fun w => hide (known_any w)
  have em : min (0 : Int) 100 = 0 := rfl
  rcases w0 with ⟨rfl, rfl, rfl, rfl⟩ | ⟨x, rfl, hl, hm, hz, hcell, _⟩
  · have s1 := fun w => hide (sum_nil none 0 w)
    have s2 := fun w => hide (refsum_nil none 0 w)
    go_enter Tryd.func4, Tryd.ntmps4
    go_wp2_with fail
    refine (s1 _).out.mono ?_
    rintro e w' ⟨rfl, rfl⟩
    go_wp2_with fail
    refine (s2 _).out.mono ?_
    rintro e w' ⟨rfl, rfl⟩
    go_wp2_with fail
    refine (kn _).out.mono ?_
    rintro e w1 ⟨rfl, hb1⟩
    have HB1 := hide hb1
    clear hb1
    go_wp2_with fail
    go_ret
    exact ⟨rfl, HB1.out⟩
  · by_cases h0 : len0 = 0
    · subst h0
      have s1 := fun w => hide (sum_nil (some x) cap0 w)
      have s2 := fun w => hide (refsum_nil (some x) cap0 w)
      clear hcell hz hm
      go_enter Tryd.func4, Tryd.ntmps4
      go_wp2_with fail
      refine (s1 _).out.mono ?_
      rintro e w' ⟨rfl, rfl⟩
      go_wp2_with fail
      refine (s2 _).out.mono ?_
      rintro e w' ⟨rfl, rfl⟩
      go_wp2_with fail
      refine (kn _).out.mono ?_
      rintro e w1 ⟨rfl, hb1⟩
      have HB1 := hide hb1
      clear hb1
      go_wp2_with fail
      go_ret
      exact ⟨rfl, HB1.out⟩
    · obtain ⟨n, hn⟩ : ∃ n, n = min len0 100 := ⟨_, rfl⟩
      have en : min (len0 : Int) 100 = (n : Int) := by omega
      obtain ⟨b, off, rfl, hc⟩ := row_first (n := n) hz (by omega) (by omega) hcell
      have hlen : (z0.take n).length = n := by simp; omega
      have s1 := hide (sum_any b off n cap0 (z0.take n) w hlen (by omega) hc)
      have s2 := hide (refsum_any b off n cap0 (z0.take n) w hlen (by omega) hc)
      have hn1 : n ≤ cap0 := by omega
      clear hcell hz hc hlen hn h0 em
      go_enter Tryd.func4, Tryd.ntmps4
      go_wp2_with fail
      refine s1.out.mono ?_
      rintro e w' ⟨rfl, rfl⟩
      go_wp2_with fail
      refine s2.out.mono ?_
      rintro e w' ⟨rfl, rfl⟩
      go_wp2_with fail
      refine (kn _).out.mono ?_
      rintro e w1 ⟨rfl, hb1⟩
      have HB1 := hide hb1
      clear hb1
      go_wp2_with fail
      go_ret
      exact ⟨rfl, HB1.out⟩
end Go.Proofs.YtahfjhmgmpbmkaaDoor
