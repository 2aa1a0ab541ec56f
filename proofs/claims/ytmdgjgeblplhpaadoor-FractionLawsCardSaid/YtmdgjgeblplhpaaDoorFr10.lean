/-
  Contract of fraction's method Of at this translation. Conditions: the arguments fit their kinds.
-/
import Derived.Test.YtmdgjgeblplhpaaDoorFr9
namespace Go.Proofs.YtmdgjgeblplhpaaDoor
open Go.RowKit
set_option linter.unusedVariables false

/-- A world in which all that stood in w0 is as it was. -/
structure Sub (w0 : World) where
  val : World
  below : Below w0.heap.size w0 val
instance (w0 : World) : Nonempty (Sub w0) := ⟨⟨w0, Below.refl _ _⟩⟩
/-- A region that draws its order, whose calls make memory at most: one walk in the order of the text. -/
theorem wp_region_sub {P : Program} {id : Nat} {Q : Exit → Act → World → Prop} {a : Act} {w w0 : World} {l : List Oper} (hm : P.follows .mixedOrders = true) (hB : Region.lexB .any l.toArray = true) (hC : Below w0.heap.size w0 w.drew)
    (h : wpQuiet P l.toArray (fun w' => ∃ x : Sub w0, w' = x.val) (fun a' => ∀ w', (∃ x : Sub w0, w' = x.val) → Q .normal a' w') l a) : (Code.region id l.toArray true).wp P Q a w :=
  wp_region_quiet (C := fun w' => ∃ x : Sub w0, w' = x.val) hm hB ⟨⟨_, hC⟩, rfl⟩ (by simpa using h)
theorem sub_of {P : Program} {f : FuncId} {args : Array Value} {w0 : World} {v : Value} (x : Sub w0) (h : Calls P f args x.val fun e w' => e = .returned v ∧ Below x.val.heap.size x.val w') :
    Calls P f args x.val fun e w'' => e = .returned v ∧ ∃ y : Sub w0, w'' = y.val :=
  h.mono fun _ _ ⟨a, b⟩ => ⟨a, ⟨⟨_, x.below.trans (b.mono x.below.size)⟩, rfl⟩⟩
theorem sub_eq {P : Program} {f : FuncId} {args : Array Value} {w0 : World} {v : Value} (x : Sub w0) (h : Calls P f args x.val fun e w' => e = .returned v ∧ x.val = w') :
    Calls P f args x.val fun e w'' => e = .returned v ∧ ∃ y : Sub w0, w'' = y.val :=
  h.mono fun _ _ ⟨a, b⟩ => ⟨a, x, b.symm⟩

theorem ret_of {v n d e v' n' d' e' : Int} (h0 : v = v') (h1 : n = n') (h2 : d = d') (h3 : e = e') :
    Ending.returned (.tuple #[.int .i64 v, .agg #[.int .i64 n, .int .i64 d], .int .i64 e]) = .returned (.tuple #[.int .i64 v', .agg #[.int .i64 n', .int .i64 d'], .int .i64 e']) := by rw [h0, h1, h2, h3]

/-- What Of answers, as a tuple. -/
def OfPost (n d x m : Int) (w : World) (e : Ending) (w' : World) : Prop :=
  e = .returned (.tuple #[.int .i64 (ofV n d x m), .agg #[.int .i64 (ofN n d x m), .int .i64 (ofD n d x m)], .int .i64 (ofE n d x m)]) ∧ Below w.heap.size w w'
theorem ofpost_no {n d x m k : Int} {w w' : World} (he : ofE n d x m = k) (hk : k ≠ 0) (hb : Below w.heap.size w w') : OfPost n d x m w (.returned (.tuple #[.int .i64 0, .agg #[.int .i64 0, .int .i64 0], .int .i64 k])) w' := by
  refine ⟨ret_of ?_ ?_ ?_ he.symm, hb⟩
  · simp [ofV, he, hk]
  · simp [ofN, he, hk]
  · simp [ofD, he, hk]

theorem of_bad (n d x m : Int) (w : World) (hn : I64 n) (hd : I64 d) (h : ckE n d ≠ 0) :
    Calls Tryd.prog 24 #[.agg #[.int .i64 n, .int .i64 d], .int .i64 x, .int .i64 m] w (OfPost n d x m w) := by
  have C := fun w => hide (check_any n d w hn.1 hn.2 hd.1 hd.2)
  have F : ∀ w', Hid (Below w.heap.size w w' → OfPost n d x m w (.returned (.tuple #[.int .i64 0, .agg #[.int .i64 0, .int .i64 0], .int .i64 (ckE n d)])) w') := fun w' => hide (fun hb => ofpost_no (by simp [ofE, h]) h hb)
  generalize ckE n d = X at *
  have e1 : (X == 0) = false := by simpa using h
  have e2 : (X != 0) = true := by simpa using h
  clear h hn hd
  generalize OfPost n d x m w = R at *
  go_enter Tryd.func24, Tryd.ntmps24
  go_wp2_with fail
  refine (C _).out.mono ?_
  rintro e w1 ⟨rfl, hb⟩
  have c4 := (hb.cell (p := ⟨w.heap.size + 1, 0, none⟩) (by simp)).trans (show _ = some (Value.int .i64 0) by simp [go_sem])
  have c5 := (hb.cell (p := ⟨w.heap.size + 1, 1, none⟩) (by simp)).trans (show _ = some (Value.int .i64 0) by simp [go_sem])
  have z0 := (hb.frozen (p := ⟨w.heap.size + 1, 0, none⟩) (by simp)).trans (show _ = false by simp [go_sem])
  have z2 := (hb.frozen (p := ⟨w.heap.size + 1, 1, none⟩) (by simp)).trans (show _ = false by simp [go_sem])
  have HB1 := hide (show Below w.heap.size w w1 from (((Below.refl w.heap.size w).alloc (Nat.le_refl _) _).alloc (by simp) _).trans (hb.mono (by simp; omega)))
  clear hb
  go_wp2_with fail
  exact bodyPost_ret (v := .tuple #[.int .i64 0, .agg #[.int .i64 0, .int .i64 0], .int .i64 X]) (by simp [results, Tryd.results24, go_sem, c4, c5]) rfl
    ((F _).out (by have := HB1.out; repeat' (first | exact this | refine Below.setCell ?_ ?_ _ | (simp; done) | (simp; omega))))

theorem of_mode (n d x m : Int) (w : World) (hn : I64 n) (hd : I64 d) (h : ckE n d = 0) (hm : m < 0 ∨ 3 < m) :
    Calls Tryd.prog 24 #[.agg #[.int .i64 n, .int .i64 d], .int .i64 x, .int .i64 m] w (OfPost n d x m w) := by
  have C := fun w => hide (check_any n d w hn.1 hn.2 hd.1 hd.2)
  have F : ∀ w', Hid (Below w.heap.size w w' → OfPost n d x m w (.returned (.tuple #[.int .i64 0, .agg #[.int .i64 0, .int .i64 0], .int .i64 2])) w') := fun w' => hide (fun hb => ofpost_no (by simp [ofE, h, hm]) (by decide) hb)
  rw [h] at C
  clear h hn hd
  generalize OfPost n d x m w = R at *
  rcases hm with hm | hm
  · go_enter Tryd.func24, Tryd.ntmps24
    go_wp2_with fail
    refine (C _).out.mono ?_
    rintro e w1 ⟨rfl, hb⟩
    have c4 := (hb.cell (p := ⟨w.heap.size + 1, 0, none⟩) (by simp)).trans (show _ = some (Value.int .i64 0) by simp [go_sem])
    have c5 := (hb.cell (p := ⟨w.heap.size + 1, 1, none⟩) (by simp)).trans (show _ = some (Value.int .i64 0) by simp [go_sem])
    have z0 := (hb.frozen (p := ⟨w.heap.size + 1, 0, none⟩) (by simp)).trans (show _ = false by simp [go_sem])
    have z2 := (hb.frozen (p := ⟨w.heap.size + 1, 1, none⟩) (by simp)).trans (show _ = false by simp [go_sem])
    have HB1 := hide (show Below w.heap.size w w1 from (((Below.refl w.heap.size w).alloc (Nat.le_refl _) _).alloc (by simp) _).trans (hb.mono (by simp; omega)))
    clear hb
    go_wp2_with fail
    exact bodyPost_ret (v := .tuple #[.int .i64 0, .agg #[.int .i64 0, .int .i64 0], .int .i64 2]) (by simp [results, Tryd.results24, go_sem, c4, c5]) rfl
      ((F _).out (by have := HB1.out; repeat' (first | exact this | refine Below.setCell ?_ ?_ _ | (simp; done) | (simp; omega))))
  · have m0 : ¬ m < 0 := by omega
    have m1 : 4 ≤ m := by omega
    go_enter Tryd.func24, Tryd.ntmps24
    go_wp2_with fail
    refine (C _).out.mono ?_
    rintro e w1 ⟨rfl, hb⟩
    have c4 := (hb.cell (p := ⟨w.heap.size + 1, 0, none⟩) (by simp)).trans (show _ = some (Value.int .i64 0) by simp [go_sem])
    have c5 := (hb.cell (p := ⟨w.heap.size + 1, 1, none⟩) (by simp)).trans (show _ = some (Value.int .i64 0) by simp [go_sem])
    have z0 := (hb.frozen (p := ⟨w.heap.size + 1, 0, none⟩) (by simp)).trans (show _ = false by simp [go_sem])
    have z2 := (hb.frozen (p := ⟨w.heap.size + 1, 1, none⟩) (by simp)).trans (show _ = false by simp [go_sem])
    have HB1 := hide (show Below w.heap.size w w1 from (((Below.refl w.heap.size w).alloc (Nat.le_refl _) _).alloc (by simp) _).trans (hb.mono (by simp; omega)))
    clear hb
    go_wp2_with fail
    exact bodyPost_ret (v := .tuple #[.int .i64 0, .agg #[.int .i64 0, .int .i64 0], .int .i64 2]) (by simp [results, Tryd.results24, go_sem, c4, c5]) rfl
      ((F _).out (by have := HB1.out; repeat' (first | exact this | refine Below.setCell ?_ ?_ _ | (simp; done) | (simp; omega))))

theorem of_amount (n d x m : Int) (w : World) (hn : I64 n) (hd : I64 d) (h : ckE n d = 0) (m1 : 0 ≤ m) (m2 : m ≤ 3) (hx : ¬ okA x) :
    Calls Tryd.prog 24 #[.agg #[.int .i64 n, .int .i64 d], .int .i64 x, .int .i64 m] w (OfPost n d x m w) := by
  have C := fun w => hide (check_any n d w hn.1 hn.2 hd.1 hd.2)
  have ha : amA x = false := by
    cases hq : amA x
    · rfl
    · exact absurd (am_ok.1 hq) hx
  have F : ∀ w', Hid (Below w.heap.size w w' → OfPost n d x m w (.returned (.tuple #[.int .i64 0, .agg #[.int .i64 0, .int .i64 0], .int .i64 12])) w') := fun w' => hide (fun hb => ofpost_no (by simp [ofE, h, ha]; omega) (by decide) hb)
  have V := fun w => hide (valid_any x w)
  rw [okB_no hx] at V
  rw [h] at C
  clear h hn hd hx ha
  generalize OfPost n d x m w = R at *
  go_enter Tryd.func24, Tryd.ntmps24
  go_wp2_with fail
  refine (C _).out.mono ?_
  rintro e w1 ⟨rfl, hb⟩
  have c4 := (hb.cell (p := ⟨w.heap.size + 1, 0, none⟩) (by simp)).trans (show _ = some (Value.int .i64 0) by simp [go_sem])
  have c5 := (hb.cell (p := ⟨w.heap.size + 1, 1, none⟩) (by simp)).trans (show _ = some (Value.int .i64 0) by simp [go_sem])
  have z0 := (hb.frozen (p := ⟨w.heap.size + 1, 0, none⟩) (by simp)).trans (show _ = false by simp [go_sem])
  have z2 := (hb.frozen (p := ⟨w.heap.size + 1, 1, none⟩) (by simp)).trans (show _ = false by simp [go_sem])
  have HB1 := hide (show Below w.heap.size w w1 from (((Below.refl w.heap.size w).alloc (Nat.le_refl _) _).alloc (by simp) _).trans (hb.mono (by simp; omega)))
  clear hb
  go_wp2_with fail
  refine (V _).out.mono ?_
  rintro e w2 ⟨rfl, rfl⟩
  go_wp2_with fail
  exact bodyPost_ret (v := .tuple #[.int .i64 0, .agg #[.int .i64 0, .int .i64 0], .int .i64 12]) (by simp [results, Tryd.results24, go_sem, c4, c5]) rfl
    ((F _).out (by have := HB1.out; repeat' (first | exact this | refine Below.setCell ?_ ?_ _ | (simp; done) | (simp; omega))))
end Go.Proofs.YtmdgjgeblplhpaaDoor
