/-
  Contract of ident's Check at this translation.
-/
import Derived.Test.YtjjaemobgfconaaDoorId10
import Derived.Lib.MinMaxS
namespace Go.Proofs.YtjjaemobgfconaaDoor
open Go.RowKit
set_option linter.unusedVariables false

theorem ex_size (s : ByteArray) (a b : Nat) (h : b ≤ s.size) : (s.extract a b).size = b - a := by rw [ByteArray.size_extract]; omega
theorem gB_extract (s : ByteArray) (a b k : Nat) (hb : b ≤ s.size) (hk : k < b - a) : gB (s.extract a b) k = gB s (a + k) := by
  obtain ⟨⟨l⟩⟩ := s
  have hb' : b ≤ l.length := hb
  simp [gB, ByteArray.extract_mk, List.getD, List.getElem?_drop, hk]
theorem toList_ne {a b : ByteArray} (h : a ≠ b) : (a.toList == b.toList) = false := by
  rw [beq_eq_false_iff_ne]
  intro e
  rw [Lib.toList_data, Lib.toList_data] at e
  exact h (ByteArray.ext (Array.toList_inj.1 e))
theorem bne_u8 {a b : Int} (h : a ≠ b) : (a != b) = true := by simpa using h
/-- A world in which all that stood in w0 is as it was. -/
structure Sub (w0 : World) where
  val : World
  below : Below w0.heap.size w0 val
instance (w0 : World) : Nonempty (Sub w0) := ⟨⟨w0, Below.refl _ _⟩⟩
/-- A region that draws its order, whose calls make memory at most: one walk in the order of the text. -/
theorem wp_region_sub {P : Program} {id : Nat} {Q : Exit → Act → World → Prop} {a : Act} {w w0 : World} {l : List Oper} (hm : P.follows .mixedOrders = true) (hB : Region.lexB .any l.toArray = true) (hC : Below w0.heap.size w0 w.drew)
    (h : wpQuiet P l.toArray (fun w' => ∃ x : Sub w0, w' = x.val) (fun a' => ∀ w', (∃ x : Sub w0, w' = x.val) → Q .normal a' w') l a) : (Code.region id l.toArray true).wp P Q a w :=
  wp_region_quiet (C := fun w' => ∃ x : Sub w0, w' = x.val) hm hB ⟨⟨_, hC⟩, rfl⟩ (by simpa using h)
theorem sub_of {P : Program} {f : FuncId} {args : Array Value} {w0 : World} {v : Value} (x : Sub w0) (h : Calls P f args x.val fun e w' => e = .returned v ∧ Below x.val.heap.size x.val w') :
    Calls P f args x.val fun e w'' => e = .returned v ∧ ∃ y : Sub w0, w'' = y.val :=
  h.mono fun _ _ ⟨a, b⟩ => ⟨a, ⟨⟨_, x.below.trans (b.mono x.below.size)⟩, rfl⟩⟩
set_option maxHeartbeats 4000000 in
set_option maxRecDepth 20000 in
theorem chk_e0 (s : ByteArray) (w : World) (S : Shp w) (hm : s.size ≤ maxLen) (h : (pre 0 12 12 s).2 ≠ 0) :
    Calls Tryd.prog 51 #[.int .i64 0, .string s] w fun e w' => e = .returned (.tuple #[.int .i64 (pre 0 12 12 s).1, .int .i64 (pre 0 12 12 s).2]) ∧ Below w.heap.size w w' := by
  have cl := fun W => hide (cl_pre 0 s 12 12 12 12 2 1 0 2 1 W fits0 (by omega) (by omega) hm (fun j hj => may0 s j hj))
  have c0 : w.cell? ⟨2, 0, none⟩ = some (.int .i64 12) := S.cell 0 (by decide)
  have c1 : w.cell? ⟨2, 1, none⟩ = some (.int .i64 12) := S.cell 1 (by decide)
  have c2 : w.cell? ⟨2, 2, none⟩ = some (.int .i64 2) := S.cell 2 (by decide)
  have c3 : w.cell? ⟨2, 3, none⟩ = some (.int .i64 1) := S.cell 3 (by decide)
  have c4 : w.cell? ⟨2, 4, none⟩ = some (.int .i64 0) := S.cell 4 (by decide)
  have c5 : w.cell? ⟨2, 5, none⟩ = some (.int .i64 2) := S.cell 5 (by decide)
  have c6 : w.cell? ⟨2, 6, none⟩ = some (.int .i64 1) := S.cell 6 (by decide)
  have B0 := hide ((Below.refl w.heap.size w).alloc (Nat.le_refl _) (.cells #[.int .i64 12, .int .i64 12, .int .i64 2, .int .i64 1, .int .i64 0, .int .i64 2, .int .i64 1] 95))
  have hmf : ∀ (fn : Fn) (first cap : Array Value) (w : World), (Instr.makeFunc fn first cap).run Tryd.prog w = .ok (.func fn first cap) w := fun _ _ _ _ => rfl
  have h' : ¬ (pre 0 12 12 s).2 = 0 := h
  clear h S hm
  generalize (pre 0 12 12 s).2 = E at *
  generalize (pre 0 12 12 s).1 = V at *
  go_enter Tryd.func51, Tryd.ntmps51
  go_wp2_with fail
  refine (cl _).out.mono ?_
  rintro e w1 ⟨rfl, hb⟩
  have B1 := hide (B0.out.trans (hb.mono B0.out.size))
  clear hb
  go_wp2_with fail
  go_ret2
  exact ⟨rfl, B1.out⟩

set_option maxHeartbeats 4000000 in
set_option maxRecDepth 20000 in
theorem chk_k0 (s : ByteArray) (w : World) (S : Shp w) (hm : s.size ≤ maxLen) (h : (pre 0 12 12 s).2 = 0) (h1 : (pre 0 12 12 s).1 = 0) (hs : s.size = 12) (hA : Als (s.extract 0 11)) (hq : gB s 11 = 48 + luhn (bl (s.extract 0 11))) :
    Calls Tryd.prog 51 #[.int .i64 0, .string s] w fun e w' => e = .returned (.tuple #[.int .i64 0, .int .i64 0]) ∧ Below w.heap.size w w' := by
  have cl := fun W => hide (cl_pre 0 s 12 12 12 12 2 1 0 2 1 W fits0 (by omega) (by omega) hm (fun j hj => may0 s j hj))
  have c0 : w.cell? ⟨2, 0, none⟩ = some (.int .i64 12) := S.cell 0 (by decide)
  have c1 : w.cell? ⟨2, 1, none⟩ = some (.int .i64 12) := S.cell 1 (by decide)
  have c2 : w.cell? ⟨2, 2, none⟩ = some (.int .i64 2) := S.cell 2 (by decide)
  have c3 : w.cell? ⟨2, 3, none⟩ = some (.int .i64 1) := S.cell 3 (by decide)
  have c4 : w.cell? ⟨2, 4, none⟩ = some (.int .i64 0) := S.cell 4 (by decide)
  have c5 : w.cell? ⟨2, 5, none⟩ = some (.int .i64 2) := S.cell 5 (by decide)
  have c6 : w.cell? ⟨2, 6, none⟩ = some (.int .i64 1) := S.cell 6 (by decide)
  have B0 := hide ((Below.refl w.heap.size w).alloc (Nat.le_refl _) (.cells #[.int .i64 12, .int .i64 12, .int .i64 2, .int .i64 1, .int .i64 0, .int .i64 2, .int .i64 1] 95))
  have hmf : ∀ (fn : Fn) (first cap : Array Value) (w : World), (Instr.makeFunc fn first cap).run Tryd.prog w = .ok (.func fn first cap) w := fun _ _ _ _ => rfl
  rw [h, h1] at cl
  clear h h1 S hm
  have hsi : (s.size : Int) = 12 := by omega
  have lu := fun W => hide (luhn_any (s.extract 0 11) W hA (by rw [ex_size s 0 11 (by omega)]; omega))
  have j1 : ∀ W, (Instr.index 9 (.string s) (.int .i64 11)).run Tryd.prog W = .ok (.int .u8 (gB s 11)) W := idx s 11 (by omega)
  have hz : (s.extract 0 11).size = 11 := ex_size s 0 11 (by omega)
  have heq : ((48 + luhn (bl (s.extract 0 11))) != gB s 11) = false := by rw [hq]; simp
  clear hq
  generalize gB s 11 = x at *
  generalize 48 + luhn (bl (s.extract 0 11)) = U at *
  clear hA
  go_enter Tryd.func51, Tryd.ntmps51
  go_wp2_with fail
  refine (cl _).out.mono ?_
  rintro e w1 ⟨rfl, hb⟩
  have B1 := hide (B0.out.trans (hb.mono B0.out.size))
  have d3 : w1.cell? ⟨w.heap.size, 3, none⟩ = some (.int .i64 1) := (hb.cell (p := ⟨w.heap.size, 3, none⟩) (by simp)).trans (by simp [go_sem])
  clear hb
  go_wp2_with fail
  refine wp_region_sub (w0 := w) (by kernel_rfl) (by kernel_rfl) B1.out.drew ?_
  repeat (first | go_big_quiet_step ((go_at_call 62; exact sub_of _ (lu _).out)) | quiet_step ((go_at_call 62; exact sub_of _ (lu _).out)))
  refine wpQuiet_nil ?_
  rintro _ ⟨x, rfl⟩
  go_wp2_with fail
  go_ret2
  exact ⟨rfl, x.below⟩

set_option maxHeartbeats 4000000 in
set_option maxRecDepth 20000 in
theorem chk_x0 (s : ByteArray) (w : World) (S : Shp w) (hm : s.size ≤ maxLen) (h : (pre 0 12 12 s).2 = 0) (h1 : (pre 0 12 12 s).1 = 0) (hs : s.size = 12) (hA : Als (s.extract 0 11)) (hq : gB s 11 ≠ 48 + luhn (bl (s.extract 0 11))) :
    Calls Tryd.prog 51 #[.int .i64 0, .string s] w fun e w' => e = .returned (.tuple #[.int .i64 11, .int .i64 18]) ∧ Below w.heap.size w w' := by
  have cl := fun W => hide (cl_pre 0 s 12 12 12 12 2 1 0 2 1 W fits0 (by omega) (by omega) hm (fun j hj => may0 s j hj))
  have c0 : w.cell? ⟨2, 0, none⟩ = some (.int .i64 12) := S.cell 0 (by decide)
  have c1 : w.cell? ⟨2, 1, none⟩ = some (.int .i64 12) := S.cell 1 (by decide)
  have c2 : w.cell? ⟨2, 2, none⟩ = some (.int .i64 2) := S.cell 2 (by decide)
  have c3 : w.cell? ⟨2, 3, none⟩ = some (.int .i64 1) := S.cell 3 (by decide)
  have c4 : w.cell? ⟨2, 4, none⟩ = some (.int .i64 0) := S.cell 4 (by decide)
  have c5 : w.cell? ⟨2, 5, none⟩ = some (.int .i64 2) := S.cell 5 (by decide)
  have c6 : w.cell? ⟨2, 6, none⟩ = some (.int .i64 1) := S.cell 6 (by decide)
  have B0 := hide ((Below.refl w.heap.size w).alloc (Nat.le_refl _) (.cells #[.int .i64 12, .int .i64 12, .int .i64 2, .int .i64 1, .int .i64 0, .int .i64 2, .int .i64 1] 95))
  have hmf : ∀ (fn : Fn) (first cap : Array Value) (w : World), (Instr.makeFunc fn first cap).run Tryd.prog w = .ok (.func fn first cap) w := fun _ _ _ _ => rfl
  rw [h, h1] at cl
  clear h h1 S hm
  have hsi : (s.size : Int) = 12 := by omega
  have lu := fun W => hide (luhn_any (s.extract 0 11) W hA (by rw [ex_size s 0 11 (by omega)]; omega))
  have j1 : ∀ W, (Instr.index 9 (.string s) (.int .i64 11)).run Tryd.prog W = .ok (.int .u8 (gB s 11)) W := idx s 11 (by omega)
  have hz : (s.extract 0 11).size = 11 := ex_size s 0 11 (by omega)
  have hne := bne_u8 (fun q => hq q.symm)
  clear hq
  generalize gB s 11 = x at *
  generalize 48 + luhn (bl (s.extract 0 11)) = U at *
  clear hA
  go_enter Tryd.func51, Tryd.ntmps51
  go_wp2_with fail
  refine (cl _).out.mono ?_
  rintro e w1 ⟨rfl, hb⟩
  have B1 := hide (B0.out.trans (hb.mono B0.out.size))
  have d3 : w1.cell? ⟨w.heap.size, 3, none⟩ = some (.int .i64 1) := (hb.cell (p := ⟨w.heap.size, 3, none⟩) (by simp)).trans (by simp [go_sem])
  clear hb
  go_wp2_with fail
  refine wp_region_sub (w0 := w) (by kernel_rfl) (by kernel_rfl) B1.out.drew ?_
  repeat (first | go_big_quiet_step ((go_at_call 62; exact sub_of _ (lu _).out)) | quiet_step ((go_at_call 62; exact sub_of _ (lu _).out)))
  refine wpQuiet_nil ?_
  rintro _ ⟨x, rfl⟩
  go_wp2_with fail
  go_ret2
  exact ⟨rfl, x.below⟩

set_option maxHeartbeats 4000000 in
set_option maxRecDepth 20000 in
theorem chk_e1 (s : ByteArray) (w : World) (S : Shp w) (hm : s.size ≤ maxLen) (h : (pre 1 4 8 s).2 ≠ 0) :
    Calls Tryd.prog 51 #[.int .i64 1, .string s] w fun e w' => e = .returned (.tuple #[.int .i64 (pre 1 4 8 s).1, .int .i64 (pre 1 4 8 s).2]) ∧ Below w.heap.size w w' := by
  have cl := fun W => hide (cl_pre 1 s 4 8 4 8 1 0 0 2 2 W fits1 (by omega) (by omega) hm (fun j _ => may1 s j))
  have c0 : w.cell? ⟨2, 7, none⟩ = some (.int .i64 4) := S.cell 7 (by decide)
  have c1 : w.cell? ⟨2, 8, none⟩ = some (.int .i64 8) := S.cell 8 (by decide)
  have c2 : w.cell? ⟨2, 9, none⟩ = some (.int .i64 1) := S.cell 9 (by decide)
  have c3 : w.cell? ⟨2, 10, none⟩ = some (.int .i64 0) := S.cell 10 (by decide)
  have c4 : w.cell? ⟨2, 11, none⟩ = some (.int .i64 0) := S.cell 11 (by decide)
  have c5 : w.cell? ⟨2, 12, none⟩ = some (.int .i64 2) := S.cell 12 (by decide)
  have c6 : w.cell? ⟨2, 13, none⟩ = some (.int .i64 2) := S.cell 13 (by decide)
  have B0 := hide ((Below.refl w.heap.size w).alloc (Nat.le_refl _) (.cells #[.int .i64 4, .int .i64 8, .int .i64 1, .int .i64 0, .int .i64 0, .int .i64 2, .int .i64 2] 95))
  have hmf : ∀ (fn : Fn) (first cap : Array Value) (w : World), (Instr.makeFunc fn first cap).run Tryd.prog w = .ok (.func fn first cap) w := fun _ _ _ _ => rfl
  have h' : ¬ (pre 1 4 8 s).2 = 0 := h
  clear h S hm
  generalize (pre 1 4 8 s).2 = E at *
  generalize (pre 1 4 8 s).1 = V at *
  go_enter Tryd.func51, Tryd.ntmps51
  go_wp2_with fail
  refine (cl _).out.mono ?_
  rintro e w1 ⟨rfl, hb⟩
  have B1 := hide (B0.out.trans (hb.mono B0.out.size))
  clear hb
  go_wp2_with fail
  go_ret2
  exact ⟨rfl, B1.out⟩

set_option maxHeartbeats 4000000 in
set_option maxRecDepth 20000 in
theorem chk_k1 (s : ByteArray) (w : World) (S : Shp w) (hm : s.size ≤ maxLen) (h : (pre 1 4 8 s).2 = 0) (h1 : (pre 1 4 8 s).1 = 0) (hs : (s.size : Int) ≤ 8) :
    Calls Tryd.prog 51 #[.int .i64 1, .string s] w fun e w' => e = .returned (.tuple #[.int .i64 0, .int .i64 0]) ∧ Below w.heap.size w w' := by
  have cl := fun W => hide (cl_pre 1 s 4 8 4 8 1 0 0 2 2 W fits1 (by omega) (by omega) hm (fun j _ => may1 s j))
  have c0 : w.cell? ⟨2, 7, none⟩ = some (.int .i64 4) := S.cell 7 (by decide)
  have c1 : w.cell? ⟨2, 8, none⟩ = some (.int .i64 8) := S.cell 8 (by decide)
  have c2 : w.cell? ⟨2, 9, none⟩ = some (.int .i64 1) := S.cell 9 (by decide)
  have c3 : w.cell? ⟨2, 10, none⟩ = some (.int .i64 0) := S.cell 10 (by decide)
  have c4 : w.cell? ⟨2, 11, none⟩ = some (.int .i64 0) := S.cell 11 (by decide)
  have c5 : w.cell? ⟨2, 12, none⟩ = some (.int .i64 2) := S.cell 12 (by decide)
  have c6 : w.cell? ⟨2, 13, none⟩ = some (.int .i64 2) := S.cell 13 (by decide)
  have B0 := hide ((Below.refl w.heap.size w).alloc (Nat.le_refl _) (.cells #[.int .i64 4, .int .i64 8, .int .i64 1, .int .i64 0, .int .i64 0, .int .i64 2, .int .i64 2] 95))
  have hmf : ∀ (fn : Fn) (first cap : Array Value) (w : World), (Instr.makeFunc fn first cap).run Tryd.prog w = .ok (.func fn first cap) w := fun _ _ _ _ => rfl
  rw [h, h1] at cl
  clear h h1 S hm
  go_enter Tryd.func51, Tryd.ntmps51
  go_wp2_with fail
  refine (cl _).out.mono ?_
  rintro e w1 ⟨rfl, hb⟩
  have B1 := hide (B0.out.trans (hb.mono B0.out.size))
  have d3 : w1.cell? ⟨w.heap.size, 3, none⟩ = some (.int .i64 0) := (hb.cell (p := ⟨w.heap.size, 3, none⟩) (by simp)).trans (by simp [go_sem])
  clear hb
  go_wp2_with fail
  go_quiet (fail)
  go_wp2_with fail
  go_ret2
  exact ⟨rfl, below_drewN B1.out _⟩

set_option maxHeartbeats 4000000 in
set_option maxRecDepth 20000 in
theorem chk_e2 (s : ByteArray) (w : World) (S : Shp w) (hm : s.size ≤ maxLen) (h : (pre 2 1 16 s).2 ≠ 0) :
    Calls Tryd.prog 51 #[.int .i64 2, .string s] w fun e w' => e = .returned (.tuple #[.int .i64 (pre 2 1 16 s).1, .int .i64 (pre 2 1 16 s).2]) ∧ Below w.heap.size w w' := by
  have cl := fun W => hide (cl_pre 2 s 1 16 1 16 0 0 3 3 3 W fits2 (by omega) (by omega) hm (fun j _ => may2 s j))
  have c0 : w.cell? ⟨2, 14, none⟩ = some (.int .i64 1) := S.cell 14 (by decide)
  have c1 : w.cell? ⟨2, 15, none⟩ = some (.int .i64 16) := S.cell 15 (by decide)
  have c2 : w.cell? ⟨2, 16, none⟩ = some (.int .i64 0) := S.cell 16 (by decide)
  have c3 : w.cell? ⟨2, 17, none⟩ = some (.int .i64 0) := S.cell 17 (by decide)
  have c4 : w.cell? ⟨2, 18, none⟩ = some (.int .i64 3) := S.cell 18 (by decide)
  have c5 : w.cell? ⟨2, 19, none⟩ = some (.int .i64 3) := S.cell 19 (by decide)
  have c6 : w.cell? ⟨2, 20, none⟩ = some (.int .i64 3) := S.cell 20 (by decide)
  have B0 := hide ((Below.refl w.heap.size w).alloc (Nat.le_refl _) (.cells #[.int .i64 1, .int .i64 16, .int .i64 0, .int .i64 0, .int .i64 3, .int .i64 3, .int .i64 3] 95))
  have hmf : ∀ (fn : Fn) (first cap : Array Value) (w : World), (Instr.makeFunc fn first cap).run Tryd.prog w = .ok (.func fn first cap) w := fun _ _ _ _ => rfl
  have h' : ¬ (pre 2 1 16 s).2 = 0 := h
  clear h S hm
  generalize (pre 2 1 16 s).2 = E at *
  generalize (pre 2 1 16 s).1 = V at *
  go_enter Tryd.func51, Tryd.ntmps51
  go_wp2_with fail
  refine (cl _).out.mono ?_
  rintro e w1 ⟨rfl, hb⟩
  have B1 := hide (B0.out.trans (hb.mono B0.out.size))
  clear hb
  go_wp2_with fail
  go_ret2
  exact ⟨rfl, B1.out⟩

set_option maxHeartbeats 4000000 in
set_option maxRecDepth 20000 in
theorem chk_k2 (s : ByteArray) (w : World) (S : Shp w) (hm : s.size ≤ maxLen) (h : (pre 2 1 16 s).2 = 0) (h1 : (pre 2 1 16 s).1 = 0) (hs : (s.size : Int) ≤ 16) :
    Calls Tryd.prog 51 #[.int .i64 2, .string s] w fun e w' => e = .returned (.tuple #[.int .i64 0, .int .i64 0]) ∧ Below w.heap.size w w' := by
  have cl := fun W => hide (cl_pre 2 s 1 16 1 16 0 0 3 3 3 W fits2 (by omega) (by omega) hm (fun j _ => may2 s j))
  have c0 : w.cell? ⟨2, 14, none⟩ = some (.int .i64 1) := S.cell 14 (by decide)
  have c1 : w.cell? ⟨2, 15, none⟩ = some (.int .i64 16) := S.cell 15 (by decide)
  have c2 : w.cell? ⟨2, 16, none⟩ = some (.int .i64 0) := S.cell 16 (by decide)
  have c3 : w.cell? ⟨2, 17, none⟩ = some (.int .i64 0) := S.cell 17 (by decide)
  have c4 : w.cell? ⟨2, 18, none⟩ = some (.int .i64 3) := S.cell 18 (by decide)
  have c5 : w.cell? ⟨2, 19, none⟩ = some (.int .i64 3) := S.cell 19 (by decide)
  have c6 : w.cell? ⟨2, 20, none⟩ = some (.int .i64 3) := S.cell 20 (by decide)
  have B0 := hide ((Below.refl w.heap.size w).alloc (Nat.le_refl _) (.cells #[.int .i64 1, .int .i64 16, .int .i64 0, .int .i64 0, .int .i64 3, .int .i64 3, .int .i64 3] 95))
  have hmf : ∀ (fn : Fn) (first cap : Array Value) (w : World), (Instr.makeFunc fn first cap).run Tryd.prog w = .ok (.func fn first cap) w := fun _ _ _ _ => rfl
  rw [h, h1] at cl
  clear h h1 S hm
  go_enter Tryd.func51, Tryd.ntmps51
  go_wp2_with fail
  refine (cl _).out.mono ?_
  rintro e w1 ⟨rfl, hb⟩
  have B1 := hide (B0.out.trans (hb.mono B0.out.size))
  have d3 : w1.cell? ⟨w.heap.size, 3, none⟩ = some (.int .i64 0) := (hb.cell (p := ⟨w.heap.size, 3, none⟩) (by simp)).trans (by simp [go_sem])
  clear hb
  go_wp2_with fail
  go_quiet (fail)
  go_wp2_with fail
  go_ret2
  exact ⟨rfl, below_drewN B1.out _⟩

set_option maxHeartbeats 4000000 in
set_option maxRecDepth 20000 in
theorem chk_e3 (s : ByteArray) (w : World) (S : Shp w) (hm : s.size ≤ maxLen) (h : (pre 3 20 20 s).2 ≠ 0) :
    Calls Tryd.prog 51 #[.int .i64 3, .string s] w fun e w' => e = .returned (.tuple #[.int .i64 (pre 3 20 20 s).1, .int .i64 (pre 3 20 20 s).2]) ∧ Below w.heap.size w w' := by
  have cl := fun W => hide (cl_pre 3 s 20 20 20 20 0 2 2 2 1 W fits3 (by omega) (by omega) hm (fun j _ => may3 s j))
  have c0 : w.cell? ⟨2, 21, none⟩ = some (.int .i64 20) := S.cell 21 (by decide)
  have c1 : w.cell? ⟨2, 22, none⟩ = some (.int .i64 20) := S.cell 22 (by decide)
  have c2 : w.cell? ⟨2, 23, none⟩ = some (.int .i64 0) := S.cell 23 (by decide)
  have c3 : w.cell? ⟨2, 24, none⟩ = some (.int .i64 2) := S.cell 24 (by decide)
  have c4 : w.cell? ⟨2, 25, none⟩ = some (.int .i64 2) := S.cell 25 (by decide)
  have c5 : w.cell? ⟨2, 26, none⟩ = some (.int .i64 2) := S.cell 26 (by decide)
  have c6 : w.cell? ⟨2, 27, none⟩ = some (.int .i64 1) := S.cell 27 (by decide)
  have B0 := hide ((Below.refl w.heap.size w).alloc (Nat.le_refl _) (.cells #[.int .i64 20, .int .i64 20, .int .i64 0, .int .i64 2, .int .i64 2, .int .i64 2, .int .i64 1] 95))
  have hmf : ∀ (fn : Fn) (first cap : Array Value) (w : World), (Instr.makeFunc fn first cap).run Tryd.prog w = .ok (.func fn first cap) w := fun _ _ _ _ => rfl
  have h' : ¬ (pre 3 20 20 s).2 = 0 := h
  clear h S hm
  generalize (pre 3 20 20 s).2 = E at *
  generalize (pre 3 20 20 s).1 = V at *
  go_enter Tryd.func51, Tryd.ntmps51
  go_wp2_with fail
  refine (cl _).out.mono ?_
  rintro e w1 ⟨rfl, hb⟩
  have B1 := hide (B0.out.trans (hb.mono B0.out.size))
  clear hb
  go_wp2_with fail
  go_ret2
  exact ⟨rfl, B1.out⟩

set_option maxHeartbeats 4000000 in
set_option maxRecDepth 20000 in
theorem chk_k3 (s : ByteArray) (w : World) (S : Shp w) (hm : s.size ≤ maxLen) (h : (pre 3 20 20 s).2 = 0) (h1 : (pre 3 20 20 s).1 = 0) (hs : s.size = 20) (hA : Als (s.extract 0 18)) (hq : ¬ tailOff s) :
    Calls Tryd.prog 51 #[.int .i64 3, .string s] w fun e w' => e = .returned (.tuple #[.int .i64 0, .int .i64 0]) ∧ Below w.heap.size w w' := by
  have cl := fun W => hide (cl_pre 3 s 20 20 20 20 0 2 2 2 1 W fits3 (by omega) (by omega) hm (fun j _ => may3 s j))
  have c0 : w.cell? ⟨2, 21, none⟩ = some (.int .i64 20) := S.cell 21 (by decide)
  have c1 : w.cell? ⟨2, 22, none⟩ = some (.int .i64 20) := S.cell 22 (by decide)
  have c2 : w.cell? ⟨2, 23, none⟩ = some (.int .i64 0) := S.cell 23 (by decide)
  have c3 : w.cell? ⟨2, 24, none⟩ = some (.int .i64 2) := S.cell 24 (by decide)
  have c4 : w.cell? ⟨2, 25, none⟩ = some (.int .i64 2) := S.cell 25 (by decide)
  have c5 : w.cell? ⟨2, 26, none⟩ = some (.int .i64 2) := S.cell 26 (by decide)
  have c6 : w.cell? ⟨2, 27, none⟩ = some (.int .i64 1) := S.cell 27 (by decide)
  have B0 := hide ((Below.refl w.heap.size w).alloc (Nat.le_refl _) (.cells #[.int .i64 20, .int .i64 20, .int .i64 0, .int .i64 2, .int .i64 2, .int .i64 2, .int .i64 1] 95))
  have hmf : ∀ (fn : Fn) (first cap : Array Value) (w : World), (Instr.makeFunc fn first cap).run Tryd.prog w = .ok (.func fn first cap) w := fun _ _ _ _ => rfl
  rw [h, h1] at cl
  clear h h1 S hm
  have hsi : (s.size : Int) = 20 := by omega
  have lu := fun W => hide (rem_any (s.extract 0 18) W hA (by rw [ex_size s 0 18 (by omega)]; omega))
  have hz : (s.extract 0 18).size = 18 := ex_size s 0 18 (by omega)
  have hq' : s.extract 18 20 = dd (cd (bl (s.extract 0 18))) := Classical.byContradiction hq
  rw [← hq'] at lu
  clear hq hq'
  clear hA
  go_enter Tryd.func51, Tryd.ntmps51
  go_wp2_with fail
  refine (cl _).out.mono ?_
  rintro e w1 ⟨rfl, hb⟩
  have B1 := hide (B0.out.trans (hb.mono B0.out.size))
  have d3 : w1.cell? ⟨w.heap.size, 3, none⟩ = some (.int .i64 2) := (hb.cell (p := ⟨w.heap.size, 3, none⟩) (by simp)).trans (by simp [go_sem])
  clear hb
  go_wp2_with fail
  refine wp_region_sub (w0 := w) (by kernel_rfl) (by kernel_rfl) B1.out.drew ?_
  repeat (first | go_big_quiet_step ((go_at_call 63; exact sub_of _ (lu _).out)) | quiet_step ((go_at_call 63; exact sub_of _ (lu _).out)))
  refine wpQuiet_nil ?_
  rintro _ ⟨x, rfl⟩
  go_wp2_with fail
  go_ret2
  exact ⟨rfl, x.below⟩

set_option maxHeartbeats 4000000 in
set_option maxRecDepth 20000 in
theorem chk_x3 (s : ByteArray) (w : World) (S : Shp w) (hm : s.size ≤ maxLen) (h : (pre 3 20 20 s).2 = 0) (h1 : (pre 3 20 20 s).1 = 0) (hs : s.size = 20) (hA : Als (s.extract 0 18)) (hq : tailOff s) :
    Calls Tryd.prog 51 #[.int .i64 3, .string s] w fun e w' => e = .returned (.tuple #[.int .i64 18, .int .i64 18]) ∧ Below w.heap.size w w' := by
  have cl := fun W => hide (cl_pre 3 s 20 20 20 20 0 2 2 2 1 W fits3 (by omega) (by omega) hm (fun j _ => may3 s j))
  have c0 : w.cell? ⟨2, 21, none⟩ = some (.int .i64 20) := S.cell 21 (by decide)
  have c1 : w.cell? ⟨2, 22, none⟩ = some (.int .i64 20) := S.cell 22 (by decide)
  have c2 : w.cell? ⟨2, 23, none⟩ = some (.int .i64 0) := S.cell 23 (by decide)
  have c3 : w.cell? ⟨2, 24, none⟩ = some (.int .i64 2) := S.cell 24 (by decide)
  have c4 : w.cell? ⟨2, 25, none⟩ = some (.int .i64 2) := S.cell 25 (by decide)
  have c5 : w.cell? ⟨2, 26, none⟩ = some (.int .i64 2) := S.cell 26 (by decide)
  have c6 : w.cell? ⟨2, 27, none⟩ = some (.int .i64 1) := S.cell 27 (by decide)
  have B0 := hide ((Below.refl w.heap.size w).alloc (Nat.le_refl _) (.cells #[.int .i64 20, .int .i64 20, .int .i64 0, .int .i64 2, .int .i64 2, .int .i64 2, .int .i64 1] 95))
  have hmf : ∀ (fn : Fn) (first cap : Array Value) (w : World), (Instr.makeFunc fn first cap).run Tryd.prog w = .ok (.func fn first cap) w := fun _ _ _ _ => rfl
  rw [h, h1] at cl
  clear h h1 S hm
  have hsi : (s.size : Int) = 20 := by omega
  have lu := fun W => hide (rem_any (s.extract 0 18) W hA (by rw [ex_size s 0 18 (by omega)]; omega))
  have hz : (s.extract 0 18).size = 18 := ex_size s 0 18 (by omega)
  have hne1 : ¬ dd (cd (bl (s.extract 0 18))) = s.extract 18 20 := fun q => hq q.symm
  have hne2 : ((dd (cd (bl (s.extract 0 18)))).toList == (s.extract 18 20).toList) = false := toList_ne hne1
  clear hq
  generalize dd (cd (bl (s.extract 0 18))) = U at *
  clear hA
  go_enter Tryd.func51, Tryd.ntmps51
  go_wp2_with fail
  refine (cl _).out.mono ?_
  rintro e w1 ⟨rfl, hb⟩
  have B1 := hide (B0.out.trans (hb.mono B0.out.size))
  have d3 : w1.cell? ⟨w.heap.size, 3, none⟩ = some (.int .i64 2) := (hb.cell (p := ⟨w.heap.size, 3, none⟩) (by simp)).trans (by simp [go_sem])
  clear hb
  go_wp2_with fail
  refine wp_region_sub (w0 := w) (by kernel_rfl) (by kernel_rfl) B1.out.drew ?_
  repeat (first | go_big_quiet_step ((go_at_call 63; exact sub_of _ (lu _).out)) | quiet_step ((go_at_call 63; exact sub_of _ (lu _).out)))
  refine wpQuiet_nil ?_
  rintro _ ⟨x, rfl⟩
  go_wp2_with fail
  go_ret2
  exact ⟨rfl, x.below⟩

end Go.Proofs.YtjjaemobgfconaaDoor
