/-
  Laws of slices of bytes at this translation: append to a slice of the call's own from any that reads; parts of a slice; two slices compared; four bytes and their number.
-/
import Derived.Test.YtgjdaipofekjfaaR4
import Derived.Laws.BytesArg
import Derived.Laws.AppendOwnNone
namespace Go.Proofs.Ytgjdaipofekjfaa
open Go.RowKit
set_option linter.unusedVariables false
set_option linter.unusedSimpArgs false
set_option linter.unnecessarySimpa false

/-- An operation whose run is known. -/
theorem wpList_known {P : Program} {ops : Array Oper} {rest : List Oper} {o : Oper} {a : Act} {w : World} {Q : Exit → Act → World → Prop} (hg : o.guard = none)
    (v : Value) (w' : World) (hrun : (execOp a.eval o).run P w = .ok (.value v) w')
    (h : wpList P ops Q rest (a.put o.dst v) w') : wpList P ops Q (o :: rest) a w := by
  refine wpList_plain hg fun K hK => ?_
  unfold Oper.wp
  rw [hrun, Oper.upon_value]
  exact hK _ _ h

/-- A part of a slice of bytes. -/
theorem run_part (w : World) (v : Value) (l : List Nat) (h : RdB w v l) (lo hi : Nat) (h1 : lo ≤ hi) (h2 : hi ≤ l.length) (x y : Option Value)
    (hx : (x = none ∧ lo = 0) ∨ x = some (.int .i64 (lo : Int))) (hy : (y = none ∧ hi = l.length) ∨ y = some (.int .i64 (hi : Int))) :
    ∃ v', RdB w v' ((l.drop lo).take (hi - lo)) ∧ ∀ W, (Instr.sliceAt 22 v x y none).run Try.prog W = .ok v' W := by
  have hb : Crc.Bts ((l.drop lo).take (hi - lo)) := (h.1.drop lo).take _
  have hlen : ((l.drop lo).take (hi - lo)).length = hi - lo := by rw [List.length_take, List.length_drop]; omega
  have u := fun W => run_underlying (P := Try.prog) (w := W) Try.underlying22
  have z : ∀ W, (sizeOf 5).run Try.prog W = .ok 1 W := fun W => by kernel_rfl
  rcases h.2 with ⟨a0, rfl, rfl⟩ | ⟨b, off, cap, rfl, g1, g2, g3, gc⟩
  · have e1 : hi = 0 := by simpa using h2
    subst e1
    have e2 : lo = 0 := by omega
    subst e2
    refine ⟨.slice a0 0 0, ⟨hb, .inl ⟨a0, rfl, by simp⟩⟩, fun W => ?_⟩
    rcases hx with ⟨rfl, _⟩ | rfl <;> rcases hy with ⟨rfl, _⟩ | rfl <;>
      simp [Instr.sliceAt, Instr.slice, Instr.sliceBounds, Instr.sliceBound, asIntOf, u, z, Sem.run_bind, Result.andThen]
  · refine ⟨.slice (if cap = lo then some ⟨b, off, none⟩ else some ⟨b, off + lo, none⟩) (hi - lo) (cap - lo), ⟨hb, .inr ?_⟩, fun W => ?_⟩
    · by_cases hc : cap = lo
      · rw [if_pos hc]
        refine ⟨b, off, cap - lo, by rw [hlen], by rw [hlen]; omega, by omega, g3, fun k hk => ?_⟩
        rw [hlen] at hk; omega
      · rw [if_neg hc]
        refine ⟨b, off + lo, cap - lo, by rw [hlen], by rw [hlen]; omega, by omega, g3, fun k hk => ?_⟩
        rw [hlen] at hk
        rw [Nat.add_assoc, gc (lo + k) (by omega)]
        simp [List.getD_eq_getElem?_getD, hk, List.getElem?_drop]
    · have k1 : hi ≤ cap := by omega
      have k2 : ¬ ((lo : Int) < 0) := by omega
      have k3 : ((hi : Int) ≤ cap) := by omega
      have k4 : ((lo : Int) ≤ hi) := by omega
      rcases hx with ⟨rfl, rfl⟩ | rfl <;> rcases hy with ⟨rfl, rfl⟩ | rfl <;>
        simp [Instr.sliceAt, Instr.slice, Instr.sliceBounds, Instr.sliceBound, asIntOf, u, z, Sem.run_bind, Result.andThen, k1, k3, k4, h1] <;> (try split) <;> simp_all [Addr.add]

/-- A slice of bytes of the call's own. -/
def Ow (w : World) (base : Nat) (v : Value) (l : List Nat) : Prop := Crc.Bts l ∧ w.ownsRow base 5 1 v l.length (cB l)
theorem Ow.rd {w : World} {base : Nat} {v : Value} {l : List Nat} (h : Ow w base v l) : RdB w v l := RdB.of_owns h.1 h.2
theorem Ow.nil (w : World) (base : Nat) : Ow w base (.slice none 0 0) [] := ⟨(by intro c hc; cases hc), World.ownsRow_nil w base 5 1⟩
theorem Ow.empty (w : World) (base : Nat) (h : base ≤ w.heap.size) : Ow (w.alloc (.cells #[] 5)) base (.slice (some ⟨w.heap.size, 0, none⟩) 0 0) [] :=
  ⟨(by intro c hc; cases hc), World.ownsRow_lit w #[] 0 h (by unfold maxLen; decide) rfl⟩
theorem Ow.keep {w w' : World} {base : Nat} {v : Value} {l : List Nat} (h : Ow w base v l) (hb : Below w.heap.size w w') : Ow w' base v l :=
  ⟨h.1, h.2.kept (row := none) ⟨hb.os, hb.tape, hb.output, hb.size, fun k hk _ => hb.block k hk⟩ (by cases hv : v.ownBlock <;> simp)⟩
theorem Ow.low {w : World} {base base' : Nat} {v : Value} {l : List Nat} (h : Ow w base v l) (hle : base' ≤ base) : Ow w base' v l := by
  refine ⟨h.1, h.2.1, ?_⟩
  rcases h.2.2 with h | ⟨g, cap, cur, hv, hb, r⟩
  · exact .inl h
  · exact .inr ⟨g, cap, cur, hv, by omega, r⟩
theorem Ow.form {w : World} {base : Nat} {v : Value} {l : List Nat} (h : Ow w base v l) : ∃ a c, v = .slice a l.length c := h.rd.form

theorem Try.info5 : (Try.prog.info? 5).map (fun i => (i.zero, i.size, i.bytes)) = some (some (.int .u8 0), 1, 1) := by kernel_rfl

theorem cB_append (a b : List Nat) : cB (a ++ b) = cB a ++ cB b := by simp [cB]
theorem cB_len (a : List Nat) : (cB a).length = a.length := by simp [cB]

/-- append. -/
theorem run_app (w : World) (ty : TypeId) (base : Nat) (v : Value) (l : List Nat) (hown : Ow w base v l) (y : Value) (l2 : List Nat) (hy : RdB w y l2)
    (hb : l.length + l2.length ≤ 140737488355328) (hbase : base ≤ w.heap.size) :
    ∃ v' w', (Builtin.append_ #[22, 22] ty #[v, y]).run Try.prog w = .ok v' w' ∧ Ow w' base v' (l ++ l2) ∧ w.grownBy w' v.ownBlock := by
  obtain ⟨i0, hi, hz0, hz1, hz2⟩ := info_parts Try.info5
  rcases hy.2 with ⟨a0, rfl, rfl⟩ | ⟨b, off, cap, rfl, g1, g2, g3, gc⟩
  · cases a0 with
    | some x =>
      obtain ⟨v', w', hr, ho, hg, _⟩ := run_append_own (P := Try.prog) w base 22 ty 5 i0 (.int .u8 0) 1 1 Try.underlying22 hi hz0 hz1 hz2 rfl (by decide) v l.length (cB l) hown.2 x 0 0 []
        rfl (fun j u hu => by simp at hu) (fun u hu => by cases hu) (by unfold maxLen; simp at hb; omega) (by simp at hb; omega) hbase
      refine ⟨v', w', hr, ⟨by rw [List.append_nil]; exact hown.1, ?_⟩, hg⟩
      rw [List.append_nil]; simpa using ho
    | none => exact ⟨v, w, run_append_owned_none (P := Try.prog) w base 22 ty 5 i0 1 Try.underlying22 hi v _ _ hown.2, by rw [List.append_nil]; exact hown, ⟨rfl, rfl, rfl, Nat.le_refl _, fun _ _ _ => rfl⟩⟩
  · obtain ⟨v', w', hr, ho, hg, _⟩ := run_append_own (P := Try.prog) w base 22 ty 5 i0 (.int .u8 0) 1 1 Try.underlying22 hi hz0 hz1 hz2 rfl (by decide) v l.length (cB l) hown.2 ⟨b, off, none⟩ l2.length cap (cB l2)
      (by rw [cB_len]; omega) (fun j u hu => by
        have hj : j < l2.length := by
          have := (List.getElem?_eq_some_iff.1 hu).1; rwa [cB_len] at this
        have := gc j hj
        rw [show (⟨b, off, none⟩ : Addr).add j = ⟨b, off + j, none⟩ from by (unfold Addr.add; split <;> simp_all), this, ← hu]
        simp [cB, List.getElem?_map, List.getElem?_eq_getElem hj]) (fun u hu => by
        simp [cB] at hu; obtain ⟨c, _, rfl⟩ := hu; rfl) (by unfold maxLen; omega) (by omega) hbase
    refine ⟨v', w', hr, ⟨hown.1.append hy.1, ?_⟩, hg⟩
    rw [List.length_append, cB_append]; exact ho

theorem wpList_app {ops : Array Oper} {rest : List Oper} {o : Oper} {a : Act} {w : World} {Q : Exit → Act → World → Prop} (hgd : o.guard = none) (s x : Operand)
    (ho : o.op = .call { callee := .builtin .append, args := #[s, x], argTypes := #[22, 22] })
    (base : Nat) (v : Value) (l : List Nat) (hs : a.eval s = v) (hown : Ow w base v l) (y : Value) (l2 : List Nat) (hx : a.eval x = y) (hy : RdB w y l2)
    (hb : l.length + l2.length ≤ 140737488355328) (hbase : base ≤ w.heap.size)
    (h : ∀ v' w', Ow w' base v' (l ++ l2) → w.grownBy w' v.ownBlock → wpList Try.prog ops Q rest (a.put o.dst v') w') : wpList Try.prog ops Q (o :: rest) a w := by
  obtain ⟨v', w', hr, h1, h2⟩ := run_app w o.type base v l hown y l2 hy hb hbase
  refine wpList_plain hgd fun K hK => ?_
  unfold Oper.wp execOp
  simp only [ho, resolve, invoke, builtin, Sem.run_bind, Sem.run_pure, Result.andThen_ok, List.map_toArray, List.map_cons, List.map_nil, hs, hx, hr]
  exact hK _ _ (h v' w' h1 h2)

theorem wpList_part {ops : Array Oper} {rest : List Oper} {o : Oper} {a : Act} {w : World} {Q : Exit → Act → World → Prop} (hgd : o.guard = none) (x : Operand) (lo hi : Option Operand)
    (ho : o.op = .slice 22 x lo hi none) (v : Value) (hr : ∀ W, (Instr.sliceAt 22 (a.eval x) (lo.map a.eval) (hi.map a.eval) none).run Try.prog W = .ok v W)
    (h : wpList Try.prog ops Q rest (a.put o.dst v) w) : wpList Try.prog ops Q (o :: rest) a w := by
  refine wpList_plain hgd fun K hK => ?_
  unfold Oper.wp execOp
  simp only [ho, Option.map_none, Sem.run_bind, hr w, Sem.run_pure, Result.andThen_ok]
  exact hK _ _ h
end Go.Proofs.Ytgjdaipofekjfaa
