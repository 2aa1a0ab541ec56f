/-
  Plain mathematics of records: a first part of records, and records of which one byte has been changed.
-/
import Derived.Test.YtgjdaipofekjfaaC2
set_option linter.unusedVariables false
set_option linter.unusedSimpArgs false
set_option linter.unnecessarySimpa false
namespace Crc

theorem recs_append (a b : List (List Nat)) : recs (a ++ b) = recs a ++ recs b := by simp [recs]
theorem Pls.take {L : List (List Nat)} (h : Pls L) (k : Nat) : Pls (L.take k) := fun p hp => h p (List.mem_of_mem_take hp)
theorem recs_split {L : List (List Nat)} {k : Nat} (hk : k < L.length) : recs L = recs (L.take k) ++ (recd (L.getD k []) ++ recs (L.drop (k + 1))) := by
  have e : L = L.take k ++ L.getD k [] :: L.drop (k + 1) := by
    rw [List.getD_eq_getElem?_getD, List.getElem?_eq_getElem hk, Option.getD_some, List.getElem_cons_drop, List.take_append_drop]
  conv => lhs; rw [e]
  rw [recs_append, recs_cons]
theorem getD_pls {L : List (List Nat)} (h : Pls L) {k : Nat} (hk : k < L.length) : Bts (L.getD k []) ∧ (L.getD k []).length ≤ 1048576 := by
  rw [List.getD_eq_getElem?_getD, List.getElem?_eq_getElem hk]; exact h _ (List.getElem_mem hk)

/-- A record cut short. -/
theorem nxt_short {p T : List Nat} (hp : Bts p) (hl : p.length ≤ 1048576) {m : Nat} (h0 : 0 < m) (hm : m < 8 + p.length) : scan ((recd p ++ T).take m) = ([], 0, 19) := by
  have hlen : ((recd p ++ T).take m).length = m := by rw [List.length_take, List.length_append, recd_len]; omega
  have hE : nxtE ((recd p ++ T).take m) = 19 := by
    unfold nxtE
    rw [hlen]
    by_cases h8 : m < 8
    · rw [if_pos h8]
    · rw [if_neg h8]
      have hr : rd4 ((recd p ++ T).take m) = p.length := by
        rw [rd4_take (by omega)]
        unfold recd; rw [List.append_assoc]; exact rd4_le4 _ (by omega) _
      rw [hr, if_neg (by omega), if_pos (by omega)]
  rw [scan_bad (by omega) (by omega), hE]

/-- Records cut after n bytes: k of them lie within. -/
theorem scan_cut {L : List (List Nat)} (h : Pls L) {k n : Nat} (hk : k ≤ L.length) (hn : n ≤ (recs L).length) (h1 : (recs (L.take k)).length ≤ n)
    (h2 : k < L.length → n < (recs (L.take k)).length + (8 + (L.getD k []).length)) :
    scan ((recs L).take n) = (L.take k, (recs (L.take k)).length, if n = (recs (L.take k)).length then 0 else 19) := by
  by_cases hlt : k < L.length
  · have e : (recs L).take n = recs (L.take k) ++ (recd (L.getD k []) ++ recs (L.drop (k + 1))).take (n - (recs (L.take k)).length) := by
      rw [recs_split hlt, List.take_append, List.take_of_length_le h1]
    rw [e, scan_recs _ _ (h.take k)]
    by_cases hz : n = (recs (L.take k)).length
    · have e0 : n - (recs (L.take k)).length = 0 := by omega
      rw [if_pos hz, e0, List.take_zero, scan_nil]; simp
    · have := h2 hlt
      have hp := getD_pls h hlt
      rw [if_neg hz, nxt_short hp.1 hp.2 (by omega) (by omega)]; simp
  · have hkk : k = L.length := by omega
    subst hkk
    rw [List.take_length] at h1 ⊢
    have hz : n = (recs L).length := by omega
    rw [if_pos hz, List.take_of_length_le (by omega)]
    have := scan_recs L [] h
    rw [List.append_nil, scan_nil] at this
    rw [this]; simp

theorem xor_ne {x d : Nat} (hd : 0 < d) : x ^^^ d ≠ x := by
  intro h
  have h1 : x ^^^ d = x ^^^ 0 := by rw [h, Nat.xor_zero]
  have h2 := congrArg (fun z => x ^^^ z) h1
  simp only [← Nat.xor_assoc, Nat.xor_self, Nat.zero_xor] at h2
  omega

theorem set_split {l : List Nat} {i x : Nat} (hi : i < l.length) : l.set i x = l.take i ++ x :: l.drop (i + 1) := by
  rw [List.set_eq_take_append_cons_drop, if_pos hi]
theorem self_split {l : List Nat} {i : Nat} (hi : i < l.length) : l = l.take i ++ l.getD i 0 :: l.drop (i + 1) := by
  rw [List.getD_eq_getElem?_getD, List.getElem?_eq_getElem hi, Option.getD_some, List.getElem_cons_drop, List.take_append_drop]

/-- One byte of the checksum or of the payload turned: the checksum falls. -/
theorem nxt_turned {p T : List Nat} (hp : Bts p) (hl : p.length ≤ 1048576) {j d : Nat} (hj : j < 4 + p.length) (hd : 0 < d) (hd2 : d < 256) :
    nxtE ((recd p).set (4 + j) ((recd p).getD (4 + j) 0 ^^^ d) ++ T) = 18 := by
  have hcr : crc (le4 p.length ++ p) < 4294967296 := ext_lt (by decide) ((le4_bts _).append hp)
  obtain ⟨cr, hcre⟩ : ∃ cr, cr = crc (le4 p.length ++ p) := ⟨_, rfl⟩
  have hq0 : (recd p).getD (4 + j) 0 = (le4 cr ++ p).getD j 0 := by
    unfold recd; rw [← hcre]
    simp only [List.getD_eq_getElem?_getD]
    rw [List.getElem?_append_right (by rw [le4_len]; omega), le4_len]
    congr 2; omega
  obtain ⟨x, hx⟩ : ∃ x, x = (le4 cr ++ p).getD j 0 ^^^ d := ⟨_, rfl⟩
  have hset : (recd p).set (4 + j) ((recd p).getD (4 + j) 0 ^^^ d) = le4 p.length ++ (le4 cr ++ p).set j x := by
    rw [hq0, ← hx]; unfold recd; rw [← hcre]
    rw [List.set_append, if_neg (by rw [le4_len]; omega), le4_len]
    congr 2; omega
  rw [hset, List.append_assoc]
  obtain ⟨q, hq⟩ : ∃ q, q = (le4 cr ++ p).set j x := ⟨_, rfl⟩
  rw [← hq]
  have hbq : Bts (le4 cr ++ p) := (le4_bts _).append hp
  have hxb : (le4 cr ++ p).getD j 0 < 256 := by
    rw [List.getD_eq_getElem?_getD, List.getElem?_eq_getElem (by rw [List.length_append, le4_len]; omega)]; exact hbq _ (List.getElem_mem _)
  have hx256 : x < 256 := by rw [hx]; exact Nat.xor_lt_two_pow (n := 8) hxb hd2
  have hql : q.length = 4 + p.length := by rw [hq, List.length_set, List.length_append, le4_len]
  have h1 : (le4 p.length ++ (q ++ T)).length = 8 + p.length + T.length := by rw [List.length_append, List.length_append, le4_len, hql]; omega
  have h2 : rd4 (le4 p.length ++ (q ++ T)) = p.length := rd4_le4 _ (by omega) _
  have ht4 : (le4 p.length ++ (q ++ T)).take 4 = le4 p.length := by rw [List.take_append_of_le_length (by rw [le4_len]; decide)]; rfl
  have hd4 : (le4 p.length ++ (q ++ T)).drop 4 = q ++ T := by rw [List.drop_append_of_le_length (by rw [le4_len]; decide)]; rfl
  have hd8 : ((le4 p.length ++ (q ++ T)).drop 8).take p.length = q.drop 4 := by
    have : (le4 p.length ++ (q ++ T)).drop 8 = ((le4 p.length ++ (q ++ T)).drop 4).drop 4 := by rw [List.drop_drop]
    rw [this, hd4, List.drop_append_of_le_length (by omega), List.take_append_of_le_length (by rw [List.length_drop]; omega), List.take_of_length_le (by rw [List.length_drop]; omega)]
  have hne : crc (le4 p.length ++ q.drop 4) ≠ rd4 (q ++ T) := by
    by_cases hj4 : j < 4
    · have eq4 : q = (le4 cr).set j x ++ p := by rw [hq, List.set_append, if_pos (by rw [le4_len]; exact hj4)]
      have hdp : q.drop 4 = p := by
        rw [eq4, List.drop_append_of_le_length (by rw [List.length_set, le4_len]; decide), List.drop_of_length_le (by rw [List.length_set, le4_len]; decide), List.nil_append]
      rw [hdp, ← hcre]
      intro h
      have hb4 : Bts (q ++ T).tail → True := fun _ => trivial
      have hbs : Bts ((le4 cr).set j x) := by
        intro c hc
        rcases List.mem_or_eq_of_mem_set hc with h | h
        · exact le4_bts _ c h
        · rw [h]; exact hx256
      have e1 : rd4 (q ++ T) = rd4 ((le4 cr).set j x) := by
        rw [eq4, List.append_assoc]
        have := rd4_take (l := (le4 cr).set j x ++ (p ++ T)) (n := 4) (by decide)
        rw [← this, List.take_append_of_le_length (by rw [List.length_set, le4_len]; decide), List.take_of_length_le (by rw [List.length_set, le4_len]; decide)]
      have e2 := le4_rd4 hbs (by rw [List.length_set, le4_len]; decide)
      rw [← e1, ← h, List.take_of_length_le (by rw [List.length_set, le4_len]; decide)] at e2
      have e3 := congrArg (fun l => l.getD j 0) e2
      simp only [List.getD_eq_getElem?_getD] at e3
      rw [List.getElem?_set_self (by rw [le4_len]; exact hj4), Option.getD_some] at e3
      have e4 : (le4 cr ++ p).getD j 0 = (le4 cr)[j]?.getD 0 := by
        rw [List.getD_eq_getElem?_getD, List.getElem?_append_left (by rw [le4_len]; exact hj4)]
      rw [hx, e4] at e3
      exact xor_ne hd e3.symm
    · have hi : j - 4 < p.length := by omega
      have eq4 : q = le4 cr ++ p.set (j - 4) x := by rw [hq, List.set_append, if_neg (by rw [le4_len]; exact hj4), le4_len]
      have hdp : q.drop 4 = p.set (j - 4) x := by
        rw [eq4, List.drop_append_of_le_length (by rw [le4_len]; decide), List.drop_of_length_le (by rw [le4_len]; decide), List.nil_append]
      have hrd : rd4 (q ++ T) = cr := by rw [eq4, List.append_assoc]; exact rd4_le4 _ (by rw [hcre]; exact hcr) _
      have e4 : (le4 cr ++ p).getD j 0 = p.getD (j - 4) 0 := by
        rw [List.getD_eq_getElem?_getD, List.getElem?_append_right (by rw [le4_len]; omega), le4_len, ← List.getD_eq_getElem?_getD]
      rw [hdp, hrd, hcre]
      have hsp := self_split hi
      rw [set_split hi]
      conv => rhs; rw [hsp]
      have hlen' : (p.take (j - 4) ++ p.getD (j - 4) 0 :: p.drop (j - 4 + 1)).length = p.length := by rw [← hsp]
      rw [hlen', ← List.append_assoc, ← List.append_assoc]
      refine crc_byte ((le4_bts _).append (hp.take _)) (hp.drop _) hx256 (by rw [← e4]; exact hxb) ?_
      rw [hx, e4]; exact xor_ne hd
  unfold nxtE
  rw [h1, h2, if_neg (by omega), if_neg (by omega), if_neg (by omega), ht4, hd8, hd4, if_neg hne]

/-- One byte of record k turned: the records before it are recovered. -/
theorem scan_turned {L : List (List Nat)} (h : Pls L) {k j d : Nat} (hk : k < L.length) (hj : j < 4 + (L.getD k []).length) (hd : 0 < d) (hd2 : d < 256) :
    scan ((recs L).set ((recs (L.take k)).length + (4 + j)) ((recs L).getD ((recs (L.take k)).length + (4 + j)) 0 ^^^ d)) = (L.take k, (recs (L.take k)).length, 18) := by
  have hp := getD_pls h hk
  have hsp := recs_split hk
  have hT := h.take k
  generalize recs (L.drop (k + 1)) = T at *
  generalize L.getD k [] = p at *
  have hi : 4 + j < (recd p).length := by rw [recd_len]; omega
  have e : (recs L).getD ((recs (L.take k)).length + (4 + j)) 0 = (recd p).getD (4 + j) 0 := by
    rw [hsp]
    simp only [List.getD_eq_getElem?_getD]
    rw [List.getElem?_append_right (by omega), Nat.add_sub_cancel_left, List.getElem?_append_left hi]
  have e2 : (recs L).set ((recs (L.take k)).length + (4 + j)) ((recd p).getD (4 + j) 0 ^^^ d) = recs (L.take k) ++ ((recd p).set (4 + j) ((recd p).getD (4 + j) 0 ^^^ d) ++ T) := by
    rw [hsp, List.set_append, if_neg (by omega), Nat.add_sub_cancel_left, List.set_append, if_pos hi]
  rw [e, e2, scan_recs _ _ hT]
  have hE := nxt_turned (T := T) hp.1 hp.2 hj hd hd2
  rw [scan_bad (by rw [List.length_append, List.length_set, recd_len]; omega) (by omega), hE]
  simp
end Crc
