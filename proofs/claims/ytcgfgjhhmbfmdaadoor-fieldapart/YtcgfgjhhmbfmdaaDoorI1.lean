/- FieldSpoilt: plain facts. -/
import Derived.Test.YtcgfgjhhmbfmdaaDoorG1
import Derived.Test.YtcgfgjhhmbfmdaaDoorH2
import Derived.Test.YtcgfgjhhmbfmdaaDoorH3
namespace Go.Proofs.YtcgfgjhhmbfmdaaDoor
open Go.RowKit Go.Maps
set_option linter.unusedVariables false
set_option linter.unusedSimpArgs false

/-- a list that is right as a request -/
structure Rt (L : List Fd) : Prop where
  len : 4 ≤ L.length
  ok : L.any wrongB = false
  tail : (L.drop 4).any nofB = false
  vs : vals L 4 reqNames = some [getS, httpS, atestS, slashX]
  four : ∀ i (hi : i < L.length), i < 4 → pseudoB L[i].n = true
theorem head_four : headB getS httpS atestS slashX = true := by decide +kernel
theorem Rt.rq {L : List Fd} (h : Rt L) (h64 : L.length ≤ 64) : rqE L = 0 := rq_of h64 h.ok h.len h.tail h.vs head_four
theorem rot_len {k : Nat} (hk : k ≤ 3) : (rotL k).length = 4 := by
  obtain rfl | rfl | rfl | rfl : k = 0 ∨ k = 1 ∨ k = 2 ∨ k = 3 := by omega
  all_goals rfl
theorem rot_ok : ∀ k : Fin 4, (rotL k.val).any wrongB = false ∧ vals (rotL k.val) 4 reqNames = some [getS, httpS, atestS, slashX] ∧ (rotL k.val).all (fun f => pseudoB f.n) = true := by decide +kernel
theorem plc_app {L Y : List Fd} {s : ByteArray} : ∀ {k : Nat}, k ≤ L.length → plc (L ++ Y) k s = plc L k s
  | 0, _ => rfl
  | k + 1, h => by
    unfold plc
    rw [List.getElem?_append_left (by omega), plc_app (by omega)]
theorem vals_app {L Y : List Fd} {vs : List ByteArray} (h4 : 4 ≤ L.length) (h : vals L 4 reqNames = some vs) : vals (L ++ Y) 4 reqNames = some vs := by
  obtain ⟨i0, i1, i2, i3, q0, q1, q2, q3, p0, p1, p2, p3, rfl⟩ := vals4.1 h
  rw [vals4]
  have hl : L.length ≤ (L ++ Y).length := by simp
  refine ⟨i0, i1, i2, i3, by omega, by omega, by omega, by omega, by rw [plc_app h4]; exact p0, by rw [plc_app h4]; exact p1, by rw [plc_app h4]; exact p2, by rw [plc_app h4]; exact p3, ?_⟩
  rw [List.getElem_append_left, List.getElem_append_left, List.getElem_append_left, List.getElem_append_left]
theorem madeF_ok (f : Fd) : wrongB (madeF f) = false ∧ nofB (madeF f) = false := by
  unfold wrongB nofB madeF
  simp only
  rw [word_name, value_val, word_free]
  simp
theorem Rt.app {L Y : List Fd} (h : Rt L) (h4 : L.length = 4 ∨ True) (hY : ∀ f ∈ Y, wrongB f = false ∧ nofB f = false) : Rt (L ++ Y) := by
  refine ⟨by rw [List.length_append]; have := h.len; omega, ?_, ?_, vals_app h.len h.vs, fun i hi h4 => ?_⟩
  · rw [List.any_append, h.ok, Bool.false_or, List.any_eq_false]
    intro f hf
    rw [(hY f hf).1]
    simp
  · rw [List.drop_append_of_le_length h.len, List.any_append, h.tail, Bool.false_or, List.any_eq_false]
    intro f hf
    rw [(hY f hf).2]
    simp
  · have := h.len
    rw [List.getElem_append_left (by omega)]
    exact h.four i (by omega) h4
theorem rt_made (l : List Fd) {k : Nat} (hk : k ≤ 3) : Rt (madeL l k) := by
  obtain ⟨h1, h2, h3⟩ := rot_ok ⟨k, by omega⟩
  simp only at h1 h2 h3
  have h0 : Rt (rotL k) := ⟨by rw [rot_len hk]; omega, h1, by rw [List.drop_of_length_le (by rw [rot_len hk]; omega)]; rfl, h2, fun i hi _ => List.all_eq_true.1 h3 _ (List.getElem_mem hi)⟩
  refine h0.app (.inr trivial) fun f hf => ?_
  obtain ⟨g, _, rfl⟩ := List.mem_map.1 hf
  exact madeF_ok g
theorem made_len (l : List Fd) {k : Nat} (hk : k ≤ 3) : (madeL l k).length = 4 + min 50 l.length := by
  unfold madeL
  rw [List.length_append, rot_len hk, List.length_map, List.length_take]
theorem made_sz (l : List Fd) {k : Nat} (hk : k ≤ 3) : SzOk (madeL l k) := by
  refine ⟨fun f hf => ?_, by rw [made_len l hk]; omega⟩
  unfold madeL at hf
  rcases List.mem_append.1 hf with hf | hf
  · have : (rotL k).all (fun f => decide (f.n.size ≤ 64 ∧ f.v.size ≤ 64)) = true := by
      obtain rfl | rfl | rfl | rfl : k = 0 ∨ k = 1 ∨ k = 2 ∨ k = 3 := by omega
      all_goals decide +kernel
    have := of_decide_eq_true (List.all_eq_true.1 this f hf)
    omega
  · obtain ⟨g, _, rfl⟩ := List.mem_map.1 hf
    have h1 := word_size g.n
    have h2 := value_size g.v
    exact ⟨by show (wordS g.n).size ≤ _; omega, by show (valueS g.v).size ≤ _; omega⟩

/-- a pseudo field behind the first is no response's -/
theorem rs_no {X : List Fd} {i : Nat} (hi : i < X.length) (h1 : 1 ≤ i) (hp : nofB X[i] = true) : rsE X ≠ 0 := fun h => by
  obtain ⟨_, _, _, h4, _⟩ := rs_right h
  have := any_drop.1 h4 i hi h1
  rw [this] at hp
  cases hp
theorem nof_pseudo {f : Fd} (h : pseudoB f.n = true) : nofB f = true := by
  unfold nofB
  cases e : nmB f.n
  · rfl
  · rw [nm_not_pseudo e] at h; cases h
/-- refused as a head -/
theorem rq_131 {X : List Fd} (h64 : X.length ≤ 64) (hw : X.any wrongB = false) (h0 : rqE X ≠ 0) : rqE X = 131 := by
  rcases rd_cases X reqNames (by omega) hw with ⟨b, b1, b2, vs, b3⟩ | ⟨b, b1⟩
  · obtain ⟨i0, i1, i2, i3, h0', h1', h2', h3', p0, p1, p2, p3, rfl⟩ := vals4.1 (show vals X 4 reqNames = some vs from b3)
    unfold rqE at h0 ⊢
    rw [b, if_neg (by simp), show vals X 4 reqNames = some _ from b3] at h0 ⊢
    simp only at h0 ⊢
    split
    · rename_i e; rw [if_pos e] at h0; exact absurd rfl h0
    · rfl
  · unfold rqE
    rw [b, if_pos (by decide)]
theorem rq_tail {X : List Fd} {i : Nat} (hi : i < X.length) (h4 : 4 ≤ i) (hn : nofB X[i] = true) : rqE X ≠ 0 := fun h => by
  obtain ⟨_, _, _, h4', _⟩ := rq_right h
  have := any_drop.1 h4' i hi h4
  rw [this] at hn
  cases hn
theorem rq_130 {X : List Fd} (h64 : X.length ≤ 64) (hw : X.any wrongB = true) : rqE X = 130 ∧ rsE X = 130 := by
  have a : rdE X reqNames = 130 := by unfold rdE; rw [if_neg (by omega), if_pos hw]
  have b : rdE X resNames = 130 := by unfold rdE; rw [if_neg (by omega), if_pos hw]
  exact ⟨by unfold rqE; rw [a, if_pos (by decide)], by unfold rsE; rw [b, if_pos (by decide)]⟩
theorem rq_3 {X : List Fd} (h64 : 64 < X.length) : rqE X = 3 ∧ rsE X = 3 := by
  have a : rdE X reqNames = 3 := by unfold rdE; rw [if_pos h64]
  have b : rdE X resNames = 3 := by unfold rdE; rw [if_pos h64]
  exact ⟨by unfold rqE; rw [a, if_pos (by decide)], by unfold rsE; rw [b, if_pos (by decide)]⟩

theorem with_len {L : List Fd} {b : Nat} (hb : b ≤ L.length) (f : Fd) : (withL L b f).length = L.length + 1 := by
  unfold withL
  rw [List.length_append, List.length_append, List.length_take, List.length_drop, List.length_singleton]
  omega
theorem with_any_b {L : List Fd} {b : Nat} (f : Fd) (B : Fd → Bool) : (withL L b f).any B = (L.any B || B f) := by
  unfold withL
  rw [List.any_append, List.any_append]
  have : L.any B = ((L.take b).any B || (L.drop b).any B) := by rw [← List.any_append, List.take_append_drop]
  rw [this]
  simp only [List.any_cons, List.any_nil, Bool.or_false]
  cases (L.take b).any B <;> cases (L.drop b).any B <;> cases B f <;> rfl
theorem with_split (L : List Fd) (b : Nat) (f : Fd) : withL L b f = L.take b ++ (f :: L.drop b) := by
  unfold withL
  rw [List.append_assoc]
  rfl
theorem with_at {L : List Fd} {b : Nat} (hb : b ≤ L.length) (f : Fd) : ∃ h : b < (withL L b f).length, (withL L b f)[b] = f := by
  have hl : (L.take b).length = b := by rw [List.length_take]; omega
  refine List.getElem?_eq_some_iff.1 ?_
  rw [with_split, List.getElem?_append_right (by omega), hl, Nat.sub_self]
  rfl
theorem with_low {L : List Fd} {b i : Nat} (hb : b ≤ L.length) (hi : i < b) (f : Fd) : ∃ (h : i < (withL L b f).length) (h' : i < L.length), (withL L b f)[i] = L[i] := by
  have hl : (L.take b).length = b := by rw [List.length_take]; omega
  have h' : i < L.length := by omega
  have : (withL L b f)[i]? = some L[i] := by
    rw [with_split, List.getElem?_append_left (by omega), List.getElem?_take_of_lt hi, List.getElem?_eq_getElem h']
  obtain ⟨h, e⟩ := List.getElem?_eq_some_iff.1 this
  exact ⟨h, h', e⟩
theorem with_high {L : List Fd} {b i : Nat} (hb : b ≤ i) (hi : i < L.length) (f : Fd) : ∃ h : i + 1 < (withL L b f).length, (withL L b f)[i + 1] = L[i] := by
  have hl : (L.take b).length = b := by rw [List.length_take]; omega
  refine List.getElem?_eq_some_iff.1 ?_
  rw [with_split, List.getElem?_append_right (by omega), hl, show i + 1 - b = (i - b) + 1 by omega, List.getElem?_cons_succ, List.getElem?_drop, show b + (i - b) = i by omega, List.getElem?_eq_getElem hi]

/-- a barred field anywhere behind -/
theorem sp_barred {L : List Fd} (h : Rt L) (h64 : L.length ≤ 63) {b : Nat} (h4 : 4 ≤ b) (hb : b ≤ L.length) {f : Fd} (hw : wrongB f = false) (hn : nofB f = true) : rqE (withL L b f) = 131 ∧ rsE (withL L b f) ≠ 0 := by
  obtain ⟨h1, h2⟩ := with_at hb f
  refine ⟨rq_131 (by rw [with_len hb]; omega) (by rw [with_any_b, h.ok, hw]; rfl) (rq_tail h1 h4 (by rw [h2]; exact hn)), rs_no h1 (by omega) (by rw [h2]; exact hn)⟩
theorem sp_bad {L : List Fd} (h64 : L.length ≤ 63) {b : Nat} (hb : b ≤ L.length) {f : Fd} (hw : wrongB f = true) : rqE (withL L b f) = 130 ∧ rsE (withL L b f) ≠ 0 := by
  have := rq_130 (X := withL L b f) (by rw [with_len hb]; omega) (by rw [with_any_b, hw, Bool.or_true])
  exact ⟨this.1, by rw [this.2]; decide⟩
/-- one of the pseudo fields twice, at the beginning; a plain field among them -/
theorem sp_ahead {L : List Fd} (h : Rt L) (h64 : L.length ≤ 63) {b : Nat} (hb : b ≤ 3) {f : Fd} (hw : wrongB f = false) : rqE (withL L b f) = 131 ∧ rsE (withL L b f) ≠ 0 := by
  have hl := h.len
  obtain ⟨h1, h2⟩ := with_high (L := L) (b := b) (i := 3) hb (by omega) f
  have hp := nof_pseudo (h.four 3 (by omega) (by decide))
  exact ⟨rq_131 (by rw [with_len (by omega)]; omega) (by rw [with_any_b, h.ok, hw]; rfl) (rq_tail h1 (by decide) (by rw [h2]; exact hp)), rs_no h1 (by decide) (by rw [h2]; exact hp)⟩
/-- te -/
theorem sp_te {L : List Fd} (h : Rt L) (h64 : L.length ≤ 63) {b : Nat} (h4 : 4 ≤ b) (hb : b ≤ L.length) {f : Fd} (hw : wrongB f = false) (hn : nofB f = false) : rqE (withL L b f) = 0 := by
  refine rq_of (m := getS) (s := httpS) (a := atestS) (p := slashX) (by rw [with_len hb]; omega) (by rw [with_any_b, h.ok, hw]; rfl) (by rw [with_len hb]; omega) ?_ ?_ head_four
  · refine any_drop.2 fun i hi h4' => ?_
    by_cases hib : i < b
    · obtain ⟨_, h', e⟩ := with_low hb hib f
      rw [e]
      exact any_drop.1 h.tail i h' h4'
    · by_cases hi' : i = b
      · subst hi'
        rw [(with_at hb f).2]
        exact hn
      · rw [with_len hb] at hi
        obtain ⟨_, e⟩ := with_high (L := L) (b := b) (i := i - 1) (by omega) (by omega) f
        have e' : (withL L b f)[i]'(by rw [with_len hb]; omega) = L[i - 1]'(by omega) := by
          rw [← e]
          congr 1
          omega
        rw [e']
        exact any_drop.1 h.tail (i - 1) (by omega) (by omega)
  · have : withL L b f = L.take b ++ ([f] ++ L.drop b) := by unfold withL; rw [List.append_assoc]
    rw [this]
    refine vals_app (by rw [List.length_take]; omega) ?_
    have hv := h.vs
    obtain ⟨i0, i1, i2, i3, q0, q1, q2, q3, p0, p1, p2, p3, e⟩ := vals4.1 hv
    have hl : (L.take b).length = b := by rw [List.length_take]; omega
    have ha : ∀ s, plc L 4 s = plc (L.take b) 4 s := fun s => by
      conv => lhs; rw [← List.take_append_drop b L]
      exact plc_app (by rw [hl]; exact h4)
    rw [e, vals4]
    have l0 := plc_lt p0
    have l1 := plc_lt p1
    have l2 := plc_lt p2
    have l3 := plc_lt p3
    refine ⟨i0, i1, i2, i3, by omega, by omega, by omega, by omega, by rw [← ha]; exact p0, by rw [← ha]; exact p1, by rw [← ha]; exact p2, by rw [← ha]; exact p3, ?_⟩
    simp only [List.getElem_take]
/-- without one of the pseudo fields -/
theorem sp_without {L : List Fd} (h : Rt L) (h64 : L.length ≤ 63) {k : Nat} (hk : k ≤ 3) : rqE (L.take k ++ L.drop (k + 1)) = 131 ∧ rsE (L.take k ++ L.drop (k + 1)) ≠ 0 := by
  have hl := h.len
  have hlen : (L.take k ++ L.drop (k + 1)).length = L.length - 1 := by rw [List.length_append, List.length_take, List.length_drop]; omega
  have hw : (L.take k ++ L.drop (k + 1)).any wrongB = false := by
    rw [List.any_eq_false]
    intro f hf
    have hm : f ∈ L := by
      rcases List.mem_append.1 hf with hf | hf
      · exact List.mem_of_mem_take hf
      · exact List.mem_of_mem_drop hf
    have := List.any_eq_false.1 h.ok f hm
    exact this
  have high : ∀ i (hi : i < L.length), k < i → ∃ hi' : i - 1 < (L.take k ++ L.drop (k + 1)).length, (L.take k ++ L.drop (k + 1))[i - 1] = L[i] := fun i hi hki => by
    refine ⟨by rw [hlen]; omega, ?_⟩
    rw [List.getElem_append_right (by rw [List.length_take]; omega)]
    simp only [List.getElem_drop]
    congr 1
    rw [List.length_take]
    omega
  have low : ∀ i (hi : i < k), ∃ (hi' : i < (L.take k ++ L.drop (k + 1)).length) (h' : i < L.length), (L.take k ++ L.drop (k + 1))[i] = L[i] := fun i hi => by
    refine ⟨by rw [hlen]; omega, by omega, ?_⟩
    rw [List.getElem_append_left (by rw [List.length_take]; omega), List.getElem_take]
  constructor
  · refine rq_131 (by omega) hw fun h0 => ?_
    obtain ⟨a1, a2, a3, a4, m, s, a, p, a5, a6⟩ := rq_right h0
    obtain ⟨k1, k2, k3⟩ := (heads4 a2 _).1 ⟨a3, a4, a5⟩
    rw [hlen] at a3
    obtain ⟨h3, e3⟩ := high 4 (by omega) (by omega)
    have hb := hbAny_at k1 3 h3
    have hp : pseudoB (L.take k ++ L.drop (k + 1))[3].n = true := by
      unfold hbB at hb
      simp only [Bool.or_eq_false_iff] at hb
      have := hb.1
      cases e : pseudoB (L.take k ++ L.drop (k + 1))[3].n
      · rw [e] at this; exact absurd this (by decide)
      · rfl
    have hn := nof_pseudo hp
    have e3' : (L.take k ++ L.drop (k + 1))[3] = L[4] := e3
    rw [e3'] at hn
    have := any_drop.1 h.tail 4 (by omega) (by decide)
    rw [this] at hn
    cases hn
  · by_cases hk2 : k < 2
    · obtain ⟨h3, e3⟩ := high 2 (by omega) hk2
      have e3' : (L.take k ++ L.drop (k + 1))[1] = L[2] := e3
      exact rs_no (i := 1) h3 (by decide) (by rw [e3']; exact nof_pseudo (h.four 2 (by omega) (by decide)))
    · obtain ⟨h1, h1', e1⟩ := low 1 (by omega)
      exact rs_no (i := 1) h1 (by decide) (by rw [e1]; exact nof_pseudo (h.four 1 (by omega) (by decide)))
end Go.Proofs.YtcgfgjhhmbfmdaaDoor
