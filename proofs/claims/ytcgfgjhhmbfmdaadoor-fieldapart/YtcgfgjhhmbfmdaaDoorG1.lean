/- What is written is read again: plain facts. -/
import Derived.Test.YtcgfgjhhmbfmdaaDoorF3
namespace Go.Proofs.YtcgfgjhhmbfmdaaDoor
open Go.RowKit Go.Maps
set_option linter.unusedVariables false
set_option linter.unusedSimpArgs false

theorem rq_right {l : List Fd} (h : rqE l = 0) : l.length ≤ 64 ∧ l.any wrongB = false ∧ 4 ≤ l.length ∧ (l.drop 4).any nofB = false ∧ ∃ m s a p, vals l 4 reqNames = some [m, s, a, p] ∧ headB m s a p = true := by
  have h1 : ¬ 64 < l.length := fun h' => by
    have b : rdE l reqNames = 3 := by unfold rdE; rw [if_pos h']
    unfold rqE at h
    rw [b, if_pos (by decide)] at h
    exact absurd h (by decide)
  have h2 : l.any wrongB = false := by
    cases e : l.any wrongB
    · rfl
    · have b : rdE l reqNames = 130 := by unfold rdE; rw [if_neg h1, if_pos e]
      unfold rqE at h
      rw [b, if_pos (by decide)] at h
      exact absurd h (by decide)
  rcases rd_cases l reqNames h1 h2 with ⟨b, b1, b2, vs, b3⟩ | ⟨b, b1⟩
  · refine ⟨by omega, h2, b1, b2, ?_⟩
    obtain ⟨i0, i1, i2, i3, h0, h1', h2', h3', p0, p1, p2, p3, rfl⟩ := vals4.1 (show vals l 4 reqNames = some vs from b3)
    refine ⟨_, _, _, _, b3, ?_⟩
    unfold rqE at h
    rw [b, if_neg (by simp), show vals l 4 reqNames = some [l[i0].v, l[i1].v, l[i2].v, l[i3].v] from b3] at h
    cases e : headB l[i0].v l[i1].v l[i2].v l[i3].v
    · simp [e] at h
    · rfl
  · unfold rqE at h
    rw [b, if_pos (by decide)] at h
    exact absurd h (by decide)
theorem rq_of {l : List Fd} {m s a p : ByteArray} (h1 : l.length ≤ 64) (h2 : l.any wrongB = false) (h3 : 4 ≤ l.length) (h4 : (l.drop 4).any nofB = false) (h5 : vals l 4 reqNames = some [m, s, a, p]) (h6 : headB m s a p = true) : rqE l = 0 := by
  have b : rdE l reqNames = 0 := by
    rcases rd_cases l reqNames (by omega) h2 with ⟨b, _⟩ | ⟨_, b1⟩
    · exact b
    · exact absurd ⟨h3, h4, _, h5⟩ b1
  unfold rqE
  rw [b, if_neg (by simp), h5]
  simp [h6]
theorem rs_right {l : List Fd} (h : rsE l = 0) : l.length ≤ 64 ∧ l.any wrongB = false ∧ 1 ≤ l.length ∧ (l.drop 1).any nofB = false ∧ ∃ v, vals l 1 resNames = some [v] ∧ stB v = true := by
  have h1 : ¬ 64 < l.length := fun h' => by
    have b : rdE l resNames = 3 := by unfold rdE; rw [if_pos h']
    unfold rsE at h
    rw [b, if_pos (by decide)] at h
    exact absurd h (by decide)
  have h2 : l.any wrongB = false := by
    cases e : l.any wrongB
    · rfl
    · have b : rdE l resNames = 130 := by unfold rdE; rw [if_neg h1, if_pos e]
      unfold rsE at h
      rw [b, if_pos (by decide)] at h
      exact absurd h (by decide)
  rcases rd_cases l resNames h1 h2 with ⟨b, b1, b2, vs, b3⟩ | ⟨b, b1⟩
  · refine ⟨by omega, h2, b1, b2, ?_⟩
    obtain ⟨i0, h0, p0, rfl⟩ := vals1.1 (show vals l 1 resNames = some vs from b3)
    refine ⟨_, b3, ?_⟩
    unfold rsE at h
    rw [b, if_neg (by simp), show vals l 1 resNames = some [l[i0].v] from b3] at h
    cases e : stB l[i0].v
    · simp [e] at h
    · rfl
  · unfold rsE at h
    rw [b, if_pos (by decide)] at h
    exact absurd h (by decide)
theorem rs_of {l : List Fd} {v : ByteArray} (h1 : l.length ≤ 64) (h2 : l.any wrongB = false) (h3 : 1 ≤ l.length) (h4 : (l.drop 1).any nofB = false) (h5 : vals l 1 resNames = some [v]) (h6 : stB v = true) : rsE l = 0 := by
  have b : rdE l resNames = 0 := by
    rcases rd_cases l resNames (by omega) h2 with ⟨b, _⟩ | ⟨_, b1⟩
    · exact b
    · exact absurd ⟨h3, h4, _, h5⟩ b1
  unfold rsE
  rw [b, if_neg (by simp), h5]
  simp [h6]

theorem plc_at {l : List Fd} {s : ByteArray} {i k : Nat} (hik : i < k) (hi : i < l.length) (he : l[i].n = s) (hu : ∀ j (hj : j < l.length), j < k → l[j].n = s → j = i) : plc l k s = some i := by
  cases hp : plc l k s with
  | none => exact absurd he (plc_none hp i hi hik)
  | some i' =>
    obtain ⟨h', e'⟩ := plc_some hp
    rw [hu i' h' (plc_lt hp) e']
theorem wq_len (m s a p : ByteArray) (l : List Fd) : (wqL m s a p l).length = 4 + l.length := by simp [wqL]; omega
theorem wq_drop (m s a p : ByteArray) (l : List Fd) : (wqL m s a p l).drop 4 = l := rfl
theorem rn_inj : ∀ a b : Fin 4, reqNames.getD a.val ⟨#[]⟩ = reqNames.getD b.val ⟨#[]⟩ → a = b := by decide +kernel
theorem vals_wq (m s a p : ByteArray) (l : List Fd) : vals (wqL m s a p l) 4 reqNames = some [m, s, a, p] := by
  have hl := wq_len m s a p l
  have key : ∀ (k i : Nat) (hk : k < 4) (hi : i < (wqL m s a p l).length), i < 4 → (wqL m s a p l)[i].n = reqNames[k]'hk → i = k := by
    intro k i hk hi h4 e
    have e1 : (wqL m s a p l)[i].n = reqNames.getD i ⟨#[]⟩ := by
      obtain rfl | rfl | rfl | rfl : i = 0 ∨ i = 1 ∨ i = 2 ∨ i = 3 := by omega
      all_goals rfl
    have e2 : reqNames[k]'hk = reqNames.getD k ⟨#[]⟩ := by
      rw [List.getD_eq_getElem?_getD, List.getElem?_eq_getElem (show k < reqNames.length from hk)]
      rfl
    have := rn_inj ⟨i, h4⟩ ⟨k, hk⟩ (e1.symm.trans (e.trans e2))
    exact congrArg Fin.val this
  rw [vals4]
  refine ⟨0, 1, 2, 3, by omega, by omega, by omega, by omega, plc_at (by decide) (by omega) rfl fun j hj h4 e => key 0 j (by decide) hj h4 e, plc_at (by decide) (by omega) rfl fun j hj h4 e => key 1 j (by decide) hj h4 e, plc_at (by decide) (by omega) rfl fun j hj h4 e => key 2 j (by decide) hj h4 e, plc_at (by decide) (by omega) rfl fun j hj h4 e => key 3 j (by decide) hj h4 e, rfl⟩
theorem vals_wr (n : Int) (l : List Fd) : vals (wrL n l) 1 resNames = some [itoaS n] := by
  rw [vals1]
  exact ⟨0, by simp [wrL], plc_at (by decide) (by simp [wrL]) rfl fun j hj h4 e => by omega, rfl⟩

theorem wrong_of {f : Fd} (h : wrongB f = false) : valB f.v = true := by
  unfold wrongB at h
  simp only [Bool.or_eq_false_iff, Bool.not_eq_false'] at h
  exact h.2
theorem wrong_at {l : List Fd} (h : l.any wrongB = false) (i : Nat) (hi : i < l.length) : wrongB l[i] = false := by
  have := List.any_eq_false.1 h l[i] (List.getElem_mem hi)
  simpa using this
/-- P13.2: what is read is written, and read again -/
theorem rq_back {l : List Fd} {m s a p : ByteArray} (h : rqE l = 0) (hv : vals l 4 reqNames = some [m, s, a, p]) : rqE (wqL m s a p (l.drop 4)) = 0 := by
  obtain ⟨h1, h2, h3, h4, m', s', a', p', h5, h6⟩ := rq_right h
  rw [hv] at h5
  simp only [Option.some.injEq, List.cons.injEq, and_true] at h5
  obtain ⟨rfl, rfl, rfl, rfl⟩ := h5
  obtain ⟨i0, i1, i2, i3, q0, q1, q2, q3, p0, p1, p2, p3, e⟩ := vals4.1 hv
  simp only [List.cons.injEq, and_true] at e
  obtain ⟨rfl, rfl, rfl, rfl⟩ := e
  refine rq_of (by rw [wq_len, List.length_drop]; omega) ?_ (by rw [wq_len]; omega) h4 (vals_wq _ _ _ _ _) h6
  have mk : ∀ (k : Nat) (hk : k < reqNames.length) (i : Nat) (hi : i < l.length), wrongB ⟨reqNames[k], l[i].v, false⟩ = false := fun k hk i hi => by
    have hw := wrong_of (wrong_at h2 i hi)
    unfold wrongB
    simp only
    rw [hw, names_pseudo _ (List.getElem_mem hk)]
    simp
  unfold wqL
  rw [List.any_append, Bool.or_eq_false_iff]
  constructor
  · simp only [List.any_cons, List.any_nil, Bool.or_false]
    rw [mk 0 (by decide) i0 q0, mk 1 (by decide) i1 q1, mk 2 (by decide) i2 q2, mk 3 (by decide) i3 q3]
    rfl
  · exact any_drop.2 fun i hi _ => wrong_at h2 i hi
theorem rq_rs {l : List Fd} (h : rqE l = 0) : rsE l = 131 := by
  obtain ⟨h1, h2, h3, h4, m, s, a, p, h5, h6⟩ := rq_right h
  obtain ⟨k1, k2, k3⟩ := (heads4 h2 _).1 ⟨h3, h4, h5⟩
  have hb := hbAny_at k1 1 (by omega)
  have hp : pseudoB l[1].n = true := by
    unfold hbB at hb
    simp only [Bool.or_eq_false_iff] at hb
    have := hb.1
    cases e : pseudoB l[1].n
    · rw [e] at this; exact absurd this (by decide)
    · rfl
  have hn : nmB l[1].n = false := by
    cases e : nmB l[1].n
    · rfl
    · rw [nm_not_pseudo e] at hp; cases hp
  have b : rdE l resNames = 131 := by
    rcases rd_cases l resNames (by omega) h2 with ⟨_, b1, b2, _⟩ | ⟨b, _⟩
    · have := any_drop.1 b2 1 (by omega) (by decide)
      unfold nofB at this
      rw [hn] at this
      exact absurd this (by simp)
    · exact b
  unfold rsE
  rw [b, if_pos (by decide)]

theorem numL_snoc (l : List UInt8) (x : UInt8) : numL (l ++ [x]) = 10 * numL l + ((x.toNat : Int) - 48) := by
  unfold numL
  rw [List.foldl_append]
  rfl
theorem dig_nat {r : Nat} (h : r < 10) : ((UInt8.ofNat (48 + r)).toNat : Int) - 48 = (r : Int) := by
  rw [UInt8.toNat_ofNat']
  omega
theorem numL_dec (u : Nat) : numL (Lib.decDigits u) = (u : Int) := by
  induction u using Nat.strongRecOn with
  | _ u ih =>
    by_cases h : u < 10
    · rw [dec_small h]
      simp only [numL, List.foldl_cons, List.foldl_nil]
      have := dig_nat h
      omega
    · rw [dec_big h, numL_snoc, ih (u / 10) (by omega), dig_nat (Nat.mod_lt _ (by decide))]
      omega
theorem num_itoa {n : Int} (h : stB (itoaS n) = true) : numL (itoaS n).data.toList = n := by
  unfold stB at h
  simp only [Bool.and_eq_true] at h
  obtain ⟨_, hd⟩ := dig_at h.1.1
  have hpos := consB_size h.1.1
  unfold itoaS Lib.itoa at hd hpos ⊢
  by_cases hn : n < 0
  · simp only [if_pos hn] at hd hpos
    have : 48 ≤ (45 : UInt8).toNat := (hd 0 hpos).1
    exact absurd this (by decide)
  · simp only [if_neg hn]
    rw [numL_dec]
    omega
theorem dec_three {a b c : Nat} (ha : 1 ≤ a) (ha' : a ≤ 9) (hb : b ≤ 9) (hc : c ≤ 9) : Lib.decDigits (100 * a + 10 * b + c) = [UInt8.ofNat (48 + a), UInt8.ofNat (48 + b), UInt8.ofNat (48 + c)] := by
  rw [dec_big (by omega), show (100 * a + 10 * b + c) / 10 = 10 * a + b by omega, show (100 * a + 10 * b + c) % 10 = c by omega, dec_big (by omega), show (10 * a + b) / 10 = a by omega, show (10 * a + b) % 10 = b by omega, dec_small (by omega)]
  rfl
theorem itoa_num {v : ByteArray} (h : stB v = true) : itoaS (numL v.data.toList) = v := by
  have h3 : v.size = 3 := by
    by_cases h3 : v.size = 3
    · exact h3
    · have := st_short h3
      rw [stN_zero] at this
      rw [this] at h
      cases h
  unfold stB at h
  simp only [Bool.and_eq_true, decide_eq_true_eq] at h
  obtain ⟨_, hd⟩ := dig_at h.1.1
  obtain ⟨a, b, c, hl⟩ := three h3
  have e0 : v[0]'(by omega) = a := by have := Lib.data_getElem? v 0 (by omega); rw [hl] at this; simpa using this.symm
  have e1 : v[1]'(by omega) = b := by have := Lib.data_getElem? v 1 (by omega); rw [hl] at this; simpa using this.symm
  have e2 : v[2]'(by omega) = c := by have := Lib.data_getElem? v 2 (by omega); rw [hl] at this; simpa using this.symm
  have d0 := hd 0 (by omega)
  have d1 := hd 1 (by omega)
  have d2 := hd 2 (by omega)
  rw [e0] at d0
  rw [e1] at d1
  rw [e2] at d2
  have hn : numL v.data.toList = 100 * ((a.toNat : Int) - 48) + 10 * ((b.toNat : Int) - 48) + ((c.toNat : Int) - 48) := by
    rw [hl]
    simp only [numL, List.foldl_cons, List.foldl_nil]
    omega
  have h100 := h.1.2
  have hnn : ¬ numL v.data.toList < 0 := by omega
  have hN : (numL v.data.toList).toNat = 100 * (a.toNat - 48) + 10 * (b.toNat - 48) + (c.toNat - 48) := by omega
  apply ba_eq
  unfold itoaS Lib.itoa
  simp only [if_neg hnn]
  rw [hN, dec_three (by omega) (by omega) (by omega) (by omega), hl]
  have back : ∀ x : UInt8, 48 ≤ x.toNat → UInt8.ofNat (48 + (x.toNat - 48)) = x := fun x hx => by
    rw [show 48 + (x.toNat - 48) = x.toNat by omega]
    exact UInt8.ofNat_toNat
  rw [back a d0.1, back b d1.1, back c d2.1]
theorem rs_back {l : List Fd} {v : ByteArray} (h : rsE l = 0) (hv : vals l 1 resNames = some [v]) : rsE (wrL (numL v.data.toList) (l.drop 1)) = 0 ∧ itoaS (numL v.data.toList) = v ∧ stB v = true ∧ ∃ h0 : 0 < l.length, l[0].v = v := by
  obtain ⟨h1, h2, h3, h4, v', h5, h6⟩ := rs_right h
  rw [hv] at h5
  simp only [Option.some.injEq, List.cons.injEq, and_true] at h5
  subst h5
  obtain ⟨i0, q0, p0, e⟩ := vals1.1 hv
  simp only [List.cons.injEq, and_true] at e
  have hi0 := plc_lt p0
  obtain rfl : i0 = 0 := by omega
  have hit := itoa_num h6
  refine ⟨rs_of (v := v) (by simp [wrL]; omega) ?_ (by simp [wrL]) h4 (by rw [vals_wr, hit]) h6, hit, h6, q0, e.symm⟩
  unfold wrL
  rw [List.any_cons, Bool.or_eq_false_iff]
  constructor
  · rw [hit]
    have hw := wrong_of (wrong_at h2 0 q0)
    unfold wrongB
    simp only
    rw [e, hw, show pseudoB statusName = true from sname_pseudo _ (List.getElem_mem (l := resNames) (n := 0) (by decide))]
    simp
  · exact any_drop.2 fun i hi _ => wrong_at h2 i hi
end Go.Proofs.YtcgfgjhhmbfmdaaDoor
