/- What the document says of a list is what the program says: plain facts. -/
import Derived.Test.YtcgfgjhhmbfmdaaDoorC1
namespace Go.Proofs.YtcgfgjhhmbfmdaaDoor
open Go.RowKit
set_option linter.unusedVariables false
set_option linter.unusedSimpArgs false

theorem ba_eq {a b : ByteArray} (h : a.data.toList = b.data.toList) : a = b := by
  cases a; cases b; simp only at h; congr 1; exact Array.toList_inj.1 h
/-- the values of a name -/
def vsL (l : List Fd) (s : ByteArray) : List ByteArray := l.filterMap fun f => if f.n = s then some f.v else none
def oneO (l : List Fd) (s : ByteArray) : Option ByteArray := match vsL l s with | [v] => some v | _ => none
theorem vs_none {l : List Fd} {s : ByteArray} (h : ∀ j (hj : j < l.length), l[j].n ≠ s) : vsL l s = [] := by
  unfold vsL
  rw [List.filterMap_eq_nil_iff]
  intro f hf
  obtain ⟨j, hj, e⟩ := List.getElem_of_mem hf
  rw [if_neg (by rw [← e]; exact h j hj)]
theorem vs_one {l : List Fd} {s : ByteArray} : ∀ {i : Nat} (hi : i < l.length), l[i].n = s → (∀ j (hj : j < l.length), l[j].n = s → j = i) → vsL l s = [l[i].v] := by
  induction l with
  | nil => intro i hi; exact absurd hi (by simp)
  | cons f r ih =>
    intro i hi he hu
    cases i with
    | zero =>
      have h0 : vsL r s = [] := vs_none fun j hj e => by
        have := hu (j + 1) (by simpa using hj) (by simpa using e)
        omega
      unfold vsL at h0 ⊢
      rw [List.filterMap_cons, if_pos (by simpa using he), h0]
      rfl
    | succ i =>
      have hn : f.n ≠ s := fun e => by
        have := hu 0 (by simp) (by simpa using e)
        omega
      have := ih (i := i) (by simpa using hi) (by simpa using he) fun j hj e => by
        have := hu (j + 1) (by simpa using hj) (by simpa using e)
        omega
      unfold vsL at this ⊢
      rw [List.filterMap_cons, if_neg hn, this]
      rfl
theorem one_vs {l : List Fd} {s v : ByteArray} : vsL l s = [v] → ∃ (i : Nat) (hi : i < l.length), l[i].n = s ∧ l[i].v = v ∧ ∀ j (hj : j < l.length), l[j].n = s → j = i := by
  induction l with
  | nil => intro h; simp [vsL] at h
  | cons f r ih =>
    intro h
    unfold vsL at h ih
    rw [List.filterMap_cons] at h
    by_cases hf : f.n = s
    · rw [if_pos hf] at h
      simp only [List.cons.injEq] at h
      refine ⟨0, by simp, hf, h.1, fun j hj e => ?_⟩
      cases j with
      | zero => rfl
      | succ j =>
        have hm := List.filterMap_eq_nil_iff.1 h.2 (r[j]'(by simpa using hj)) (List.getElem_mem _)
        rw [if_pos (by simpa using e)] at hm
        cases hm
    · rw [if_neg hf] at h
      obtain ⟨i, hi, h1, h2, h3⟩ := ih h
      refine ⟨i + 1, by simpa using hi, by simpa using h1, by simpa using h2, fun j hj e => ?_⟩
      cases j with
      | zero => exact absurd (by simpa using e) hf
      | succ j => rw [h3 j (by simpa using hj) (by simpa using e)]
theorem oneO_some {l : List Fd} {s v : ByteArray} : oneO l s = some v ↔ vsL l s = [v] := by
  unfold oneO
  split
  · rename_i x h; rw [h]; simp
  · rename_i h
    constructor
    · intro e; cases e
    · intro e; exact absurd e (h v)

theorem plc_some {l : List Fd} {s : ByteArray} : ∀ {k i : Nat}, plc l k s = some i → ∃ h : i < l.length, l[i].n = s
  | 0, i, h => by cases h
  | k + 1, i, h => by
    unfold plc at h
    split at h
    · rename_i e
      cases h
      simp only [Option.map_eq_some_iff, decide_eq_true_eq] at e
      obtain ⟨f, e1, e2⟩ := e
      obtain ⟨hk, e3⟩ := List.getElem?_eq_some_iff.1 e1
      exact ⟨hk, by rw [e3]; exact ba_eq e2⟩
    · exact plc_some h
theorem plc_none {l : List Fd} {s : ByteArray} : ∀ {k : Nat}, plc l k s = none → ∀ j (hj : j < l.length), j < k → l[j].n ≠ s
  | 0, h, j, hj, hk => by omega
  | k + 1, h, j, hj, hk => by
    unfold plc at h
    split at h
    · cases h
    · rename_i e
      by_cases hjk : j = k
      · subst hjk
        intro he
        apply e
        rw [List.getElem?_eq_getElem hj]
        simp [he]
      · exact plc_none h j hj (by omega)

/-- a field that may not stand at its place -/
def hbB (n i : Nat) (f : Fd) : Bool := (pseudoB f.n != decide (i < n)) || barredB f
def hbAny (l : List Fd) (n : Nat) : Bool := l.zipIdx.any fun x => hbB n x.2 x.1
theorem hbAny_true {l : List Fd} {n i : Nat} (hi : i < l.length) (h : hbB n i l[i] = true) : hbAny l n = true := by
  unfold hbAny
  rw [List.any_eq_true]
  exact ⟨(l[i], i), by rw [List.mem_zipIdx_iff_getElem?]; simp [List.getElem?_eq_getElem hi], h⟩
theorem hbAny_false {l : List Fd} {n : Nat} (h : ∀ i (hi : i < l.length), hbB n i l[i] = false) : hbAny l n = false := by
  unfold hbAny
  rw [List.any_eq_false]
  rintro ⟨f, i⟩ hm
  rw [List.mem_zipIdx_iff_getElem?] at hm
  obtain ⟨hi, e⟩ := List.getElem?_eq_some_iff.1 hm
  simp only at e ⊢
  rw [← e, h i hi]
  simp
theorem hbAny_at {l : List Fd} {n : Nat} (h : hbAny l n = false) (i : Nat) (hi : i < l.length) : hbB n i l[i] = false := by
  cases e : hbB n i l[i]
  · rfl
  · rw [hbAny_true hi e] at h; cases h
/-- the errors that both kinds of list have in common -/
def lkE (l : List Fd) (n : Nat) : Int := if 64 < l.length then 3 else if l.any wrongB = true then 130 else if hbAny l n = true then 131 else if l.length < n then 131 else 0

theorem nm_not_pseudo {s : ByteArray} (h : nmB s = true) : pseudoB s = false := by
  refine pseudo_no fun hs e => ?_
  unfold nmB consB allB at h
  simp only [Bool.and_eq_true, List.all_eq_true] at h
  have := (h.2 (s[0]'hs) (by simp [ByteArray.getElem_eq_getElem_data])).1
  rw [e] at this
  exact absurd this (by decide)
theorem barred_pseudo {f : Fd} (h : pseudoB f.n = true) : barredB f = false := by
  have hp : ∀ x ∈ f.n.toList.head?, x = 58 := by
    unfold pseudoB at h
    simp only [Bool.and_eq_true] at h
    obtain ⟨r, hr⟩ := (pre_colon _).1 h.1
    rw [ByteArray.toList_eq, hr]
    simp
  have key : ∀ (a : UInt8) (r : List UInt8), a ≠ 58 → (f.n.toList == a :: r) = false := fun a r ha => by
    rw [beq_eq_false_iff_ne]
    intro e
    rw [e] at hp
    exact ha (hp a rfl)
  unfold barredB
  rw [key _ _ (by decide), key _ _ (by decide), key _ _ (by decide), key _ _ (by decide), key _ _ (by decide), key _ _ (by decide)]
  simp

/-- behind the pseudo fields both look for the same -/
theorem tail_same {l : List Fd} {n : Nat} (hw : l.any wrongB = false) (i : Nat) (hi : i < l.length) (hn : n ≤ i) : hbB n i l[i] = nofB l[i] := by
  have hwi : wrongB l[i] = false := by
    have := List.any_eq_false.1 hw l[i] (List.getElem_mem hi)
    simpa using this
  unfold hbB nofB
  rw [show decide (i < n) = false by simpa using hn]
  unfold wrongB at hwi
  simp only [Bool.or_eq_false_iff, Bool.and_eq_false_iff, Bool.not_eq_false'] at hwi
  cases hN : nmB l[i].n
  · have hp : pseudoB l[i].n = true := by
      rcases hwi.1 with h | h
      · rw [hN] at h; cases h
      · exact h
    rw [hp]; simp
  · rw [nm_not_pseudo hN]; simp

theorem any_drop {l : List Fd} {n : Nat} {B : Fd → Bool} : (l.drop n).any B = false ↔ ∀ i (hi : i < l.length), n ≤ i → B l[i] = false := by
  rw [List.any_eq_false]
  constructor
  · intro h i hi hn
    have := h l[i] (by
      rw [List.mem_iff_getElem]
      exact ⟨i - n, by simp; omega, by simp only [List.getElem_drop]; congr 1; omega⟩)
    simpa using this
  · intro h f hf
    obtain ⟨j, hj, e⟩ := List.getElem_of_mem hf
    simp only [List.getElem_drop] at e
    simp at hj
    rw [← e, h (n + j) (by omega) (by omega)]
    simp

theorem names_pseudo : ∀ s ∈ reqNames, pseudoB s = true := by decide +kernel
theorem sname_pseudo : ∀ s ∈ resNames, pseudoB s = true := by decide +kernel

/-- the four places -/
theorem vals4 {l : List Fd} {vs : List ByteArray} : vals l 4 reqNames = some vs ↔ ∃ (i0 i1 i2 i3 : Nat) (h0 : i0 < l.length) (h1 : i1 < l.length) (h2 : i2 < l.length) (h3 : i3 < l.length), plc l 4 reqNames[0] = some i0 ∧ plc l 4 reqNames[1] = some i1 ∧ plc l 4 reqNames[2] = some i2 ∧ plc l 4 reqNames[3] = some i3 ∧ vs = [l[i0].v, l[i1].v, l[i2].v, l[i3].v] := by
  unfold vals valsF
  have hf : List.foldl (fun a s => a.bind fun vs => one1 l 4 vs s) (some []) reqNames = ((((one1 l 4 [] reqNames[0]).bind fun vs => one1 l 4 vs reqNames[1]).bind fun vs => one1 l 4 vs reqNames[2]).bind fun vs => one1 l 4 vs reqNames[3]) := rfl
  rw [hf]
  simp only [one1]
  constructor
  · intro h
    cases p0 : plc l 4 reqNames[0] with
    | none => simp [p0] at h
    | some i0 =>
      obtain ⟨h0, _⟩ := plc_some p0
      cases p1 : plc l 4 reqNames[1] with
      | none => simp [p0, p1] at h
      | some i1 =>
        obtain ⟨h1, _⟩ := plc_some p1
        cases p2 : plc l 4 reqNames[2] with
        | none => simp [p0, p1, p2] at h
        | some i2 =>
          obtain ⟨h2, _⟩ := plc_some p2
          cases p3 : plc l 4 reqNames[3] with
          | none => simp [p0, p1, p2, p3] at h
          | some i3 =>
            obtain ⟨h3, _⟩ := plc_some p3
            refine ⟨i0, i1, i2, i3, h0, h1, h2, h3, rfl, rfl, rfl, rfl, ?_⟩
            simp [p0, p1, p2, p3, List.getElem?_eq_getElem, h0, h1, h2, h3] at h
            exact h.symm
  · rintro ⟨i0, i1, i2, i3, h0, h1, h2, h3, p0, p1, p2, p3, rfl⟩
    simp [p0, p1, p2, p3, List.getElem?_eq_getElem, h0, h1, h2, h3]
theorem vals1 {l : List Fd} {vs : List ByteArray} : vals l 1 resNames = some vs ↔ ∃ (i0 : Nat) (h0 : i0 < l.length), plc l 1 resNames[0] = some i0 ∧ vs = [l[i0].v] := by
  unfold vals valsF
  have hf : List.foldl (fun a s => a.bind fun vs => one1 l 1 vs s) (some []) resNames = one1 l 1 [] resNames[0] := rfl
  rw [hf]
  simp only [one1]
  constructor
  · intro h
    cases p0 : plc l 1 resNames[0] with
    | none => simp [p0] at h
    | some i0 =>
      obtain ⟨h0, _⟩ := plc_some p0
      refine ⟨i0, h0, rfl, ?_⟩
      simp [p0, List.getElem?_eq_getElem, h0] at h
      exact h.symm
  · rintro ⟨i0, h0, p0, rfl⟩
    simp [p0, List.getElem?_eq_getElem, h0]

/-- the document's answer to a request's list -/
def ones4 (l : List Fd) : Option (List ByteArray) := match oneO l reqNames[0], oneO l reqNames[1], oneO l reqNames[2], oneO l reqNames[3] with | some m, some s, some a, some p => some [m, s, a, p] | _, _, _, _ => none
theorem ones4_some {l : List Fd} {m s a p : ByteArray} : ones4 l = some [m, s, a, p] ↔ oneO l reqNames[0] = some m ∧ oneO l reqNames[1] = some s ∧ oneO l reqNames[2] = some a ∧ oneO l reqNames[3] = some p := by
  unfold ones4
  cases oneO l reqNames[0] <;> cases oneO l reqNames[1] <;> cases oneO l reqNames[2] <;> cases oneO l reqNames[3] <;> simp
theorem ones4_four {l : List Fd} {vs : List ByteArray} (h : ones4 l = some vs) : ∃ m s a p, vs = [m, s, a, p] := by
  unfold ones4 at h
  split at h
  · cases h; exact ⟨_, _, _, _, rfl⟩
  · cases h

/-- the program takes the list's head as the document does -/
theorem heads4 {l : List Fd} (hw : l.any wrongB = false) (vs : List ByteArray) :
    (4 ≤ l.length ∧ (l.drop 4).any nofB = false ∧ vals l 4 reqNames = some vs) ↔ (hbAny l 4 = false ∧ 4 ≤ l.length ∧ ones4 l = some vs) := by
  constructor
  · rintro ⟨hl, hd, hv⟩
    obtain ⟨i0, i1, i2, i3, h0, h1, h2, h3, p0, p1, p2, p3, rfl⟩ := vals4.1 hv
    obtain ⟨_, e0⟩ := plc_some p0
    obtain ⟨_, e1⟩ := plc_some p1
    obtain ⟨_, e2⟩ := plc_some p2
    obtain ⟨_, e3⟩ := plc_some p3
    have l0 := plc_lt p0
    have l1 := plc_lt p1
    have l2 := plc_lt p2
    have l3 := plc_lt p3
    have n01 : i0 ≠ i1 := fun e => by subst e; rw [e0] at e1; exact absurd e1 (by decide)
    have n02 : i0 ≠ i2 := fun e => by subst e; rw [e0] at e2; exact absurd e2 (by decide)
    have n03 : i0 ≠ i3 := fun e => by subst e; rw [e0] at e3; exact absurd e3 (by decide)
    have n12 : i1 ≠ i2 := fun e => by subst e; rw [e1] at e2; exact absurd e2 (by decide)
    have n13 : i1 ≠ i3 := fun e => by subst e; rw [e1] at e3; exact absurd e3 (by decide)
    have n23 : i2 ≠ i3 := fun e => by subst e; rw [e2] at e3; exact absurd e3 (by decide)
    have hps : ∀ i (hi : i < l.length), i < 4 → l[i].n ∈ reqNames := fun i hi h4 => by
      have : i = i0 ∨ i = i1 ∨ i = i2 ∨ i = i3 := by omega
      rcases this with rfl | rfl | rfl | rfl
      · rw [e0]; exact List.getElem_mem _
      · rw [e1]; exact List.getElem_mem _
      · rw [e2]; exact List.getElem_mem _
      · rw [e3]; exact List.getElem_mem _
    have hb : ∀ i (hi : i < l.length), hbB 4 i l[i] = false := fun i hi => by
      by_cases h4 : i < 4
      · have hp := names_pseudo _ (hps i hi h4)
        unfold hbB
        rw [hp, barred_pseudo hp, show decide (i < 4) = true by simpa using h4]
        rfl
      · rw [tail_same hw i hi (by omega)]
        exact any_drop.1 hd i hi (by omega)
    have hlt : ∀ j (hj : j < l.length), l[j].n ∈ reqNames → j < 4 := fun j hj hm => by
      by_cases h4 : j < 4
      · exact h4
      · have := hb j hj
        unfold hbB at this
        rw [names_pseudo _ hm, show decide (j < 4) = false by simpa using h4] at this
        simp at this
    refine ⟨hbAny_false hb, hl, ?_⟩
    rw [ones4_some]
    refine ⟨oneO_some.2 (vs_one h0 e0 fun j hj e => ?_), oneO_some.2 (vs_one h1 e1 fun j hj e => ?_), oneO_some.2 (vs_one h2 e2 fun j hj e => ?_), oneO_some.2 (vs_one h3 e3 fun j hj e => ?_)⟩
    all_goals
      have hj4 := hlt j hj (by rw [e]; exact List.getElem_mem _)
      have : j = i0 ∨ j = i1 ∨ j = i2 ∨ j = i3 := by omega
      rcases this with rfl | rfl | rfl | rfl
      all_goals first | rfl | (exfalso; first | (rw [e0] at e; exact absurd e (by decide)) | (rw [e1] at e; exact absurd e (by decide)) | (rw [e2] at e; exact absurd e (by decide)) | (rw [e3] at e; exact absurd e (by decide)))
  · rintro ⟨hb, hl, ho⟩
    obtain ⟨m, s, a, p, rfl⟩ := ones4_four ho
    obtain ⟨o0, o1, o2, o3⟩ := ones4_some.1 ho
    have hlt : ∀ j (hj : j < l.length), l[j].n ∈ reqNames → j < 4 := fun j hj hm => by
      by_cases h4 : j < 4
      · exact h4
      · have := hbAny_at hb j hj
        unfold hbB at this
        rw [names_pseudo _ hm, show decide (j < 4) = false by simpa using h4] at this
        simp at this
    have key : ∀ (k : Nat) (hk : k < reqNames.length) (v : ByteArray), oneO l reqNames[k] = some v → ∃ i, plc l 4 reqNames[k] = some i ∧ ∃ h : i < l.length, l[i].v = v := fun k hk v ho => by
      obtain ⟨i, hi, e1, e2, e3⟩ := one_vs (oneO_some.1 ho)
      have hi4 := hlt i hi (by rw [e1]; exact List.getElem_mem _)
      cases hp : plc l 4 reqNames[k] with
      | none => exact absurd e1 (plc_none hp i hi hi4)
      | some i' =>
        obtain ⟨h', e'⟩ := plc_some hp
        obtain rfl := e3 i' h' e'
        exact ⟨i', rfl, h', e2⟩
    obtain ⟨i0, p0, h0, rfl⟩ := key 0 (by decide) _ o0
    obtain ⟨i1, p1, h1, rfl⟩ := key 1 (by decide) _ o1
    obtain ⟨i2, p2, h2, rfl⟩ := key 2 (by decide) _ o2
    obtain ⟨i3, p3, h3, rfl⟩ := key 3 (by decide) _ o3
    refine ⟨hl, any_drop.2 fun i hi h4 => ?_, vals4.2 ⟨i0, i1, i2, i3, h0, h1, h2, h3, p0, p1, p2, p3, rfl⟩⟩
    rw [← tail_same hw i hi h4]
    exact hbAny_at hb i hi
theorem heads1 {l : List Fd} (hw : l.any wrongB = false) (v : ByteArray) :
    (1 ≤ l.length ∧ (l.drop 1).any nofB = false ∧ vals l 1 resNames = some [v]) ↔ (hbAny l 1 = false ∧ 1 ≤ l.length ∧ oneO l resNames[0] = some v) := by
  constructor
  · rintro ⟨hl, hd, hv⟩
    obtain ⟨i0, h0, p0, e⟩ := vals1.1 hv
    simp only [List.cons.injEq, and_true] at e
    subst e
    obtain ⟨_, e0⟩ := plc_some p0
    have l0 := plc_lt p0
    obtain rfl : i0 = 0 := by omega
    have hp := sname_pseudo _ (List.getElem_mem (l := resNames) (n := 0) (by decide))
    have hb : ∀ i (hi : i < l.length), hbB 1 i l[i] = false := fun i hi => by
      by_cases h4 : i < 1
      · obtain rfl : i = 0 := by omega
        have hp' : pseudoB l[0].n = true := by rw [e0]; exact hp
        unfold hbB
        rw [hp', barred_pseudo hp', show decide ((0 : Nat) < 1) = true from rfl]
        rfl
      · rw [tail_same hw i hi (by omega)]
        exact any_drop.1 hd i hi (by omega)
    refine ⟨hbAny_false hb, hl, oneO_some.2 (vs_one h0 e0 fun j hj e => ?_)⟩
    by_cases h4 : j < 1
    · omega
    · have := hb j hj
      unfold hbB at this
      rw [e, hp, show decide (j < 1) = false by simpa using h4] at this
      simp at this
  · rintro ⟨hb, hl, ho⟩
    obtain ⟨i, hi, e1, e2, e3⟩ := one_vs (oneO_some.1 ho)
    have hp := sname_pseudo _ (List.getElem_mem (l := resNames) (n := 0) (by decide))
    have hi4 : i < 1 := by
      by_cases h4 : i < 1
      · exact h4
      · have := hbAny_at hb i hi
        unfold hbB at this
        rw [e1, hp, show decide (i < 1) = false by simpa using h4] at this
        simp at this
    obtain rfl : i = 0 := by omega
    have hpl : plc l 1 resNames[0] = some 0 := by
      cases hpp : plc l 1 resNames[0] with
      | none => exact absurd e1 (plc_none hpp 0 hi hi4)
      | some i' =>
        have := plc_lt hpp
        obtain rfl : i' = 0 := by omega
        rfl
    refine ⟨hl, any_drop.2 fun i hi h4 => ?_, vals1.2 ⟨0, hi, hpl, by rw [e2]⟩⟩
    rw [← tail_same hw i hi h4]
    exact hbAny_at hb i hi

/-- the document's error -/
def dqE (l : List Fd) : Int := if lkE l 4 ≠ 0 then lkE l 4 else match ones4 l with | some [m, s, a, p] => if headB m s a p = true then 0 else 131 | _ => 131
def dsE (l : List Fd) : Int := if lkE l 1 ≠ 0 then lkE l 1 else match oneO l resNames[0] with | some s => if stB s = true then 0 else 131 | none => 131

theorem rd_cases (l : List Fd) (names : List ByteArray) (h1 : ¬ 64 < l.length) (h2 : l.any wrongB = false) : (rdE l names = 0 ∧ names.length ≤ l.length ∧ (l.drop names.length).any nofB = false ∧ ∃ vs, vals l names.length names = some vs) ∨ (rdE l names = 131 ∧ ¬ (names.length ≤ l.length ∧ (l.drop names.length).any nofB = false ∧ ∃ vs, vals l names.length names = some vs)) := by
  unfold rdE
  rw [if_neg h1, if_neg (by rw [h2]; decide)]
  by_cases h3 : l.length < names.length
  · rw [if_pos h3]; exact .inr ⟨rfl, fun h => by omega⟩
  · rw [if_neg h3]
    cases h4 : (l.drop names.length).any nofB
    · rw [if_neg (by decide)]
      cases h5 : vals l names.length names with
      | none => exact .inr ⟨rfl, fun h => by obtain ⟨_, _, _, h⟩ := h; cases h⟩
      | some vs => exact .inl ⟨rfl, by omega, rfl, vs, rfl⟩
    · rw [if_pos rfl]; exact .inr ⟨rfl, fun h => by cases h.2.1⟩
theorem lk_cases (l : List Fd) (n : Nat) (h1 : ¬ 64 < l.length) (h2 : l.any wrongB = false) : (lkE l n = 0 ∧ hbAny l n = false ∧ n ≤ l.length) ∨ (lkE l n = 131 ∧ ¬ (hbAny l n = false ∧ n ≤ l.length)) := by
  unfold lkE
  rw [if_neg h1, if_neg (by rw [h2]; decide)]
  cases h3 : hbAny l n
  · rw [if_neg (by decide)]
    by_cases h4 : l.length < n
    · rw [if_pos h4]; exact .inr ⟨rfl, fun h => by omega⟩
    · rw [if_neg h4]; exact .inl ⟨rfl, rfl, by omega⟩
  · rw [if_pos rfl]; exact .inr ⟨rfl, fun h => by cases h.1⟩
theorem dq_eq (l : List Fd) : dqE l = rqE l := by
  by_cases h1 : 64 < l.length
  · have a : lkE l 4 = 3 := by unfold lkE; rw [if_pos h1]
    have b : rdE l reqNames = 3 := by unfold rdE; rw [if_pos h1]
    unfold dqE rqE
    rw [a, b]; rfl
  · cases h2 : l.any wrongB
    · have key := heads4 h2
      unfold dqE rqE
      rcases lk_cases l 4 h1 h2 with ⟨a, a1, a2⟩ | ⟨a, a1⟩
      · rcases rd_cases l reqNames h1 h2 with ⟨b, b1, b2, vs, b3⟩ | ⟨b, b1⟩
        · have := (key vs).1 ⟨b1, b2, b3⟩
          rw [a, b, if_neg (by simp), if_neg (by simp), this.2.2, show vals l 4 reqNames = some vs from b3]
          rfl
        · rw [a, b, if_neg (by simp), if_pos (by decide)]
          cases ho : ones4 l with
          | none => rfl
          | some vs =>
            have := (key vs).2 ⟨a1, a2, ho⟩
            exact absurd ⟨this.1, this.2.1, vs, this.2.2⟩ b1
      · rw [a, if_pos (by decide)]
        rcases rd_cases l reqNames h1 h2 with ⟨b, b1, b2, vs, b3⟩ | ⟨b, b1⟩
        · have := (key vs).1 ⟨b1, b2, b3⟩
          exact absurd ⟨this.1, this.2.1⟩ a1
        · rw [b, if_pos (by decide)]
    · have a : lkE l 4 = 130 := by unfold lkE; rw [if_neg h1, if_pos h2]
      have b : rdE l reqNames = 130 := by unfold rdE; rw [if_neg h1, if_pos h2]
      unfold dqE rqE
      rw [a, b]; rfl
theorem ds_eq (l : List Fd) : dsE l = rsE l := by
  by_cases h1 : 64 < l.length
  · have a : lkE l 1 = 3 := by unfold lkE; rw [if_pos h1]
    have b : rdE l resNames = 3 := by unfold rdE; rw [if_pos h1]
    unfold dsE rsE
    rw [a, b]; rfl
  · cases h2 : l.any wrongB
    · have key := heads1 h2
      unfold dsE rsE
      rcases lk_cases l 1 h1 h2 with ⟨a, a1, a2⟩ | ⟨a, a1⟩
      · rcases rd_cases l resNames h1 h2 with ⟨b, b1, b2, vs, b3⟩ | ⟨b, b1⟩
        · obtain ⟨i, hi, hp, rfl⟩ := vals1.1 (show vals l 1 resNames = some vs from b3)
          have := (key l[i].v).1 ⟨b1, b2, b3⟩
          rw [a, b, if_neg (by simp), if_neg (by simp), this.2.2, show vals l 1 resNames = some [l[i].v] from b3]
        · rw [a, b, if_neg (by simp), if_pos (by decide)]
          cases ho : oneO l resNames[0] with
          | none => rfl
          | some v =>
            have := (key v).2 ⟨a1, a2, ho⟩
            exact absurd ⟨this.1, this.2.1, [v], this.2.2⟩ b1
      · rw [a, if_pos (by decide)]
        rcases rd_cases l resNames h1 h2 with ⟨b, b1, b2, vs, b3⟩ | ⟨b, b1⟩
        · obtain ⟨i, hi, hp, rfl⟩ := vals1.1 (show vals l 1 resNames = some vs from b3)
          have := (key l[i].v).1 ⟨b1, b2, b3⟩
          exact absurd ⟨this.1, this.2.1⟩ a1
        · rw [b, if_pos (by decide)]
    · have a : lkE l 1 = 130 := by unfold lkE; rw [if_neg h1, if_pos h2]
      have b : rdE l resNames = 130 := by unfold rdE; rw [if_neg h1, if_pos h2]
      unfold dsE rsE
      rw [a, b]; rfl
/-- what both tell where all is right -/
theorem dq_vals {l : List Fd} {m s a p : ByteArray} (h0 : rqE l = 0) (hv : vals l 4 reqNames = some [m, s, a, p]) : ones4 l = some [m, s, a, p] ∧ lkE l 4 = 0 := by
  have h1 : ¬ 64 < l.length := fun h => by
    have b : rdE l reqNames = 3 := by unfold rdE; rw [if_pos h]
    unfold rqE at h0
    rw [b, if_pos (by decide)] at h0
    exact absurd h0 (by decide)
  have h2 : l.any wrongB = false := by
    cases e : l.any wrongB
    · rfl
    · have b : rdE l reqNames = 130 := by unfold rdE; rw [if_neg h1, if_pos e]
      unfold rqE at h0
      rw [b, if_pos (by decide)] at h0
      exact absurd h0 (by decide)
  rcases rd_cases l reqNames h1 h2 with ⟨b, b1, b2, vs, b3⟩ | ⟨b, b1⟩
  · have := (heads4 h2 [m, s, a, p]).1 ⟨b1, b2, hv⟩
    rcases lk_cases l 4 h1 h2 with ⟨a, a1, a2⟩ | ⟨a, a1⟩
    · exact ⟨this.2.2, a⟩
    · exact absurd ⟨this.1, this.2.1⟩ a1
  · unfold rqE at h0
    rw [b, if_pos (by decide)] at h0
    exact absurd h0 (by decide)
theorem ds_vals {l : List Fd} {s : ByteArray} (h0 : rsE l = 0) (hv : vals l 1 resNames = some [s]) : oneO l resNames[0] = some s ∧ lkE l 1 = 0 := by
  have h1 : ¬ 64 < l.length := fun h => by
    have b : rdE l resNames = 3 := by unfold rdE; rw [if_pos h]
    unfold rsE at h0
    rw [b, if_pos (by decide)] at h0
    exact absurd h0 (by decide)
  have h2 : l.any wrongB = false := by
    cases e : l.any wrongB
    · rfl
    · have b : rdE l resNames = 130 := by unfold rdE; rw [if_neg h1, if_pos e]
      unfold rsE at h0
      rw [b, if_pos (by decide)] at h0
      exact absurd h0 (by decide)
  rcases rd_cases l resNames h1 h2 with ⟨b, b1, b2, vs, b3⟩ | ⟨b, b1⟩
  · have := (heads1 h2 s).1 ⟨b1, b2, hv⟩
    rcases lk_cases l 1 h1 h2 with ⟨a, a1, a2⟩ | ⟨a, a1⟩
    · exact ⟨this.2.2, a⟩
    · exact absurd ⟨this.1, this.2.1⟩ a1
  · unfold rsE at h0
    rw [b, if_pos (by decide)] at h0
    exact absurd h0 (by decide)
end Go.Proofs.YtcgfgjhhmbfmdaaDoor
