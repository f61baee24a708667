/- The table of streams, on lists. -/
import Derived.Test.YtaaocgppniflcaaS0
namespace Go.Proofs.Ytaaocgppniflcaa
open Go.RowKit
set_option linter.unusedVariables false
set_option linter.unusedSimpArgs false

/-- a map: its entries, rising by key -/
abbrev Mp := List (Int × Int)
def look (L : Mp) (k : Int) : Option Int := (L.find? (fun p => p.1 == k)).map (·.2)
def ins (k v : Int) : Mp → Mp
  | [] => [(k, v)]
  | y :: r => if k < y.1 then (k, v) :: y :: r else y :: ins k v r
def dele (L : Mp) (k : Int) : Mp := L.filter fun p => !(p.1 == k)
def putm (L : Mp) (k v : Int) : Mp := ins k v (dele L k)
def Srt (L : Mp) : Prop := L.Pairwise fun p q => p.1 < q.1

theorem mem_ins (k v : Int) (p : Int × Int) : ∀ L : Mp, p ∈ ins k v L ↔ p = (k, v) ∨ p ∈ L
  | [] => by simp [ins]
  | y :: r => by
    unfold ins
    split
    · simp
    · simp only [List.mem_cons, mem_ins k v p r]
      constructor
      · rintro (h | h | h)
        · exact .inr (.inl h)
        · exact .inl h
        · exact .inr (.inr h)
      · rintro (h | h | h)
        · exact .inr (.inl h)
        · exact .inl h
        · exact .inr (.inr h)
theorem mem_dele (L : Mp) (k : Int) (p : Int × Int) : p ∈ dele L k ↔ p ∈ L ∧ p.1 ≠ k := by
  simp [dele]
theorem mem_putm (L : Mp) (k v : Int) (p : Int × Int) : p ∈ putm L k v ↔ p = (k, v) ∨ (p ∈ L ∧ p.1 ≠ k) := by
  rw [putm, mem_ins, mem_dele]
theorem Srt.ins {k v : Int} : ∀ {L : Mp}, Srt L → (∀ p ∈ L, p.1 ≠ k) → Srt (ins k v L)
  | [], _, _ => by simp [Srt, Ytaaocgppniflcaa.ins]
  | y :: r, h, hn => by
    have h' := List.pairwise_cons.1 h
    unfold Ytaaocgppniflcaa.ins
    split
    · rename_i hk
      refine List.pairwise_cons.2 ⟨fun q hq => ?_, h⟩
      rcases List.mem_cons.1 hq with rfl | hq
      · exact hk
      · have := h'.1 q hq
        show k < q.1
        omega
    · rename_i hk
      refine List.pairwise_cons.2 ⟨fun q hq => ?_, Srt.ins h'.2 fun p hp => hn p (List.mem_cons_of_mem _ hp)⟩
      rcases (mem_ins k v q r).1 hq with rfl | hq
      · have := hn y (List.mem_cons_self)
        show y.1 < k
        omega
      · exact h'.1 q hq
theorem Srt.dele {L : Mp} (h : Srt L) (k : Int) : Srt (dele L k) := h.sublist List.filter_sublist
theorem Srt.putm {L : Mp} (h : Srt L) (k v : Int) : Srt (putm L k v) := (h.dele k).ins fun p hp => ((mem_dele L k p).1 hp).2
theorem Srt.one {L : Mp} (h : Srt L) {p q : Int × Int} (hp : p ∈ L) (hq : q ∈ L) (e : p.1 = q.1) : p = q := by
  induction L with
  | nil => cases hp
  | cons a r ih =>
    have h' := List.pairwise_cons.1 h
    rcases List.mem_cons.1 hp with rfl | hp'
    · rcases List.mem_cons.1 hq with rfl | hq'
      · rfl
      · have := h'.1 q hq'; omega
    · rcases List.mem_cons.1 hq with rfl | hq'
      · have := h'.1 p hp'; omega
      · exact ih h'.2 hp' hq'
theorem look_mem {L : Mp} {k v : Int} (h : look L k = some v) : (k, v) ∈ L := by
  unfold look at h
  cases hf : L.find? (fun p => p.1 == k) with
  | none => rw [hf] at h; cases h
  | some p =>
    rw [hf] at h
    have h1 := List.find?_some hf
    have h2 := List.mem_of_find?_eq_some hf
    simp at h h1
    subst h h1
    exact h2
theorem look_none {L : Mp} {k : Int} (h : look L k = none) : ∀ p ∈ L, p.1 ≠ k := by
  unfold look at h
  cases hf : L.find? (fun p => p.1 == k) with
  | none =>
    intro p hp
    have := List.find?_eq_none.1 hf p hp
    simpa using this
  | some p => rw [hf] at h; cases h
theorem look_iff {L : Mp} (hs : Srt L) (k v : Int) : look L k = some v ↔ (k, v) ∈ L := by
  refine ⟨look_mem, fun h => ?_⟩
  cases hl : look L k with
  | none => exact absurd rfl (look_none hl _ h)
  | some u =>
    have := hs.one (look_mem hl) h rfl
    simp at this
    rw [this]
theorem look_no {L : Mp} {k : Int} (h : ∀ p ∈ L, p.1 ≠ k) : look L k = none := by
  cases hl : look L k with
  | none => rfl
  | some u => exact absurd rfl (h _ (look_mem hl))
theorem look_putm {L : Mp} (hs : Srt L) (k v j : Int) : look (putm L k v) j = if j = k then some v else look L j := by
  split
  · rename_i h
    subst h
    exact (look_iff (hs.putm _ _) _ _).2 ((mem_putm _ _ _ _).2 (.inl rfl))
  · rename_i h
    cases hl : look L j with
    | none =>
      refine look_no fun p hp => ?_
      rcases (mem_putm _ _ _ _).1 hp with rfl | hp
      · exact fun e => h e.symm
      · exact look_none hl p hp.1
    | some u => exact (look_iff (hs.putm _ _) _ _).2 ((mem_putm _ _ _ _).2 (.inr ⟨look_mem hl, h⟩))
theorem look_dele {L : Mp} (hs : Srt L) (k j : Int) : look (dele L k) j = if j = k then none else look L j := by
  split
  · rename_i h
    subst h
    exact look_no fun p hp => ((mem_dele _ _ _).1 hp).2
  · rename_i h
    cases hl : look L j with
    | none => exact look_no fun p hp => look_none hl p ((mem_dele _ _ _).1 hp).1
    | some u => exact (look_iff (hs.dele _) _ _).2 ((mem_dele _ _ _).2 ⟨look_mem hl, h⟩)

/-- two rising lists of the same numbers are one -/
theorem rise_ext {a b : List Int} (ha : a.Pairwise (· < ·)) (hb : b.Pairwise (· < ·)) (h : ∀ x, x ∈ a ↔ x ∈ b) : a = b := by
  have na : a.Nodup := ha.imp fun h => by omega
  have nb : b.Nodup := hb.imp fun h => by omega
  refine List.Perm.eq_of_pairwise (le := fun x y : Int => x < y) (fun x y _ _ h1 h2 => by omega) ha hb ((List.perm_ext_iff_of_nodup na nb).2 h)
theorem rise_keys {L : Mp} (hs : Srt L) (c : Int × Int → Bool) : ((L.filter c).map (·.1)).Pairwise (· < ·) := List.pairwise_map.2 (hs.sublist List.filter_sublist)
theorem mem_keys {L : Mp} (hs : Srt L) (c : Int × Int → Bool) (x : Int) : x ∈ (L.filter c).map (·.1) ↔ ∃ v, look L x = some v ∧ c (x, v) = true := by
  simp only [List.mem_map, List.mem_filter]
  constructor
  · rintro ⟨⟨k, v⟩, ⟨h1, h2⟩, rfl⟩
    exact ⟨v, (look_iff hs _ _).2 h1, h2⟩
  · rintro ⟨v, h1, h2⟩
    exact ⟨(x, v), ⟨look_mem h1, h2⟩, rfl⟩
theorem keys_ext {L L' : Mp} (hs : Srt L) (hs' : Srt L') (c c' : Int × Int → Bool) (h : ∀ x, (∃ v, look L x = some v ∧ c (x, v) = true) ↔ ∃ v, look L' x = some v ∧ c' (x, v) = true) :
    (L.filter c).map (·.1) = (L'.filter c').map (·.1) :=
  rise_ext (rise_keys hs c) (rise_keys hs' c') fun x => by rw [mem_keys hs, mem_keys hs', h]

/-- does a state count? -/
def ct (s : Int) : Bool := s == 3 || s == 4 || s == 5
/-- the other end's state -/
def mi (s : Int) : Int := if s = 1 then 2 else if s = 2 then 1 else if s = 4 then 5 else if s = 5 then 4 else s

structure Tb where
  cl : Bool
  lo : Int
  lt : Int
  L : Mp
def isStr (id : Int) : Bool := decide (1 ≤ id) && decide (id ≤ 2147483647)
def odd (id : Int) : Bool := !(id.tmod 2 == 0)
def Tb.ours (T : Tb) (id : Int) : Bool := odd id == T.cl
def Tb.last (T : Tb) (l : Bool) : Int := if l then T.lo else T.lt
def Tb.st (T : Tb) (id : Int) : Int := if isStr id then (if T.last (T.ours id) < id then 0 else (look T.L id).getD 6) else 6
def Tb.cut (T : Tb) (id : Int) : Bool := (look T.L id).getD 0 == 6
def isK (k : Int) : Bool := decide (1 ≤ k) && decide (k ≤ 8)
def isB (k : Int) : Bool := k == 1 || k == 2 || k == 5
def Tb.may (T : Tb) (id : Int) (g : Bool) (k : Int) : Bool := (odd id == (T.cl != g)) && (odd id != (k == 5))
def Tb.mv (T : Tb) (id n : Int) (g : Bool) (k : Int) : Tb :=
  ⟨T.cl, if T.ours id then max T.lo id else T.lo, if T.ours id then T.lt else max T.lt id, if (n == 6 && !(k == 6 && !g)) = true then dele T.L id else putm T.L id n⟩
def mis (g : Bool) : Int × Int := if g then (3, 1) else (4, 0)
/-- an event: what becomes of the table, and the verdict -/
def Tb.doo (T : Tb) (id : Int) (g : Bool) (k : Int) : Tb × Int × Int :=
  if isK k = false then (T, 4, 0)
  else if isStr id = false then (T, mis g)
  else if (T.st id == 0 && isB k && !T.may id g k) = true then (T, mis g)
  else if (T.cut id && g && !(k == 5)) = true then (T, 1, 0)
  else (if ((nx (T.st id) g k).2.1 == 0 && !((nx (T.st id) g k).1 == T.st id)) = true then T.mv id (nx (T.st id) g k).1 g k else T, (nx (T.st id) g k).2)
def Tb.count (T : Tb) (l : Bool) : Nat := (T.L.filter fun p => (T.ours p.1 == l) && ct p.2).length
def Tb.live (T : Tb) : List Int := (T.L.filter fun p => !(p.2 == 6)).map (·.1)
def Tb.next (T : Tb) : Int × Bool :=
  let n := if (T.cl && T.lo == 0) = true then 1 else T.lo + 2
  if isStr n = false then (0, false) else (n, true)
def Tb.new (c : Bool) : Tb := ⟨c, 0, 0, []⟩

structure Tb.Ok (T : Tb) : Prop where
  srt : Srt T.L
  key : ∀ p ∈ T.L, 1 ≤ p.1 ∧ p.1 ≤ T.last (T.ours p.1)
  val : ∀ p ∈ T.L, 1 ≤ p.2 ∧ p.2 ≤ 6
  lo : 0 ≤ T.lo ∧ T.lo ≤ 2147483647
  lt : 0 ≤ T.lt ∧ T.lt ≤ 2147483647
  plo : T.lo = 0 ∨ T.ours T.lo = true
  plt : T.lt = 0 ∨ T.ours T.lt = false
theorem Tb.new_ok (c : Bool) : (Tb.new c).Ok := ⟨List.Pairwise.nil, by simp [Tb.new], by simp [Tb.new], by simp [Tb.new], by simp [Tb.new], .inl rfl, .inl rfl⟩
theorem isStr_iff {id : Int} : isStr id = true ↔ 1 ≤ id ∧ id ≤ 2147483647 := by simp [isStr]
theorem isStr_not {id : Int} : isStr id = false ↔ ¬ (1 ≤ id ∧ id ≤ 2147483647) := by
  rw [← isStr_iff]; simp
theorem isK_iff {k : Int} : isK k = true ↔ 1 ≤ k ∧ k ≤ 8 := by simp [isK]
theorem isK_not {k : Int} : isK k = false ↔ ¬ (1 ≤ k ∧ k ≤ 8) := by
  rw [← isK_iff]; simp

theorem Tb.Ok.bound {T : Tb} (h : T.Ok) (l : Bool) : 0 ≤ T.last l ∧ T.last l ≤ 2147483647 := by
  cases l
  · exact h.lt
  · exact h.lo
theorem Tb.Ok.look_range {T : Tb} (h : T.Ok) {id v : Int} (hl : look T.L id = some v) : 1 ≤ id ∧ id ≤ T.last (T.ours id) ∧ id ≤ 2147483647 ∧ 1 ≤ v ∧ v ≤ 6 := by
  have hm := look_mem hl
  have h1 := h.key _ hm
  have h2 := h.val _ hm
  have h3 := (h.bound (T.ours id)).2
  exact ⟨h1.1, h1.2, Int.le_trans h1.2 h3, h2.1, h2.2⟩
theorem Tb.Ok.st_range {T : Tb} (h : T.Ok) (id : Int) : 0 ≤ T.st id ∧ T.st id ≤ 6 := by
  unfold Tb.st
  split
  · split
    · omega
    · cases hl : look T.L id with
      | none => simp
      | some v =>
        have := h.look_range hl
        simp
        omega
  · omega
theorem length_le_range : ∀ (n : Nat) (l : List Int) (a : Int), l.Pairwise (· < ·) → (∀ x ∈ l, a ≤ x ∧ x < a + n) → l.length ≤ n
  | _, [], _, _, _ => Nat.zero_le _
  | 0, x :: r, a, _, h => by have := h x List.mem_cons_self; omega
  | n + 1, x :: r, a, hp, h => by
    have h' := List.pairwise_cons.1 hp
    have := length_le_range n r (a + 1) h'.2 fun y hy => by
      have h1 := h'.1 y hy
      have h2 := h x List.mem_cons_self
      have h3 := h y (List.mem_cons_of_mem _ hy)
      omega
    simp
    omega
theorem Tb.Ok.length {T : Tb} (h : T.Ok) : T.L.length ≤ 2147483647 := by
  have h1 : ((T.L.map (·.1))).Pairwise (· < ·) := List.pairwise_map.2 h.srt
  have := length_le_range 2147483647 (T.L.map (·.1)) 1 h1 fun x hx => by
    obtain ⟨p, hp, rfl⟩ := List.mem_map.1 hx
    have h2 := h.key p hp
    have h3 := (h.bound (T.ours p.1)).2
    omega
  simpa using this
theorem Tb.mv_last (T : Tb) (id n : Int) (g : Bool) (k : Int) (l : Bool) : (T.mv id n g k).last l = if (T.ours id == l) = true then max (T.last l) id else T.last l := by
  unfold Tb.mv Tb.last
  cases T.ours id <;> cases l <;> simp
theorem Tb.mv_ok {T : Tb} (h : T.Ok) {id n : Int} (g : Bool) (k : Int) (hid : 1 ≤ id ∧ id ≤ 2147483647) (hn : 1 ≤ n ∧ n ≤ 6) : (T.mv id n g k).Ok := by
  have ho : ∀ x, (T.mv id n g k).ours x = T.ours x := fun _ => rfl
  refine ⟨?_, ?_, ?_, ?_, ?_, ?_, ?_⟩
  · show Srt (if _ then _ else _)
    split
    · exact h.srt.dele _
    · exact h.srt.putm _ _
  · have hk : ∀ p, p ∈ (T.mv id n g k).L → p.1 = id ∨ p ∈ T.L := by
      intro p hp
      replace hp : p ∈ (if (n == 6 && !(k == 6 && !g)) = true then dele T.L id else putm T.L id n) := hp
      split at hp
      · exact .inr ((mem_dele _ _ _).1 hp).1
      · rcases (mem_putm _ _ _ _).1 hp with rfl | hp
        · exact .inl rfl
        · exact .inr hp.1
    intro p hp
    rw [ho, Tb.mv_last]
    rcases hk p hp with e | hp
    · rw [e]
      simp
      omega
    · have := h.key p hp
      split <;> omega
  · intro p hp
    replace hp : p ∈ (if (n == 6 && !(k == 6 && !g)) = true then dele T.L id else putm T.L id n) := hp
    split at hp
    · exact h.val p ((mem_dele _ _ _).1 hp).1
    · rcases (mem_putm _ _ _ _).1 hp with rfl | hp
      · exact hn
      · exact h.val p hp.1
  · have := h.lo
    have e : (T.mv id n g k).lo = if T.ours id = true then max T.lo id else T.lo := rfl
    rw [e]
    split <;> omega
  · have := h.lt
    have e : (T.mv id n g k).lt = if T.ours id = true then T.lt else max T.lt id := rfl
    rw [e]
    split <;> omega
  · rw [ho]
    by_cases h1 : T.ours id = true
    · right
      show T.ours (if T.ours id = true then max T.lo id else T.lo) = true
      rw [if_pos h1]
      by_cases h2 : T.lo ≤ id
      · rw [Int.max_eq_right h2]; exact h1
      · rw [Int.max_eq_left (by omega)]
        rcases h.plo with e | e
        · omega
        · exact e
    · show (if T.ours id = true then _ else T.lo) = 0 ∨ T.ours (if T.ours id = true then _ else T.lo) = true
      rw [if_neg h1]
      exact h.plo
  · rw [ho]
    by_cases h1 : T.ours id = true
    · show (if T.ours id = true then T.lt else _) = 0 ∨ T.ours (if T.ours id = true then T.lt else _) = false
      rw [if_pos h1]
      exact h.plt
    · right
      show T.ours (if T.ours id = true then T.lt else max T.lt id) = false
      rw [if_neg h1]
      by_cases h2 : T.lt ≤ id
      · rw [Int.max_eq_right h2]; simpa using h1
      · rw [Int.max_eq_left (by omega)]
        rcases h.plt with e | e
        · omega
        · exact e

/-- what holds of all cells of both tables -/
theorem cells_all (P : Int → Bool → Int → Int × Int × Int → Prop) (h : ∀ g : Bool, ∀ s : Fin 7, ∀ k : Fin 8, P (s.val : Int) g ((k.val : Int) + 1) (tb g s.val (k.val + 1))) (s : Int) (g : Bool) (k : Int) (hs : 0 ≤ s ∧ s ≤ 6) (hk : 1 ≤ k ∧ k ≤ 8) : P s g k (nx s g k) := by
  obtain ⟨h1, h2⟩ := hs
  obtain ⟨h3, h4⟩ := hk
  have := h g ⟨s.toNat, by omega⟩ ⟨k.toNat - 1, by omega⟩
  simp only at this
  have e1 : (s.toNat : Int) = s := by omega
  have e2 : ((k.toNat - 1 : Nat) : Int) + 1 = k := by omega
  have e3 : k.toNat - 1 + 1 = k.toNat := by omega
  rw [e1, e2, e3] at this
  unfold nx
  rw [if_pos ⟨h1, h2, h3, h4⟩]
  exact this
/-- where a Fine event leads somewhere else it leads to no Idle -/
theorem nx_new {s : Int} {g : Bool} {k : Int} (hs : 0 ≤ s ∧ s ≤ 6) (hk : 1 ≤ k ∧ k ≤ 8) (h : (nx s g k).1 ≠ s) : 1 ≤ (nx s g k).1 ∧ (nx s g k).1 ≤ 6 ∧ s ≠ 6 ∧ (s = 0 → isB k = true) ∧ (nx s g k).2 = (0, 0) :=
  cells_all (fun s g k r => r.1 ≠ s → 1 ≤ r.1 ∧ r.1 ≤ 6 ∧ s ≠ 6 ∧ (s = 0 → isB k = true) ∧ r.2 = (0, 0)) (by decide) s g k hs hk h
/-- an event either leaves the table as it is, or a stream moves -/
theorem Tb.doo_cases (T : Tb) (h : T.Ok) (id : Int) (g : Bool) (k : Int) :
    (T.doo id g k).1 = T ∨ (∃ n, 1 ≤ n ∧ n ≤ 6 ∧ n ≠ T.st id ∧ T.st id ≠ 6 ∧ nx (T.st id) g k = (n, 0, 0) ∧ isStr id = true ∧ isK k = true ∧ (T.st id = 0 → isB k = true ∧ T.may id g k = true) ∧ T.doo id g k = (T.mv id n g k, 0, 0)) := by
  cases h1 : isK k
  · left; unfold Tb.doo; rw [if_pos h1]
  cases h2 : isStr id
  · left; unfold Tb.doo; rw [if_neg (by rw [h1]; decide), if_pos h2]
  cases h3 : (T.st id == 0 && isB k && !T.may id g k)
  · cases h4 : (T.cut id && g && !(k == 5))
    · cases h5 : ((nx (T.st id) g k).2.1 == 0 && !((nx (T.st id) g k).1 == T.st id))
      · left
        unfold Tb.doo
        rw [if_neg (by rw [h1]; decide), if_neg (by rw [h2]; decide), if_neg (by rw [h3]; decide), if_neg (by rw [h4]; decide), if_neg (by rw [h5]; decide)]
      · right
        have h5' := h5
        simp at h5'
        obtain ⟨a1, a2, a3, a4, a5⟩ := nx_new (g := g) (h.st_range id) (isK_iff.1 h1) h5'.2
        refine ⟨(nx (T.st id) g k).1, a1, a2, h5'.2, a3, by rw [← a5], rfl, rfl, fun e => ⟨a4 e, ?_⟩, ?_⟩
        · rw [e, a4 e] at h3
          simpa using h3
        · unfold Tb.doo
          rw [if_neg (by rw [h1]; decide), if_neg (by rw [h2]; decide), if_neg (by rw [h3]; decide), if_neg (by rw [h4]; decide), if_pos h5, a5]
    · left
      unfold Tb.doo
      rw [if_neg (by rw [h1]; decide), if_neg (by rw [h2]; decide), if_neg (by rw [h3]; decide), if_pos h4]
  · left
    unfold Tb.doo
    rw [if_neg (by rw [h1]; decide), if_neg (by rw [h2]; decide), if_pos h3]
theorem Tb.doo_ok {T : Tb} (h : T.Ok) (id : Int) (g : Bool) (k : Int) : (T.doo id g k).1.Ok := by
  rcases T.doo_cases h id g k with e | ⟨n, a1, a2, _, _, _, a3, _, _, e⟩
  · rw [e]; exact h
  · rw [e]; exact T.mv_ok h g k (isStr_iff.1 a3) ⟨a1, a2⟩
theorem Tb.doo_cl {T : Tb} (h : T.Ok) (id : Int) (g : Bool) (k : Int) : (T.doo id g k).1.cl = T.cl := by
  rcases T.doo_cases h id g k with e | ⟨n, a1, a2, _, _, _, a3, _, _, e⟩
  · rw [e]
  · rw [e]; rfl
end Go.Proofs.Ytaaocgppniflcaa
