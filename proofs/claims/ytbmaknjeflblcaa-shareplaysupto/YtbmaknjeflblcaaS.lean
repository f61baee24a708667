/- share, on lists. -/
import Derived.Test.YtbmaknjeflblcaaM
namespace Go.Proofs.Ytbmaknjeflblcaa
open Go.RowKit
set_option linter.unusedVariables false
set_option linter.unusedSimpArgs false

/-- a map: its entries, rising by key -/
abbrev Mp (α : Type) := List (Int × α)
variable {α : Type}
def look (L : Mp α) (k : Int) : Option α := (L.find? (fun p => p.1 == k)).map (·.2)
def ins (k : Int) (v : α) : Mp α → Mp α
  | [] => [(k, v)]
  | y :: r => if k < y.1 then (k, v) :: y :: r else y :: ins k v r
def dele (L : Mp α) (k : Int) : Mp α := L.filter fun p => !(p.1 == k)
def putm (L : Mp α) (k : Int) (v : α) : Mp α := ins k v (dele L k)
def Srt (L : Mp α) : Prop := L.Pairwise fun p q => p.1 < q.1

theorem mem_ins (k : Int) (v : α) (p : Int × α) : ∀ L : Mp α, p ∈ ins k v L ↔ p = (k, v) ∨ p ∈ L
  | [] => by simp [ins]
  | y :: r => by
    unfold ins
    split
    · simp
    · simp only [List.mem_cons, mem_ins k v p r]
      constructor
      · rintro (h | h | h)
        · exact .inr (.inl h)
        · exact .inl h
        · exact .inr (.inr h)
      · rintro (h | h | h)
        · exact .inr (.inl h)
        · exact .inl h
        · exact .inr (.inr h)
theorem mem_dele (L : Mp α) (k : Int) (p : Int × α) : p ∈ dele L k ↔ p ∈ L ∧ p.1 ≠ k := by
  simp [dele]
theorem mem_putm (L : Mp α) (k : Int) (v : α) (p : Int × α) : p ∈ putm L k v ↔ p = (k, v) ∨ (p ∈ L ∧ p.1 ≠ k) := by
  rw [putm, mem_ins, mem_dele]
theorem Srt.ins {k : Int} {v : α} : ∀ {L : Mp α}, Srt L → (∀ p ∈ L, p.1 ≠ k) → Srt (ins k v L)
  | [], _, _ => by simp [Srt, Ytbmaknjeflblcaa.ins]
  | y :: r, h, hn => by
    have h' := List.pairwise_cons.1 h
    unfold Ytbmaknjeflblcaa.ins
    split
    · rename_i hk
      refine List.pairwise_cons.2 ⟨fun q hq => ?_, h⟩
      rcases List.mem_cons.1 hq with rfl | hq
      · exact hk
      · have := h'.1 q hq
        show k < q.1
        omega
    · rename_i hk
      refine List.pairwise_cons.2 ⟨fun q hq => ?_, Srt.ins h'.2 fun p hp => hn p (List.mem_cons_of_mem _ hp)⟩
      rcases (mem_ins k v q r).1 hq with rfl | hq
      · have := hn y (List.mem_cons_self)
        show y.1 < k
        omega
      · exact h'.1 q hq
theorem Srt.dele {L : Mp α} (h : Srt L) (k : Int) : Srt (dele L k) := h.sublist List.filter_sublist
theorem Srt.putm {L : Mp α} (h : Srt L) (k : Int) (v : α) : Srt (putm L k v) := (h.dele k).ins fun p hp => ((mem_dele L k p).1 hp).2
theorem Srt.one {L : Mp α} (h : Srt L) {p q : Int × α} (hp : p ∈ L) (hq : q ∈ L) (e : p.1 = q.1) : p = q := by
  induction L with
  | nil => cases hp
  | cons a r ih =>
    have h' := List.pairwise_cons.1 h
    rcases List.mem_cons.1 hp with rfl | hp'
    · rcases List.mem_cons.1 hq with rfl | hq'
      · rfl
      · have := h'.1 q hq'; omega
    · rcases List.mem_cons.1 hq with rfl | hq'
      · have := h'.1 p hp'; omega
      · exact ih h'.2 hp' hq'
theorem look_mem {L : Mp α} {k : Int} {v : α} (h : look L k = some v) : (k, v) ∈ L := by
  unfold look at h
  cases hf : L.find? (fun p => p.1 == k) with
  | none => rw [hf] at h; cases h
  | some p =>
    rw [hf] at h
    have h1 := List.find?_some hf
    have h2 := List.mem_of_find?_eq_some hf
    simp at h h1
    subst h h1
    exact h2
theorem look_none {L : Mp α} {k : Int} (h : look L k = none) : ∀ p ∈ L, p.1 ≠ k := by
  unfold look at h
  cases hf : L.find? (fun p => p.1 == k) with
  | none =>
    intro p hp
    have := List.find?_eq_none.1 hf p hp
    simpa using this
  | some p => rw [hf] at h; cases h
theorem look_iff {L : Mp α} (hs : Srt L) (k : Int) (v : α) : look L k = some v ↔ (k, v) ∈ L := by
  refine ⟨look_mem, fun h => ?_⟩
  cases hl : look L k with
  | none => exact absurd rfl (look_none hl _ h)
  | some u =>
    have := hs.one (look_mem hl) h rfl
    simp at this
    rw [this]
theorem look_no {L : Mp α} {k : Int} (h : ∀ p ∈ L, p.1 ≠ k) : look L k = none := by
  cases hl : look L k with
  | none => rfl
  | some u => exact absurd rfl (h _ (look_mem hl))
theorem look_putm {L : Mp α} (hs : Srt L) (k : Int) (v : α) (j : Int) : look (putm L k v) j = if j = k then some v else look L j := by
  split
  · rename_i h
    subst h
    exact (look_iff (hs.putm _ _) _ _).2 ((mem_putm _ _ _ _).2 (.inl rfl))
  · rename_i h
    cases hl : look L j with
    | none =>
      refine look_no fun p hp => ?_
      rcases (mem_putm _ _ _ _).1 hp with rfl | hp
      · exact fun e => h e.symm
      · exact look_none hl p hp.1
    | some u => exact (look_iff (hs.putm _ _) _ _).2 ((mem_putm _ _ _ _).2 (.inr ⟨look_mem hl, h⟩))
theorem look_dele {L : Mp α} (hs : Srt L) (k j : Int) : look (dele L k) j = if j = k then none else look L j := by
  split
  · rename_i h
    subst h
    exact look_no fun p hp => ((mem_dele _ _ _).1 hp).2
  · rename_i h
    cases hl : look L j with
    | none => exact look_no fun p hp => look_none hl p ((mem_dele _ _ _).1 hp).1
    | some u => exact (look_iff (hs.dele _) _ _).2 ((mem_dele _ _ _).2 ⟨look_mem hl, h⟩)

/-- two rising lists of the same numbers are one -/
theorem rise_ext {a b : List Int} (ha : a.Pairwise (· < ·)) (hb : b.Pairwise (· < ·)) (h : ∀ x, x ∈ a ↔ x ∈ b) : a = b := by
  have na : a.Nodup := ha.imp fun h => by omega
  have nb : b.Nodup := hb.imp fun h => by omega
  refine List.Perm.eq_of_pairwise (le := fun x y : Int => x < y) (fun x y _ _ h1 h2 => by omega) ha hb ((List.perm_ext_iff_of_nodup na nb).2 h)
theorem rise_keys {L : Mp α} (hs : Srt L) (c : Int × α → Bool) : ((L.filter c).map (·.1)).Pairwise (· < ·) := List.pairwise_map.2 (hs.sublist List.filter_sublist)
theorem mem_keys {L : Mp α} (hs : Srt L) (c : Int × α → Bool) (x : Int) : x ∈ (L.filter c).map (·.1) ↔ ∃ v, look L x = some v ∧ c (x, v) = true := by
  simp only [List.mem_map, List.mem_filter]
  constructor
  · rintro ⟨⟨k, v⟩, ⟨h1, h2⟩, rfl⟩
    exact ⟨v, (look_iff hs _ _).2 h1, h2⟩
  · rintro ⟨v, h1, h2⟩
    exact ⟨(x, v), ⟨look_mem h1, h2⟩, rfl⟩
theorem keys_ext {L L' : Mp α} (hs : Srt L) (hs' : Srt L') (c c' : Int × α → Bool) (h : ∀ x, (∃ v, look L x = some v ∧ c (x, v) = true) ↔ ∃ v, look L' x = some v ∧ c' (x, v) = true) :
    (L.filter c).map (·.1) = (L'.filter c').map (·.1) :=
  rise_ext (rise_keys hs c) (rise_keys hs' c') fun x => by rw [mem_keys hs, mem_keys hs', h]

theorem length_le_range : ∀ (n : Nat) (l : List Int) (a : Int), l.Pairwise (· < ·) → (∀ x ∈ l, a ≤ x ∧ x < a + n) → l.length ≤ n
  | _, [], _, _, _ => Nat.zero_le _
  | 0, x :: r, a, _, h => by have := h x List.mem_cons_self; omega
  | n + 1, x :: r, a, hp, h => by
    have h' := List.pairwise_cons.1 hp
    have := length_le_range n r (a + 1) h'.2 fun y hy => by
      have h1 := h'.1 y hy
      have h2 := h x List.mem_cons_self
      have h3 := h y (List.mem_cons_of_mem _ hy)
      omega
    simp
    omega

theorem Srt.length {L : Mp α} (h : Srt L) (hk : ∀ p ∈ L, 1 ≤ p.1 ∧ p.1 ≤ 2147483647) : L.length ≤ 2147483647 := by
  have h1 : ((L.map (·.1))).Pairwise (· < ·) := List.pairwise_map.2 h
  have := length_le_range 2147483647 (L.map (·.1)) 1 h1 fun x hx => by
    obtain ⟨p, hp, rfl⟩ := List.mem_map.1 hx
    have h2 := hk p hp
    omega
  simpa using this
theorem ins_map {β : Type} (f : α → β) (k : Int) (v : α) : ∀ L : Mp α, (ins k v L).map (fun p => (p.1, f p.2)) = ins k (f v) (L.map fun p => (p.1, f p.2))
  | [] => rfl
  | y :: r => by
    simp only [ins, List.map_cons]
    split
    · rfl
    · rw [List.map_cons, ins_map f k v r]
theorem dele_map {β : Type} (f : α → β) (k : Int) (L : Mp α) : (dele L k).map (fun p => (p.1, f p.2)) = dele (L.map fun p => (p.1, f p.2)) k := by
  unfold dele
  rw [List.filter_map]
  rfl
theorem putm_map {β : Type} (f : α → β) (k : Int) (v : α) (L : Mp α) : (putm L k v).map (fun p => (p.1, f p.2)) = putm (L.map fun p => (p.1, f p.2)) k (f v) := by
  unfold putm
  rw [ins_map, dele_map]
theorem look_map {β : Type} (f : α → β) (k : Int) (L : Mp α) : look (L.map fun p => (p.1, f p.2)) k = (look L k).map f := by
  unfold look
  rw [List.find?_map]
  have : ((fun p : Int × β => p.1 == k) ∘ fun p : Int × α => (p.1, f p.2)) = fun p => p.1 == k := rfl
  rw [this]
  cases L.find? (fun p => p.1 == k) <;> rfl

/-- what waits: of each stream its bytes and its end; the streams that are over -/
structure St where
  q : Mp (List UInt8 × Bool)
  o : Mp Unit
def St.new : St := ⟨[], []⟩
def St.b (T : St) (id : Int) : List UInt8 := match look T.q id with | some x => x.1 | none => []
def St.e (T : St) (id : Int) : Bool := match look T.q id with | some x => x.2 | none => false
def St.is (T : St) (id : Int) : Bool := (look T.q id).isSome
def St.ov (T : St) (id : Int) : Bool := (look T.o id).isSome
def no (b : List UInt8) (e : Bool) : Bool := b.isEmpty && !e
/-- keep -/
def kp (q : Mp (List UInt8 × Bool)) (id : Int) (b : List UInt8) (e : Bool) : Mp (List UInt8 × Bool) := if no b e = true then dele q id else putm q id (b, e)
def isId (id : Int) : Bool := decide (1 ≤ id) && decide (id ≤ 2147483647)
/-- Put: its error, and what waits behind it -/
def St.putE (T : St) (id : Int) : Int := if isId id = false then 1 else if T.ov id = true then 8 else 0
def St.put (T : St) (id : Int) (s : List UInt8) (e : Bool) : St := if T.putE id = 0 then ⟨kp T.q id (T.b id ++ s) e, if e = true then putm T.o id () else T.o⟩ else T
def St.drop (T : St) (id : Int) : St := ⟨dele T.q id, dele T.o id⟩
/-- may a frame go? -/
def mg (b : List UInt8) (c s : Int) : Bool := b.isEmpty || (decide (0 < c) && decide (0 < s))
def St.ready (T : St) (c : Int) (f : Int → Int) : List Int := (T.q.filter fun p => mg p.2.1 c (f p.1)).map (·.1)
def St.nextE (T : St) (id c s f : Int) : Int := if f < 1 then 1 else if T.is id = false then 5 else if mg (T.b id) c s = false then 6 else 0
def rm (a b c d : Int) : Int := max (min a (min b (min c d))) 0
def St.nextN (T : St) (id c s f : Int) : Nat := (rm c s ((T.b id).length : Int) f).toNat
/-- the piece, whether it is the last, what waits behind it -/
def St.nextP (T : St) (id c s f : Int) : List UInt8 := if T.nextE id c s f = 0 then (T.b id).take (T.nextN id c s f) else []
def St.nextL (T : St) (id c s f : Int) : Bool := decide (T.nextE id c s f = 0) && T.e id && decide ((T.b id).length ≤ T.nextN id c s f)
def St.next (T : St) (id c s f : Int) : St := if T.nextE id c s f = 0 then ⟨kp T.q id ((T.b id).drop (T.nextN id c s f)) (T.e id && !T.nextL id c s f), T.o⟩ else T
structure St.Ok (T : St) : Prop where
  sq : Srt T.q
  so : Srt T.o
  kq : ∀ p ∈ T.q, 1 ≤ p.1 ∧ p.1 ≤ 2147483647
  ko : ∀ p ∈ T.o, 1 ≤ p.1 ∧ p.1 ≤ 2147483647
  nz : ∀ p ∈ T.q, no p.2.1 p.2.2 = false
theorem St.new_ok : St.new.Ok := ⟨List.Pairwise.nil, List.Pairwise.nil, by simp [St.new], by simp [St.new], by simp [St.new]⟩
theorem isId_iff {id : Int} : isId id = true ↔ 1 ≤ id ∧ id ≤ 2147483647 := by simp [isId]
theorem kp_srt {q : Mp (List UInt8 × Bool)} (h : Srt q) (id : Int) (b : List UInt8) (e : Bool) : Srt (kp q id b e) := by
  unfold kp
  split
  · exact h.dele _
  · exact h.putm _ _
theorem mem_kp {q : Mp (List UInt8 × Bool)} {id : Int} {b : List UInt8} {e : Bool} {p : Int × (List UInt8 × Bool)} (h : p ∈ kp q id b e) : (p = (id, b, e) ∧ no b e = false) ∨ p ∈ q := by
  unfold kp at h
  split at h
  · exact .inr ((mem_dele _ _ _).1 h).1
  · rename_i hn
    rcases (mem_putm _ _ _ _).1 h with h | h
    · exact .inl ⟨h, by simpa using hn⟩
    · exact .inr h.1
theorem look_kp {q : Mp (List UInt8 × Bool)} (h : Srt q) (id : Int) (b : List UInt8) (e : Bool) (j : Int) : look (kp q id b e) j = if j = id then (if no b e = true then none else some (b, e)) else look q j := by
  unfold kp
  split
  · rw [look_dele h]
  · rw [look_putm h]
theorem St.Ok.kp {T : St} (h : T.Ok) {id : Int} (hi : 1 ≤ id ∧ id ≤ 2147483647) (b : List UInt8) (e : Bool) (o : Mp Unit) (ho : Srt o) (hk : ∀ p ∈ o, 1 ≤ p.1 ∧ p.1 ≤ 2147483647) : St.Ok ⟨kp T.q id b e, o⟩ := by
  refine ⟨kp_srt h.sq _ _ _, ho, fun p hp => ?_, hk, fun p hp => ?_⟩
  · rcases mem_kp hp with ⟨rfl, _⟩ | hp
    · exact hi
    · exact h.kq p hp
  · rcases mem_kp hp with ⟨rfl, hn⟩ | hp
    · exact hn
    · exact h.nz p hp
theorem St.Ok.is_id {T : St} (h : T.Ok) {id : Int} (hi : T.is id = true) : 1 ≤ id ∧ id ≤ 2147483647 := by
  unfold St.is at hi
  cases hl : look T.q id with
  | none => rw [hl] at hi; cases hi
  | some x => exact h.kq _ (look_mem hl)
theorem St.Ok.put {T : St} (h : T.Ok) (id : Int) (s : List UInt8) (e : Bool) : (T.put id s e).Ok := by
  unfold St.put
  split
  · rename_i he
    have hi : 1 ≤ id ∧ id ≤ 2147483647 := by
      cases hid : isId id
      · rw [St.putE, if_pos hid] at he; cases he
      · exact isId_iff.1 hid
    refine h.kp hi _ _ _ ?_ ?_
    · split
      · exact h.so.putm _ _
      · exact h.so
    · split
      · intro p hp
        rcases (mem_putm _ _ _ _).1 hp with rfl | hp
        · exact hi
        · exact h.ko p hp.1
      · exact h.ko
  · exact h
theorem St.Ok.drop {T : St} (h : T.Ok) (id : Int) : (T.drop id).Ok := ⟨h.sq.dele _, h.so.dele _, fun p hp => h.kq p ((mem_dele _ _ _).1 hp).1, fun p hp => h.ko p ((mem_dele _ _ _).1 hp).1, fun p hp => h.nz p ((mem_dele _ _ _).1 hp).1⟩
theorem St.Ok.next {T : St} (h : T.Ok) (id c s f : Int) : (T.next id c s f).Ok := by
  unfold St.next
  split
  · rename_i he
    have hi : 1 ≤ id ∧ id ≤ 2147483647 := h.is_id (by
      cases hid : T.is id
      · unfold St.nextE at he
        split at he
        · cases he
        · simp at he
      · rfl)
    exact h.kp hi _ _ _ h.so h.ko
  · exact h
theorem St.Ok.length {T : St} (h : T.Ok) : T.q.length ≤ 2147483647 ∧ T.o.length ≤ 2147483647 := ⟨h.sq.length h.kq, h.so.length h.ko⟩
theorem St.ready_rise {T : St} (h : T.Ok) (c : Int) (f : Int → Int) : (T.ready c f).Pairwise (· < ·) := rise_keys h.sq _
theorem St.mem_ready {T : St} (h : T.Ok) (c : Int) (f : Int → Int) (x : Int) : x ∈ T.ready c f ↔ T.is x = true ∧ mg (T.b x) c (f x) = true := by
  unfold St.ready
  rw [mem_keys h.sq]
  unfold St.is St.b
  cases hl : look T.q x with
  | none => simp
  | some v => simp
end Go.Proofs.Ytbmaknjeflblcaa
