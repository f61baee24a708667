/- One share from a block on; first. -/
import Derived.Test.YtbmaknjeflblcaaKb
namespace Go.Proofs.Ytbmaknjeflblcaa
open Go.RowKit Go.Maps
set_option linter.unusedVariables false
set_option linter.unusedSimpArgs false

/-- a share that has nothing to do with the blocks of N -/
structure Sn (w : World) (N : Nat → Prop) (p : Nat) (T : St) : Prop where
  sh : ∃ S, Sh w S p T ∧ ∀ k, S k → k < w.heap.size ∧ ¬ N k
  lt : ∀ k, N k → k < w.heap.size
/-- the blocks of N are as they were -/
structure Kn (N : Nat → Prop) (w w' : World) : Prop where
  os : w'.os = w.os
  tape : w'.tape = w.tape
  output : w'.output = w.output
  size : w.heap.size ≤ w'.heap.size
  block : ∀ k, N k → w'.heap[k]? = w.heap[k]?
def Nw (N : Nat → Prop) (w w' : World) : Nat → Prop := fun k => N k ∨ (w.heap.size ≤ k ∧ k < w'.heap.size)
section
variable {w w' w'' : World} {N N' : Nat → Prop} {p lo : Nat} {T : St}
theorem Kn.trans (h : Kn N w w') (k : Kn N w' w'') : Kn N w w'' := ⟨k.os.trans h.os, k.tape.trans h.tape, k.output.trans h.output, Nat.le_trans h.size k.size, fun i hi => (k.block i hi).trans (h.block i hi)⟩
theorem Kn.below (h : Kn N w w') (hl : ∀ k, k < lo → N k) : Below lo w w' := ⟨h.os, h.tape, h.output, h.size, fun k hk => h.block k (hl k hk)⟩
theorem Kn.of_below (h : Below w.heap.size w w') (hN : ∀ k, N k → k < w.heap.size) : Kn N w w' := ⟨h.os, h.tape, h.output, h.size, fun k hk => h.block k (hN k hk)⟩
theorem Kn.mono (h : Kn N w w') (hs : ∀ k, N' k → N k) : Kn N' w w' := ⟨h.os, h.tape, h.output, h.size, fun k hk => h.block k (hs k hk)⟩
theorem Sn.below (h : Sn w N p T) (hb : Below w.heap.size w w') : Sn w' N p T := by
  obtain ⟨S, h1, h2⟩ := h.sh
  exact ⟨⟨S, h1.below hb, fun k hk => ⟨Nat.lt_of_lt_of_le (h2 k hk).1 hb.size, (h2 k hk).2⟩⟩, fun k hk => Nat.lt_of_lt_of_le (h.lt k hk) hb.size⟩
/-- what is new is not the share's -/
theorem Sn.grow (h : Sn w N p T) (hb : Below w.heap.size w w') : Sn w' (Nw N w w') p T := by
  obtain ⟨S, h1, h2⟩ := h.sh
  refine ⟨⟨S, h1.below hb, fun k hk => ⟨Nat.lt_of_lt_of_le (h2 k hk).1 hb.size, fun e => ?_⟩⟩, fun k hk => ?_⟩
  · rcases e with e | e
    · exact (h2 k hk).2 e
    · have := (h2 k hk).1; omega
  · rcases hk with e | e
    · exact Nat.lt_of_lt_of_le (h.lt k e) hb.size
    · exact e.2
/-- blocks of N, and new ones, were written -/
theorem Sn.other {A : Nat → Prop} (h : Sn w N p T) (hk : Ks A w w') (hA : ∀ k, k < w.heap.size → A k → N k) : Sn w' N p T := by
  obtain ⟨S, h1, h2⟩ := h.sh
  exact ⟨⟨S, h1.stays fun k hk' hS => hk.block k hk' fun e => (h2 k hS).2 (hA k hk' e), fun k hk' => ⟨Nat.lt_of_lt_of_le (h2 k hk').1 hk.size, (h2 k hk').2⟩⟩, fun k hk' => Nat.lt_of_lt_of_le (h.lt k hk') hk.size⟩
theorem Sn.other_new {A : Nat → Prop} (h : Sn w N p T) (hk : Ks A w w') (hA : ∀ k, k < w.heap.size → A k → N k) : Sn w' (Nw N w w') p T := by
  obtain ⟨S, h1, h2⟩ := h.sh
  refine ⟨⟨S, h1.stays fun k hk' hS => hk.block k hk' fun e => (h2 k hS).2 (hA k hk' e), fun k hk' => ⟨Nat.lt_of_lt_of_le (h2 k hk').1 hk.size, fun e => ?_⟩⟩, fun k hk' => ?_⟩
  · rcases e with e | e
    · exact (h2 k hk').2 e
    · have := (h2 k hk').1; omega
  · rcases hk' with e | e
    · exact Nat.lt_of_lt_of_le (h.lt k e) hk.size
    · exact e.2
theorem Sn.less (h : Sn w N p T) (hs : ∀ k, N' k → N k) : Sn w N' p T := by
  obtain ⟨S, h1, h2⟩ := h.sh
  exact ⟨⟨S, h1, fun k hk => ⟨(h2 k hk).1, fun e => (h2 k hk).2 (hs k e)⟩⟩, fun k hk => h.lt k (hs k hk)⟩
theorem Sn.ok (h : Sn w N p T) : T.Ok := by obtain ⟨S, h1, _⟩ := h.sh; exact h1.ok
theorem Sn.plt (h : Sn w N p T) : p < w.heap.size := by obtain ⟨S, h1, _⟩ := h.sh; exact h1.lt
theorem new_n (w : World) (N : Nat → Prop) (hN : ∀ k, N k → k < w.heap.size) : Calls Try.prog 12 #[] w fun e w' => ∃ p, e = .returned (.pointer (some ⟨p, 0, none⟩)) ∧ Sn w' N p St.new ∧ Below w.heap.size w w' :=
  (new_any w).mono fun e w' h => ⟨_, h.1, ⟨⟨_, h.2.1, fun k hk => ⟨hk.2, fun e => by have := hN k e; omega⟩⟩, fun k hk => Nat.lt_of_lt_of_le (hN k hk) h.2.2.size⟩, h.2.2⟩
theorem put_n (h : Sn w N p T) (id : Int) (s : ByteArray) (en : Bool) (hi : wf64 id) (hz : (T.b id).length + s.size ≤ 140737488355328) :
    Calls Try.prog 13 #[.pointer (some ⟨p, 0, none⟩), .int .i64 id, .string s, .bool en] w fun e w' => e = .returned (.int .i64 (T.putE id)) ∧ Sn w' N p (T.put id s.data.toList en) ∧ Kn N w w' := by
  obtain ⟨S, h1, h2⟩ := h.sh
  refine (put_any w S p T id s en hi hz h1).mono fun e w' h' => ⟨h'.1, ⟨⟨_, h'.2.1, fun k hk => ?_⟩, fun k hk => Nat.lt_of_lt_of_le (h.lt k hk) h'.2.2.size⟩, ⟨h'.2.2.os, h'.2.2.tape, h'.2.2.output, h'.2.2.size, fun k hk => h'.2.2.block k (h.lt k hk) fun e => (h2 k e).2 hk⟩⟩
  rcases hk with hk | hk
  · exact ⟨Nat.lt_of_lt_of_le (h2 k hk).1 h'.2.2.size, (h2 k hk).2⟩
  · exact ⟨hk.2, fun e => by have := h.lt k e; omega⟩
theorem next_n (h : Sn w N p T) (id c s f : Int) (hi : wf64 id) :
    Calls Try.prog 14 #[.pointer (some ⟨p, 0, none⟩), .int .i64 id, .int .i64 c, .int .i64 s, .int .i64 f] w fun e w' => e = .returned (.tuple #[tx (T.nextP id c s f), .bool (T.nextL id c s f), .int .i64 (T.nextE id c s f)]) ∧ Sn w' N p (T.next id c s f) ∧ Kn N w w' := by
  obtain ⟨S, h1, h2⟩ := h.sh
  exact (next_any w S p T id c s f hi h1).mono fun e w' h' => ⟨h'.1, ⟨⟨S, h'.2.1, fun k hk => ⟨Nat.lt_of_lt_of_le (h2 k hk).1 h'.2.2.size, (h2 k hk).2⟩⟩, fun k hk => Nat.lt_of_lt_of_le (h.lt k hk) h'.2.2.size⟩, ⟨h'.2.2.os, h'.2.2.tape, h'.2.2.output, h'.2.2.size, fun k hk => h'.2.2.block k (h.lt k hk) fun e => (h2 k e).2 hk⟩⟩
theorem drop_n (h : Sn w N p T) (id : Int) (hi : wf64 id) :
    Calls Try.prog 16 #[.pointer (some ⟨p, 0, none⟩), .int .i64 id] w fun e w' => e = .returned (.bool (T.is id)) ∧ Sn w' N p (T.drop id) ∧ Kn N w w' := by
  obtain ⟨S, h1, h2⟩ := h.sh
  exact (drop_any w S p T id hi h1).mono fun e w' h' => ⟨h'.1, ⟨⟨S, h'.2.1, fun k hk => ⟨Nat.lt_of_lt_of_le (h2 k hk).1 h'.2.2.size, (h2 k hk).2⟩⟩, fun k hk => Nat.lt_of_lt_of_le (h.lt k hk) h'.2.2.size⟩, ⟨h'.2.2.os, h'.2.2.tape, h'.2.2.output, h'.2.2.size, fun k hk => h'.2.2.block k (h.lt k hk) fun e => (h2 k e).2 hk⟩⟩
theorem waits_n (h : Sn w N p T) (id : Int) (hi : wf64 id) :
    Calls Try.prog 15 #[.pointer (some ⟨p, 0, none⟩), .int .i64 id] w fun e w' => e = .returned (.tuple #[.int .i64 ((T.b id).length : Int), .bool (T.e id)]) ∧ Below w.heap.size w w' := by
  obtain ⟨S, h1, h2⟩ := h.sh
  exact waits_any w _ p T id hi h1
theorem ready_n (h : Sn w N p T) (c : Int) (v : SV) (l : List (Int × Int)) (hI : In EL w (sv v) l) (hw : Wf2 l) (hn : l.length < 4611686018427387904) :
    Calls Try.prog 17 #[.pointer (some ⟨p, 0, none⟩), .int .i64 c, sv v] w fun e w' => ∃ (yb : Option Addr) (yc : Nat), e = .returned (.slice yb (T.ready c (lf l)).length yc) ∧ R EI w' (.slice yb (T.ready c (lf l)).length yc) (T.ready c (lf l)) ∧ (∀ k, (Value.slice yb (T.ready c (lf l)).length yc).ownBlock = some k → w.heap.size ≤ k) ∧ Below w.heap.size w w' := by
  obtain ⟨S, h1, h2⟩ := h.sh
  exact (ready_any w _ p T c v l h1 hI hw hn).mono fun e w' h => by
    obtain ⟨v, rfl, h2, h3, h4⟩ := h
    obtain ⟨b, c, rfl, _⟩ := h2.slice
    exact ⟨b, c, rfl, h2, h3, h4⟩
end
def hello : List UInt8 := [104, 101, 108, 108, 111]
def T1 : St := St.new.put 1 hello false
def T2 : St := T1.put 3 [] true
def T3 : St := T2.next 1 9 2 100
theorem in_two (w : World) (g : Nat) (x y : Int × Int) (c : Array Value) (t : TypeId) (fz : Nat × Nat) (h : w.heap[g]? = some (.cells c t fz)) (hc : c = #[.int .i64 x.1, .int .i64 x.2, .int .i64 y.1, .int .i64 y.2]) : In EL w (.slice (some ⟨g, 0, none⟩) 2 2) [x, y] := by
  subst hc
  refine .inr ⟨_, 2, rfl, Nat.le_refl _, by decide, fun j u hu => ?_⟩
  rw [Addr.add_lit, Nat.zero_add, cell_blk h]
  rw [← hu, ← Array.getElem?_toList]
  rfl
theorem in_ints (w : World) (g : Nat) (l : List Int) (c : Array Value) (t : TypeId) (fz : Nat × Nat) (h : w.heap[g]? = some (.cells c t fz)) (hc : c = (l.map (Value.int .i64)).toArray) (hl : l.length ≤ 9223372036854775807) : In EI w (.slice (some ⟨g, 0, none⟩) l.length l.length) l := by
  subst hc
  refine .inr ⟨_, l.length, rfl, Nat.le_refl _, hl, fun j u hu => ?_⟩
  rw [Addr.add_lit, Nat.zero_add, cell_blk h]
  rw [← hu, ← Array.getElem?_toList, cs_I]
theorem w1 : wf64 1 := by unfold wf64; omega
theorem w3 : wf64 3 := by unfold wf64; omega
set_option maxRecDepth 100000 in
set_option maxHeartbeats 1000000 in
theorem first_any (w : World) : Calls Try.prog 10 #[] w fun e w' => e = .returned (.bool true) ∧ Below w.heap.size w w' := by
  go_enter Try.func10, Try.ntmps10
  go_wp2_with fail
  refine (new_n w (fun k => k < w.heap.size) (fun _ h => h)).mono ?_
  rintro e w1' ⟨p, rfl, h1, hB1⟩
  have hK1 : Kn (fun k => k < w.heap.size) w w1' := Kn.of_below hB1 fun _ h => h
  go_wp2_with fail
  refine (put_n h1 1 ⟨#[104, 101, 108, 108, 111]⟩ false w1 (by decide)).mono ?_
  rintro e w2 ⟨rfl, h2, hK2⟩
  replace h2 : Sn w2 _ p T1 := h2
  replace hK2 := hK1.trans hK2
  clear h1 hK1 hB1
  rw [show St.new.putE 1 = 0 from by decide]
  go_wp2_with fail
  refine (put_n h2 3 ⟨#[]⟩ true w3 (by decide)).mono ?_
  rintro e w3' ⟨rfl, h3, hK3⟩
  replace h3 : Sn w3' _ p T2 := h3
  replace hK3 := hK2.trans hK3
  clear h2 hK2
  rw [show T1.putE 3 = 0 from by decide]
  go_wp2_with fail
  have hb3 := bel1 w3' (Obj.cells #[.int .i64 1, .int .i64 2, .int .i64 1, .int .i64 0] 43)
  refine (ready_n (h3.below hb3) 9 (some ⟨w3'.heap.size, 0, none⟩, 2, 2) [(1, 2), (1, 0)] (in_two _ _ _ _ _ _ _ (heap_alloc_new _ _) rfl) (by intro x hx; simp at hx; rcases hx with rfl | rfl <;> (unfold wf64; simp)) (by decide)).mono ?_
  rw [show T2.ready 9 (lf [(1, 2), (1, 0)]) = [1, 3] from by decide]
  rintro e w4 ⟨yb, yc, rfl, hR, hnew, hB4⟩
  have hb4 := hb3.trans (hB4.mono hb3.size)
  have h4 := h3.grow hb4
  have hK4 : Kn (fun k => k < w.heap.size) w w4 := hK3.trans (Kn.of_below hb4 h3.lt)
  have HR : Hid (R EI w4 (.slice yb 2 yc) [1, 3] ∧ ∀ k, (Value.slice yb 2 yc).ownBlock = some k → Nw (fun k => k < w.heap.size) w3' w4 k) := ⟨hR, fun k hk => .inr ⟨by have := hnew k hk; simp at this; omega, hR.lt k hk⟩⟩
  have HL : Hid (∀ k, k < w.heap.size → Nw (fun k => k < w.heap.size) w3' w4 k) := fun k hk => .inl hk
  generalize Nw (fun k => k < w.heap.size) w3' w4 = N at h4 HR HL
  clear h3 hb3 hB4 hR hK3 hb4 hnew
  go_wp2_with fail
  refine (next_n h4 1 9 2 100 w1).mono ?_
  rintro e w5 ⟨rfl, h5, hK5⟩
  replace h5 : Sn w5 N p T3 := h5
  have HR5 : Hid (R EI w5 (.slice yb 2 yc) [1, 3]) := HR.out.1.stays fun k hk _ => hK5.block k (HR.out.2 k hk)
  replace hK5 := hK4.trans (hK5.mono HL.out)
  clear HR hK4
  rw [show T2.nextE 1 9 2 100 = 0 from by decide, show T2.nextL 1 9 2 100 = false from by decide, show tx (T2.nextP 1 9 2 100) = .string ⟨#[104, 101]⟩ from by rfl]
  go_wp2_with fail
  refine (waits_n h5 3 w3).mono ?_
  rintro e w6 ⟨rfl, hB6⟩
  have HR6 : Hid (R EI w6 (.slice yb 2 yc) [1, 3]) := HR5.out.below hB6
  have HB6 : Hid (Below w.heap.size w w6) := (hK5.below fun _ h => h).trans (hB6.mono hK5.size)
  clear HR5 hB6 hK5 h5 h4
  rw [show T3.b 3 = [] from by decide, show T3.e 3 = true from by decide]
  go_wp2_with fail
  refine (pick_any _ (some ⟨w6.heap.size, 0, none⟩, 3, 3) [5, 7, 9] (-1) (in_ints _ _ [5, 7, 9] _ _ _ (heap_alloc_new _ _) rfl (by decide))).mono ?_
  rintro e w7 ⟨rfl, rfl⟩
  rw [show pkV [5, 7, 9] (-1) = 9 from by decide, show pkB [5, 7, 9] = true from rfl]
  go_wp2_with fail
  have HR7 : In EI ((w6.alloc (Obj.cells #[.int .i64 5, .int .i64 7, .int .i64 9] 2)).alloc (Obj.cells #[.int .i64 1, .int .i64 3] 2)) (.slice yb 2 yc) [1, 3] := (HR6.out.below (bel2 _ _ _)).isIn
  refine (same_eq _ _ _ [1, 3] HR7 (in_ints _ _ [1, 3] _ _ _ (fresh2 _ _ _) rfl (by decide))).mono ?_
  rintro e w8 ⟨rfl, hB8⟩
  go_wp2_with fail
  go_ret
  exact ⟨rfl, HB6.out.trans (((bel2 w6 _ _).trans (hB8.mono (bel2 w6 _ _).size)).mono HB6.out.size)⟩
end Go.Proofs.Ytbmaknjeflblcaa
