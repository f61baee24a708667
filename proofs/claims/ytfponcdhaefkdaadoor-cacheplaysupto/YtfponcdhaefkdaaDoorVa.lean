import Derived.Test.YtfponcdhaefkdaaDoorRows
import Derived.WalkKit
import Derived.WalkSpells
import Derived.WalkLawsBesides
import Derived.Lib.AppendStr
import Derived.Laws.AppendOwnNone
import Derived.Laws.MakeOwn
import Derived.Lib.Walk
import Derived.Lib.Hide
import Derived.Deep.RegionLaw
import Derived.Lib.AppendZerosOnto
import Derived.Lib.MinMax
import Derived.BigQuiet
import Derived.Deep.QuietTactic
import Derived.Lib.ConvBytes
import Derived.Lib.Strings
import Derived.Lib.IndexLaws
import Derived.Shelf.Strings.Trim
import Derived.Shelf.Strings.SlTrimAscii
import Derived.Shelf.Strings.Search3
import Derived.Test.YtfponcdhaefkdaaDoorProg
import Derived.RangeFuncNested
import Derived.RangeFuncBound
import Derived.RangeFuncCalls
import Derived.RangeFuncLeaves
import Derived.Shelf.Abstract
import Derived.Shelf.RegionOpen
import Derived.OwnWalkIn
import Derived.TacticsInMore
import Derived.LoopNIn
import Derived.LoopIn
import Derived.Maps.Own
import Derived.Maps.OwnOps
import Derived.Maps.OwnSet
import Derived.Maps.OwnIn
import Derived.RegionIn
/- Rows of anything, and what is kept. -/
namespace Go.Proofs.YtfponcdhaefkdaaDoor
open Go.RowKit
set_option linter.unusedVariables false
set_option linter.unusedSimpArgs false

/-- From w to w' nothing has turned but v's row, and v' is that row, or a new one. -/
structure Gr (w w' : World) (v v' : Value) : Prop where
  os : w'.os = w.os
  tape : w'.tape = w.tape
  output : w'.output = w.output
  size : w.heap.size ≤ w'.heap.size
  block : ∀ k, k < w.heap.size → v.ownBlock ≠ some k → w'.heap[k]? = w.heap[k]?
  own : ∀ k, v'.ownBlock = some k → v.ownBlock = some k ∨ w.heap.size ≤ k

theorem Gr.refl (w : World) (v : Value) : Gr w w v v := ⟨rfl, rfl, rfl, Nat.le_refl _, fun _ _ _ => rfl, fun _ h => .inl h⟩
theorem Gr.trans {a b c : World} {u v x : Value} (h : Gr a b u v) (k : Gr b c v x) : Gr a c u x :=
  ⟨k.os.trans h.os, k.tape.trans h.tape, k.output.trans h.output, Nat.le_trans h.size k.size,
    fun i hi hu => (k.block i (Nat.lt_of_lt_of_le hi h.size) (fun e => (h.own i e).elim hu fun hh => by omega)).trans (h.block i hi hu),
    fun i hi => (k.own i hi).elim (fun e => h.own i e) fun hh => .inr (Nat.le_trans h.size hh)⟩
theorem Gr.below {a b : World} (h : Below a.heap.size a b) (v : Value) : Gr a b v v :=
  ⟨h.os, h.tape, h.output, h.size, fun k hk _ => h.block k hk, fun _ h => .inl h⟩
/-- where it began with no row, all that was there is as it was -/
theorem Gr.fresh {a b : World} {v : Value} (h : Gr a b (.slice none 0 0) v) : Below a.heap.size a b :=
  ⟨h.os, h.tape, h.output, h.size, fun k hk => h.block k hk (by simp [Value.ownBlock])⟩
theorem Gr.new {a b : World} {v : Value} (h : Gr a b (.slice none 0 0) v) : ∀ k, v.ownBlock = some k → a.heap.size ≤ k :=
  fun k hk => (h.own k hk).elim (fun e => by simp [Value.ownBlock] at e) id
theorem Gr.belowB {a b : World} {u v : Value} {B : Nat} (h : Gr a b u v) (hB : B ≤ a.heap.size) (hu : ∀ k, u.ownBlock = some k → B ≤ k) : Below B a b :=
  ⟨h.os, h.tape, h.output, h.size, fun k hk => h.block k (by omega) fun e => by have := hu k e; omega⟩

/-- All blocks but those of A are as they were. -/
structure Ks (A : Nat → Prop) (w w' : World) : Prop where
  os : w'.os = w.os
  tape : w'.tape = w.tape
  output : w'.output = w.output
  size : w.heap.size ≤ w'.heap.size
  block : ∀ k, k < w.heap.size → ¬ A k → w'.heap[k]? = w.heap[k]?
theorem Ks.refl (A : Nat → Prop) (w : World) : Ks A w w := ⟨rfl, rfl, rfl, Nat.le_refl _, fun _ _ _ => rfl⟩
theorem Ks.trans {A B C : Nat → Prop} {a b c : World} (h : Ks A a b) (k : Ks B b c) (h1 : ∀ i, i < a.heap.size → A i → C i) (h2 : ∀ i, i < a.heap.size → B i → C i) : Ks C a c :=
  ⟨k.os.trans h.os, k.tape.trans h.tape, k.output.trans h.output, Nat.le_trans h.size k.size,
    fun i hi hu => (k.block i (Nat.lt_of_lt_of_le hi h.size) (fun e => hu (h2 i hi e))).trans (h.block i hi (fun e => hu (h1 i hi e)))⟩
theorem Ks.of_below {A : Nat → Prop} {a b : World} (h : Below a.heap.size a b) : Ks A a b := ⟨h.os, h.tape, h.output, h.size, fun k hk _ => h.block k hk⟩
theorem Ks.of_gr {a b : World} {u v : Value} (h : Gr a b u v) : Ks (fun k => u.ownBlock = some k) a b := ⟨h.os, h.tape, h.output, h.size, h.block⟩
theorem Ks.below {A : Nat → Prop} {a b : World} {B : Nat} (h : Ks A a b) (hB : B ≤ a.heap.size) (hg : ∀ i, i < B → ¬ A i) : Below B a b :=
  ⟨h.os, h.tape, h.output, h.size, fun k hk => h.block k (Nat.lt_of_lt_of_le hk hB) (hg k hk)⟩
theorem Ks.mono {A B : Nat → Prop} {a b : World} (h : Ks A a b) (hs : ∀ i, i < a.heap.size → A i → B i) : Ks B a b :=
  ⟨h.os, h.tape, h.output, h.size, fun k hk hn => h.block k hk fun e => hn (hs k hk e)⟩

theorem setCell_block (w : World) (b off : Nat) (v : Value) (c : Array Value) (t : TypeId) (fz : Nat × Nat) (h : w.heap[b]? = some (.cells c t fz)) :
    (w.setCell ⟨b, off, none⟩ v).heap[b]? = some (.cells (c.setIfInBounds off v) t fz) := by
  simp [World.setCell, Array.getElem?_modify, h]
theorem setCell_other (w : World) (b k off : Nat) (v : Value) (h : k ≠ b) : (w.setCell ⟨b, off, none⟩ v).heap[k]? = w.heap[k]? := by
  simp [World.setCell, Array.getElem?_modify, Ne.symm h]
theorem Ks.setCell (A : Nat → Prop) (w : World) (g off : Nat) (v : Value) (h : A g) : Ks A w (w.setCell ⟨g, off, none⟩ v) := ⟨rfl, rfl, rfl, by simp [World.setCell], fun k _ hk => setCell_other _ _ _ _ _ (fun e => hk (e ▸ h))⟩
theorem cell_blk {w : World} {b : Nat} {c : Array Value} {t : TypeId} {fz : Nat × Nat} (h : w.heap[b]? = some (.cells c t fz)) (i : Nat) : w.cell? ⟨b, i, none⟩ = c[i]? := by simp [World.cell?, h]
theorem frozen_blk {w : World} {b : Nat} {c : Array Value} {t : TypeId} (h : w.heap[b]? = some (.cells c t (0, 0))) (i : Nat) : w.frozen? ⟨b, i, none⟩ = false := by simp [World.frozen?, h]
theorem heap_lt {w : World} {b : Nat} {o : Obj} (h : w.heap[b]? = some o) : b < w.heap.size := (Array.getElem?_eq_some_iff.1 h).1

theorem heap_al (w : World) (o : Obj) (k : Nat) : (w.alloc o).heap[k]? = if k = w.heap.size then some o else w.heap[k]? := by
  show (w.heap.push o)[k]? = _
  rw [Array.getElem?_push]
theorem heap_dr (w : World) (k : Nat) : w.drew.heap[k]? = w.heap[k]? := rfl
theorem size_al (w : World) (o : Obj) : (w.alloc o).heap.size = w.heap.size + 1 := by simp
theorem size_dr (w : World) : w.drew.heap.size = w.heap.size := rfl
theorem fresh2 (w : World) (o p : Obj) : ((w.alloc o).alloc p).heap[w.heap.size + 1]? = some p := by
  rw [heap_al, if_pos (by simp)]
theorem fresh3 (w : World) (o p q : Obj) : (((w.alloc o).alloc p).alloc q).heap[w.heap.size + 2]? = some q := by
  rw [heap_al, if_pos (by simp)]
theorem bel1 (w : World) (o : Obj) : Below w.heap.size w (w.alloc o) := (Below.refl _ w).alloc (Nat.le_refl _) o
theorem bel2 (w : World) (o p : Obj) : Below w.heap.size w ((w.alloc o).alloc p) := (bel1 w o).alloc (by simp) p
theorem bel3 (w : World) (o p q : Obj) : Below w.heap.size w (((w.alloc o).alloc p).alloc q) := (bel2 w o p).alloc (by simp; omega) q

/-- what a row's elements are -/
structure El (α : Type) where
  t : TypeId
  e : TypeId
  sz : Nat
  by' : Nat
  enc : α → List Value
structure El.Ok {α : Type} (E : El α) : Prop where
  und : Tryd.prog.underlying E.t = some (.slice E.e)
  info : (Tryd.prog.info? E.e).map (fun i => (i.zero.map (·.cells.size), i.size, i.bytes)) = some (some E.sz, E.sz, E.by')
  pos : 0 < E.sz
  bpos : 0 < E.by'
  len : ∀ a, (E.enc a).length = E.sz
  one : ∀ a, ∀ u ∈ E.enc a, u.oneCell' = true

def El.cs {α : Type} (E : El α) (l : List α) : List Value := l.flatMap E.enc
theorem El.Ok.length {α : Type} {E : El α} (ok : E.Ok) (l : List α) : (E.cs l).length = l.length * E.sz := by
  induction l with
  | nil => simp [El.cs]
  | cons a r ih => simp only [El.cs, List.flatMap_cons, List.length_append, ok.len, List.length_cons] at ih ⊢; rw [ih, Nat.succ_mul, Nat.add_comm]
theorem El.cs_append {α : Type} (E : El α) (a b : List α) : E.cs (a ++ b) = E.cs a ++ E.cs b := by simp [El.cs]
theorem El.Ok.ones {α : Type} {E : El α} (ok : E.Ok) (l : List α) : ∀ u ∈ E.cs l, u.oneCell' = true := by
  intro u hu
  obtain ⟨b, _, hb⟩ := List.mem_flatMap.1 hu
  exact ok.one b u hb
theorem El.Ok.get {α : Type} {E : El α} (ok : E.Ok) (l : List α) (k i : Nat) (hk : k < l.length) (hi : i < E.sz) : (E.cs l)[k * E.sz + i]? = (E.enc l[k])[i]? := by
  induction l generalizing k with
  | nil => exact absurd hk (by simp)
  | cons a r ih =>
    simp only [El.cs, List.flatMap_cons]
    cases k with
    | zero => simp; rw [List.getElem?_append_left (by rw [ok.len]; exact hi)]
    | succ k =>
      rw [List.getElem?_append_right (by rw [ok.len, Nat.succ_mul]; omega), ok.len, show (k + 1) * E.sz + i - E.sz = k * E.sz + i by rw [Nat.succ_mul]; omega]
      exact ih k (by simpa using hk)

/-- The slice holds these, in a row of its own from the row's beginning. -/
def R {α : Type} (E : El α) (w : World) (o : Value) (l : List α) : Prop := w.ownsRow 0 E.e E.sz o l.length (E.cs l)
/-- They can be read behind the slice. -/
def In {α : Type} (E : El α) (w : World) (v : Value) (l : List α) : Prop :=
  (v = .slice none 0 0 ∧ l = []) ∨ ∃ a cap, v = .slice (some a) l.length cap ∧ l.length ≤ cap ∧ cap ≤ 9223372036854775807 ∧ ∀ j u, (E.cs l)[j]? = some u → w.cell? (a.add j) = some u

variable {α : Type} {E : El α} {w w' : World} {o v : Value} {l : List α}

theorem R.nil (E : El α) (w : World) : R E w (.slice none 0 0) [] := World.ownsRow_nil w 0 E.e E.sz
theorem R.stays (h : R E w o l) (hb : ∀ k, o.ownBlock = some k → k < w.heap.size → w'.heap[k]? = w.heap[k]?) : R E w' o l := by
  refine ⟨h.1, ?_⟩
  rcases h.2 with hn | ⟨g, cap, cur, rfl, hbs, hgg, rest⟩
  · exact .inl hn
  · refine .inr ⟨g, cap, cur, rfl, hbs, ?_, rest⟩
    rw [hb g rfl (Array.getElem?_eq_some_iff.1 hgg).1]
    exact hgg
theorem R.below (h : R E w o l) (hb : Below w.heap.size w w') : R E w' o l := h.stays fun k _ hk => hb.block k hk
theorem R.lt (h : R E w o l) : ∀ k, o.ownBlock = some k → k < w.heap.size := fun k hk => (World.ownsRow.lt h k hk).2
theorem R.slice (h : R E w o l) : ∃ base cap, o = .slice base l.length cap ∧ l.length ≤ cap ∧ cap ≤ 9223372036854775807 := by
  rcases h.2 with ⟨rfl, hn⟩ | ⟨g, cap, cur, rfl, _, _, hn, hm, _⟩
  · exact ⟨none, 0, by rw [hn], by omega, by omega⟩
  · exact ⟨_, cap, rfl, hn, by unfold maxLen at hm; omega⟩
theorem R.ty (h : R E w o l) (k : Nat) (hk : o.ownBlock = some k) : ∃ c, w.heap[k]? = some (.cells c E.e (0, 0)) := by
  rcases h.2 with ⟨rfl, hn⟩ | ⟨g, cap, cur, rfl, _, hg, hn, hm, _⟩
  · simp [Value.ownBlock] at hk
  · simp [Value.ownBlock] at hk
    subst hk
    exact ⟨_, hg⟩
theorem R.isIn (h : R E w o l) : In E w o l := by
  have h' := h
  rcases h.2 with ⟨rfl, hn⟩ | ⟨g, cap, cur, rfl, _, _, hn, hm, _⟩
  · exact .inl ⟨rfl, List.eq_nil_of_length_eq_zero hn⟩
  · exact .inr ⟨_, cap, rfl, hn, by unfold maxLen at hm; omega, World.ownsRow.cells h' (g := g) rfl⟩
theorem In.below (h : In E w v l) (hb : Below w.heap.size w w') : In E w' v l := by
  rcases h with h | ⟨a, cap, h1, h2, h3, h5⟩
  · exact .inl h
  · refine .inr ⟨a, cap, h1, h2, h3, fun j u hu => ?_⟩
    have := h5 j u hu
    have hlt := World.block_lt_of_cell? _ _ this
    exact (hb.cell hlt).trans this
theorem In.slice (h : In E w v l) : ∃ base cap, v = .slice base l.length cap ∧ l.length ≤ cap ∧ cap ≤ 9223372036854775807 := by
  rcases h with ⟨rfl, rfl⟩ | ⟨a, cap, h1, h2, h3, h5⟩
  · exact ⟨none, 0, rfl, Nat.le_refl _, by omega⟩
  · exact ⟨_, cap, h1, h2, h3⟩
theorem spot_none {W : World} {a : Addr} {u : Value} (h : W.cell? a = some u) : a.spot = none := by
  unfold World.cell? at h
  split at h
  · split at h
    · cases h
    · rename_i h1
      simpa using h1
  · cases h
theorem In.get (h : In E w v l) (ok : E.Ok) (k : Nat) (hk : k < l.length) : ∃ B off cap, v = .slice (some ⟨B, off, none⟩) l.length cap ∧ B < w.heap.size ∧ ∀ i u, (E.enc l[k])[i]? = some u → w.cell? ⟨B, off + k * E.sz + i, none⟩ = some u := by
  rcases h with ⟨rfl, rfl⟩ | ⟨a, cap, h1, h2, h3, h5⟩
  · exact absurd hk (by simp)
  · obtain ⟨B, off, spot⟩ := a
    have h0 := ok.get l 0 0 (by omega) ok.pos
    obtain ⟨u0, hu0⟩ : ∃ u, (E.enc (l[0]'(by omega)))[0]? = some u := ⟨(E.enc (l[0]'(by omega)))[0]'(by rw [ok.len]; exact ok.pos), List.getElem?_eq_getElem _⟩
    have hc := h5 _ _ (h0.trans hu0)
    have hs := spot_none hc
    have hlt := World.block_lt_of_cell? _ _ hc
    simp [Addr.add] at hs hlt
    subst hs
    refine ⟨B, off, cap, h1, hlt, fun i u hu => ?_⟩
    have hi : i < E.sz := by
      have := (List.getElem?_eq_some_iff.1 hu).1
      rw [ok.len] at this
      exact this
    have := h5 _ _ ((ok.get l k i hk hi).trans hu)
    rw [Addr.add_lit, ← Nat.add_assoc] at this
    exact this

theorem info_z (ok : E.Ok) : ∃ i0 z, Tryd.prog.info? E.e = some i0 ∧ i0.zero = some z ∧ i0.size = E.sz ∧ i0.bytes = E.by' ∧ z.cells.size = E.sz := by
  have h := ok.info
  cases hi : Tryd.prog.info? E.e with
  | none => rw [hi] at h; simp at h
  | some i0 =>
    rw [hi] at h
    simp at h
    obtain ⟨⟨z, h1, h2⟩, h3, h4⟩ := h
    exact ⟨i0, z, rfl, h1, h3, h4, h2⟩

/-- append, whatever is appended -/
theorem app (ok : E.Ok) (w : World) (o : Value) (l : List α) (hR : R E w o l) (v : Value) (news : List α) (hv : In E w v news) (hlen : (l.length + news.length) * E.by' ≤ 140737488355328) :
    ∃ base cap w', (Builtin.append_ #[E.t, E.t] E.t #[o, v]).run Tryd.prog w = .ok (.slice base (l.length + news.length) cap) w' ∧ R E w' (.slice base (l.length + news.length) cap) (l ++ news) ∧ Gr w w' o (.slice base (l.length + news.length) cap) := by
  obtain ⟨i0, z, hi0, hz0, hz1, hz2, hz3⟩ := info_z ok
  rcases hv with ⟨rfl, rfl⟩ | ⟨a, c, rfl, hc1, hc2, hc⟩
  · obtain ⟨b, cap, rfl, _⟩ := hR.slice
    exact ⟨b, cap, w, run_append_owned_none (P := Tryd.prog) (w := w) 0 E.t E.t E.e i0 E.sz ok.und hi0 _ l.length (E.cs l) hR, by simpa using hR, Gr.refl _ _⟩
  · have hmul : l.length + news.length ≤ (l.length + news.length) * E.by' := Nat.le_mul_of_pos_right _ ok.bpos
    have hml : l.length + news.length ≤ maxLen := by unfold maxLen; omega
    obtain ⟨v', w', hrun, ho, hg, hnil⟩ := run_append_own (P := Tryd.prog) w 0 E.t E.t E.e i0 z E.sz E.by' ok.und hi0 hz0 hz1 hz2 hz3 ok.pos o l.length (E.cs l) hR a news.length c (E.cs news) (ok.length news) hc (ok.ones news) hml hlen (Nat.zero_le _)
    have hown : ∀ k, v'.ownBlock = some k → o.ownBlock = some k ∨ w.heap.size ≤ k := by
      intro k hk
      rcases hR.2 with ⟨rfl, h0⟩ | ⟨g, cap, cur, rfl, _, hgg, hnc, _, hcs, _⟩
      · by_cases hm : news.length = 0
        · rw [hnil.2 ⟨rfl, hm⟩] at hk
          simp [Value.ownBlock] at hk
        · have hb : news.length ≤ news.length * E.by' := Nat.le_mul_of_pos_right _ ok.bpos
          have hb2 : news.length * E.by' ≤ (l.length + news.length) * E.by' := Nat.mul_le_mul_right _ (by omega)
          have hr := run_append_nil (P := Tryd.prog) w E.t E.t E.e i0 z ok.und hi0 hz0 a news.length c (E.cs news) (by rw [hz1]; exact ok.length news) hc (by omega) (by omega) (by rw [hz2]; omega)
          rw [hrun] at hr
          injection hr with hr _
          subst hr
          simp [Value.ownBlock] at hk
          exact .inr (by omega)
      · by_cases hroom : l.length + news.length ≤ cap
        · have hr := run_append_room (P := Tryd.prog) w E.t E.t E.e i0 ok.und hi0 g l.length cap cur hgg a news.length c (E.cs news) (by rw [hz1]; exact ok.length news) hc (ok.ones news) hroom (by
            rw [hcs, ok.length, hz1, ← Nat.add_mul]
            exact Nat.mul_le_mul_right _ hroom)
          rw [hrun] at hr
          injection hr with hr _
          subst hr
          exact .inl hk
        · have hr := run_append_grow (P := Tryd.prog) w E.t E.t E.e i0 z ok.und hi0 hz0 ⟨g, 0, none⟩ l.length cap (E.cs l) (by rw [hz1]; exact ok.length l) (World.ownsRow.cells hR (g := g) rfl) a news.length c (E.cs news) (by rw [hz1]; exact ok.length news) hc (by omega) (by omega) (growslice_fits (by omega) (by rw [hz2]; exact hlen))
          rw [hrun] at hr
          injection hr with hr _
          subst hr
          simp [Value.ownBlock] at hk
          exact .inr (by omega)
    have hP : R E w' v' (l ++ news) := by
      unfold R
      rw [El.cs_append, List.length_append]
      exact ho
    obtain ⟨base, cap, rfl, _⟩ := hP.slice
    rw [List.length_append] at hrun hP hown
    exact ⟨base, cap, w', hrun, hP, hg.os, hg.tape, hg.output, hg.size, fun k hk hne => hg.block k hk (fun e => hne e.symm), hown⟩

/-- one element, in a block of its own, can be read behind the slice that was built -/
theorem in_one (w : World) (B : Nat) (x : α) (c : Array Value) (t : TypeId) (fz : Nat × Nat) (h : w.heap[B]? = some (.cells c t fz)) (hc : c.toList = E.enc x) : In E w (.slice (some ⟨B, 0, none⟩) 1 1) [x] := by
  refine .inr ⟨_, 1, rfl, Nat.le_refl _, by omega, fun j u hu => ?_⟩
  rw [Addr.add_lit, cell_blk h, Nat.zero_add, ← Array.getElem?_toList, hc]
  simpa [El.cs] using hu

/-- append, as one step of a region that draws, by the equation of its run. -/
theorem step_append_run {P : Program} {ops : Array Oper} {o : Oper} {a : Act} {w : World} {K : Act → World → Prop} {Q : Exit → Act → World → Prop} {R : Prop}
    (hg : o.guard = none) (s x : Operand) (t tn : TypeId) (ho : o.op = .call { callee := .builtin .append, args := #[s, x], argTypes := #[t, tn] })
    {vs vx v' : Value} {w' : World} (hr : (Builtin.append_ #[t, tn] o.type #[vs, vx]).run P w = .ok v' w') (hs : a.eval s = vs) (hx : a.eval x = vx)
    (hK : K (a.put o.dst v') w') : if Region.wanted o (yielded ops a.tmps) = true then Oper.wp P o a w K Q else R := by
  have hw : Region.wanted o (yielded ops a.tmps) = true := by simp [Region.wanted, hg]
  rw [if_pos hw]
  exact Lib.wp_append_run w s x t tn ho vs vx hs hx v' w' hr hK
/-- a call of a Go function, as one step of a region: for a guard -/
theorem step_value {P : Program} {ops : Array Oper} {o : Oper} {a : Act} {w : World} {K : Act → World → Prop} {Q : Exit → Act → World → Prop} {R : Prop}
    (f : FuncId) (xs : Array Operand) (ats : Array TypeId) (_ho : o.op = .call { callee := .value (.func f), args := xs, argTypes := ats })
    (h : if Region.wanted o (yielded ops a.tmps) = true then Oper.wp P o a w K Q else R) : if Region.wanted o (yielded ops a.tmps) = true then Oper.wp P o a w K Q else R := h
end Go.Proofs.YtfponcdhaefkdaaDoor
/- Rows of anything: one cell set. -/
namespace Go.Proofs.YtfponcdhaefkdaaDoor
open Go.RowKit
set_option linter.unusedVariables false
set_option linter.unusedSimpArgs false

theorem El.cs_set {α : Type} {E : El α} (ok : E.Ok) (l : List α) (j i : Nat) (hj : j < l.length) (hi : i < E.sz) (u : Value) (x : α) (hx : E.enc x = (E.enc l[j]).set i u) : E.cs (l.set j x) = (E.cs l).set (j * E.sz + i) u := by
  induction l generalizing j with
  | nil => exact absurd hj (by simp)
  | cons a r ih =>
    cases j with
    | zero =>
      simp only [El.cs, List.set_cons_zero, List.flatMap_cons, Nat.zero_mul, Nat.zero_add]
      rw [hx, List.set_append_left _ _ (by rw [ok.len]; exact hi)]
      rfl
    | succ j =>
      have := ih j (by simpa using hj) hx
      simp only [El.cs, List.set_cons_succ, List.flatMap_cons] at this ⊢
      rw [this, List.set_append_right _ _ (by rw [ok.len, Nat.succ_mul]; omega), ok.len, show (j + 1) * E.sz + i - E.sz = j * E.sz + i by rw [Nat.succ_mul]; omega]

theorem R.setc {α : Type} {E : El α} (ok : E.Ok) {w : World} {v : Value} {l : List α} (h : R E w v l) (j i : Nat) (hj : j < l.length) (hi : i < E.sz) : ∃ g cap, v = .slice (some ⟨g, 0, none⟩) l.length cap ∧ l.length ≤ cap ∧ cap ≤ 9223372036854775807 ∧ g < w.heap.size ∧ v.ownBlock = some g ∧
    (∀ i' u', (E.enc l[j])[i']? = some u' → w.cell? ⟨g, j * E.sz + i', none⟩ = some u') ∧ (∀ o, w.frozen? ⟨g, o, none⟩ = false) ∧
    (∀ u x, E.enc x = (E.enc l[j]).set i u → R E (w.setCell ⟨g, j * E.sz + i, none⟩ u) v (l.set j x)) := by
  obtain ⟨B, off, cap, e, hB, d⟩ := h.isIn.get ok j hj
  obtain ⟨h3, h4⟩ := h
  rcases h4 with ⟨hv, h0⟩ | ⟨g', cap', cur, hv, hb, hg, hn, hm, hs, ht⟩
  · omega
  · rw [hv] at e
    injection e with e1 e2 e3
    injection e1 with e1
    injection e1 with e1 e4
    subst e1
    subst e3
    subst e4
    subst hv
    refine ⟨g', cap', rfl, hn, by unfold maxLen at hm; omega, (Array.getElem?_eq_some_iff.1 hg).1, rfl, fun i' u' hu => by have := d i' u' hu; rw [Nat.zero_add] at this; exact this, fun o => by simp [World.frozen?, hg], fun u x hx => ⟨by rw [ok.length], .inr ⟨g', cap', cur.setIfInBounds (j * E.sz + i) u, by rw [List.length_set], hb, setCell_block _ _ _ _ _ _ _ hg, by rw [List.length_set]; exact hn, hm, by simp [hs], ?_⟩⟩⟩
    rw [List.length_set, El.cs_set ok l j i hj hi u x hx, ← ht]
    simp only [Array.toList_setIfInBounds, List.take_set]

/-- a row of one, just built -/
theorem R.one {α : Type} {E : El α} (ok : E.Ok) {w : World} {g : Nat} {c : Array Value} (x : α) (h : w.heap[g]? = some (.cells c E.e (0, 0))) (hc : c.toList = E.enc x) : R E w (.slice (some ⟨g, 0, none⟩) 1 1) [x] := by
  have hl : c.size = E.sz := by rw [← Array.length_toList, hc, ok.len]
  refine ⟨by rw [ok.length], .inr ⟨g, 1, c, rfl, Nat.zero_le _, h, Nat.le_refl _, by decide, by rw [hl, Nat.one_mul], ?_⟩⟩
  simp only [El.cs, List.flatMap_cons, List.flatMap_nil, List.append_nil, List.length_singleton, Nat.one_mul]
  rw [← hl, List.take_of_length_le (by simp), hc]
end Go.Proofs.YtfponcdhaefkdaaDoor
/- Fields and texts in rows; Values of both sides. -/
namespace Go.Proofs.YtfponcdhaefkdaaDoor
open Go.RowKit
set_option linter.unusedVariables false
set_option linter.unusedSimpArgs false

/-- a field -/
structure Fd where
  n : ByteArray
  v : ByteArray
  nv : Bool
def fdv (f : Fd) : Array Value := #[.string f.n, .string f.v, .bool f.nv]
def EFd : El Fd := ⟨22, 51, 3, 40, fun f => (fdv f).toList⟩
def ES : El ByteArray := ⟨27, 9, 1, 16, fun s => [.string s]⟩
theorem okFd : EFd.Ok := ⟨Tryd.underlying22, by kernel_rfl, by decide, by decide, fun _ => rfl, fun a u hu => by
  simp only [EFd, fdv, List.mem_cons, List.not_mem_nil, or_false] at hu
  rcases hu with rfl | rfl | rfl <;> rfl⟩
theorem okS : ES.Ok := ⟨Tryd.underlying27, by kernel_rfl, by decide, by decide, fun _ => rfl, fun a u hu => by
  simp only [ES, List.mem_cons, List.not_mem_nil, or_false] at hu
  rcases hu with rfl; rfl⟩
/-- Block g holds a field. -/
def FdB (w : World) (g : Nat) (f : Fd) : Prop := w.heap[g]? = some (.cells (fdv f) 51 (0, 0))
theorem FdB.below {w w' : World} {g : Nat} {f : Fd} (h : FdB w g f) (hb : Below w.heap.size w w') : FdB w' g f := (hb.block g (heap_lt h)).trans h
theorem FdB.cells {w : World} {g : Nat} {f : Fd} (h : FdB w g f) : w.cell? ⟨g, 0, none⟩ = some (.string f.n) ∧ w.cell? ⟨g, 1, none⟩ = some (.string f.v) ∧ w.cell? ⟨g, 2, none⟩ = some (.bool f.nv) := ⟨cell_blk h 0, cell_blk h 1, cell_blk h 2⟩
theorem fd_new (w : World) (f : Fd) : FdB (w.alloc (.cells (fdv f) 51)) w.heap.size f := by unfold FdB; rw [heap_al, if_pos rfl]

/-- a slice's three parts -/
abbrev SV := Option Addr × Nat × Nat
def sv (x : SV) : Value := .slice x.1 x.2.1 x.2.2
theorem In.fd {w : World} {v : Value} {l : List Fd} (h : In EFd w v l) (k : Nat) (hk : k < l.length) : ∃ B off cap, v = .slice (some ⟨B, off, none⟩) l.length cap ∧ ∀ W, Below w.heap.size w W → W.cell? ⟨B, off + k * 3, none⟩ = some (.string l[k].n) ∧ W.cell? ⟨B, off + k * 3 + 1, none⟩ = some (.string l[k].v) ∧ W.cell? ⟨B, off + k * 3 + 2, none⟩ = some (.bool l[k].nv) := by
  obtain ⟨B, off, cap, e, hB, d⟩ := h.get okFd k hk
  exact ⟨B, off, cap, e, fun W hb => ⟨(hb.cell hB).trans (d 0 _ rfl), (hb.cell hB).trans (d 1 _ rfl), (hb.cell hB).trans (d 2 _ rfl)⟩⟩

theorem ba_eq {a b : ByteArray} (h : a.data.toList = b.data.toList) : a = b := by
  cases a; cases b; simp only at h; congr 1; exact Array.toList_inj.1 h
/-- the values of a name -/
def vsL (l : List Fd) (s : ByteArray) : List ByteArray := l.filterMap fun f => if f.n = s then some f.v else none
theorem slice_len {α : Type} {E : El α} {w : World} {b : Option Addr} {n c : Nat} {l : List α} (h : In E w (.slice b n c) l) : n = l.length ∧ l.length ≤ c ∧ c ≤ 9223372036854775807 := by
  obtain ⟨_, _, e, q1, q2⟩ := h.slice
  injection e with _ e1 e2
  subst e2
  exact ⟨e1, q1, q2⟩
set_option maxHeartbeats 4000000 in
theorem In.take {α : Type} {E : El α} {w : World} {B off n cap : Nat} {l : List α} (h : In E w (.slice (some ⟨B, off, none⟩) n cap) l) (k : Nat) (hk : k ≤ l.length) : In E w (.slice (some ⟨B, off, none⟩) k cap) (l.take k) := by
  rcases h with ⟨h, _⟩ | ⟨a, cap', e, h1, h2, h3⟩
  · cases h
  · injection e with e1 e2 e3
    injection e1 with e1
    subst e1
    subst e3
    refine .inr ⟨_, cap, by rw [List.length_take, Nat.min_eq_left hk], by rw [List.length_take]; omega, h2, fun j u hu => h3 j u ?_⟩
    have e : E.cs l = E.cs (l.take k) ++ E.cs (l.drop k) := by rw [← El.cs_append, List.take_append_drop]
    rw [e, List.getElem?_append_left (List.getElem?_eq_some_iff.1 hu).1]
    exact hu
theorem In.drop {α : Type} {E : El α} (ok : E.Ok) {w : World} {B off n cap : Nat} {l : List α} (h : In E w (.slice (some ⟨B, off, none⟩) n cap) l) (k : Nat) (hk : k ≤ l.length) :
    (cap ≠ k → In E w (.slice (some ⟨B, off + k * E.sz, none⟩) (l.length - k) (cap - k)) (l.drop k)) ∧ (cap = k → In E w (.slice (some ⟨B, off, none⟩) (l.length - k) (cap - k)) (l.drop k)) := by
  rcases h with ⟨h, _⟩ | ⟨a, cap', e, h1, h2, h3⟩
  · cases h
  · injection e with e1 e2 e3
    injection e1 with e1
    subst e1
    subst e3
    refine ⟨fun hc => .inr ⟨_, cap - k, by rw [List.length_drop], by rw [List.length_drop]; omega, by omega, fun j u hu => ?_⟩, fun hc => .inr ⟨_, cap - k, by rw [List.length_drop], by rw [List.length_drop]; omega, by omega, fun j u hu => ?_⟩⟩
    · have e : E.cs l = E.cs (l.take k) ++ E.cs (l.drop k) := by rw [← El.cs_append, List.take_append_drop]
      have hl : (E.cs (l.take k)).length = k * E.sz := by rw [ok.length, List.length_take, Nat.min_eq_left hk]
      have := h3 (k * E.sz + j) u (by rw [e, List.getElem?_append_right (by omega), hl, Nat.add_sub_cancel_left]; exact hu)
      rw [Addr.add_lit] at this ⊢
      rw [← Nat.add_assoc] at this
      exact this
    · have : l.drop k = [] := List.drop_of_length_le (by omega)
      rw [this] at hu
      simp [El.cs] at hu

theorem vsL_succ (l : List Fd) (s : ByteArray) (k : Nat) (h : k < l.length) : vsL (l.take (k + 1)) s = vsL (l.take k) s ++ (if l[k].n = s then [l[k].v] else []) := by
  unfold vsL
  rw [List.take_succ_eq_append_getElem h, List.filterMap_append]
  congr 1
  by_cases he : l[k].n = s <;> simp [List.filterMap_cons, he]
theorem vsL_le (l : List Fd) (s : ByteArray) : (vsL l s).length ≤ l.length := List.length_filterMap_le _ _
theorem str_eq {a b : ByteArray} (h : a = b) : (a.toList == b.toList) = true := by simp [h]
theorem str_ne {a b : ByteArray} (h : a ≠ b) : (a.toList == b.toList) = false := by
  rw [beq_eq_false_iff_ne]
  intro e
  rw [ByteArray.toList_eq, ByteArray.toList_eq] at e
  exact h (ba_eq e)

/-- a row of one's own, made since w -/
def VsPost (vs : List ByteArray) (w : World) (e : Ending) (w' : World) : Prop :=
  ∃ y : SV, e = .returned (sv y) ∧ Below w.heap.size w w' ∧ R ES w' (sv y) vs ∧ ∀ k, (sv y).ownBlock = some k → w.heap.size ≤ k
set_option maxHeartbeats 8000000 in
set_option maxRecDepth 100000 in
theorem rvalues_any (s : SV) (l : List Fd) (name : ByteArray) (w : World) (hI : In EFd w (sv s) l) (hlen : l.length * 40 ≤ 140737488355328) :
    Calls Tryd.prog 93 #[sv s, .string name] w fun e w' => VsPost (vsL l name) w e w' := by
  have HI : Hid (In EFd w (sv s) l) := hI
  obtain ⟨sb, sl, sc⟩ := s
  have es : sl = l.length := by obtain ⟨_, _, e, _⟩ := hI.slice; simp only [sv] at e; injection e
  have hcap : l.length ≤ sc ∧ sc ≤ 9223372036854775807 := by obtain ⟨_, _, e, q1, q2⟩ := hI.slice; simp only [sv] at e; injection e with _ _ e; subst e; exact ⟨q1, q2⟩
  subst es
  simp only [sv] at HI ⊢
  obtain ⟨hcap1, hcap2⟩ := hcap
  clear hI
  go_enter Tryd.func93, Tryd.ntmps93
  go_wp2_with fail
  go_loopw [5, 6] (fun vv kv wr => ∃ (k : Nat) (vb : Option Addr) (vn vc : Nat), kv = .int .i64 (k : Int) ∧ k ≤ l.length ∧ vv = .slice vb vn vc ∧ Hid (R ES wr (.slice vb vn vc) (vsL (l.take k) name) ∧ (∀ i, (Value.slice vb vn vc).ownBlock = some i → w.heap.size ≤ i) ∧ vn = (vsL (l.take k) name).length ∧ Below w.heap.size w wr)) (fun _ kv _ => l.length - (intOf kv).toNat)
  case atStart => exact ⟨0, none, 0, 0, rfl, by omega, rfl, by simp [vsL]; exact R.nil _ _, fun i hi => by simp [Value.ownBlock] at hi, by simp [vsL], Below.refl _ _⟩
  case round =>
    obtain ⟨k, vb, vn, vc, rfl, hk, rfl, hv⟩ := hrel
    by_cases hlt : k < l.length
    · obtain ⟨Bk, off, cap, e, hc⟩ := HI.out.fd k hlt
      injection e with e1 e2 e3
      subst e1
      clear e2 e3
      obtain ⟨c0, c1, c2⟩ := hc wr hv.out.2.2.2
      have hlt' : (k : Int) < (l.length : Int) := by omega
      by_cases hn : l[k].n = name
      · have hvs : Hid (vsL (l.take (k + 1)) name = vsL (l.take k) name ++ [l[k].v]) := by show _ = _; rw [vsL_succ l name k hlt, if_pos hn]
        have hb : (l[k].n.toList == name.toList) = true := str_eq hn
        clear hn
        obtain ⟨x, hx⟩ : ∃ x, l[k] = x := ⟨_, rfl⟩
        rw [hx] at c0 c1 c2 hb hvs
        obtain ⟨r1, r2, r3, r4⟩ := hv.out
        have hin : In ES (wr.alloc (.cells #[.string x.v] 9)) (.slice (some ⟨wr.heap.size, 0, none⟩) 1 1) [x.v] := in_one _ _ _ #[.string x.v] 9 (0, 0) (by rw [heap_al, if_pos rfl]) rfl
        have hle : (vsL (l.take k) name).length ≤ l.length := Nat.le_trans (vsL_le _ _) (by simp; omega)
        obtain ⟨ab, ac, w5, g1, g2, g3⟩ := app okS (wr.alloc (.cells #[.string x.v] 9)) (.slice vb vn vc) _ (r1.below (bel1 wr _)) _ _ hin (by simp only [ES, List.length_singleton]; omega)
        rw [← r3] at g1 g2 g3
        simp only [List.length_singleton] at g1 g2 g3
        have hbl : Below w.heap.size w (wr.alloc (.cells #[.string x.v] 9)) := r4.trans ((bel1 wr _).mono r4.size)
        have HNX : Hid (R ES w5 (.slice ab (vn + 1) ac) (vsL (l.take (k + 1)) name) ∧ (∀ i, (Value.slice ab (vn + 1) ac).ownBlock = some i → w.heap.size ≤ i) ∧ vn + 1 = (vsL (l.take (k + 1)) name).length ∧ Below w.heap.size w w5) := by
          rw [hvs.out]
          refine ⟨g2, fun i hi => ?_, by rw [List.length_append, r3]; rfl, hbl.trans (g3.belowB hbl.size r2)⟩
          rcases g3.own i hi with e | e
          · exact r2 i e
          · exact Nat.le_trans hbl.size e
        replace g1 : Hid _ := g1
        clear hx hc r1 r2 r3 r4 hv g2 g3 hin hbl hle hvs
        go_wp2_with (at_builtin; refine Lib.wpList_append_run _ rfl _ _ _ _ rfl _ _ rfl rfl _ _ g1.out ?_)
        go_roundw
        case rel => exact ⟨k + 1, ab, vn + 1, ac, by simp, by omega, rfl, HNX.out⟩
        case measure => simp [intOf]; omega
      · have hvs : Hid (vsL (l.take (k + 1)) name = vsL (l.take k) name) := by show _ = _; rw [vsL_succ l name k hlt, if_neg hn, List.append_nil]
        have hb : (l[k].n.toList == name.toList) = false := str_ne hn
        clear hn
        obtain ⟨x, hx⟩ : ∃ x, l[k] = x := ⟨_, rfl⟩
        rw [hx] at c0 c1 c2 hb
        clear hx hc
        go_wp2_with fail
        go_roundw
        case rel => exact ⟨k + 1, vb, vn, vc, by simp, by omega, rfl, by rw [hvs.out]; exact hv.out⟩
        case measure => simp [intOf]; omega
    · obtain rfl : k = l.length := by omega
      have hlt' : ¬ (l.length : Int) < (l.length : Int) := by omega
      have hvv : Hid (R ES wr (.slice vb vn vc) (vsL l name) ∧ (∀ i, (Value.slice vb vn vc).ownBlock = some i → w.heap.size ≤ i) ∧ Below w.heap.size w wr) := by
        obtain ⟨r1, r2, r3, r4⟩ := hv.out
        rw [List.take_length] at r1
        exact ⟨r1, r2, r4⟩
      clear hv
      go_wp2_with fail
      go_ret
      exact ⟨(vb, vn, vc), rfl, hvv.out.2.2, hvv.out.1, hvv.out.2.1⟩
set_option maxHeartbeats 8000000 in
set_option maxRecDepth 100000 in
theorem values_any (s : SV) (l : List Fd) (name : ByteArray) (w : World) (hI : In EFd w (sv s) l) (hlen : l.length * 40 ≤ 140737488355328) :
    Calls Tryd.prog 28 #[sv s, .string name] w fun e w' => VsPost (vsL l name) w e w' := by
  have HI : Hid (In EFd w (sv s) l) := hI
  obtain ⟨sb, sl, sc⟩ := s
  have es : sl = l.length := by obtain ⟨_, _, e, _⟩ := hI.slice; simp only [sv] at e; injection e
  have hcap : l.length ≤ sc ∧ sc ≤ 9223372036854775807 := by obtain ⟨_, _, e, q1, q2⟩ := hI.slice; simp only [sv] at e; injection e with _ _ e; subst e; exact ⟨q1, q2⟩
  subst es
  simp only [sv] at HI ⊢
  obtain ⟨hcap1, hcap2⟩ := hcap
  clear hI
  go_enter Tryd.func28, Tryd.ntmps28
  go_wp2_with fail
  go_loopw [5, 7, 10] (fun vv _ kv wr => ∃ (k : Nat) (vb : Option Addr) (vn vc : Nat), kv = .int .i64 (k : Int) ∧ k ≤ l.length ∧ vv = .slice vb vn vc ∧ Hid (R ES wr (.slice vb vn vc) (vsL (l.take k) name) ∧ (∀ i, (Value.slice vb vn vc).ownBlock = some i → w.heap.size ≤ i) ∧ vn = (vsL (l.take k) name).length ∧ Below w.heap.size w wr)) (fun _ _ kv _ => l.length - (intOf kv).toNat)
  case atStart => exact ⟨0, none, 0, 0, rfl, by omega, rfl, by simp [vsL]; exact R.nil _ _, fun i hi => by simp [Value.ownBlock] at hi, by simp [vsL], Below.refl _ _⟩
  case round =>
    obtain ⟨k, vb, vn, vc, rfl, hk, rfl, hv⟩ := hrel
    by_cases hlt : k < l.length
    · obtain ⟨Bk, off, cap, e, hc⟩ := HI.out.fd k hlt
      injection e with e1 e2 e3
      subst e1
      clear e2 e3
      obtain ⟨c0, c1, c2⟩ := hc wr hv.out.2.2.2
      have hlt' : (k : Int) < (l.length : Int) := by omega
      by_cases hn : l[k].n = name
      · have hvs : Hid (vsL (l.take (k + 1)) name = vsL (l.take k) name ++ [l[k].v]) := by show _ = _; rw [vsL_succ l name k hlt, if_pos hn]
        have hb : (l[k].n.toList == name.toList) = true := str_eq hn
        clear hn
        obtain ⟨x, hx⟩ : ∃ x, l[k] = x := ⟨_, rfl⟩
        rw [hx] at c0 c1 c2 hb hvs
        obtain ⟨r1, r2, r3, r4⟩ := hv.out
        have hin : In ES ((wr.alloc (.cells #[.string x.n, .string x.v, .bool x.nv] 51)).alloc (.cells #[.string x.v] 9)) (.slice (some ⟨wr.heap.size + 1, 0, none⟩) 1 1) [x.v] := in_one _ _ _ #[.string x.v] 9 (0, 0) (fresh2 _ _ _) rfl
        have hle : (vsL (l.take k) name).length ≤ l.length := Nat.le_trans (vsL_le _ _) (by simp; omega)
        have hb2 := bel2 wr (.cells #[.string x.n, .string x.v, .bool x.nv] 51) (.cells #[.string x.v] 9)
        obtain ⟨ab, ac, w5, g1, g2, g3⟩ := app okS ((wr.alloc (.cells #[.string x.n, .string x.v, .bool x.nv] 51)).alloc (.cells #[.string x.v] 9)) (.slice vb vn vc) _ (r1.below hb2) _ _ hin (by simp only [ES, List.length_singleton]; omega)
        rw [← r3] at g1 g2 g3
        simp only [List.length_singleton] at g1 g2 g3
        have hbl : Below w.heap.size w ((wr.alloc (.cells #[.string x.n, .string x.v, .bool x.nv] 51)).alloc (.cells #[.string x.v] 9)) := r4.trans (hb2.mono r4.size)
        have HNX : Hid (R ES w5 (.slice ab (vn + 1) ac) (vsL (l.take (k + 1)) name) ∧ (∀ i, (Value.slice ab (vn + 1) ac).ownBlock = some i → w.heap.size ≤ i) ∧ vn + 1 = (vsL (l.take (k + 1)) name).length ∧ Below w.heap.size w w5) := by
          rw [hvs.out]
          refine ⟨g2, fun i hi => ?_, by rw [List.length_append, r3]; rfl, hbl.trans (g3.belowB hbl.size r2)⟩
          rcases g3.own i hi with e | e
          · exact r2 i e
          · exact Nat.le_trans hbl.size e
        replace g1 : Hid _ := g1
        clear hx hc r1 r2 r3 r4 hv g2 g3 hin hbl hle hvs hb2
        go_wp2_with (at_builtin; refine Lib.wpList_append_run _ rfl _ _ _ _ rfl _ _ rfl rfl _ _ g1.out ?_)
        go_roundw
        case rel => exact ⟨k + 1, ab, vn + 1, ac, by simp, by omega, rfl, HNX.out⟩
        case measure => simp [intOf]; omega
      · have hvs : Hid (vsL (l.take (k + 1)) name = vsL (l.take k) name) := by show _ = _; rw [vsL_succ l name k hlt, if_neg hn, List.append_nil]
        have hb : (l[k].n.toList == name.toList) = false := str_ne hn
        clear hn
        obtain ⟨x, hx⟩ : ∃ x, l[k] = x := ⟨_, rfl⟩
        rw [hx] at c0 c1 c2 hb
        have HNX : Hid (R ES (wr.alloc (.cells #[.string x.n, .string x.v, .bool x.nv] 51)) (.slice vb vn vc) (vsL (l.take k) name) ∧ (∀ i, (Value.slice vb vn vc).ownBlock = some i → w.heap.size ≤ i) ∧ vn = (vsL (l.take k) name).length ∧ Below w.heap.size w (wr.alloc (.cells #[.string x.n, .string x.v, .bool x.nv] 51))) := by
          obtain ⟨r1, r2, r3, r4⟩ := hv.out
          exact ⟨r1.below (bel1 wr _), r2, r3, r4.trans ((bel1 wr _).mono r4.size)⟩
        clear hx hc hv
        go_wp2_with fail
        go_roundw
        case rel => exact ⟨k + 1, vb, vn, vc, by simp, by omega, rfl, by rw [hvs.out]; exact HNX.out⟩
        case measure => simp [intOf]; omega
    · obtain rfl : k = l.length := by omega
      have hlt' : ¬ (l.length : Int) < (l.length : Int) := by omega
      have hvv : Hid (R ES wr (.slice vb vn vc) (vsL l name) ∧ (∀ i, (Value.slice vb vn vc).ownBlock = some i → w.heap.size ≤ i) ∧ Below w.heap.size w wr) := by
        obtain ⟨r1, r2, r3, r4⟩ := hv.out
        rw [List.take_length] at r1
        exact ⟨r1, r2, r4⟩
      clear hv
      go_wp2_with fail
      go_ret
      exact ⟨(vb, vn, vc), rfl, hvv.out.2.2, hvv.out.1, hvv.out.2.1⟩

end Go.Proofs.YtfponcdhaefkdaaDoor
/- same, head. -/
namespace Go.Proofs.YtfponcdhaefkdaaDoor
open Go.RowKit
set_option linter.unusedVariables false
set_option linter.unusedSimpArgs false

def eqB (a b : List ByteArray) : Bool := decide (a = b)
theorem eqB_true {a b : List ByteArray} (h : a = b) : eqB a b = true := decide_eq_true h
theorem eqB_false {a b : List ByteArray} (h : a ≠ b) : eqB a b = false := decide_eq_false h
theorem In.str {w : World} {v : Value} {l : List ByteArray} (h : In ES w v l) (k : Nat) (hk : k < l.length) : ∃ B off cap, v = .slice (some ⟨B, off, none⟩) l.length cap ∧ ∀ W, Below w.heap.size w W → W.cell? ⟨B, off + k, none⟩ = some (.string l[k]) := by
  obtain ⟨B, off, cap, e, hB, d⟩ := h.get okS k hk
  refine ⟨B, off, cap, e, fun W hb => ?_⟩
  have := (hb.cell hB).trans (d 0 _ rfl)
  simpa [ES] using this
theorem below_drewN {B : Nat} {a w : World} (h : Below B a w) (n : Nat) : Below B a (w.drewN n) := h.trans ⟨rfl, rfl, rfl, Nat.le_refl _, fun _ _ => rfl⟩
theorem below_drew1 {B : Nat} {w w' : World} (h : Below B w w') : Below B w w'.drew := h.drew
set_option maxHeartbeats 4000000 in
set_option maxRecDepth 100000 in
theorem vsame_any (s t : SV) (a b : List ByteArray) (w : World) (hI : In ES w (sv s) a) (hJ : In ES w (sv t) b) :
    Calls Tryd.prog 83 #[sv s, sv t] w fun e w' => e = .returned (.bool (eqB a b)) ∧ Below w.heap.size w w' := by
  have HI : Hid (In ES w (sv s) a) := hI
  have HJ : Hid (In ES w (sv t) b) := hJ
  obtain ⟨sb, sl, sc⟩ := s
  obtain ⟨tb, tl, tc⟩ := t
  simp only [sv] at HI HJ ⊢
  obtain ⟨e1, e2, e3⟩ := slice_len HI.out
  obtain ⟨f1, f2, f3⟩ := slice_len HJ.out
  clear hI hJ
  by_cases hl : a.length = b.length
  · have hl1 : tl = sl := by omega
    have E1 : Hid (sl = a.length) := e1
    have HL : Hid (a.length = b.length) := hl
    have hsc : sl ≤ sc := by omega
    have hsc3 : sc ≤ 9223372036854775807 := e3
    have htc : sl ≤ tc := by omega
    subst hl1
    clear e1 f1 e2 f2 f3 hl e3
    go_enter Tryd.func83, Tryd.ntmps83
    go_wp2_with fail
    go_loopw [5, 13] (fun _ iv wr => ∃ k : Nat, iv = .int .i64 (k : Int) ∧ k ≤ tl ∧ Hid (a.take k = b.take k) ∧ Hid (Below w.heap.size w wr)) (fun _ iv _ => tl - (intOf iv).toNat)
    case atStart => exact ⟨0, rfl, by omega, by show _ = _; simp, Below.refl _ _⟩
    case round =>
      obtain ⟨k, rfl, hk, hp, hb⟩ := hrel
      by_cases hlt : k < tl
      · have ka : k < a.length := by have := E1.out; omega
        have kb : k < b.length := by have := E1.out; have := HL.out; omega
        obtain ⟨B1, o1, c1, e, c0⟩ := HI.out.str k ka
        injection e with e1 e2 e3
        subst e1
        clear e2 e3
        obtain ⟨B2, o2, c2, e, d0⟩ := HJ.out.str k kb
        injection e with e1 e2 e3
        subst e1
        clear e2 e3
        replace c0 := c0 wr hb.out
        replace d0 := d0 wr hb.out
        have hlt' : (k : Int) < (tl : Int) := by omega
        obtain ⟨x, hx⟩ : ∃ x, a[k] = x := ⟨_, rfl⟩
        obtain ⟨y, hy⟩ : ∃ y, b[k] = y := ⟨_, rfl⟩
        rw [hx] at c0
        rw [hy] at d0
        by_cases hxy : x = y
        · have hnx : Hid (a.take (k + 1) = b.take (k + 1)) := by
            show _ = _
            rw [List.take_succ_eq_append_getElem ka, List.take_succ_eq_append_getElem kb, hp.out, hx, hy, hxy]
          have q1 := str_eq hxy
          have q2 : (x.toList != y.toList) = false := by rw [bne, q1]; rfl
          clear hp hx hy hxy ka kb
          go_wp2_with fail
          go_quiet (fail)
          go_wp2_with fail
          go_roundw
          case rel => exact ⟨k + 1, by simp, by omega, hnx.out, below_drewN hb.out _⟩
          case measure => simp [intOf]; omega
        · have hne : Hid (eqB a b = false) := by
            show _ = _
            refine eqB_false fun e => hxy ?_
            subst e
            rw [← hx, ← hy]
          have q1 := str_ne hxy
          have q2 : (x.toList != y.toList) = true := by rw [bne, q1]; rfl
          clear hp hx hy hxy ka kb
          go_wp2_with fail
          go_quiet (fail)
          go_wp2_with fail
          go_ret
          exact ⟨by rw [hne.out]; rfl, below_drewN hb.out _⟩
      · obtain rfl : k = tl := by omega
        have hlt' : ¬ (k : Int) < (k : Int) := by omega
        have hye : Hid (eqB a b = true) := by
          show _ = _
          refine eqB_true ?_
          have := hp.out
          rw [E1.out, List.take_length] at this
          rw [this, HL.out, List.take_length]
        clear hp
        go_wp2_with fail
        go_ret
        exact ⟨by rw [hye.out]; rfl, hb.out⟩
  · have hl1 : ((sl : Int) != (tl : Int)) = true := by simp; omega
    have hl2 : ¬ (sl : Int) = (tl : Int) := by omega
    have hne : Hid (eqB a b = false) := eqB_false fun e => hl (by rw [e])
    clear e1 f1 hl
    go_enter Tryd.func83, Tryd.ntmps83
    go_wp2_with fail
    go_ret
    exact ⟨by rw [hne.out]; rfl, Below.refl _ _⟩

end Go.Proofs.YtfponcdhaefkdaaDoor
/- Small. -/
namespace Go.Proofs.YtfponcdhaefkdaaDoor
open Go.RowKit
set_option linter.unusedVariables false
set_option linter.unusedSimpArgs false

def EB : El UInt8 := ⟨103, 5, 1, 1, fun x => [.int .u8 (x.toNat : Int)]⟩
theorem okB : EB.Ok := ⟨Tryd.underlying103, by kernel_rfl, by decide, by decide, fun _ => rfl, fun a u hu => by
  simp only [EB, List.mem_cons, List.not_mem_nil, or_false] at hu
  rcases hu with rfl; rfl⟩
def bt (l : List UInt8) : ByteArray := ⟨l.toArray⟩
theorem bt_list (l : List UInt8) : (bt l).data.toList = l := by simp [bt]
theorem bt_size (l : List UInt8) : (bt l).size = l.length := by rw [Lib.size_eq, bt_list]
theorem bt_self (s : ByteArray) : bt s.data.toList = s := by cases s; simp [bt]
theorem csB (l : List UInt8) : EB.cs l = l.map fun x => Value.int .u8 (x.toNat : Int) := by
  induction l with
  | nil => rfl
  | cons a r ih => simp only [El.cs, List.flatMap_cons, EB, List.cons_append, List.nil_append, List.map_cons] at ih ⊢; rw [ih]
set_option maxRecDepth 100000 in
theorem conv_row {w : World} {b : Option Addr} {n c : Nat} {l : List UInt8} (h : In EB w (.slice b n c) l) (hl : 0 < l.length) : Sem.run Tryd.prog (convert 103 9 (.slice b n c)) w = .ok (.string (bt l)) w := by
  rcases h with ⟨_, rfl⟩ | ⟨a, cap, e, h1, h2, hc⟩
  · exact absurd hl (by simp)
  · injection e with e1 e2 e3
    subst e1 e2 e3
    exact run_convert_bytes_back (P := Tryd.prog) w 103 9 5 a c l Tryd.underlying103 Tryd.underlying5 Tryd.underlying9 (fun j hj => by
      have := hc j (.int .u8 (l[j].toNat : Int)) (by rw [csB, List.getElem?_map, List.getElem?_eq_getElem hj]; rfl)
      exact this)

/-- a to z for A to Z -/
def smC (x : UInt8) : UInt8 := if 65 ≤ x.toNat ∧ x.toNat ≤ 90 then UInt8.ofNat (x.toNat + 32) else x
def smL (l : List UInt8) : List UInt8 := l.map smC
def smS (s : ByteArray) : ByteArray := bt (smL s.data.toList)
theorem smC_up {x : UInt8} (h1 : 65 ≤ x.toNat) (h2 : x.toNat ≤ 90) : (smC x).toNat = x.toNat + 32 := by
  unfold smC
  rw [if_pos ⟨h1, h2⟩, UInt8.toNat_ofNat']
  omega
theorem smC_id {x : UInt8} (h : ¬ (65 ≤ x.toNat ∧ x.toNat ≤ 90)) : smC x = x := if_neg h

/-- Block b begins with these bytes, which may be written. -/
structure Sb (W : World) (b : Nat) (l : List UInt8) : Prop where
  lt : b < W.heap.size
  cell : ∀ j (h : j < l.length), W.cell? ⟨b, j, none⟩ = some (.int .u8 (l[j].toNat : Int))
  fz : ∀ j, j < l.length → W.frozen? ⟨b, j, none⟩ = false
theorem Sb.below {W W' : World} {b : Nat} {l : List UInt8} (h : Sb W b l) (hb : Below W.heap.size W W') : Sb W' b l := by
  have e := hb.block b h.lt
  refine ⟨Nat.lt_of_lt_of_le h.lt hb.size, fun j hj => ?_, fun j hj => ?_⟩
  · rw [← h.cell j hj]; unfold World.cell?; simp only [e]
  · rw [← h.fz j hj]; unfold World.frozen?; simp only [e]
theorem Sb.new (w : World) (s : ByteArray) : Sb (Lib.bytesWorld w 5 s) w.heap.size s.data.toList := by
  have hn := Lib.bytesWorld_at_new w 5 s
  have hl : s.data.toList.length = s.size := (Lib.size_eq s).symm
  refine ⟨heap_lt hn, fun j hj => ?_, fun j hj => ?_⟩
  · have := Lib.bytesWorld_cell w 5 s j (by rw [← hl]; exact hj)
    rw [this]
    have hj' : j < s.data.size := by simpa using hj
    rw [List.getD_eq_getElem?_getD, Array.getElem?_toList, Array.getElem?_eq_getElem hj']; rfl
  · unfold World.frozen?
    simp only [hn]
    have : (Lib.bytesCells w 5 s).size ≥ s.size := by simp [Lib.bytesCells]
    simp
    intro h
    omega
theorem bytesWorld_below (w : World) (s : ByteArray) : Below w.heap.size w (Lib.bytesWorld w 5 s) :=
  ⟨rfl, rfl, rfl, by rw [Lib.bytesWorld_size]; omega, fun k hk => Lib.bytesWorld_at_old w 5 s k hk⟩
theorem Sb.set {W : World} {b : Nat} {l : List UInt8} (h : Sb W b l) (k : Nat) (hk : k < l.length) (x : UInt8) : Sb (W.setCell ⟨b, k, none⟩ (.int .u8 (x.toNat : Int))) b (l.set k x) := by
  have hc := h.cell k hk
  obtain ⟨c, t, fz, hb⟩ : ∃ c t fz, W.heap[b]? = some (.cells c t fz) := by
    unfold World.cell? at hc
    split at hc
    · rename_i c t fz hb
      exact ⟨c, t, fz, hb⟩
    · cases hc
  have hn := setCell_block W b k (.int .u8 (x.toNat : Int)) c t fz hb
  have hsz : k < c.size := by
    rw [cell_blk hb] at hc
    exact (Array.getElem?_eq_some_iff.1 hc).1
  refine ⟨heap_lt hn, fun j hj => ?_, fun j hj => ?_⟩
  · rw [cell_blk hn]
    have hj' : j < l.length := by simpa using hj
    by_cases e : k = j
    · subst e
      simp [hsz]
    · have := h.cell j hj'
      rw [cell_blk hb] at this
      rw [Array.getElem?_setIfInBounds_ne e, this, List.getElem_set_ne e]
  · have hj' : j < l.length := by simpa using hj
    have := h.fz j hj'
    unfold World.frozen? at this ⊢
    simp only [hb] at this
    simp only [hn]
    exact this
theorem Sb.conv {W : World} {b : Nat} {l : List UInt8} (h : Sb W b l) (cap : Nat) : Sem.run Tryd.prog (convert 103 9 (.slice (some ⟨b, 0, none⟩) l.length cap)) W = .ok (.string (bt l)) W :=
  run_convert_bytes_back (P := Tryd.prog) W 103 9 5 ⟨b, 0, none⟩ cap l Tryd.underlying103 Tryd.underlying5 Tryd.underlying9 (fun j hj => by
    rw [Addr.add_lit, Nat.zero_add]
    exact h.cell j hj)
theorem sm_succ (l : List UInt8) (k : Nat) (h : k < l.length) : smL (l.take (k + 1)) ++ l.drop (k + 1) = (smL (l.take k) ++ l.drop k).set k (smC l[k]) := by
  unfold smL
  rw [List.take_succ_eq_append_getElem h, List.map_append, List.set_append_right _ _ (by simp; omega)]
  have : k - (List.map smC (List.take k l)).length = 0 := by simp; omega
  rw [this, List.drop_eq_getElem_cons h, List.set_cons_zero]
  simp

set_option maxHeartbeats 4000000 in
set_option maxRecDepth 100000 in
theorem small_any (s : ByteArray) (w : World) (hs : s.size ≤ 140737488355328) : Calls Tryd.prog 30 #[.string s] w fun e w' => e = .returned (.string (smS s)) ∧ Below w.heap.size w w' := by
  have hcv := Lib.run_convert_string_bytes (P := Tryd.prog) w 9 103 5 s Tryd.underlying9 Tryd.underlying103 Tryd.underlying5
  have S0 : Hid (Sb (Lib.bytesWorld w 5 s) w.heap.size s.data.toList ∧ Below w.heap.size w (Lib.bytesWorld w 5 s)) := ⟨Sb.new w s, bytesWorld_below w s⟩
  have hcap : s.size ≤ grownCap w s.size 0 5 := grownCap_ge w s.size 0 5
  obtain ⟨C, hC⟩ : ∃ C, grownCap w s.size 0 5 = C := ⟨_, rfl⟩
  rw [hC] at hcv hcap
  obtain ⟨wb, hwb⟩ : ∃ x, Lib.bytesWorld w 5 s = x := ⟨_, rfl⟩
  rw [hwb] at hcv S0
  have HL : Hid (s.data.toList.length = s.size) := (Lib.size_eq s).symm
  clear hC hwb
  go_enter Tryd.func30, Tryd.ntmps30
  go_wp2_with fail
  go_loopw [4, 5, 10] (fun _ _ iv wr => ∃ k : Nat, iv = .int .i64 (k : Int) ∧ k ≤ s.size ∧ Hid (Sb wr w.heap.size (smL (s.data.toList.take k) ++ s.data.toList.drop k) ∧ Below w.heap.size w wr)) (fun _ _ iv _ => s.size - (intOf iv).toNat)
  case atStart => exact ⟨0, rfl, by omega, by simpa [smL] using S0.out.1, S0.out.2⟩
  case round =>
    obtain ⟨k, rfl, hk, hS⟩ := hrel
    clear S0 hcv
    by_cases hlt : k < s.size
    · have hlt' : (k : Int) < (s.size : Int) := by omega
      have kl : k < s.data.toList.length := by rw [HL.out]; exact hlt
      have kl2 : k < (smL (s.data.toList.take k) ++ s.data.toList.drop k).length := by rw [List.length_append, smL, List.length_map, List.length_take, List.length_drop]; omega
      obtain ⟨x, hx⟩ : ∃ x : UInt8, s.data.toList[k]'kl = x := ⟨_, rfl⟩
      have c0 := hS.out.1.cell k kl2
      have f0 := hS.out.1.fz k kl2
      have l0 := hS.out.1.lt
      have hxk : (smL (s.data.toList.take k) ++ s.data.toList.drop k)[k]'kl2 = x := by
        rw [List.getElem_append_right (by rw [smL, List.length_map, List.length_take]; omega)]
        simp only [smL, List.length_map, List.length_take, List.getElem_drop]
        rw [← hx]
        congr 1
        omega
      rw [hxk] at c0
      have HN : Hid (∀ y : UInt8, smC x = y → Sb (wr.setCell ⟨w.heap.size, k, none⟩ (.int .u8 (y.toNat : Int))) w.heap.size (smL (s.data.toList.take (k + 1)) ++ s.data.toList.drop (k + 1)) ∧ Below w.heap.size w (wr.setCell ⟨w.heap.size, k, none⟩ (.int .u8 (y.toNat : Int)))) := fun y hy => by
        rw [sm_succ _ k kl, hx, hy]
        exact ⟨hS.out.1.set k kl2 y, hS.out.2.setCell (p := ⟨w.heap.size, k, none⟩) (Nat.le_refl _) _⟩
      have HI : Hid (smC x = x → Sb wr w.heap.size (smL (s.data.toList.take (k + 1)) ++ s.data.toList.drop (k + 1)) ∧ Below w.heap.size w wr) := fun hy => by
        refine ⟨?_, hS.out.2⟩
        rw [sm_succ _ k kl, hx, hy]
        have := hS.out.1
        rw [← hxk, List.set_getElem_self]
        exact this
      have hx8 := x.toNat_lt
      clear hS hxk hx kl kl2
      by_cases h1 : 65 ≤ x.toNat
      · have h1' : (65 : Int) ≤ (x.toNat : Int) := by omega
        by_cases h2 : x.toNat ≤ 90
        · have h2' : (x.toNat : Int) ≤ 90 := by omega
          have hy := smC_up h1 h2
          obtain ⟨y, hyy⟩ : ∃ y, smC x = y := ⟨_, rfl⟩
          have HN2 := HN.out y hyy
          rw [hyy] at hy
          have hw1 : IntKind.u8.wrap ((x.toNat : Int) - 65) = (x.toNat : Int) - 65 := by rw [IntKind.wrap_u8]; omega
          have hw2 : IntKind.u8.wrap ((x.toNat : Int) - 65 + 97) = (y.toNat : Int) := by rw [IntKind.wrap_u8]; omega
          replace HN2 : Hid _ := HN2
          clear HN HI hyy hy
          go_wp2_with fail
          go_roundw
          case rel => exact ⟨k + 1, by simp, by omega, HN2.out⟩
          case measure => simp [intOf]; omega
        · have h2' : ¬ (x.toNat : Int) ≤ 90 := by omega
          have HN2 : Hid _ := HI.out (smC_id (by omega))
          clear HN HI
          go_wp2_with fail
          go_roundw
          case rel => exact ⟨k + 1, by simp, by omega, HN2.out⟩
          case measure => simp [intOf]; omega
      · have h1' : ¬ (65 : Int) ≤ (x.toNat : Int) := by omega
        have HN2 : Hid _ := HI.out (smC_id (by omega))
        clear HN HI
        go_wp2_with fail
        go_roundw
        case rel => exact ⟨k + 1, by simp, by omega, HN2.out⟩
        case measure => simp [intOf]; omega
    · obtain rfl : k = s.size := by omega
      have hlt' : ¬ (s.size : Int) < (s.size : Int) := by omega
      have HB : Hid (Below w.heap.size w wr) := hS.out.2
      have hcv2 : Sem.run Tryd.prog (convert 103 9 (.slice (some ⟨w.heap.size, 0, none⟩) s.size C)) wr = .ok (.string (smS s)) wr := by
        have h := hS.out.1
        rw [← HL.out, List.take_length, List.drop_length, List.append_nil] at h
        have h2 := h.conv C
        rw [show (smL s.data.toList).length = s.size by rw [smL, List.length_map, HL.out]] at h2
        exact h2
      clear hS
      go_wp2_with fail
      go_ret
      exact ⟨rfl, HB.out⟩
end Go.Proofs.YtfponcdhaefkdaaDoor
/- A text cut at its commas. -/
namespace Go.Proofs.YtfponcdhaefkdaaDoor
open Go.RowKit
set_option linter.unusedVariables false
set_option linter.unusedSimpArgs false

def cutL : List UInt8 → List (List UInt8)
  | [] => [[]]
  | c :: r => if c = 44 then [] :: cutL r else match cutL r with
    | [] => [[c]]
    | p :: ps => (c :: p) :: ps
theorem cutL_ne : ∀ l, cutL l ≠ []
  | [] => by simp [cutL]
  | c :: r => by
    unfold cutL
    split
    · simp
    · split <;> simp
theorem cut_none : ∀ {l : List UInt8}, (∀ k : Nat, l[k]? ≠ some 44) → cutL l = [l]
  | [], _ => rfl
  | c :: r, h => by
    have hc : c ≠ 44 := fun e => h 0 (by simp [e])
    have hr := cut_none (l := r) fun k => by have := h (k + 1); simpa using this
    unfold cutL
    rw [if_neg hc, hr]
theorem cut_some : ∀ {l : List UInt8} {o : Nat}, l[o]? = some 44 → (∀ k : Nat, k < o → l[k]? ≠ some 44) → cutL l = l.take o :: cutL (l.drop (o + 1))
  | [], o, h, _ => by simp at h
  | c :: r, 0, h, _ => by
    have : c = 44 := by simpa using h
    rw [cutL, if_pos this]
    rfl
  | c :: r, o + 1, h, hk => by
    have hc : c ≠ 44 := fun e => hk 0 (by omega) (by simp [e])
    have hr := cut_some (l := r) (o := o) (by simpa using h) fun k hko => by have := hk (k + 1) (by omega); simpa using this
    rw [cutL, if_neg hc, hr]
    rfl
def cutS (s : ByteArray) : List ByteArray := (cutL s.data.toList).map bt
theorem cutS_none {s : ByteArray} (h : Lib.indexByte s.data.toList 44 = -1) : cutS s = [s] := by
  unfold cutS
  rw [cut_none (Lib.indexByte_none h)]
  simp [bt_self]
theorem cutS_some {s : ByteArray} {o : Nat} (h : Lib.indexByte s.data.toList 44 = (o : Int)) : o < s.size ∧ cutS s = s.extract 0 o :: cutS (s.extract (o + 1) s.size) := by
  obtain ⟨h1, h2⟩ := Lib.indexByte_some h
  have hlt : o < s.data.toList.length := (List.getElem?_eq_some_iff.1 h1).1
  have hls := Lib.size_eq s
  refine ⟨by omega, ?_⟩
  unfold cutS
  rw [cut_some h1 h2, List.map_cons]
  congr 1
  · apply ba_eq
    rw [bt_list, Lib.extract_data]
    simp
  · rw [Lib.extract_data, List.take_of_length_le (by rw [List.length_drop]; omega)]
theorem cutL_size : ∀ (l p : List UInt8), p ∈ cutL l → p.length ≤ l.length
  | [], p, h => by simp [cutL] at h; simp [h]
  | c :: r, p, h => by
    rw [cutL] at h
    split at h
    · rcases List.mem_cons.1 h with rfl | h
      · simp
      · have := cutL_size r p h
        simp
        omega
    · split at h
      · simp at h
        simp [h]
      · rename_i q ps hq
        rcases List.mem_cons.1 h with rfl | h
        · have := cutL_size r q (by rw [hq]; simp)
          simp
          exact this
        · have := cutL_size r p (by rw [hq]; simp [h])
          simp
          omega
theorem cutS_size {s x : ByteArray} (h : x ∈ cutS s) : x.size ≤ s.size := by
  obtain ⟨p, hp, rfl⟩ := List.mem_map.1 h
  rw [bt_size, Lib.size_eq s]
  exact cutL_size _ _ hp
end Go.Proofs.YtfponcdhaefkdaaDoor
/- The library functions that are called, by their contracts. -/
namespace Go.Proofs.YtfponcdhaefkdaaDoor
open Go.Shelf
def Tryd.lays160_ren : Go.Shelf.Ren := ⟨fun | 160 => 31 | 232 => 58 | 231 => 57 | 227 => 59 | 234 => 61 | 233 => 60 | 236 => 63 | 235 => 62 | 228 => 78 | 271 => 80 | 151 => 79 | 197 => 76 | 120 => 91 | 152 => 90 | 260 => 88 | 137 => 98 | 119 => 99 | 224 => 96 | 225 => 95 | 217 => 94 | 266 => 102 | n => n, fun | 9 => 9 | 4 => 4 | 3 => 3 | 5 => 5 | 117 => 107 | 116 => 106 | 0 => 0 | 124 => 110 | 21 => 21 | 105 => 122 | 46 => 134 | 119 => 133 | 139 => 137 | 138 => 136 | n => n, fun | 3 => 1 | 4 => 2 | n => n⟩
theorem Tryd.lays160 : Go.Proofs.Lays.n160 Tryd.prog Tryd.lays160_ren := {
  mixed := by kernel_rfl
  f119 := Tryd.func99.trans (congrArg some (by kernel_rfl))
  f120 := Tryd.func91.trans (congrArg some (by kernel_rfl))
  f137 := Tryd.func98.trans (congrArg some (by kernel_rfl))
  f151 := Tryd.func79.trans (congrArg some (by kernel_rfl))
  f152 := Tryd.func90.trans (congrArg some (by kernel_rfl))
  f160 := Tryd.func31.trans (congrArg some (by kernel_rfl))
  f197 := Tryd.func76.trans (congrArg some (by kernel_rfl))
  f217 := Tryd.func94.trans (congrArg some (by kernel_rfl))
  f224 := Tryd.func96.trans (congrArg some (by kernel_rfl))
  f225 := Tryd.func95.trans (congrArg some (by kernel_rfl))
  f227 := Tryd.func59.trans (congrArg some (by kernel_rfl))
  f228 := Tryd.func78.trans (congrArg some (by kernel_rfl))
  f231 := Tryd.func57.trans (congrArg some (by kernel_rfl))
  f232 := Tryd.func58.trans (congrArg some (by kernel_rfl))
  f233 := Tryd.func60.trans (congrArg some (by kernel_rfl))
  f234 := Tryd.func61.trans (congrArg some (by kernel_rfl))
  f235 := Tryd.func62.trans (congrArg some (by kernel_rfl))
  f236 := Tryd.func63.trans (congrArg some (by kernel_rfl))
  f260 := Tryd.func88.trans (congrArg some (by kernel_rfl))
  f266 := Tryd.func102.trans (congrArg some (by kernel_rfl))
  f271 := Tryd.func80.trans (congrArg some (by kernel_rfl))
  t0 := Tryd.underlying0
  a0 := Tryd.isAgg0
  z0 := Tryd.sizeOf0
  v0 := Tryd.zeroValue0
  t3 := Tryd.underlying3
  a3 := Tryd.isAgg3
  z3 := Tryd.sizeOf3
  v3 := Tryd.zeroValue3
  t4 := Tryd.underlying4
  a4 := Tryd.isAgg4
  z4 := Tryd.sizeOf4
  v4 := Tryd.zeroValue4
  t5 := Tryd.underlying5
  a5 := Tryd.isAgg5
  z5 := Tryd.sizeOf5
  v5 := Tryd.zeroValue5
  t9 := Tryd.underlying9
  a9 := Tryd.isAgg9
  z9 := Tryd.sizeOf9
  v9 := Tryd.zeroValue9
  t21 := Tryd.underlying21
  a21 := Tryd.isAgg21
  z21 := Tryd.sizeOf21
  v21 := Tryd.zeroValue21
  t46 := Tryd.underlying134
  a46 := Tryd.isAgg134
  z46 := Tryd.sizeOf134
  v46 := Tryd.zeroValue134
  t105 := Tryd.underlying122
  a105 := Tryd.isAgg122
  z105 := Tryd.sizeOf122
  v105 := Tryd.zeroValue122
  t116 := Tryd.underlying106
  a116 := Tryd.isAgg106
  z116 := Tryd.sizeOf106
  t117 := Tryd.underlying107
  a117 := Tryd.isAgg107
  z117 := Tryd.sizeOf107
  v117 := Tryd.zeroValue107
  t119 := Tryd.underlying133
  a119 := Tryd.isAgg133
  z119 := Tryd.sizeOf133
  t124 := Tryd.underlying110
  a124 := Tryd.isAgg110
  z124 := Tryd.sizeOf110
  v124 := Tryd.zeroValue110
  t138 := Tryd.underlying136
  a138 := Tryd.isAgg136
  z138 := Tryd.sizeOf136
  v138 := Tryd.zeroValue136
  t139 := Tryd.underlying137
  a139 := Tryd.isAgg137
  z139 := Tryd.sizeOf137
  v139 := Tryd.zeroValue137
  g3 := by kernel_rfl
  g4 := by kernel_rfl }
open Go.RowKit in
theorem Tryd.strings_Trim_blanks (s : ByteArray) (w : World) (hs : s.size ≤ 9223372036854775807) :
    Calls Tryd.prog 31 #[.string s, .string ⟨#[32, 9]⟩] w fun e w' => e = .returned (.string ⟨(Lib.trimS s.data.toList [32, 9]).toArray⟩) ∧ Below w.heap.size w w' := Any.strings_Trim_laid Tryd.lays160 (by kernel_rfl) s ⟨#[32, 9]⟩ w hs (by decide) (ascii_of_all (by decide))
def Tryd.lays143_ren : Go.Shelf.Ren := ⟨fun | 143 => 77 | 219 => 89 | 217 => 94 | 225 => 95 | 224 => 96 | 267 => 97 | 266 => 102 | 314 => 103 | n => n, fun | 9 => 9 | 3 => 3 | 4 => 4 | 5 => 5 | 46 => 134 | 146 => 142 | 51 => 141 | n => n, fun | 1 => 3 | n => n⟩
theorem Tryd.lays143 : Go.Proofs.Lays.n143 Tryd.prog Tryd.lays143_ren := {
  mixed := by kernel_rfl
  f143 := Tryd.func77.trans (congrArg some (by kernel_rfl))
  f217 := Tryd.func94.trans (congrArg some (by kernel_rfl))
  f219 := Tryd.func89.trans (congrArg some (by kernel_rfl))
  f224 := Tryd.func96.trans (congrArg some (by kernel_rfl))
  f225 := Tryd.func95.trans (congrArg some (by kernel_rfl))
  f266 := Tryd.func102.trans (congrArg some (by kernel_rfl))
  f267 := Tryd.func97.trans (congrArg some (by kernel_rfl))
  f314 := Tryd.func103.trans (congrArg some (by kernel_rfl))
  t3 := Tryd.underlying3
  a3 := Tryd.isAgg3
  z3 := Tryd.sizeOf3
  v3 := Tryd.zeroValue3
  t4 := Tryd.underlying4
  a4 := Tryd.isAgg4
  z4 := Tryd.sizeOf4
  v4 := Tryd.zeroValue4
  t5 := Tryd.underlying5
  a5 := Tryd.isAgg5
  z5 := Tryd.sizeOf5
  v5 := Tryd.zeroValue5
  t9 := Tryd.underlying9
  a9 := Tryd.isAgg9
  z9 := Tryd.sizeOf9
  v9 := Tryd.zeroValue9
  t46 := Tryd.underlying134
  a46 := Tryd.isAgg134
  z46 := Tryd.sizeOf134
  v46 := Tryd.zeroValue134
  t51 := Tryd.underlying141
  a51 := Tryd.isAgg141
  z51 := Tryd.sizeOf141
  v51 := Tryd.zeroValue141
  t146 := Tryd.underlying142
  a146 := Tryd.isAgg142
  z146 := Tryd.sizeOf142
  v146 := Tryd.zeroValue142
  g1 := by kernel_rfl }
open Go.RowKit Go.Lib in
theorem Tryd.strings_Index_one (s : ByteArray) (c : UInt8) (w : World) :
    Calls Tryd.prog 77 #[.string s, .string ⟨#[c]⟩] w fun e w' => e = .returned (.int .i64 (Lib.indexByte s.data.toList c)) ∧ w' = w := Any.strings_Index_one Tryd.lays143 s c w
end Go.Proofs.YtfponcdhaefkdaaDoor
/- strings.SplitSeq at a comma: its iterator. -/
namespace Go.Proofs.YtfponcdhaefkdaaDoor
open Go.RowKit Go.Shelf
set_option linter.unusedVariables false
set_option linter.unusedSimpArgs false
attribute [local go_sem] Oper.semAt_some

/-- the iterator's three boxes -/
structure Bx (bs bp bz : Nat) (s : ByteArray) (W : World) : Prop where
  s : W.heap[bs]? = some (.cells #[.string s] 9 (0, 0))
  p : W.heap[bp]? = some (.cells #[.string ⟨#[44]⟩] 9 (0, 0))
  z : W.heap[bz]? = some (.cells #[.int .i64 0] 3 (0, 0))
/-- a round leaves the three boxes alone -/
def Cm (bs bp bz : Nat) (W W' : World) : Prop := W.heap.size ≤ W'.heap.size ∧ W'.heap[bs]? = W.heap[bs]? ∧ W'.heap[bp]? = W.heap[bp]? ∧ W'.heap[bz]? = W.heap[bz]?
theorem Bx.cm {bs bp bz : Nat} {s : ByteArray} {W W' : World} (h : Bx bs bp bz s W) (c : Cm bs bp bz W W') : Bx bs bp bz s W' := ⟨c.2.1.trans h.s, c.2.2.1.trans h.p, c.2.2.2.trans h.z⟩
theorem Bx.set {bs bp bz : Nat} {s : ByteArray} {W : World} (h : Bx bs bp bz s W) (h1 : bp ≠ bs) (h2 : bz ≠ bs) (t : ByteArray) : Bx bs bp bz t (W.setCell ⟨bs, 0, none⟩ (.string t)) :=
  ⟨setCell_block _ _ _ _ _ _ _ h.s, (setCell_other _ _ _ _ _ h1).trans h.p, (setCell_other _ _ _ _ _ h2).trans h.z⟩
def boxLen (bs : Nat) (W : World) : Nat := match W.cell? ⟨bs, 0, none⟩ with | some (.string s) => s.size | _ => 0
theorem Bx.len {bs bp bz : Nat} {s : ByteArray} {W : World} (h : Bx bs bp bz s W) : boxLen bs W = s.size := by
  unfold boxLen
  rw [cell_blk h.s]
  rfl

set_option maxRecDepth 100000 in
set_option maxHeartbeats 4000000 in
theorem split_in (n : Nat) (hn : 1 ≤ n) (l bs bp bz : Nat) (s : ByteArray) (J : List ByteArray → World → Prop) (W : World) (hB : Bx bs bp bz s W) (h1 : bp ≠ bs) (h2 : bz ≠ bs) (hsz : s.size ≤ 140737488355328)
    (hJ : ∀ pre A A', J pre A → Ks (fun k => k = bs) A A' → J pre A')
    (hY : ∀ pre x r W1, pre ++ x :: r = cutS s → J pre W1 → YieldAt Fence.wide (n - 1) Tryd.prog l #[.string x] W1 fun e W' => e = .returned (.bool true) ∧ J (pre ++ [x]) W' ∧ Cm bs bp bz W1 W') (h0 : J [] W) :
    CallsIn Fence.wide n Tryd.prog 75 #[.func (.yield l) #[] #[], .pointer (some ⟨bp, 0, none⟩), .pointer (some ⟨bs, 0, none⟩), .pointer (some ⟨bz, 0, none⟩)] W fun e W' => (∃ v, e = .returned v) ∧ J (cutS s) W' := by
  have HB : Hid (Bx bs bp bz s W) := hB
  have HJ : Hid (J [] W) := h0
  have HS : Hid (∀ pre A A', J pre A → Ks (fun k => k = bs) A A' → J pre A') := hJ
  have HY : Hid (∀ pre x r W1, pre ++ x :: r = cutS s → J pre W1 → YieldAt Fence.wide (n - 1) Tryd.prog l #[.string x] W1 fun e W' => e = .returned (.bool true) ∧ J (pre ++ [x]) W' ∧ Cm bs bp bz W1 W') := hY
  have p0 := cell_blk hB.p 0
  simp only [List.getElem?_toArray, List.getElem?_cons_zero] at p0
  have pl := heap_lt hB.p
  clear hB h0 hJ hY
  refine callsIn_of_wp Tryd.func75 rfl trivial ?_ rfl
  simp only [Tryd.ntmps75, List.size_toArray, List.length_cons, List.length_nil, Nat.reduceAdd, Nat.reduceSub, Array.replicate_succ, Array.replicate_zero, List.push_toArray, List.append_toArray, List.nil_append, List.cons_append]
  gi_wp2
  clear p0 pl
  gi_loopw [7, 8] (fun _ _ wr => ∃ (S : ByteArray) (pre : List ByteArray), Hid (Bx bs bp bz S wr) ∧ Hid (J pre wr) ∧ Hid (pre ++ cutS S = cutS s) ∧ S.size ≤ s.size) (fun _ _ wr => boxLen bs wr)
  case atStart => exact ⟨s, [], HB.out, HJ.out, by show _ = _; simp, Nat.le_refl _⟩
  case round =>
    obtain ⟨S, pre, hb, hj, hc, hle⟩ := hrel
    clear HB HJ
    have s0 := cell_blk hb.out.s 0
    have p0 := cell_blk hb.out.p 0
    have z0 := cell_blk hb.out.z 0
    simp only [List.getElem?_toArray, List.getElem?_cons_zero] at s0 p0 z0
    have sl := heap_lt hb.out.s
    have pl := heap_lt hb.out.p
    have zl := heap_lt hb.out.z
    have f0 := frozen_blk hb.out.s 0
    by_cases hi : Lib.indexByte S.data.toList 44 = -1
    · have hcs := cutS_none hi
      obtain ⟨fn, tmps, assign, body, hy, hR⟩ := HY.out pre S [] wr (by rw [← hcs]; exact hc.out) hj.out
      have hlt : (-1 : Int) < 0 := by decide
      have HF : Hid (pre ++ [S] = cutS s) := by show _ = _; rw [← hcs]; exact hc.out
      clear hc hcs hb hj HY HS
      gi_wp2_with (refine ⟨trivial, ?_⟩; gi_at_call 77; refine (callsIn_wide.2 (Tryd.strings_Index_one _ _ _)).mono ?_; rintro e w1 ⟨rfl, hw⟩; subst hw; try rw [hi])
      refine hR.mono ?_
      rintro e W3 ⟨rfl, hJ3, _⟩
      rw [HF.out] at hJ3
      replace hJ3 : Hid (J (cutS s) W3) := hJ3
      gi_wp2
      go_end0
      exact ⟨⟨_, rfl⟩, hJ3.out⟩
    · obtain ⟨o, ho⟩ : ∃ o : Nat, Lib.indexByte S.data.toList 44 = (o : Int) := by
        have := Lib.indexByte_ge S.data.toList 44
        exact ⟨(Lib.indexByte S.data.toList 44).toNat, by omega⟩
      obtain ⟨hol, hcs⟩ := cutS_some ho
      obtain ⟨fn, tmps, assign, body, hy, hR⟩ := HY.out pre (S.extract 0 o) _ wr (by rw [← hcs]; exact hc.out) hj.out
      have hge : ¬ (o : Int) < 0 := by omega
      have hol' : (o : Int) ≤ (S.size : Int) := by omega
      have hol2 : (o : Int) + 1 ≤ (S.size : Int) := by omega
      have ho62 : o ≤ 140737488355328 := by omega
      have HF : Hid ((pre ++ [S.extract 0 o]) ++ cutS (S.extract (o + 1) S.size) = cutS s) := by
        show _ = _
        rw [← hc.out, hcs, List.append_assoc]
        rfl
      have hsz2 : (S.extract (o + 1) S.size).size < S.size := by rw [ByteArray.size_extract]; omega
      have HB : Hid (Bx bs bp bz S wr) := hb.out
      have HI : Hid (Lib.indexByte S.data.toList 44 = (o : Int)) := ho
      clear hc hcs hb hj HY ho hi
      gi_wp2_with (refine ⟨trivial, ?_⟩; gi_at_call 77; refine (callsIn_wide.2 (Tryd.strings_Index_one _ _ _)).mono ?_; rintro e w1 ⟨rfl, hw⟩; subst hw; try rw [HI.out])
      refine hR.mono ?_
      rintro e W3 ⟨rfl, hJ3, hC3⟩
      have HB3 : Hid (Bx bs bp bz S W3) := HB.out.cm hC3
      have s0' := cell_blk HB3.out.s 0
      have p0' := cell_blk HB3.out.p 0
      simp only [List.getElem?_toArray, List.getElem?_cons_zero] at s0' p0'
      have sl' := heap_lt HB3.out.s
      have pl' := heap_lt HB3.out.p
      have f0' := frozen_blk HB3.out.s 0
      have HJ3 : Hid (J (pre ++ [S.extract 0 o]) (W3.setCell ⟨bs, 0, none⟩ (.string (S.extract (o + 1) S.size)))) := HS.out _ _ _ hJ3 (Ks.setCell _ _ _ _ _ rfl)
      have HB4 : Hid (Bx bs bp bz (S.extract (o + 1) S.size) (W3.setCell ⟨bs, 0, none⟩ (.string (S.extract (o + 1) S.size)))) := HB3.out.set h1 h2 _
      have HM : Hid (boxLen bs (W3.setCell ⟨bs, 0, none⟩ (.string (S.extract (o + 1) S.size))) < boxLen bs w1) := by
        show _ < _
        rw [HB4.out.len, HB.out.len]
        exact hsz2
      obtain ⟨X, hX⟩ : ∃ X, S.extract (o + 1) S.size = X := ⟨_, rfl⟩
      rw [hX] at HF HJ3 HB4 HM hsz2
      clear hJ3 hC3 HI hy hR s0 p0 z0 sl pl zl f0 HB HB3
      gi_wp2
      exact ⟨⟨X, _, HB4.out, HJ3.out, HF.out, by omega⟩, HM.out⟩
end Go.Proofs.YtfponcdhaefkdaaDoor
/- A range over the pieces of a text; a function that leaves with several marks. -/
namespace Go.Proofs.YtfponcdhaefkdaaDoor
open Go.RowKit Go.Shelf
set_option linter.unusedVariables false
set_option linter.unusedSimpArgs false

/-- marks of loops that are over, the newest first -/
def Dl : List Deferred → World → Prop
  | [], _ => True
  | d :: r, W => (∃ D, d = { target := .collected D, args := #[] } ∧ W.heap[D]? = some (.deferred (some [])) ∧ ∀ d' ∈ r, ∀ D', d'.target = .collected D' → D' < D) ∧ Dl r W
theorem Dl.keep : ∀ {ds : List Deferred} {W W' : World}, Dl ds W → (∀ k : Nat, W.heap[k]? = some (.deferred (some [])) → W'.heap[k]? = W.heap[k]?) → Dl ds W'
  | [], _, _, _, _ => trivial
  | _ :: _, _, _, ⟨⟨D, h1, h2, h3⟩, h4⟩, hk => ⟨⟨D, h1, (hk D h2).trans h2, h3⟩, h4.keep hk⟩
theorem Dl.lt : ∀ {ds : List Deferred} {W : World}, Dl ds W → ∀ d ∈ ds, ∀ D, d.target = .collected D → D < W.heap.size ∧ W.heap[D]? = some (.deferred (some []))
  | _ :: _, W, ⟨⟨D, h1, h2, h3⟩, h4⟩, d, hd, D', hD => by
    rcases List.mem_cons.1 hd with rfl | hd
    · subst h1
      simp only [Target.collected.injEq] at hD
      subst hD
      exact ⟨heap_lt h2, h2⟩
    · exact h4.lt d hd D' hD
theorem leaves_marks {fn : Func} {tmps : Array Value} {R : Ending → World → Prop} {n : Nat} : ∀ (ds : List Deferred) (W : World), Dl ds W →
    (∀ W', Ks (fun k => ∃ d ∈ ds, d.target = .collected k) W W' → ∃ v, (results fn tmps).run Tryd.prog W' = .ok v W' ∧ R (.returned v) W') → LeavesInM Fence.wide n Tryd.prog fn tmps R ds .returning W
  | [], W, _, h => h W (Ks.refl _ _)
  | d :: ds, W, ⟨⟨D, hd, hD, hlt⟩, hr⟩, h => by
    refine ⟨by simp, .inl ⟨D, _, by rw [hd], run_takeDeferred hD, ?_⟩⟩
    have hput : ∀ k : Nat, k ≠ D → (W.putObj D (.deferred none)).heap[k]? = W.heap[k]? := fun k hk => World.putObj_heap_other hk
    refine leaves_marks ds _ ?_ fun W' hW' => h W' ?_
    · have : ∀ (ds : List Deferred), (∀ d' ∈ ds, ∀ D', d'.target = .collected D' → D' < D) → Dl ds W → Dl ds (W.putObj D (.deferred none)) := by
        intro ds
        induction ds with
        | nil => intros; trivial
        | cons d' r ih =>
          rintro hl ⟨⟨D', g1, g2, g3⟩, g4⟩
          have hlt' := hl d' (by simp) D' (by rw [g1])
          exact ⟨⟨D', g1, (hput D' (by omega)).trans g2, g3⟩, ih (fun x hx => hl x (by simp [hx])) g4⟩
      exact this ds hlt hr
    · have hk1 : Ks (fun k => ∃ d' ∈ d :: ds, d'.target = .collected k) W (W.putObj D (.deferred none)) := ⟨rfl, rfl, rfl, by simp, fun k _ hk => hput k (fun e => hk ⟨d, by simp, by rw [hd, e]⟩)⟩
      exact hk1.trans hW' (fun _ _ h => h) fun k hk ⟨d', h1, h2⟩ => ⟨d', by simp [h1], h2⟩

/-- How a round may end: it goes on, and has left the loop's blocks and the iterator's boxes alone. -/
def RoundGoes (bs bp bz L : Nat) (I : World → Prop) (W : World) : Exit → Act → World → Prop
  | .normal, _, W' => (Cm bs bp bz W W' ∧ W'.heap[L]? = W.heap[L]? ∧ W'.heap[L + 1]? = W.heap[L + 1]?) ∧ I W'
  | _, _, _ => False

theorem range_split {a : Act} {W0 : World} {g : Operand} {assign body : Code} {Q : Exit → Act → World → Prop} {bs bp bz : Nat} {s : ByteArray}
    (hg : a.eval g = .func (.func 75) #[] #[.pointer (some ⟨bp, 0, none⟩), .pointer (some ⟨bs, 0, none⟩), .pointer (some ⟨bz, 0, none⟩)])
    (hB : Bx bs bp bz s W0) (h1 : bp ≠ bs) (h2 : bz ≠ bs) (hsz : s.size ≤ 140737488355328)
    (I : List ByteArray → World → Prop) (A : ByteArray → Act → Prop)
    (hI : ∀ pre W W', I pre W → Ks (fun k => k = bs ∨ k = W0.heap.size ∨ k = W0.heap.size + 1) W W' → I pre W') (h0 : I [] W0)
    (hassign : ∀ (l : Nat) (x : ByteArray) (W : World) (K : Act → World → Prop), (∀ a₁, A x a₁ → K a₁ W) →
      assign.wpIn (Fence.wide.inRound l) 1 Tryd.prog (Exit.then K (fun _ _ _ => False)) { tmps := (#[21].zip #[.string x]).foldl (fun t (p, v) => t.setIfInBounds p v) a.tmps, defers := [] } W)
    (hbody : ∀ (l : Nat) (pre : List ByteArray) (x : ByteArray) (r : List ByteArray) (a₁ : Act) (W : World), pre ++ x :: r = cutS s → I pre W → A x a₁ → W0.heap.size + 1 < W.heap.size → body.wpIn (Fence.wide.inRound l) 1 Tryd.prog (RoundGoes bs bp bz W0.heap.size (I (pre ++ [x])) W) a₁ W)
    (hdone : ∀ W, I (cutS s) W → W.heap[W0.heap.size]? = some (.deferred (some [])) → Q .normal { a with defers := { target := .collected W0.heap.size, args := #[] } :: a.defers } W) :
    (Code.rangeFunc g #[21] assign body).wpIn Fence.wide 3 Tryd.prog Q a W0 := by
  refine wpIn_rangeFunc fun fn hfn => ?_
  obtain ⟨L, hL⟩ : ∃ L, L = W0.heap.size := ⟨_, rfl⟩
  have hsl := heap_lt hB.s
  have hpl := heap_lt hB.p
  have hzl := heap_lt hB.z
  obtain ⟨R, hR⟩ : ∃ R : LoopState → Option Code → Loop, R = fun st pe => { state := st, pending := pe, fn, tmps := a.tmps, params := #[21], assign, body, defers := L } := ⟨_, rfl⟩
  have hput : ∀ (W : World) (o : Obj), L + 1 < W.heap.size → (W.putObj (L + 1) o).heap[L + 1]? = some o ∧ ∀ k, k ≠ L + 1 → (W.putObj (L + 1) o).heap[k]? = W.heap[k]? := fun W o h => ⟨World.putObj_heap_same h, fun k hk => World.putObj_heap_other hk⟩
  obtain ⟨W1, hW1⟩ : ∃ W1, W1 = (W0.alloc (.deferred (some []))).alloc (.loop (R .ready none)) := ⟨_, rfl⟩
  have hrec : W1.heap[L + 1]? = some (.loop (R .ready none)) := by
    rw [hW1, hL]
    exact fresh2 _ _ _
  have hdef : W1.heap[L]? = some (.deferred (some [])) := by
    rw [hW1, hL, heap_al, if_neg (by simp), heap_al, if_pos rfl]
  have hnew : Below W0.heap.size W0 W1 := by rw [hW1]; exact bel2 _ _ _
  have hB1 : Bx bs bp bz s W1 := ⟨(hnew.block _ hsl).trans hB.s, (hnew.block _ hpl).trans hB.p, (hnew.block _ hzl).trans hB.z⟩
  refine ⟨L + 1, [{ target := .collected L, args := #[] }], W1, { target := .fn (.func 75) #[.pointer (some ⟨bp, 0, none⟩), .pointer (some ⟨bs, 0, none⟩), .pointer (some ⟨bz, 0, none⟩)], args := #[.func (.yield (L + 1)) #[] #[]] }, W1, 75,
    #[.func (.yield (L + 1)) #[] #[], .pointer (some ⟨bp, 0, none⟩), .pointer (some ⟨bs, 0, none⟩), .pointer (some ⟨bz, 0, none⟩)], W1, ?_, ?_, fun _ _ => trivial, ?_, fun _ => by omega, ?_⟩
  · rw [hW1, hR, hL]
    exact run_enterLoop_outer _ _ _ _ _
  · simp only [resolve, hg]
    simp [go_sem]
  · simp [invoke, go_sem, enters_of Tryd.func75 (by kernel_rfl) rfl]
  have hround : ∀ (pre : List ByteArray) (x : ByteArray) (r : List ByteArray) (W : World), pre ++ x :: r = cutS s → I pre W → W.heap[L + 1]? = some (.loop (R .ready none)) → W.heap[L]? = some (.deferred (some [])) →
      YieldAt Fence.wide 1 Tryd.prog (L + 1) #[.string x] W fun e W' =>
        e = .returned (.bool true) ∧ (I (pre ++ [x]) W' ∧ W'.heap[L + 1]? = some (.loop (R .ready none)) ∧ W'.heap[L]? = some (.deferred (some []))) ∧ Cm bs bp bz W W' := by
    intro pre x r W hpx hi hr hd
    have hy := run_yield (P := Tryd.prog) (args := #[.string x]) hr (by rw [hR]; rfl)
    rw [hR] at hy
    have hlt : L + 1 < W.heap.size := heap_lt hr
    refine ⟨fn, _, assign, body, hy, roundIn_of_wpIn hfn (hassign _ x W _ fun a₁ ha => ?_)⟩
    refine ⟨_, run_beginRound hr (by rw [hR]), ?_⟩
    obtain ⟨Wb, hWb⟩ : ∃ Wb, Wb = W.putObj (L + 1) (.loop { R .ready none with state := .busy }) := ⟨_, rfl⟩
    rw [← hWb]
    obtain ⟨hrb, hob⟩ := hput W (.loop { R .ready none with state := .busy }) hlt
    rw [← hWb] at hrb hob
    have hkb : Ks (fun k => k = bs ∨ k = W0.heap.size ∨ k = W0.heap.size + 1) W Wb := ⟨by rw [hWb]; rfl, by rw [hWb]; rfl, by rw [hWb]; rfl, by rw [hWb]; simp, fun k _ hk => hob k (fun e => hk (.inr (.inr (by rw [e, hL]))))⟩
    have hszb : W0.heap.size + 1 < Wb.heap.size := by rw [hWb]; simp; omega
    refine wpIn_mono (hbody _ pre x r a₁ Wb hpx (hI pre W Wb hi hkb) ha hszb) ?_
    rintro e a3 W3 hp
    cases e with
    | normal =>
      obtain ⟨⟨hc, hl0, hl1⟩, hi3⟩ := hp
      rw [← hL] at hl0 hl1
      have h3 := hl1.trans hrb
      have e1 : (Instr.endRound (L + 1) none).run Tryd.prog W3 = .ok (.bool true) (W3.putObj (L + 1) (.loop (R .ready none))) := by
        have hend := run_endRound (P := Tryd.prog) none h3
        rw [hR] at hend ⊢
        exact hend
      obtain ⟨hp1, hp2⟩ := hput W3 (.loop (R .ready none)) (heap_lt h3)
      obtain ⟨W4, hW4⟩ : ∃ x, W3.putObj (L + 1) (.loop (R .ready none)) = x := ⟨_, rfl⟩
      have hk4 : Ks (fun k => k = bs ∨ k = W0.heap.size ∨ k = W0.heap.size + 1) W3 W4 := by
        rw [← hW4]
        exact ⟨rfl, rfl, rfl, by simp, fun k _ hk => hp2 k (fun e => hk (.inr (.inr (by rw [e, hL]))))⟩
      rw [hW4] at e1 hp1 hp2
      refine ⟨_, _, e1, rfl, ⟨hI _ W3 _ hi3 hk4, hp1, (hp2 L (by omega)).trans (hl0.trans ((hob L (by omega)).trans hd))⟩, ?_⟩
      obtain ⟨c1, c2, c3, c4⟩ := hc
      have nb : bs ≠ L + 1 := by omega
      have np : bp ≠ L + 1 := by omega
      have nz : bz ≠ L + 1 := by omega
      refine ⟨?_, (hp2 bs nb).trans (c2.trans (hob bs nb)), (hp2 bp np).trans (c3.trans (hob bp np)), (hp2 bz nz).trans (c4.trans (hob bz nz))⟩
      have : W.heap.size = Wb.heap.size := by rw [hWb]; simp
      have := hk4.size
      omega
    | ret => exact hp.elim
    | exit id => exact hp.elim
    | goto t => exact hp.elim
    | panic ch => exact hp.elim
    | outgrown => exact hp.elim
  have hi1 : I [] W1 := hI [] W0 W1 h0 (Ks.of_below hnew)
  refine (split_in 2 (by omega) (L + 1) bs bp bz s (fun pre W => I pre W ∧ W.heap[L + 1]? = some (.loop (R .ready none)) ∧ W.heap[L]? = some (.deferred (some []))) W1 hB1 h1 h2 hsz
    (fun pre P P' h hb => ⟨hI pre P P' h.1 (hb.mono fun _ _ e => .inl e), (hb.block _ (heap_lt h.2.1) (by omega)).trans h.2.1, (hb.block _ (heap_lt h.2.2) (by omega)).trans h.2.2⟩)
    (fun pre x r W hpx h => hround pre x r W hpx h.1 h.2.1 h.2.2) ⟨hi1, hrec, hdef⟩).mono ?_
  rintro e W2 ⟨⟨rv, rfl⟩, hi, hr, hd⟩
  refine ⟨none, _, by have := run_endLoop (P := Tryd.prog) hr (by rw [hR]; simp); rw [hR] at this; exact this, ?_⟩
  rw [hL] at hd ⊢
  exact hdone _ (hI _ W2 _ hi ⟨rfl, rfl, rfl, by simp, fun k _ hk => World.putObj_heap_other fun e => hk (.inr (.inr e))⟩) ((World.putObj_heap_other (by omega)).trans hd)
end Go.Proofs.YtfponcdhaefkdaaDoor
/- The names of a response: which pieces are told. -/
namespace Go.Proofs.YtfponcdhaefkdaaDoor
open Go.RowKit Go.Shelf Go.Maps
set_option linter.unusedVariables false
set_option linter.unusedSimpArgs false

def noS : ByteArray := ⟨#[]⟩
def starS : ByteArray := ⟨#[42]⟩
def varyS : ByteArray := ⟨#[118, 97, 114, 121]⟩
/-- how often a piece stands there -/
def cnt (ps : List ByteArray) (p : ByteArray) : Nat := ps.countP fun x => decide (x = p)
/-- those that are told of the rest, behind those that stood -/
def nmG : List ByteArray → List ByteArray → List ByteArray
  | _, [] => []
  | seen, p :: r => (if cnt seen p ≠ 0 ∨ p = noS ∨ p = starS then [] else [p]) ++ nmG (seen ++ [p]) r
theorem nmG_app : ∀ (a b seen : List ByteArray), nmG seen (a ++ b) = nmG seen a ++ nmG (seen ++ a) b
  | [], b, seen => by simp [nmG]
  | p :: r, b, seen => by
    rw [List.cons_append, nmG, nmG, nmG_app r b, List.append_assoc, List.append_assoc]
    rfl
def nmL (ps : List ByteArray) : List ByteArray := nmG [] ps
theorem nmL_snoc (ps : List ByteArray) (p : ByteArray) : nmL (ps ++ [p]) = nmL ps ++ (if cnt ps p ≠ 0 ∨ p = noS ∨ p = starS then [] else [p]) := by
  unfold nmL
  rw [nmG_app]
  simp [nmG]
theorem nmG_len : ∀ (r seen : List ByteArray), (nmG seen r).length ≤ r.length
  | [], _ => Nat.le_refl _
  | p :: r, seen => by
    rw [nmG, List.length_append, List.length_cons]
    have := nmG_len r (seen ++ [p])
    split <;> simp <;> omega
theorem nmL_len (ps : List ByteArray) : (nmL ps).length ≤ ps.length := nmG_len ps []
/-- a piece as it is told -/
def pcS (x : ByteArray) : ByteArray := smS ⟨(Lib.trimS x.data.toList [32, 9]).toArray⟩
def allP (vs : List ByteArray) : List ByteArray := vs.flatMap fun v => (cutS v).map pcS
theorem allP_succ (vs : List ByteArray) (k : Nat) (h : k < vs.length) : allP (vs.take (k + 1)) = allP (vs.take k) ++ (cutS vs[k]).map pcS := by
  unfold allP
  rw [List.take_succ_eq_append_getElem h, List.flatMap_append]
  simp

theorem cnt_snoc (ps : List ByteArray) (p q : ByteArray) : cnt (ps ++ [p]) q = cnt ps q + (if p = q then 1 else 0) := by
  unfold cnt
  rw [List.countP_append]
  by_cases h : p = q <;> simp [h]
theorem cnt_le (ps : List ByteArray) (p : ByteArray) : cnt ps p ≤ ps.length := List.countP_le_length
theorem cnt_zero (ps : List ByteArray) (p : ByteArray) : cnt ps p = 0 ↔ p ∉ ps := by
  unfold cnt
  rw [List.countP_eq_zero]
  constructor
  · intro h hp
    exact h p hp (by simp)
  · intro h x hx e
    exact h (by have : x = p := by simpa using e
                rw [← this]; exact hx)
/-- how often each piece stood -/
structure Mc (wr : World) (b : Nat) (ps : List ByteArray) : Prop where
  ex : ∃ (n : Nat) (D : DataW Unit), wr.ownsMap Tryd.prog 9 (plainElem Tryd.prog 3) b n D ∧ n ≤ ps.length ∧ ∀ s z, D.atKey (.string s) z = if cnt ps ⟨s.toArray⟩ = 0 then z else .lit (.int .i64 (cnt ps ⟨s.toArray⟩ : Int))
theorem law9 : Keyed Tryd.prog 9 := string_keyed Tryd.underlying9
theorem zero3 (w : World) : (zeroValue 3).run Tryd.prog w = .ok (.int .i64 0) w := by kernel_rfl
theorem Mc.start (w : World) : Mc (w.alloc (.map #[] 0)) w.heap.size [] := ⟨0, .map [], World.ownsMap_made w _ _ _, Nat.le_refl _, fun s z => rfl⟩
theorem Mc.lt {wr : World} {b : Nat} {ps : List ByteArray} (h : Mc wr b ps) : b < wr.heap.size := by obtain ⟨n, D, h1, _⟩ := h.ex; exact h1.lt
theorem Mc.stays {wr w' : World} {b : Nat} {ps : List ByteArray} (h : Mc wr b ps) (hb : w'.heap[b]? = wr.heap[b]?) : Mc w' b ps := by
  obtain ⟨n, D, h1, h2⟩ := h.ex
  obtain ⟨es, clock, h3, h4⟩ := h1
  exact ⟨n, D, ⟨es, clock, hb.trans h3, h4⟩, h2⟩
theorem arr_list (s : ByteArray) : (⟨s.data.toList.toArray⟩ : ByteArray) = s := by cases s; simp
theorem Mc.find {wr : World} {b : Nat} {ps : List ByteArray} (h : Mc wr b ps) (s : ByteArray) (hs : s.size ≤ maxLen) : (Instr.lookup 72 (.map (some b)) (.string s) false).run Tryd.prog wr = .ok (.int .i64 (cnt ps s : Int)) wr := by
  obtain ⟨n, D, h1, h2, h3⟩ := h.ex
  have h3' := h3 s.data.toList
  rw [arr_list] at h3'
  obtain ⟨c, hrun, hat, hwc⟩ := h1.lookup_int law9 Tryd.underlying72 Tryd.underlying3 (zero3 wr) (WideMaps.keyOf_string_mk Tryd.underlying9 hs)
  rw [hrun]
  rw [h3'] at hat
  by_cases hc : cnt ps s = 0
  · rw [if_pos hc] at hat
    simp at hat
    rw [hc, ← hat]
    rfl
  · rw [if_neg hc] at hat
    simp at hat
    rw [hat]
set_option maxRecDepth 100000 in
theorem Mc.put {wr : World} {b : Nat} {ps : List ByteArray} (h : Mc wr b ps) (s : ByteArray) (hs : s.size ≤ maxLen) (hl : ps.length < 4611686018427387904) :
    ∃ w' u, (Instr.mapUpdate 72 (.map (some b)) (.string s) (.int .i64 ((cnt ps s : Int) + 1))).run Tryd.prog wr = .ok u w' ∧ Mc w' b (ps ++ [s]) ∧ wr.grownBy w' (some b) := by
  obtain ⟨n, D, h1, h2, h3⟩ := h.ex
  have hc := cnt_le ps s
  obtain ⟨w', hrun, r1, r2⟩ := h1.update law9 Tryd.underlying72 (by unfold maxLen; omega) (WideMaps.keyOf_string_mk Tryd.underlying9 hs) (plainElem_int (H := Unit) Tryd.underlying3 (q := .i64) (a := (cnt ps s : Int) + 1) (by simp [Lit.wf, IntKind.min, IntKind.max, IntKind.bits, IntKind.signed]; omega))
  refine ⟨w', _, hrun, ⟨n + 1, _, r1, by simp; omega, fun t z => ?_⟩, r2⟩
  rw [cnt_snoc]
  by_cases he : s.data.toList = t
  · subst he
    rw [atKey_put_same h1.isMap (by trivial), arr_list, if_pos rfl, if_neg (by omega)]
    rfl
  · have hne : s ≠ ⟨t.toArray⟩ := fun e => he (by rw [e])
    rw [atKey_put_other (fun e => he (by injection e with e; exact e.symm)), h3, if_neg hne, Nat.add_zero]
end Go.Proofs.YtfponcdhaefkdaaDoor
/- Names. -/
namespace Go.Proofs.YtfponcdhaefkdaaDoor
open Go.RowKit Go.Shelf Go.Maps
set_option linter.unusedVariables false
set_option linter.unusedSimpArgs false
attribute [local go_sem] Oper.semAt_some

/-- Names on its way: the names so far, how often each piece stood, the values, the marks; what X names may be written by others. -/
structure Ns (w : World) (vs : List ByteArray) (vb : Option Addr) (vl vc : Nat) (ds : List Deferred) (ps : List ByteArray) (X : Nat → Prop) (W : World) : Prop where
  bel : Below w.heap.size w W
  bx : ∃ nb nl nc, W.heap[w.heap.size + 1]? = some (.cells #[.slice nb nl nc] 27 (0, 0)) ∧ R ES W (.slice nb nl nc) (nmL ps) ∧ ∀ k, (Value.slice nb nl nc).ownBlock = some k → w.heap.size + 4 ≤ k ∧ ¬ X k ∧ (Value.slice vb vl vc).ownBlock ≠ some k
  mp : Mc W (w.heap.size + 2) ps
  mb : W.heap[w.heap.size + 3]? = some (.cells #[.map (some (w.heap.size + 2))] 72 (0, 0))
  vr : R ES W (.slice vb vl vc) vs
  vo : ∀ k, (Value.slice vb vl vc).ownBlock = some k → w.heap.size + 4 ≤ k ∧ ¬ X k
  dl : Dl ds W
  dx : ∀ d ∈ ds, ∀ D, d.target = .collected D → ¬ X D ∧ w.heap.size + 4 ≤ D
  xx : ∀ k, X k → w.heap.size + 4 ≤ k
theorem Ns.abide {w : World} {vs : List ByteArray} {vb : Option Addr} {vl vc : Nat} {ds : List Deferred} {ps : List ByteArray} {X : Nat → Prop} {W W' : World} (h : Ns w vs vb vl vc ds ps X W) (hk : Ks X W W') : Ns w vs vb vl vc ds ps X W' := by
  have hn : ∀ k, k < w.heap.size + 4 → ¬ X k := fun k hk hx => by have := h.xx k hx; omega
  have kb : ∀ k, k < W.heap.size → k < w.heap.size + 4 → W'.heap[k]? = W.heap[k]? := fun k hk1 hk2 => hk.block k hk1 (hn k hk2)
  obtain ⟨nb, nl, nc, b1, b2, b3⟩ := h.bx
  refine ⟨h.bel.trans (hk.below h.bel.size fun i hi => hn i (by omega)), ⟨nb, nl, nc, (kb _ (heap_lt b1) (by omega)).trans b1, b2.stays fun k hk1 hk2 => hk.block k hk2 (b3 k hk1).2.1, b3⟩, h.mp.stays (kb _ h.mp.lt (by omega)), (kb _ (heap_lt h.mb) (by omega)).trans h.mb, h.vr.stays fun k hk1 hk2 => hk.block k hk2 (h.vo k hk1).2, h.vo, ?_, h.dx, h.xx⟩
  have := h.dl
  have hdx := h.dx
  clear h hn kb b1 b2 b3
  induction ds with
  | nil => trivial
  | cons d r ih =>
    obtain ⟨⟨D, g1, g2, g3⟩, g4⟩ := this
    exact ⟨⟨D, g1, (hk.block D (heap_lt g2) (hdx d (by simp) D (by rw [g1])).1).trans g2, g3⟩, ih g4 fun x hx => hdx x (by simp [hx])⟩
theorem Ns.below {w : World} {vs : List ByteArray} {vb : Option Addr} {vl vc : Nat} {ds : List Deferred} {ps : List ByteArray} {X : Nat → Prop} {W W' : World} (h : Ns w vs vb vl vc ds ps X W) (hb : Below W.heap.size W W') : Ns w vs vb vl vc ds ps X W' := h.abide (Ks.of_below hb)
/-- a piece counted -/
theorem Ns.count {w : World} {vs : List ByteArray} {vb : Option Addr} {vl vc : Nat} {ds : List Deferred} {ps : List ByteArray} {X : Nat → Prop} {W : World} (h : Ns w vs vb vl vc ds ps X W) (p : ByteArray) (hp : p.size ≤ maxLen) (hl : ps.length < 4611686018427387904) :
    ∃ W' u, (Instr.mapUpdate 72 (.map (some (w.heap.size + 2))) (.string p) (.int .i64 ((cnt ps p : Int) + 1))).run Tryd.prog W = .ok u W' ∧ W.heap.size ≤ W'.heap.size ∧ (∀ k, k < W.heap.size → k ≠ w.heap.size + 2 → W'.heap[k]? = W.heap[k]?) ∧ Mc W' (w.heap.size + 2) (ps ++ [p]) ∧ Ks (fun k => k = w.heap.size + 2) W W' := by
  obtain ⟨W', u, h1, h2, h3⟩ := h.mp.put p hp hl
  have hb : ∀ k, k < W.heap.size → k ≠ w.heap.size + 2 → W'.heap[k]? = W.heap[k]? := fun k hk hne => h3.block k hk (fun e => hne (by cases e; rfl))
  exact ⟨W', u, h1, h3.size, hb, h2, ⟨h3.os, h3.tape, h3.output, h3.size, fun k hk hne => hb k hk hne⟩⟩

/-- what stays of Ns while the map and the names are written -/
theorem Ns.other {w : World} {vs : List ByteArray} {vb : Option Addr} {vl vc : Nat} {ds : List Deferred} {ps qs : List ByteArray} {X : Nat → Prop} {W W' : World} {nb : Option Addr} {nl nc : Nat} (h : Ns w vs vb vl vc ds ps X W) (nb' : Option Addr) (nl' nc' : Nat)
    (hbx : W.heap[w.heap.size + 1]? = some (.cells #[.slice nb nl nc] 27 (0, 0))) (hno : ∀ k, (Value.slice nb nl nc).ownBlock = some k → w.heap.size + 4 ≤ k ∧ ¬ X k ∧ (Value.slice vb vl vc).ownBlock ≠ some k)
    (hnd : ∀ d ∈ ds, ∀ D, d.target = .collected D → (Value.slice nb nl nc).ownBlock ≠ some D)
    (hk : Ks (fun k => k = w.heap.size + 1 ∨ k = w.heap.size + 2 ∨ (Value.slice nb nl nc).ownBlock = some k) W W') (h1 : W'.heap[w.heap.size + 1]? = some (.cells #[.slice nb' nl' nc'] 27 (0, 0))) (h2 : R ES W' (.slice nb' nl' nc') (nmL qs))
    (h3 : ∀ k, (Value.slice nb' nl' nc').ownBlock = some k → w.heap.size + 4 ≤ k ∧ ¬ X k ∧ (Value.slice vb vl vc).ownBlock ≠ some k) (h4 : Mc W' (w.heap.size + 2) qs) : Ns w vs vb vl vc ds qs X W' := by
  have hsz := h.bel.size
  refine ⟨h.bel.trans (hk.below h.bel.size fun i hi => ?_), ⟨nb', nl', nc', h1, h2, h3⟩, h4, (hk.block _ (heap_lt h.mb) ?_).trans h.mb, h.vr.stays fun k hk1 hk2 => hk.block k hk2 ?_, h.vo, ?_, h.dx, h.xx⟩
  · rintro (e | e | e)
    · omega
    · omega
    · have := (hno i e).1; omega
  · rintro (e | e | e)
    · omega
    · omega
    · have := (hno _ e).1; omega
  · have := (h.vo k hk1).1
    rintro (e | e | e)
    · omega
    · omega
    · exact (hno k e).2.2 hk1
  · have hd := h.dl
    have hdx := h.dx
    clear h h1 h2 h3 h4
    induction ds with
    | nil => trivial
    | cons d r ih =>
      obtain ⟨⟨D, g1, g2, g3⟩, g4⟩ := hd
      refine ⟨⟨D, g1, (hk.block D (heap_lt g2) ?_).trans g2, g3⟩, ih (fun x hx => hnd x (by simp [hx])) g4 fun x hx => hdx x (by simp [hx])⟩
      have h5 := (hdx d (by simp) D (by rw [g1])).2
      rintro (e | e | e)
      · omega
      · omega
      · exact hnd d (by simp) D (by rw [g1]) e
theorem Ns.rowne {w : World} {vs : List ByteArray} {vb : Option Addr} {vl vc : Nat} {ds : List Deferred} {ps : List ByteArray} {X : Nat → Prop} {W : World} (h : Ns w vs vb vl vc ds ps X W) {nb : Option Addr} {nl nc : Nat} {l : List ByteArray} (hr : R ES W (.slice nb nl nc) l) : ∀ d ∈ ds, ∀ D, d.target = .collected D → (Value.slice nb nl nc).ownBlock ≠ some D := fun d hd D hD e => by
  obtain ⟨c, hc⟩ := hr.ty D e
  have := (h.dl.lt d hd D hD).2
  rw [hc] at this
  cases this
/-- a piece that is not told -/
theorem Ns.skip {w : World} {vs : List ByteArray} {vb : Option Addr} {vl vc : Nat} {ds : List Deferred} {ps : List ByteArray} {X : Nat → Prop} {W W' : World} (h : Ns w vs vb vl vc ds ps X W) (p : ByteArray) (hk : Ks (fun k => k = w.heap.size + 2) W W') (h4 : Mc W' (w.heap.size + 2) (ps ++ [p])) (hn : nmL (ps ++ [p]) = nmL ps) : Ns w vs vb vl vc ds (ps ++ [p]) X W' := by
  obtain ⟨nb, nl, nc, b1, b2, b3⟩ := h.bx
  refine h.other nb nl nc b1 b3 (h.rowne b2) (hk.mono fun i _ e => .inr (.inl e)) ((hk.block _ (heap_lt b1) (by omega)).trans b1) ?_ b3 h4
  rw [hn]
  exact b2.stays fun k hk1 hk2 => hk.block k hk2 (by have := (b3 k hk1).1; omega)
/-- a piece that is told -/
theorem Ns.tell {w : World} {vs : List ByteArray} {vb : Option Addr} {vl vc : Nat} {ds : List Deferred} {ps : List ByteArray} {X : Nat → Prop} {W W1 : World} (h : Ns w vs vb vl vc ds ps X W) (p : ByteArray) (hk : Ks (fun k => k = w.heap.size + 2) W W1) (h4 : Mc W1 (w.heap.size + 2) (ps ++ [p])) (hn : nmL (ps ++ [p]) = nmL ps ++ [p]) (hl : ps.length ≤ 4398046511104) (hX : ∀ k, X k → k < W.heap.size) (nb : Option Addr) (nl nc : Nat)
    (b1 : W.heap[w.heap.size + 1]? = some (.cells #[.slice nb nl nc] 27 (0, 0))) (b2 : R ES W (.slice nb nl nc) (nmL ps)) (b3 : ∀ k, (Value.slice nb nl nc).ownBlock = some k → w.heap.size + 4 ≤ k ∧ ¬ X k ∧ (Value.slice vb vl vc).ownBlock ≠ some k) :
    ∃ b' c' W2, (Builtin.append_ #[27, 27] 27 #[.slice nb nl nc, .slice (some ⟨W1.heap.size, 0, none⟩) 1 1]).run Tryd.prog (W1.alloc (.cells #[.string p] 9)) = .ok (.slice b' (nl + 1) c') W2 ∧ W2.cell? ⟨w.heap.size + 1, 0, none⟩ = some (.slice nb nl nc) ∧ W2.frozen? ⟨w.heap.size + 1, 0, none⟩ = false ∧ w.heap.size + 1 < W2.heap.size ∧
      Ns w vs vb vl vc ds (ps ++ [p]) X (W2.setCell ⟨w.heap.size + 1, 0, none⟩ (.slice b' (nl + 1) c')) ∧ (∀ k, k < W1.heap.size → k ≠ w.heap.size + 1 → (Value.slice nb nl nc).ownBlock ≠ some k → (W2.setCell ⟨w.heap.size + 1, 0, none⟩ (.slice b' (nl + 1) c')).heap[k]? = W1.heap[k]?) ∧ W1.heap.size ≤ (W2.setCell ⟨w.heap.size + 1, 0, none⟩ (.slice b' (nl + 1) c')).heap.size := by
  have hnl := nmL_len ps
  have r1 : R ES W1 (.slice nb nl nc) (nmL ps) := b2.stays fun k hk1 hk2 => hk.block k hk2 (by have := (b3 k hk1).1; omega)
  have ba := bel1 W1 (.cells #[.string p] 9)
  obtain ⟨e1, _, _⟩ := slice_len r1.isIn
  obtain ⟨b', c', W2, a1, a2, a3⟩ := app okS (W1.alloc (.cells #[.string p] 9)) _ _ (r1.below ba) _ [p] (in_one _ _ _ #[.string p] 9 (0, 0) (by rw [heap_al, if_pos rfl]) rfl) (by simp only [ES, List.length_singleton]; omega)
  rw [← e1] at a1 a2 a3
  simp only [List.length_singleton] at a1 a2 a3
  have hsz := h.bel.size
  have b1' : W1.heap[w.heap.size + 1]? = some (.cells #[.slice nb nl nc] 27 (0, 0)) := (hk.block _ (heap_lt b1) (by omega)).trans b1
  have nown : (Value.slice nb nl nc).ownBlock ≠ some (w.heap.size + 1) := fun e => by have := (b3 _ e).1; omega
  have k2 : ∀ k, k < W1.heap.size → (Value.slice nb nl nc).ownBlock ≠ some k → W2.heap[k]? = W1.heap[k]? := fun k h1 h2 => (a3.block k (by simp; omega) h2).trans (ba.block k h1)
  have b1'' : W2.heap[w.heap.size + 1]? = some (.cells #[.slice nb nl nc] 27 (0, 0)) := (k2 _ (heap_lt b1') nown).trans b1'
  have s12 : W1.heap.size ≤ W2.heap.size := Nat.le_trans ba.size a3.size
  have kset : ∀ k, k ≠ w.heap.size + 1 → (W2.setCell ⟨w.heap.size + 1, 0, none⟩ (.slice b' (nl + 1) c')).heap[k]? = W2.heap[k]? := fun k hk => setCell_other _ _ _ _ _ hk
  have hown' : ∀ k, (Value.slice b' (nl + 1) c').ownBlock = some k → (Value.slice nb nl nc).ownBlock = some k ∨ W1.heap.size ≤ k := fun k hk => (a3.own k hk).imp id fun e => by simp at e; omega
  refine ⟨b', c', W2, a1, cell_blk b1'' 0, frozen_blk b1'' 0, heap_lt b1'', ?_, fun k h1 h2 h3 => (kset k h2).trans (k2 k h1 h3), by simp [World.setCell]; exact s12⟩
  have hkk : Ks (fun k => k = w.heap.size + 1 ∨ k = w.heap.size + 2 ∨ (Value.slice nb nl nc).ownBlock = some k) W (W2.setCell ⟨w.heap.size + 1, 0, none⟩ (.slice b' (nl + 1) c')) := by
    refine ⟨?_, ?_, ?_, by simp [World.setCell]; exact Nat.le_trans hk.size s12, fun k h1 h2 => ?_⟩
    · exact (show W2.os = W.os from (a3.os.trans ba.os).trans hk.os)
    · exact (show W2.tape = W.tape from (a3.tape.trans ba.tape).trans hk.tape)
    · exact (show W2.output = W.output from (a3.output.trans ba.output).trans hk.output)
    · rw [kset k (fun e => h2 (.inl e)), k2 k (Nat.lt_of_lt_of_le h1 hk.size) (fun e => h2 (.inr (.inr e)))]
      exact hk.block k h1 (fun e => h2 (.inr (.inl e)))
  refine h.other b' (nl + 1) c' b1 b3 (h.rowne b2) hkk (setCell_block _ _ _ _ _ _ _ b1'') ?_ (fun k hk1 => ?_) ?_
  · rw [hn]
    refine R.stays a2 fun k hk1 hk2 => kset k fun e => ?_
    rcases hown' k hk1 with q | q
    · exact nown (by rw [q, e])
    · have := heap_lt b1'; omega
  · rcases hown' k hk1 with q | q
    · exact b3 k q
    · refine ⟨?_, fun hx => ?_, fun hv => ?_⟩
      · have := heap_lt h.mb; have := hk.size; omega
      · have := hX k hx; have := hk.size; omega
      · have := R.lt h.vr k hv; have := hk.size; omega
  · refine h4.stays ((kset _ (by omega)).trans (k2 _ h4.lt fun e => ?_))
    have := (b3 _ e).1
    omega
end Go.Proofs.YtfponcdhaefkdaaDoor
