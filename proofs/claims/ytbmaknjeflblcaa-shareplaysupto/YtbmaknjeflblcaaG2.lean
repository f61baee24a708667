/- A share and the document's side by side. -/
import Derived.Test.YtbmaknjeflblcaaG1
import Derived.Test.YtbmaknjeflblcaaE1
namespace Go.Proofs.Ytbmaknjeflblcaa
open Go.RowKit Go.Maps
set_option linter.unusedVariables false
set_option linter.unusedSimpArgs false

/-- the document's share within the blocks B -/
structure Rb (w : World) (B : Nat → Prop) (q : Nat) (L : List Stm) : Prop where
  s : ∃ v, Rs w q v L ∧ B q ∧ ∀ k, (sv v).ownBlock = some k → B k
section
variable {w w' w'' : World} {A B C : Nat → Prop} {p q : Nat} {T : St} {L : List Stm}
theorem Rb.stays (h : Rb w B q L) (hb : ∀ k, k < w.heap.size → B k → w'.heap[k]? = w.heap[k]?) : Rb w' B q L := by
  obtain ⟨v, h1, h2, h3⟩ := h.s
  exact ⟨⟨v, ⟨(hb q (heap_lt h1.blk) h2).trans h1.blk, h1.r.stays fun k hk hl => hb k hl (h3 k hk)⟩, h2, h3⟩⟩
theorem Rb.mono (h : Rb w B q L) (hs : ∀ k, B k → C k) : Rb w C q L := by
  obtain ⟨v, h1, h2, h3⟩ := h.s
  exact ⟨⟨v, h1, hs _ h2, fun k hk => hs _ (h3 k hk)⟩⟩
theorem Rb.rn (h : Rb w B q L) : Rn w (fun k => k < w.heap.size ∧ ¬ B k) q L := by
  obtain ⟨v, h1, h2, h3⟩ := h.s
  exact ⟨⟨v, h1, fun e => e.2 h2, fun k hk e => e.2 (h3 k hk)⟩, fun k hk => hk.1⟩
theorem Rb.of_rn {L' : List Stm} (h : Rn w' (fun k => k < w.heap.size ∧ ¬ B k) q L') : Rb w' (gr B w w') q L' := by
  obtain ⟨v, h1, h2, h3⟩ := h.s
  have key : ∀ k, k < w'.heap.size → ¬ (k < w.heap.size ∧ ¬ B k) → gr B w w' k := fun k hk hn => by
    by_cases hB : B k
    · exact .inl hB
    · exact .inr ⟨Nat.le_of_not_lt fun e => hn ⟨e, hB⟩, hk⟩
  exact ⟨⟨v, h1, key q (heap_lt h1.blk) h2, fun k hk => key k (h1.r.lt k hk) (h3 k hk)⟩⟩
theorem ks_of_kn (h : Kn (fun k => k < w.heap.size ∧ ¬ B k) w w') : Ks B w w' := ⟨h.os, h.tape, h.output, h.size, fun k hk hn => h.block k ⟨hk, hn⟩⟩
theorem Rb.call {v : Value} {e : Ending} {L' : List Stm} (h : RP w (fun k => k < w.heap.size ∧ ¬ B k) q L' v e w') : e = .returned v ∧ Rb w' (gr B w w') q L' ∧ Ks B w w' := ⟨h.1, Rb.of_rn h.2.1, ks_of_kn h.2.2⟩
/-- both, apart from one another, within C -/
structure Pr (w : World) (C : Nat → Prop) (p q : Nat) (T : St) (L : List Stm) (m n : Nat) : Prop where
  ab : ∃ A B, Sh w A p T ∧ Rb w B q L ∧ (∀ k, A k → ¬ B k) ∧ (∀ k, A k → C k) ∧ (∀ k, B k → C k)
  lt : ∀ k, C k → k < w.heap.size
  rl : Rl T L
  b : ∀ j, (T.b j).length ≤ m
  n : L.length ≤ n
theorem Pr.stays {m n : Nat} (h : Pr w C p q T L m n) (hb : ∀ k, k < w.heap.size → C k → w'.heap[k]? = w.heap[k]?) (hs : w.heap.size ≤ w'.heap.size) : Pr w' C p q T L m n := by
  obtain ⟨A, B, h1, h2, h3, h4, h5⟩ := h.ab
  exact ⟨⟨A, B, h1.stays fun k hk hA => hb k hk (h4 k hA), h2.stays fun k hk hB => hb k hk (h5 k hB), h3, h4, h5⟩, fun k hk => Nat.lt_of_lt_of_le (h.lt k hk) hs, h.rl, h.b, h.n⟩
theorem Pr.below {m n : Nat} (h : Pr w C p q T L m n) (hb : Below w.heap.size w w') : Pr w' C p q T L m n := h.stays (fun k hk _ => hb.block k hk) hb.size
theorem Pr.ks {m n : Nat} {D : Nat → Prop} (h : Pr w C p q T L m n) (hk : Ks D w w') (hd : ∀ k, C k → ¬ D k) : Pr w' C p q T L m n := h.stays (fun k hk' hC => hk.block k hk' (hd k hC)) hk.size
theorem Pr.more {m n m' n' : Nat} (h : Pr w C p q T L m n) (hm : m ≤ m') (hn : n ≤ n') : Pr w C p q T L m' n' := ⟨h.ab, h.lt, h.rl, fun j => Nat.le_trans (h.b j) hm, Nat.le_trans h.n hn⟩
/-- a call of each, one behind the other -/
theorem Pr.two {m n : Nat} (h : Pr w C p q T L m n) {A B : Nat → Prop} (h2 : Rb w B q L) (h3 : ∀ k, A k → ¬ B k) (h4 : ∀ k, A k → C k) (h5 : ∀ k, B k → C k) {T' : St} {L' : List Stm} {m' n' : Nat} (hs : Sh w' (gr A w w') p T') (ha : Ks A w w') (hr : Rb w'' (gr B w' w'') q L') (hb : Ks B w' w'') (rl : Rl T' L') (hm : ∀ j, (T'.b j).length ≤ m') (hn : L'.length ≤ n') :
    Pr w'' (gr C w w'') p q T' L' m' n' ∧ Ks C w w'' := by
  have s1 := ha.size
  have s2 := hb.size
  have ltB : ∀ k, B k → k < w.heap.size := fun k hk => h.lt k (h5 k hk)
  refine ⟨⟨⟨gr A w w', gr B w' w'', hs.stays fun k hk hA => hb.block k hk fun e => ?_, hr, fun k hA hB => ?_, fun k hA => ?_, fun k hB => ?_⟩, fun k hk => ?_, rl, hm, hn⟩, ha.trans hb (fun k _ e => h4 k e) (fun k _ e => h5 k e)⟩
  · rcases hA with hA | hA
    · exact h3 k hA e
    · have := ltB k e; omega
  · rcases hA with hA | hA <;> rcases hB with hB | hB
    · exact h3 k hA hB
    · have := h.lt k (h4 k hA); omega
    · have := ltB k hB; omega
    · omega
  · rcases hA with hA | hA
    · exact .inl (h4 k hA)
    · exact .inr ⟨hA.1, by omega⟩
  · rcases hB with hB | hB
    · exact .inl (h5 k hB)
    · exact .inr ⟨by omega, hB.2⟩
  · rcases hk with hk | hk
    · have := h.lt k hk; omega
    · exact hk.2
end
def opg (o : Op) : Value := .agg #[.int .i64 o.k, .int .i64 o.s, .int .i64 o.id, .string o.t, .bool o.e, .int .i64 o.c, .int .i64 o.st, .int .i64 o.f, sv o.y]
/-- what a step leaves: both shares behind it -/
def PlP (w : World) (C : Nat → Prop) (p q m n : Nat) (e : Ending) (w' : World) : Prop := e = .returned (.bool true) ∧ (∃ T L, Pr w' (gr C w w') p q T L m n) ∧ Ks C w w'
theorem gr_box {w w' : World} {C : Nat → Prop} (o : Obj) (k : Nat) (h : gr C (w.alloc o) w' k) : gr C w w' k := by
  rcases h with h | h
  · exact .inl h
  · exact .inr ⟨by have := h.1; simp at this; omega, h.2⟩
theorem gr_lt {w w' : World} {C : Nat → Prop} (hC : ∀ k, C k → k < w.heap.size) (hs : w.heap.size ≤ w'.heap.size) (k : Nat) (h : gr C w w' k) : k < w'.heap.size := by
  rcases h with h | h
  · have := hC k h; omega
  · exact h.2
end Go.Proofs.Ytbmaknjeflblcaa
