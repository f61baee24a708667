/- BlockBetween: two joiners. -/
import Derived.Test.YtdgdjanchpfleaaC3
namespace Go.Proofs.Ytdgdjanchpfleaa
open Go.RowKit
set_option linter.unusedVariables false
set_option linter.unusedSimpArgs false

/-- Two joiners, made since w, each with a row of its own. -/
structure Tw (w wr : World) (b1 b2 : Nat) (s1 s2 : Value) (st1 st2 : Js) : Prop where
  bel : Below w.heap.size w wr
  j1 : Jn wr b1 s1 st1
  j2 : Jn wr b2 s2 st2
  l1 : w.heap.size ≤ b1
  l2 : w.heap.size ≤ b2
  ne : b1 ≠ b2
  o1 : ∀ k, s1.ownBlock = some k → w.heap.size ≤ k
  o2 : ∀ k, s2.ownBlock = some k → w.heap.size ≤ k
  on : ∀ k, s1.ownBlock = some k → s2.ownBlock ≠ some k
theorem Tw.below {w wr w' : World} {b1 b2 : Nat} {s1 s2 : Value} {st1 st2 : Js} (T : Tw w wr b1 b2 s1 s2 st1 st2) (hb : Below wr.heap.size wr w') : Tw w w' b1 b2 s1 s2 st1 st2 :=
  ⟨T.bel.trans (hb.mono T.bel.size), T.j1.below hb, T.j2.below hb, T.l1, T.l2, T.ne, T.o1, T.o2, T.on⟩
theorem Tw.swap {w wr : World} {b1 b2 : Nat} {s1 s2 : Value} {st1 st2 : Js} (T : Tw w wr b1 b2 s1 s2 st1 st2) : Tw w wr b2 b1 s2 s1 st2 st1 :=
  ⟨T.bel, T.j2, T.j1, T.l2, T.l1, T.ne.symm, T.o2, T.o1, fun k h1 h2 => T.on k h2 h1⟩
/-- the first one pushed -/
theorem Tw.push1 {w wr w' : World} {b1 b2 : Nat} {s1 s2 : Value} {st1 st2 st' : Js} {y : SV} {qs : List (Int × Int)} (T : Tw w wr b1 b2 s1 s2 st1 st2) (hp : PuR wr s1 w' b1 st' y qs) : ∃ s', Tw w w' b1 b2 s' s2 st' st2 := by
  obtain ⟨s', hj, ho⟩ := hp.ex
  refine ⟨s', T.bel.trans (hp.bel _ T.bel.size T.l1 T.o1), hj, T.j2.stays fun k hk hh => hp.ks.block k hk fun e => ?_, T.l1, T.l2, T.ne, fun k hk => ?_, T.o2, fun k hk h2 => ?_⟩
  · have tb := T.j1.bty
    rcases e with rfl | e
    · rcases hh with e2 | e2 | ⟨c, hc⟩
      · exact T.ne e2
      · obtain ⟨c, hc⟩ := tb
        obtain ⟨c', hc'⟩ := T.j2.sty _ e2
        rw [hc] at hc'
        injection hc' with hc'
        injection hc' with _ e3
        exact absurd e3 (by decide)
      · obtain ⟨c', hc'⟩ := tb
        rw [hc] at hc'
        injection hc' with hc'
        injection hc' with _ e3
        exact absurd e3 (by decide)
    · obtain ⟨c', hc'⟩ := T.j1.sty _ e
      rcases hh with e2 | e2 | ⟨c, hc⟩
      · subst e2
        obtain ⟨c, hc⟩ := T.j2.bty
        rw [hc] at hc'
        injection hc' with hc'
        injection hc' with _ e3
        exact absurd e3 (by decide)
      · exact T.on k e e2
      · rw [hc] at hc'
        injection hc' with hc'
        injection hc' with _ e3
        exact absurd e3 (by decide)
  · rcases ho k hk with h1 | h1
    · exact T.o1 k h1
    · exact Nat.le_trans T.bel.size h1
  · rcases ho k hk with h1 | h1
    · exact T.on k h1 h2
    · obtain ⟨c, hc⟩ := T.j2.sty k h2
      have := heap_lt hc
      omega
/-- what a push leaves alone -/
theorem Tw.keep1 {w wr w' : World} {b1 b2 : Nat} {s1 s2 : Value} {st1 st2 st' : Js} {y : SV} {qs : List (Int × Int)} (T : Tw w wr b1 b2 s1 s2 st1 st2) (hp : PuR wr s1 w' b1 st' y qs) {k : Nat} {c : Array Value} {t : TypeId} (hk : wr.heap[k]? = some (.cells c t (0, 0))) (h1 : t ≠ 51) (h2 : t ≠ 5) : w'.heap[k]? = some (.cells c t (0, 0)) := hp.keep T.j1 hk h1 h2
theorem Tw.two {w w1 w2 w3 : World} (h0 : Below w.heap.size w w1) (j1 : Jn w2 w1.heap.size (.slice none 0 0) .idle) (b2 : Below w1.heap.size w1 w2) (j2 : Jn w3 w2.heap.size (.slice none 0 0) .idle) (b3 : Below w2.heap.size w2 w3) : Tw w w3 w1.heap.size w2.heap.size (.slice none 0 0) (.slice none 0 0) .idle .idle := by
  have h1 := h0.trans (b2.mono h0.size)
  have := j1.lt
  exact ⟨h1.trans (b3.mono h1.size), j1.below b3, j2, h0.size, h1.size, by omega, fun k hk => by simp [Value.ownBlock] at hk, fun k hk => by simp [Value.ownBlock] at hk, fun k hk => by simp [Value.ownBlock] at hk⟩

/-- no row in hand: broken -/
theorem Tw.nil2 {w wr : World} {b1 b2 : Nat} {s1 s2 : Value} {c1 c2 : Int} (T : Tw w wr b1 b2 s1 s2 (.broken c1) (.broken c2)) : s1 = .slice none 0 0 ∧ s2 = .slice none 0 0 := ⟨T.j1.2.1, T.j2.2.1⟩
end Go.Proofs.Ytdgdjanchpfleaa
