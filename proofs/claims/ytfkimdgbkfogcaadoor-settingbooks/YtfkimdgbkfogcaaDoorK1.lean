/- SettingBooks: two pairs of books, in turns. -/
import Derived.Test.YtfkimdgbkfogcaaDoorJ9
namespace Go.Proofs.YtfkimdgbkfogcaaDoor
open Go.RowKit
set_option linter.unusedVariables false
set_option linter.unusedSimpArgs false

/-- Two pairs of books, apart, all made since w; at most k lists were sent to each. -/
structure Bs (w : World) (a x b y : Nat) (k : Nat) (s : St) (v : Value) (sx : SV) (xs : List SV) (ls : List (List (Int × Int))) (d : Nat) (s' : St) (v' : Value) (sx' : SV) (xs' : List SV) (ls' : List (List (Int × Int))) (d' : Nat) (W : World) : Prop where
  p : Pr W a x true s v sx xs ls d
  q : Pr W b y false s' v' sx' xs' ls' d'
  ap : Apart a x v sx b y v' sx'
  bel : Below w.heap.size w W
  up : ∀ j, Opr a x v sx j → w.heap.size ≤ j
  uq : ∀ j, Opr b y v' sx' j → w.heap.size ≤ j
  lp : ls.length ≤ k
  lq : ls'.length ≤ k
def Be (w : World) (a x b y : Nat) (k : Nat) (W : World) : Prop := ∃ s v sx xs ls d s' v' sx' xs' ls' d', Bs w a x b y k s v sx xs ls d s' v' sx' xs' ls' d' W
theorem Be.below {w : World} {a x b y k : Nat} {W W' : World} (h : Be w a x b y k W) (hb : Below W.heap.size W W') : Be w a x b y k W' := by
  obtain ⟨s, v, sx, xs, ls, d, s', v', sx', xs', ls', d', h⟩ := h
  exact ⟨s, v, sx, xs, ls, d, s', v', sx', xs', ls', d', h.p.below hb, h.q.below hb, h.ap, h.bel.trans (hb.mono h.bel.size), h.up, h.uq, h.lp, h.lq⟩
theorem Be.mono {w : World} {a x b y k : Nat} {W : World} (h : Be w a x b y k W) : Be w a x b y (k + 1) W := by
  obtain ⟨s, v, sx, xs, ls, d, s', v', sx', xs', ls', d', h⟩ := h
  exact ⟨s, v, sx, xs, ls, d, s', v', sx', xs', ls', d', h.p, h.q, h.ap, h.bel, h.up, h.uq, Nat.le_succ_of_le h.lp, Nat.le_succ_of_le h.lq⟩
/-- a block of another type than a pair's is as it was -/
theorem Pr.other {w w' : World} {b r : Nat} {c : Bool} {s : St} {v : Value} {sx : SV} {xs : List SV} {ls : List (List (Int × Int))} {d : Nat} (h : Pr w b r c s v sx xs ls d) (hk : Ks (Opr b r v sx) w w') {k : Nat} {cs : Array Value} (hc : w.heap[k]? = some (.cells cs 32 (0, 0))) : w'.heap[k]? = some (.cells cs 32 (0, 0)) := by
  refine (hk.block k (heap_lt hc) fun e => ?_).trans hc
  rcases e with e | e
  · obtain ⟨cs', t', e1, e2⟩ := h.bk.ty k e
    rw [hc] at e1
    injection e1 with e1
    injection e1 with _ e1 _
    subst e1
    rcases e2 with ⟨e, _⟩ | ⟨e, _⟩ <;> cases e
  · obtain ⟨cs', t', e1, e2⟩ := h.rb.ty k e
    rw [hc] at e1
    injection e1 with e1
    injection e1 with _ e1 _
    subst e1
    rcases e2 with ⟨e, _⟩ | ⟨e, _⟩ <;> cases e

theorem Pr.olt {w : World} {b r : Nat} {c : Bool} {s : St} {v : Value} {sx : SV} {xs : List SV} {ls : List (List (Int × Int))} {d : Nat} (h : Pr w b r c s v sx xs ls d) (k : Nat) (hk : Opr b r v sx k) : k < w.heap.size := by
  rcases hk with hk | hk
  · obtain ⟨_, _, e, _⟩ := h.bk.ty k hk
    exact heap_lt e
  · obtain ⟨_, _, e, _⟩ := h.rb.ty k hk
    exact heap_lt e

/-- plays of the second pair -/
theorem Be.play2 {w : World} {a x b y k : Nat} {W : World} (hTop : ∀ W, Below w.heap.size w W → Top W) (h : Be w a x b y k W) (o1 : Int) (o2 : Bool) (l1 : Option Addr) (l2 l3 : Nat) (l : List (Int × Int)) (hl : In EP w (.slice l1 l2 l3) l) (hn0 : (l.length + 2) * 16 ≤ 140737488355328) (hx0 : (k + 1) * 24 ≤ 140737488355328) (g : Nat) (cs : Array Value) (hg : W.heap[g]? = some (.cells cs 32 (0, 0))) :
    Calls Tryd.prog 33 #[.pointer (some ⟨b, 0, none⟩), .pointer (some ⟨y, 0, none⟩), .agg #[.int .i64 o1, .bool o2, .slice l1 l2 l3]] W fun e W' => e = .returned (.bool true) ∧ Be w a x b y (k + 1) W' ∧ W'.heap[g]? = some (.cells cs 32 (0, 0)) := by
  obtain ⟨s, v, sx, xs, ls, d, s', v', sx', xs', ls', d', h⟩ := h
  have hB : ∀ W', Ks (Opr b y v' sx') W W' → Below w.heap.size w W' := fun W' hk => h.bel.trans (hk.below h.bel.size fun i hi e => by have := h.uq i e; omega)
  have hlen := h.q.rb.len
  have hlq := h.lq
  refine (plays_any W b y false s' v' sx' xs' ls' d' h.q (fun W' hk => hTop W' (hB W' hk)) o1 o2 l1 l2 l3 l (fun W' hk => hl.below (hB W' hk)) hn0 (by omega)).mono ?_
  rintro e W' ⟨rfl, s2, m2, v2, sx2, xs2, ls2, d2, k1, k2, k3, k4, k5, k6⟩
  refine ⟨rfl, ⟨s, v, sx, xs, ls, d, s2, v2, sx2, xs2, ls2, d2, h.p.apart h.q h.ap k2, k1, ⟨h.ap.books, h.ap.refs, fun j e e2 => ?_, fun j e e2 => ?_⟩, hB W' k2, h.up, ?_, Nat.le_succ_of_le h.lp, by omega⟩, h.q.other k2 hg⟩
  · rcases k4 j e2 with e2 | e2
    · exact h.ap.rows j e e2
    · have := h.p.olt j (.inl (.inr e)); omega
  · rcases k5 j e2 with e2 | e2
    · exact h.ap.sents j e e2
    · have := h.p.olt j (.inr (.inr e)); omega
  · have hs := h.bel.size
    rintro j ((e | e) | (e | e))
    · exact h.uq j (.inl (.inl e))
    · rcases k4 j e with e | e
      · exact h.uq j (.inl (.inr e))
      · omega
    · exact h.uq j (.inr (.inl e))
    · rcases k5 j e with e | e
      · exact h.uq j (.inr (.inr e))
      · omega
/-- plays of the first pair -/
theorem Be.play1 {w : World} {a x b y k : Nat} {W : World} (hTop : ∀ W, Below w.heap.size w W → Top W) (h : Be w a x b y k W) (o1 : Int) (o2 : Bool) (l1 : Option Addr) (l2 l3 : Nat) (l : List (Int × Int)) (hl : In EP w (.slice l1 l2 l3) l) (hn0 : (l.length + 2) * 16 ≤ 140737488355328) (hx0 : (k + 1) * 24 ≤ 140737488355328) (g : Nat) (cs : Array Value) (hg : W.heap[g]? = some (.cells cs 32 (0, 0))) :
    Calls Tryd.prog 33 #[.pointer (some ⟨a, 0, none⟩), .pointer (some ⟨x, 0, none⟩), .agg #[.int .i64 o1, .bool o2, .slice l1 l2 l3]] W fun e W' => e = .returned (.bool true) ∧ Be w a x b y (k + 1) W' ∧ W'.heap[g]? = some (.cells cs 32 (0, 0)) := by
  obtain ⟨s, v, sx, xs, ls, d, s', v', sx', xs', ls', d', h⟩ := h
  have hB : ∀ W', Ks (Opr a x v sx) W W' → Below w.heap.size w W' := fun W' hk => h.bel.trans (hk.below h.bel.size fun i hi e => by have := h.up i e; omega)
  have hlen := h.p.rb.len
  have hlq := h.lp
  refine (plays_any W a x true s v sx xs ls d h.p (fun W' hk => hTop W' (hB W' hk)) o1 o2 l1 l2 l3 l (fun W' hk => hl.below (hB W' hk)) hn0 (by omega)).mono ?_
  rintro e W' ⟨rfl, s2, m2, v2, sx2, xs2, ls2, d2, k1, k2, k3, k4, k5, k6⟩
  refine ⟨rfl, ⟨s2, v2, sx2, xs2, ls2, d2, s', v', sx', xs', ls', d', k1, h.q.apart h.p h.ap.symm k2, ⟨h.ap.books, h.ap.refs, fun j e e2 => ?_, fun j e e2 => ?_⟩, hB W' k2, ?_, h.uq, by omega, Nat.le_succ_of_le h.lq⟩, h.p.other k2 hg⟩
  · rcases k4 j e with e | e
    · exact h.ap.rows j e e2
    · have := h.q.olt j (.inl (.inr e2)); omega
  · rcases k5 j e with e | e
    · exact h.ap.sents j e e2
    · have := h.q.olt j (.inr (.inr e2)); omega
  · have hs := h.bel.size
    rintro j ((e | e) | (e | e))
    · exact h.up j (.inl (.inl e))
    · rcases k4 j e with e | e
      · exact h.up j (.inl (.inr e))
      · omega
    · exact h.up j (.inr (.inl e))
    · rcases k5 j e with e | e
      · exact h.up j (.inr (.inr e))
      · omega
end Go.Proofs.YtfkimdgbkfogcaaDoor
