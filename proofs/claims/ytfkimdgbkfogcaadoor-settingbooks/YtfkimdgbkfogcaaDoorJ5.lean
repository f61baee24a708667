/- The program's book and the document's, side by side. -/
import Derived.Test.YtfkimdgbkfogcaaDoorJ4
import Derived.Test.YtfkimdgbkfogcaaDoorC2
import Derived.Test.YtfkimdgbkfogcaaDoorH1
namespace Go.Proofs.YtfkimdgbkfogcaaDoor
open Go.RowKit
set_option linter.unusedVariables false
set_option linter.unusedSimpArgs false

theorem any_bad (s : St) (l : List (Int × Int)) (c : Bool) : (l.any (fun q => validS q c != 0) = true) ↔ (applyS s l c).2 ≠ 0 := by
  rw [Ne, code_zero s l c, List.any_eq_true]
  constructor
  · rintro ⟨q, hq, hz⟩ h
    simp [h q hq] at hz
  · intro h
    refine Classical.byContradiction fun hne => h fun q hq => Classical.byContradiction fun hz => hne ⟨q, hq, by simpa using hz⟩

/-- Both books answer Send alike. -/
theorem send_same (c : Bool) (s : St) (L : List St) (ls : List (List (Int × Int))) (d : Nat) (l : List (Int × Int)) (hL : L.length = ls.length - d) (h64 : L.length ≤ 64) : sendC c s L l = rsendC c ls d l := by
  unfold sendC rsendC
  by_cases h : (applyS (lastS s L) l c).2 = 0
  · rw [if_pos h, if_neg (fun e => (any_bad (lastS s L) l c).1 e h)]
    by_cases h6 : L.length = 64
    · rw [if_pos h6, if_pos (by omega)]
    · rw [if_neg h6, if_neg (by omega)]
  · rw [if_neg h, if_pos ((any_bad (lastS s L) l c).2 h)]

theorem sendL_same (c : Bool) (s : St) (ls : List (List (Int × Int))) (d : Nat) (hd : d ≤ ls.length) (l : List (Int × Int)) (h : sendC c s (chain c s (ls.drop d)) l = 0) : sendL c s (chain c s (ls.drop d)) l = chain c s ((ls ++ [l]).drop d) := by
  rw [List.drop_append_of_le_length hd, chain_append]
  unfold sendC at h
  unfold sendL
  split at h
  · next h1 =>
    rw [if_pos h1]
    split at h
    · cases h
    · next h2 => rw [if_neg h2]
  · cases h

theorem sendL_none (c : Bool) (s : St) (L : List St) (l : List (Int × Int)) (h : sendC c s L l ≠ 0) : sendL c s L l = L := by
  unfold sendC at h
  unfold sendL
  split at h
  · next h1 =>
    rw [if_pos h1]
    split at h
    · next h2 => rw [if_pos h2]
    · exact absurd rfl h
  · next h1 => rw [if_neg h1]

/-- A pair of books, the program's at b and the document's at r, that hold the same. -/
structure Pr (w : World) (b r : Nat) (c : Bool) (s : St) (v : Value) (sx : SV) (xs : List SV) (ls : List (List (Int × Int))) (d : Nat) : Prop where
  bk : Bk w b c s v (chain c s (ls.drop d))
  rb : Rb w r c sx xs ls d
  eq : s = allS c (ls.take d)
section
variable {w w' : World} {b r : Nat} {c : Bool} {s : St} {v : Value} {sx : SV} {xs : List SV} {ls : List (List (Int × Int))} {d : Nat}
theorem Pr.below (h : Pr w b r c s v sx xs ls d) (hb : Below w.heap.size w w') : Pr w' b r c s v sx xs ls d := ⟨h.bk.below hb, h.rb.below hb, h.eq⟩
theorem Pr.few (h : Pr w b r c s v sx xs ls d) : ls.length - d ≤ 64 := by
  have := h.bk.len
  rw [chain_length, List.length_drop] at this
  exact this
/-- what a pair may write -/
def Opr (b r : Nat) (v : Value) (sx : SV) (k : Nat) : Prop := Own b v k ∨ Owr r sx k
theorem Bk.ty {L : List St} (h : Bk w b c s v L) : ∀ k, Own b v k → ∃ cs t, w.heap[k]? = some (.cells cs t (0, 0)) ∧ (t = 61 ∧ k = b ∨ t = 27 ∧ v.ownBlock = some k) := by
  rintro k (rfl | e)
  · exact ⟨_, _, h.blk, .inl ⟨rfl, rfl⟩⟩
  · obtain ⟨cs, hc⟩ := h.row.ty k e
    exact ⟨cs, 27, hc, .inr ⟨rfl, e⟩⟩
theorem Rb.ty (h : Rb w r c sx xs ls d) : ∀ k, Owr r sx k → ∃ cs t, w.heap[k]? = some (.cells cs t (0, 0)) ∧ (t = 72 ∧ k = r ∨ t = 30 ∧ (sv sx).ownBlock = some k) := by
  rintro k (rfl | e)
  · exact ⟨_, _, h.blk, .inl ⟨rfl, rfl⟩⟩
  · obtain ⟨cs, hc⟩ := h.row.ty k e
    exact ⟨cs, 30, hc, .inr ⟨rfl, e⟩⟩
/-- what the program's book writes is not the document's book -/
theorem Rb.keepB {L : List St} (h : Rb w r c sx xs ls d) {c' : Bool} {s' : St} (hb : Bk w b c' s' v L) (hk : Ks (Own b v) w w') : Rb w' r c sx xs ls d :=
  h.kept hk fun k cs t hA ht => by
    obtain ⟨cs', t', h1, h2⟩ := hb.ty k hA
    rw [ht] at h1
    injection h1 with h1
    injection h1 with _ h1 _
    subst h1
    rcases h2 with ⟨rfl, _⟩ | ⟨rfl, _⟩ <;> exact ⟨by decide, by decide, by decide⟩
/-- what the document's book writes is not the program's book -/
theorem Bk.keepR {L : List St} (hb : Bk w b c s v L) {c' : Bool} (h : Rb w r c' sx xs ls d) (hk : Ks (Owr r sx) w w') : Bk w' b c s v L :=
  hb.keep hk fun k ho hA => by
    obtain ⟨cs', t', h1, h2⟩ := hb.ty k ho
    obtain ⟨cs, t, h3, h4⟩ := h.ty k hA
    rw [h3] at h1
    injection h1 with h1
    injection h1 with _ h1 _
    subst h1
    rcases h2 with ⟨rfl, _⟩ | ⟨rfl, _⟩ <;> rcases h4 with ⟨e, _⟩ | ⟨e, _⟩ <;> cases e
end
/-- Two pairs whose blocks are apart: what one writes is not the other's. -/
structure Apart (b r : Nat) (v : Value) (sx : SV) (b' r' : Nat) (v' : Value) (sx' : SV) : Prop where
  books : b ≠ b'
  refs : r ≠ r'
  rows : ∀ k, v.ownBlock = some k → v'.ownBlock ≠ some k
  sents : ∀ k, (sv sx).ownBlock = some k → (sv sx').ownBlock ≠ some k
theorem Apart.symm {b r : Nat} {v : Value} {sx : SV} {b' r' : Nat} {v' : Value} {sx' : SV} (h : Apart b r v sx b' r' v' sx') : Apart b' r' v' sx' b r v sx :=
  ⟨fun e => h.books e.symm, fun e => h.refs e.symm, fun k e e2 => h.rows k e2 e, fun k e e2 => h.sents k e2 e⟩
theorem Pr.apart {w w' : World} {b r b' r' : Nat} {c c' : Bool} {s s' : St} {v v' : Value} {sx sx' : SV} {xs xs' : List SV} {ls ls' : List (List (Int × Int))} {d d' : Nat} (h : Pr w b r c s v sx xs ls d) (h' : Pr w b' r' c' s' v' sx' xs' ls' d') (ha : Apart b r v sx b' r' v' sx') (hk : Ks (Opr b' r' v' sx') w w') : Pr w' b r c s v sx xs ls d := by
  have key : ∀ k cs t, Opr b' r' v' sx' k → w.heap[k]? = some (.cells cs t (0, 0)) → (t = 61 ∧ k = b') ∨ (t = 27 ∧ v'.ownBlock = some k) ∨ (t = 72 ∧ k = r') ∨ (t = 30 ∧ (sv sx').ownBlock = some k) := fun k cs t hA ht => by
    rcases hA with hA | hA
    · obtain ⟨cs', t', h1, h2⟩ := h'.bk.ty k hA
      rw [ht] at h1
      injection h1 with h1
      injection h1 with _ h1 _
      subst h1
      exact h2.elim .inl fun e => .inr (.inl e)
    · obtain ⟨cs', t', h1, h2⟩ := h'.rb.ty k hA
      rw [ht] at h1
      injection h1 with h1
      injection h1 with _ h1 _
      subst h1
      exact .inr (.inr h2)
  refine ⟨h.bk.keep hk fun k ho hA => ?_, ⟨(hk.block _ h.rb.lt fun e => ?_).trans h.rb.blk, h.rb.row.stays fun k e hl => hk.block k hl fun e2 => ?_, h.rb.len, fun i hi => (h.rb.lists i hi).stays fun k e hl => hk.block k hl fun e2 => ?_, h.rb.done⟩, h.eq⟩
  · obtain ⟨cs, t, h1, h2⟩ := h.bk.ty k ho
    rcases key k cs t hA h1 with ⟨e, e1⟩ | ⟨e, e1⟩ | ⟨e, e1⟩ | ⟨e, e1⟩ <;> subst e <;> rcases h2 with ⟨e, e2⟩ | ⟨e, e2⟩ <;> first | cases e; done | skip
    · exact ha.books (e2.symm.trans e1)
    · exact ha.rows k e2 e1
  · rcases key r _ _ e h.rb.blk with ⟨e, e1⟩ | ⟨e, e1⟩ | ⟨e, e1⟩ | ⟨e, e1⟩ <;> first | cases e; done | skip
    exact ha.refs e1
  · obtain ⟨cs, hc⟩ := h.rb.row.ty k e
    rcases key k _ _ e2 hc with ⟨e3, e1⟩ | ⟨e3, e1⟩ | ⟨e3, e1⟩ | ⟨e3, e1⟩ <;> first | cases e3; done | skip
    exact ha.sents k e e1
  · obtain ⟨cs, hc⟩ := (h.rb.lists i hi).ty k e
    rcases key k _ _ e2 hc with ⟨e3, e1⟩ | ⟨e3, e1⟩ | ⟨e3, e1⟩ | ⟨e3, e1⟩ <;> cases e3
end Go.Proofs.YtfkimdgbkfogcaaDoor
