/- StreamsBirths: what lies in memory. -/
import Derived.Test.YtaaocgppniflcaaQ0
import Derived.Test.YtaaocgppniflcaaP3
namespace Go.Proofs.Ytaaocgppniflcaa
open Go.RowKit Go.Maps
set_option linter.unusedVariables false
set_option linter.unusedSimpArgs false

theorem ty_neB {W : World} {q p b : Nat} {T : Tb} {c : Array Value} {t : TypeId} {fz : Nat × Nat} (h : W.heap[q]? = some (.cells c t fz)) (ti : TI W p b T) (ht : t ≠ 61) : ¬ (q = p ∨ q = b) := by
  rintro (e | e)
  · rw [e, ti.blk] at h; injection h with h; injection h with _ h; exact ht h.symm
  · obtain ⟨es, clock, hb, _⟩ := ti.mp
    rw [e, hb] at h
    cases h
/-- a table, the row of those born, the array of the greatest -/
structure Bs (w W : World) (p b q : Nat) (t0 t1 : Int) (T : Tb) (bv : Value) (bn : List Int) : Prop where
  ti : TI W p b T
  row : R EI W bv bn
  ar : W.heap[q]? = some (.cells #[.int .i64 t0, .int .i64 t1] 36)
  bel : Below w.heap.size w W
  np : w.heap.size ≤ p
  nb : w.heap.size ≤ b
  nq : w.heap.size ≤ q
  nr : ∀ k, bv.ownBlock = some k → w.heap.size ≤ k
section
variable {w W W' : World} {p b q : Nat} {t0 t1 : Int} {T T' : Tb} {bv : Value} {bn : List Int}
theorem Bs.sz (h : Bs w W p b q t0 t1 T bv bn) : w.heap.size ≤ W.heap.size := h.bel.size
theorem Bs.below (h : Bs w W p b q t0 t1 T bv bn) (hB : Below W.heap.size W W') : Bs w W' p b q t0 t1 T bv bn :=
  { h with ti := h.ti.below hB, row := h.row.below hB, ar := (hB.block _ (heap_lt h.ar)).trans h.ar, bel := h.bel.trans (hB.mono h.sz) }
theorem Bs.move (h : Bs w W p b q t0 t1 T bv bn) (ht : TI W' p b T') (hk : K2s p b W W') : Bs w W' p b q t0 t1 T' bv bn :=
  { h with
    ti := ht
    row := h.row.stays fun k hkv hkl => by
      obtain ⟨c, hc⟩ := h.row.ty k hkv
      exact hk.block _ hkl (ty_neB hc h.ti (by decide))
    ar := (hk.block _ (heap_lt h.ar) (ty_neB h.ar h.ti (by decide))).trans h.ar
    bel := h.bel.trans (hk.fresh h.sz h.np h.nb) }
/-- a birth is written down -/
theorem Bs.bear (h : Bs w W p b q t0 t1 T bv bn) (i : Nat) (hi : i = 0 ∨ i = 1) (x : Int) (hlen : (bn.length + 1) * 8 ≤ 140737488355328) :
    ∃ base cap w9, (Builtin.append_ #[30, 30] 30 #[bv, .slice (some ⟨W.heap.size, 0, none⟩) 1 1]).run Try.prog ((W.setCell ⟨q, i, none⟩ (.int .i64 x)).alloc (.cells #[.int .i64 x] 2)) = .ok (.slice base (bn.length + 1) cap) w9 ∧
      Bs w w9 p b q (if i = 0 then x else t0) (if i = 1 then x else t1) T (.slice base (bn.length + 1) cap) (bn ++ [x]) ∧ ∀ (j : Nat) (c : Array Value), W.heap[j]? = some (.cells c 29) → w9.heap[j]? = some (.cells c 29) := by
  have hs : (W.setCell ⟨q, i, none⟩ (.int .i64 x)).heap.size = W.heap.size := by simp [World.setCell]
  have hnq := ty_neB h.ar h.ti (by decide)
  have hr1 : R EI (W.setCell ⟨q, i, none⟩ (.int .i64 x)) bv bn := h.row.stays fun k hkv hkl => setCell_other _ _ _ _ _ (fun e => by
    obtain ⟨c, hc⟩ := h.row.ty k hkv
    rw [e, h.ar] at hc
    injection hc with hc; injection hc with _ hc; exact absurd hc (by decide))
  have hnew : ((W.setCell ⟨q, i, none⟩ (.int .i64 x)).alloc (.cells #[.int .i64 x] 2)).heap[W.heap.size]? = some (.cells #[.int .i64 x] 2) := by
    have := heap_alloc_new (W.setCell ⟨q, i, none⟩ (.int .i64 x)) (.cells #[.int .i64 x] 2)
    rw [hs] at this
    exact this
  obtain ⟨base, cap, w9, hrun, hR, hG⟩ := app okI _ bv bn (hr1.below (bel1 _ _)) (.slice (some ⟨W.heap.size, 0, none⟩) 1 1) [x] (in_one _ _ x _ _ _ hnew rfl) (by simpa [EI] using hlen)
  have hold : ∀ j, j < W.heap.size → bv.ownBlock ≠ some j → j ≠ q → w9.heap[j]? = W.heap[j]? := fun j hj hb hq => by
    rw [hG.block j (by simp [World.setCell]; omega) hb, heap_al, if_neg (by rw [hs]; omega), setCell_other _ _ _ _ _ hq]
  have hti : TI w9 p b T := h.ti.stays (hold _ h.ti.lt (fun e => by
    obtain ⟨c, hc⟩ := h.row.ty _ e
    exact ty_neB hc h.ti (by decide) (.inl rfl)) (fun e => hnq (.inl e.symm))) (hold _ h.ti.mlt (fun e => by
    obtain ⟨c, hc⟩ := h.row.ty _ e
    exact ty_neB hc h.ti (by decide) (.inr rfl)) (fun e => hnq (.inr e.symm)))
  refine ⟨base, cap, w9, hrun, ⟨hti, hR, ?_, ?_, h.np, h.nb, h.nq, fun k hk => ?_⟩, fun j c hc => ?_⟩
  · have hq1 : bv.ownBlock ≠ some q := fun e => by
      obtain ⟨c, hc⟩ := h.row.ty _ e
      rw [h.ar] at hc
      injection hc with hc; injection hc with _ hc; exact absurd hc (by decide)
    rw [hG.block q (by simp [World.setCell]; have := heap_lt h.ar; omega) hq1, heap_al, if_neg (by rw [hs]; have := heap_lt h.ar; omega), setCell_block W q i _ _ _ _ h.ar]
    rcases hi with rfl | rfl <;> rfl
  · have hsz := h.sz
    refine h.bel.trans ⟨hG.os, hG.tape, hG.output, ?_, fun j hj => hold j (by omega) (fun e => by have := h.nr _ e; omega) (by have := h.nq; omega)⟩
    have := hG.size
    rw [size_al, hs] at this
    omega
  · rcases hG.own k hk with e | e
    · exact h.nr k e
    · have := h.sz
      rw [size_al, hs] at e
      omega
  · rw [hold j (heap_lt hc) (fun e => by
      obtain ⟨c', hc'⟩ := h.row.ty _ e
      rw [hc] at hc'
      injection hc' with hc'; injection hc' with _ hc'; exact absurd hc' (by decide)) (fun e => by
      have h2 := h.ar
      rw [← e, hc] at h2
      injection h2 with h2; injection h2 with _ h2; exact absurd h2 (by decide))]
    exact hc
end
/-- no number twice, all between: how many at most -/
theorem nodup_le {l : List Int} (hn : l.Nodup) (h : ∀ x ∈ l, 1 ≤ x ∧ x ≤ 2147483647) : l.length ≤ 2147483647 := by
  have hp := List.mergeSort_perm l (fun x y => decide (x ≤ y))
  have h1 := List.pairwise_mergeSort (le := fun x y : Int => decide (x ≤ y)) (fun a b c h1 h2 => by simp at *; omega) (fun a b => by simp; omega) l
  have h2 : (l.mergeSort fun x y => decide (x ≤ y)).Nodup := hp.nodup_iff.2 hn
  have h3 : (l.mergeSort fun x y => decide (x ≤ y)).Pairwise (· < ·) := by
    refine (List.Pairwise.and h1 h2).imp fun {a b} ⟨h4, h5⟩ => ?_
    have h6 : a ≤ b := by simpa using h4
    have h7 : a ≠ b := h5
    omega
  have := length_le_range 2147483647 _ 1 h3 fun x hx => by
    have := h x (hp.mem_iff.1 hx)
    omega
  rw [hp.length_eq] at this
  exact this
theorem Bi.length {T : Tb} {bn : List Int} (h : Bi T bn) : bn.length ≤ 2147483647 := nodup_le h.nd fun x hx => isStr_iff.1 (h.born x hx).1
end Go.Proofs.Ytaaocgppniflcaa
