/- TableLast: the parts of its walk. -/
import Derived.Test.YtlfbnhdcgldopaaC4
import Derived.Lib.JoinLaws
namespace Go.Proofs.Ytlfbnhdcgldopaa
open Go.RowKit

theorem info30 : (Try.prog.info? 30).map (fun i => (i.zero, i.size, i.bytes)) = some (some (.agg #[.string ⟨#[]⟩, .string ⟨#[]⟩]), 2, 32) := by kernel_rfl

/-- A row of the call's own that holds entries: it reads as a slice of them. -/
theorem ents_of_row {w : World} {base : Nat} {v : Value} {l : List E} (h : w.ownsRow base 30 2 v l.length (cellsOf l)) : Ents w v l := by
  rcases h.2 with ⟨rfl, hn⟩ | ⟨g, cap, cur, rfl, _, hg, hc, hm, hs, htk⟩
  · exact .inl ⟨rfl, List.length_eq_zero_iff.1 hn⟩
  · refine .inr ⟨⟨g, 0, none⟩, cap, rfl, hc, by unfold maxLen at hm; omega, .inr rfl, fun j u hj => ?_⟩
    exact h.cells (g := g) rfl j u hj

/-- append([]Entry{}, s...): a row of its own. -/
theorem append_fresh (w : World) (b0 : Nat) (hb0 : b0 ≤ w.heap.size) (v : Value) (l : List E) (hE : Ents w v l) (hlen : l.length ≤ 4096) (N : Nat) (hN : w.heap[N]? = some (.cells #[] 30 (0, 0))) (hNb : b0 ≤ N) :
    ∃ base' cap' w', (Builtin.append_ #[22, 22] 22 #[.slice (some ⟨N, 0, none⟩) 0 0, v]).run Try.prog w = .ok (.slice base' l.length cap') w' ∧ w'.ownsRow b0 30 2 (.slice base' l.length cap') l.length (cellsOf l) ∧ w.grownBy w' (some N) := by
  obtain ⟨i0, hi0, hz0, hz1, hz2⟩ := info_parts info30
  have hown : w.ownsRow b0 30 2 (.slice (some ⟨N, 0, none⟩) 0 0) 0 [] := ⟨rfl, .inr ⟨N, 0, #[], rfl, hNb, hN, Nat.le_refl _, Nat.zero_le _, rfl, rfl⟩⟩
  rcases hE with ⟨rfl, rfl⟩ | ⟨a, cap, rfl, hl, hc, _, hcell⟩
  · refine ⟨some ⟨N, 0, none⟩, 0, w, ?_, hown, ⟨rfl, rfl, rfl, Nat.le_refl _, fun _ _ _ => rfl⟩⟩
    simp [Builtin.append_, run_underlying Try.underlying22, sizeOf, typeInfo, hi0, Builtin.lenOf, Builtin.firstCells, storeCells]
    done
  · obtain ⟨v', w', hrun, ho, hg, _⟩ := run_append_own (P := Try.prog) w b0 22 22 30 i0 _ 2 32 Try.underlying22 hi0 hz0 hz1 hz2 rfl (by omega) _ 0 [] hown a l.length cap (cellsOf l) (by rw [length_cellsOf]) hcell (cellsOf_one l) (by unfold maxLen; omega) (by omega) hb0
    rw [Nat.zero_add, List.nil_append] at ho
    obtain ⟨base', cap', rfl⟩ := row_slice ho
    exact ⟨base', cap', w', hrun, ho, hg⟩

/-- No block of a table is a row of the law's own entries. -/
theorem not_foot {W : World} {b m : Nat} {es : List E} {v : Value} (h : Tab W b m es v) {k : Nat} {c : Array Value} {fz : Nat × Nat} (hk : W.heap[k]? = some (.cells c 30 fz)) : ¬ foot b v k := by
  rintro (rfl | hj)
  · rw [h.2.2.1] at hk
    simp at hk
  · rcases h.2.2.2.2 with ⟨rfl, _⟩ | ⟨g, cap, cur, rfl, _, hg, _⟩
    · cases hj
    · cases hj
      rw [hg] at hk
      simp at hk

theorem row_type {W : World} {base : Nat} {v : Value} {n : Nat} {xs : List Value} (h : W.ownsRow base 30 2 v n xs) : ∀ k, v.ownBlock = some k → ∃ c, W.heap[k]? = some (.cells c 30 (0, 0)) := by
  intro k hk
  rcases h.2 with ⟨rfl, _⟩ | ⟨g, cap, cur, rfl, _, hg, _⟩
  · cases hk
  · cases hk
    exact ⟨cur, hg⟩

theorem Mine.grown {w : World} {b m : Nat} {es : List E} {v : Value} {W W' : World} {row : Option Nat} (h : Mine w b m es v W) (hg : W.grownBy W' row) (hr : ∀ k, row = some k → w.heap.size ≤ k ∧ ∃ c, W.heap[k]? = some (.cells c 30 (0, 0))) : Mine w b m es v W' := by
  have hk : Kept (fun k => row = some k) W W' := ⟨hg.os, hg.tape, hg.output, hg.size, fun k hk hs => hg.block k hk fun e => hs e.symm⟩
  have hnf : ∀ j, row = some j → ¬ foot b v j := fun j hj => by
    obtain ⟨_, c, hc⟩ := hr j hj
    exact not_foot h.1 hc
  refine ⟨h.1.stays hk (fun e => hnf b e (.inl rfl)) (fun k hk e => hnf k e (.inr hk.symm)), h.2.1, h.2.2.trans (hk.below h.2.2.size fun k hk' e => ?_)⟩
  have := (hr k e).1
  omega

/-- The table, and the law's own list of what should stand there (the oldest first). -/
def St (w : World) (b m : Nat) (is : List E) (v isv : Value) (W : World) : Prop :=
  Mine w b m is.reverse v W ∧ W.ownsRow w.heap.size 30 2 isv is.length (cellsOf is)

theorem St.below {w : World} {b m : Nat} {is : List E} {v isv : Value} {W W' : World} (h : St w b m is v isv W) (hb : Below W.heap.size W W') : St w b m is v isv W' :=
  ⟨h.1.below hb, row_stays h.2 fun k _ hk => hb.block k hk⟩

theorem Tab.fine {W : World} {b m : Nat} {is : List E} {v : Value} (h : Tab W b m is.reverse v) : Fine is ∧ is.length ≤ 2048 := by
  have h1 := h.2.1
  rw [total_reverse] at h1
  have h2 := h.len
  rw [List.length_reverse] at h2
  refine ⟨fun e he => ?_, h2⟩
  obtain ⟨i, hi, rfl⟩ := List.getElem_of_mem he
  have h3 := esz_le_total is i hi
  have h4 : esz is[i] = is[i].1.size + is[i].2.size + 32 := rfl
  omega

theorem St.changed {w : World} {b m m' : Nat} {is : List E} {es' : List E} {v isv : Value} {W W' : World} (h : St w b m is v isv W) (hc : Changed W W' b m' es' v) : ∃ v', Mine w b m' es' v' W' ∧ W'.ownsRow w.heap.size 30 2 isv is.length (cellsOf is) := by
  obtain ⟨v', hm⟩ := h.1.changed hc
  obtain ⟨_, _, hk, _⟩ := changed_foot hc
  refine ⟨v', hm, row_stays h.2 fun k hk' hlt => hk.block k hlt ?_⟩
  obtain ⟨c, hcc⟩ := row_type h.2 k hk'
  exact not_foot h.1.1 hcc

/-- The list is copied into a row of its own. -/
theorem st_fresh {w : World} {b m : Nat} {is : List E} {v v' : Value} {W : World} {N : Nat} (hM : Mine w b m is.reverse v W) (hE : Ents W v' is) (hN : W.heap[N]? = some (.cells #[] 30 (0, 0))) (hNw : w.heap.size ≤ N) :
    ∃ base' cap' w', (Builtin.append_ #[22, 22] 22 #[.slice (some ⟨N, 0, none⟩) 0 0, v']).run Try.prog W = .ok (.slice base' is.length cap') w' ∧ St w b m is v (.slice base' is.length cap') w' := by
  obtain ⟨base', cap', w', h1, h2, h3⟩ := append_fresh W w.heap.size hM.2.2.size v' is hE (by have := hM.1.fine.2; omega) N hN hNw
  exact ⟨base', cap', w', h1, hM.grown h3 fun k hk => by cases hk; exact ⟨hNw, _, hN⟩, h2⟩

/-- append(is, e), with a new list without entries beside it. -/
theorem append_one {w : World} {b m : Nat} {es : List E} {v : Value} {is : List E} {isv : Value} {W : World} (y z : ByteArray) (hM : Mine w b m es v W) (hrow : W.ownsRow w.heap.size 30 2 isv is.length (cellsOf is)) (hlen : is.length ≤ 2048) :
    ∃ v' w4, (Builtin.append_ #[22, 22] 22 #[isv, .slice (some ⟨W.heap.size + 1, 0, none⟩) 1 1]).run Try.prog ((W.alloc (.cells #[] 30)).alloc (.cells #[.string y, .string z] 30)) = .ok v' w4 ∧ Ents w4 v' (is ++ [(y, z)]) ∧ Mine w b m es v w4 ∧ w4.heap[W.heap.size]? = some (.cells #[] 30 (0, 0)) := by
  obtain ⟨i0, hi0, hz0, hz1, hz2⟩ := info_parts info30
  have hsz : (W.alloc (.cells #[] 30)).heap.size = W.heap.size + 1 := by simp
  have hv : ((W.alloc (.cells #[] 30)).alloc (.cells #[.string y, .string z] 30)).heap[W.heap.size + 1]? = some (.cells #[.string y, .string z] 30 (0, 0)) := by rw [← hsz]; exact heap_alloc_new _ _
  have hN : ((W.alloc (.cells #[] 30)).alloc (.cells #[.string y, .string z] 30)).heap[W.heap.size]? = some (.cells #[] 30 (0, 0)) := (heap_alloc_old _ _ (by simp)).trans (heap_alloc_new _ _)
  have hB1 : Below W.heap.size W ((W.alloc (.cells #[] 30)).alloc (.cells #[.string y, .string z] 30)) := ((Below.refl _ W).alloc (Nat.le_refl _) _).alloc (by simp) _
  have hrow1 := (hrow.alloc (.cells #[] 30)).alloc (.cells #[.string y, .string z] 30)
  obtain ⟨v', w4, hrun, ho, hg, _⟩ := run_append_own (P := Try.prog) _ w.heap.size 22 22 30 i0 _ 2 32 Try.underlying22 hi0 hz0 hz1 hz2 rfl (by omega) isv is.length (cellsOf is) hrow1 ⟨W.heap.size + 1, 0, none⟩ 1 1 [.string y, .string z] rfl (fun j u hu => by
      rw [Addr.add_lit, cell_of_row _ _ _ _ _ _ hv, Nat.zero_add]
      simpa using hu) (by simp [Value.oneCell']) (by unfold maxLen; omega) (by omega) (by have := hM.2.2.size; simp; omega)
  have hcell : cellsOf is ++ [.string y, .string z] = cellsOf (is ++ [(y, z)]) := by rw [cellsOf_append]; rfl
  rw [hcell] at ho
  refine ⟨v', w4, hrun, ?_, (hM.below hB1).grown hg fun k hk => ?_, ?_⟩
  · exact ents_of_row (base := w.heap.size) (by rw [List.length_append]; exact ho)
  · exact ⟨(hrow.lt k hk).1, row_type hrow1 k hk⟩
  · refine (hg.block _ (by simp; omega) fun e => ?_).trans hN
    have := (hrow.lt _ e.symm).2
    omega

theorem lastS_rev (l : List E) (m : Nat) : (lastS l m).reverse = keep m l.reverse := by unfold lastS; rw [List.reverse_reverse]

end Go.Proofs.Ytlfbnhdcgldopaa
