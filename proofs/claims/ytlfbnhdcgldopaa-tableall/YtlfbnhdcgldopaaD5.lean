/- Several tables side by side; the law's own lists. -/
import Derived.Test.YtlfbnhdcgldopaaD2
namespace Go.Proofs.Ytlfbnhdcgldopaa
open Go.RowKit

/-- A table: its block, its max, its moving entries, its slice. -/
abbrev Tb := Nat × Nat × List E × Value
def mineT (w W : World) (t : Tb) : Prop := Mine w t.1 t.2.1 t.2.2.1 t.2.2.2 W
def sep (s t : Tb) : Prop := ∀ j, foot s.1 s.2.2.2 j → ¬ foot t.1 t.2.2.2 j

theorem sep.symm {s t : Tb} (h : sep s t) : sep t s := fun j ht hs => h j hs ht

def Tabs (w : World) (ts : List Tb) (W : World) : Prop := (∀ t ∈ ts, mineT w W t) ∧ ts.Pairwise sep ∧ Below w.heap.size w W

theorem Tabs.below {w : World} {ts : List Tb} {W W' : World} (h : Tabs w ts W) (hb : Below W.heap.size W W') : Tabs w ts W' :=
  ⟨fun t ht => (h.1 t ht).below hb, h.2.1, h.2.2.trans (hb.mono h.2.2.size)⟩

theorem Tabs.drew {w : World} {ts : List Tb} {W : World} (h : Tabs w ts W) : Tabs w ts W.drew :=
  h.below ⟨rfl, rfl, rfl, Nat.le_refl _, fun _ _ => rfl⟩

theorem Tabs.get {w : World} {ts : List Tb} {W : World} (h : Tabs w ts W) (A B : List Tb) (t : Tb) (e : ts = A ++ t :: B) : Mine w t.1 t.2.1 t.2.2.1 t.2.2.2 W :=
  h.1 t (by rw [e]; simp)

/-- One of them is changed: the others see nothing of it. -/
theorem Tabs.change {w : World} {W W' : World} (A B : List Tb) (t : Tb) {mx' : Nat} {es' : List E} (h : Tabs w (A ++ t :: B) W) (hc : Changed W W' t.1 mx' es' t.2.2.2) : ∃ v', Tabs w (A ++ (t.1, mx', es', v') :: B) W' := by
  obtain ⟨v', h1, h2, h3⟩ := changed_foot hc
  obtain ⟨hm, hp, hB⟩ := h
  have ht : mineT w W t := hm t (by simp)
  have hbl : Below w.heap.size W W' := h2.below hB.size fun k hk hf => absurd (ht.2.1 k hf) (by omega)
  have hmt : mineT w W' (t.1, mx', es', v') := ⟨h1, fun j hj => by
    rcases h3 j hj with h4 | h4
    · exact ht.2.1 j h4
    · exact Nat.le_trans hB.size h4, hB.trans hbl⟩
  have hms : ∀ s, mineT w W s → sep s t → mineT w W' s ∧ sep s (t.1, mx', es', v') := fun s hs hst =>
    ⟨⟨hs.1.stays h2 (fun hf => hst s.1 (.inl rfl) hf) (fun k hk hf => hst k (.inr hk.symm) hf), hs.2.1, hB.trans hbl⟩, fun j hj hu => by
      rcases h3 j hu with h4 | h4
      · exact hst j hj h4
      · have := hs.1.foot_lt j hj
        omega⟩
  rw [List.pairwise_append, List.pairwise_cons] at hp
  obtain ⟨hpA, ⟨hpt, hpB⟩, hpAB⟩ := hp
  refine ⟨v', fun s hs => ?_, ?_, hB.trans hbl⟩
  · rcases List.mem_append.1 hs with hs | hs
    · exact (hms s (hm s (by simp [hs])) (hpAB s hs t (by simp))).1
    · rcases List.mem_cons.1 hs with rfl | hs
      · exact hmt
      · exact (hms s (hm s (by simp [hs])) (hpt s hs).symm).1
  · rw [List.pairwise_append, List.pairwise_cons]
    refine ⟨hpA, ⟨fun s hs => (hms s (hm s (by simp [hs])) (hpt s hs).symm).2.symm, hpB⟩, fun a ha s hs => ?_⟩
    rcases List.mem_cons.1 hs with rfl | hs
    · exact (hms a (hm a (by simp [ha])) (hpAB a ha t (by simp))).2
    · exact hpAB a ha s (by simp [hs])

/-- One more table. -/
theorem Tabs.push {w : World} {ts : List Tb} {W W' : World} (h : Tabs w ts W) (t : Tb) (ht : Mine w t.1 t.2.1 t.2.2.1 t.2.2.2 W') (hf : ∀ j, foot t.1 t.2.2.2 j → W.heap.size ≤ j) (hb : Below W.heap.size W W') : Tabs w (ts ++ [t]) W' := by
  have h' := h.below hb
  refine ⟨fun s hs => ?_, ?_, h'.2.2⟩
  · rcases List.mem_append.1 hs with hs | hs
    · exact h'.1 s hs
    · rw [List.mem_singleton.1 hs]; exact ht
  · rw [List.pairwise_append]
    refine ⟨h.2.1, List.pairwise_singleton _ _, fun a ha s hs j hj hu => ?_⟩
    rw [List.mem_singleton.1 hs] at hu
    have h1 := hf j hu
    have h2 := (h.1 a ha).1.foot_lt j hj
    omega

theorem tabs_add {w W : World} (A B : List Tb) (t : Tb) (h : Tabs w (A ++ t :: B) W) (n x : ByteArray) (hsz : n.size + x.size + 32 ≤ 4611686018427387904) :
    Calls Try.prog 10 #[.pointer (some ⟨t.1, 0, none⟩), .string n, .string x] W fun e W' => e = .returned (.tuple #[]) ∧ ∃ v', Tabs w (A ++ (t.1, t.2.1, keep t.2.1 ((n, x) :: t.2.2.1), v') :: B) W' := by
  refine (add_any W t.1 t.2.1 t.2.2.1 t.2.2.2 (h.get A B t rfl).1 n x hsz).mono ?_
  rintro e W' ⟨rfl, hc⟩
  exact ⟨rfl, h.change A B t hc⟩

theorem tabs_resize {w W : World} (A B : List Tb) (t : Tb) (h : Tabs w (A ++ t :: B) W) (m : Nat) (hm : m ≤ 65536) :
    Calls Try.prog 17 #[.pointer (some ⟨t.1, 0, none⟩), .int .i64 (m : Int)] W fun e W' => e = .returned (.int .i64 0) ∧ ∃ v', Tabs w (A ++ (t.1, m, keep m t.2.2.1, v') :: B) W' := by
  refine (resize_good W t.1 t.2.1 t.2.2.1 t.2.2.2 (h.get A B t rfl).1 m hm).mono ?_
  rintro e W' ⟨rfl, hc⟩
  exact ⟨rfl, h.change A B t hc⟩

theorem tabs_copy {w W : World} (A B : List Tb) (t : Tb) (h : Tabs w (A ++ t :: B) W) :
    Calls Try.prog 20 #[.pointer (some ⟨t.1, 0, none⟩)] W fun r W' => ∃ c v', r = .returned (.pointer (some ⟨c, 0, none⟩)) ∧ Tabs w ((A ++ t :: B) ++ [(c, t.2.1, t.2.2.1, v')]) W' := by
  refine (copy_mine (h.get A B t rfl)).mono ?_
  rintro e W' ⟨c, v', rfl, hm, hf, hb⟩
  exact ⟨c, v', rfl, h.push (c, t.2.1, t.2.2.1, v') hm hf hb⟩

theorem tabs_new {w W : World} {ts : List Tb} (h : Tabs w ts W) (mx : Nat) (hmx : mx ≤ 65536) :
    Calls Try.prog 9 #[.int .i64 (mx : Int)] W fun e W' => e = .returned (.tuple #[.pointer (some ⟨W.heap.size, 0, none⟩), .int .i64 0]) ∧ Tabs w (ts ++ [(W.heap.size, mx, [], .slice none 0 0)]) W' := by
  refine (new_mine w W mx hmx h.2.2).mono ?_
  rintro e W' ⟨rfl, hm, hb⟩
  refine ⟨rfl, h.push _ hm ?_ hb⟩
  rintro j (rfl | hj)
  · exact Nat.le_refl _
  · cases hj

/-- What turns no block of a table. -/
theorem Tabs.grown {w : World} {ts : List Tb} {W W' : World} {row : Option Nat} (h : Tabs w ts W) (hg : W.grownBy W' row) (hr : ∀ k, row = some k → w.heap.size ≤ k ∧ ∃ c, W.heap[k]? = some (.cells c 30 (0, 0))) : Tabs w ts W' := by
  refine ⟨fun t ht => Mine.grown (h.1 t ht) hg hr, h.2.1, h.2.2.trans ⟨hg.os, hg.tape, hg.output, hg.size, fun k hk => hg.block k (Nat.lt_of_lt_of_le hk h.2.2.size) fun e => ?_⟩⟩
  have := (hr k e.symm).1
  omega

/-- append(a, s...): a row of the law's own, or none yet, grows by a list. -/
theorem append_list (W : World) (b0 : Nat) (hb0 : b0 ≤ W.heap.size) (v sv : Value) (l1 l2 : List E) (hrow : W.ownsRow b0 30 2 v l1.length (cellsOf l1)) (hE : Ents W sv l2) (hlen : (l1.length + l2.length) * 32 ≤ 140737488355328) :
    ∃ v' w', (Builtin.append_ #[22, 22] 22 #[v, sv]).run Try.prog W = .ok v' w' ∧ w'.ownsRow b0 30 2 v' (l1 ++ l2).length (cellsOf (l1 ++ l2)) ∧ W.grownBy w' v.ownBlock := by
  obtain ⟨i0, hi0, hz0, hz1, hz2⟩ := info_parts info30
  rcases hE with ⟨rfl, rfl⟩ | ⟨a, cap, rfl, hl, hc, _, hcell⟩
  · refine ⟨v, W, ?_, by rw [List.append_nil]; exact hrow, ⟨rfl, rfl, rfl, Nat.le_refl _, fun _ _ _ => rfl⟩⟩
    rcases hrow.2 with ⟨rfl, hn⟩ | ⟨g, cap, cur, rfl, _, hg, hcc, _⟩
    · simp [Builtin.append_, run_underlying Try.underlying22, sizeOf, typeInfo, hi0, Builtin.lenOf, Builtin.firstCells]
      done
    · simp [Builtin.append_, run_underlying Try.underlying22, sizeOf, typeInfo, hi0, Builtin.lenOf, Builtin.firstCells, storeCells, hcc]
      done
  · obtain ⟨v', w', hrun, ho, hg, _⟩ := run_append_own (P := Try.prog) W b0 22 22 30 i0 _ 2 32 Try.underlying22 hi0 hz0 hz1 hz2 rfl (by omega) v l1.length (cellsOf l1) hrow a l2.length cap (cellsOf l2) (by rw [length_cellsOf]) hcell (cellsOf_one l2) (by unfold maxLen; omega) (by omega) hb0
    rw [← cellsOf_append, ← List.length_append] at ho
    exact ⟨v', w', hrun, ho, hg⟩

end Go.Proofs.Ytlfbnhdcgldopaa
