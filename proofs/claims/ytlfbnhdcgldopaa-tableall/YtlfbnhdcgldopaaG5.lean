/- TableAll: what its walk stands on. -/
import Derived.Test.YtlfbnhdcgldopaaG4
import Derived.Test.YtlfbnhdcgldopaaO1
namespace Go.Proofs.Ytlfbnhdcgldopaa
open Go.RowKit

theorem two_boxes {w : World} {W : World} {L k8 bp0 br0 mx0 bp1 br1 mx1 : Nat} {u0 v0 u1 v1 : Value} {es0 es1 : List E} {c8 : Array Value} {a b c d : Value}
    (h : All w [.r br1 mx1 es1 u1, .p bp1 mx1 es1 v1, .box k8 c8 50, .r br0 mx0 es0 u0, .p bp0 mx0 es0 v0, .box L #[a, b, c, d] 51] W) :
    Quad w L bp0 br0 mx0 es0 bp1 br1 mx1 es1 ((((W.setCell ⟨L, 0, none⟩ (pt bp0)).setCell ⟨L, 1, none⟩ (pt br0)).setCell ⟨L, 2, none⟩ (pt bp1)).setCell ⟨L, 3, none⟩ (pt br1)) := by
  have h2 := (((h.set [_, _, _, _, _] [] L _ 51 0 (pt bp0)).set [_, _, _, _, _] [] L _ 51 1 (pt br0)).set [_, _, _, _, _] [] L _ 51 2 (pt bp1)).set [_, _, _, _, _] [] L _ 51 3 (pt br1)
  refine ⟨u0, v0, u1, v1, (h2.sub (ts' := [.r br1 mx1 es1 u1, .p bp1 mx1 es1 v1, .r br0 mx0 es0 u0, .p bp0 mx0 es0 v0, .box L #[pt bp0, pt br0, pt bp1, pt br1] 51]) ?_).perm ?_⟩
  · exact (((((List.Sublist.refl _).cons_cons _).cons_cons _).cons _).cons_cons _).cons_cons _
  · exact (List.perm_append_comm (α := Thing) (l₁ := [.r br1 mx1 es1 u1, .p bp1 mx1 es1 v1]) (l₂ := [.r br0 mx0 es0 u0, .p bp0 mx0 es0 v0] ++ [.box L #[pt bp0, pt br0, pt bp1, pt br1] 51])).trans (List.Perm.append_right (α := Thing) [.r br1 mx1 es1 u1, .p bp1 mx1 es1 v1] (List.perm_append_comm (α := Thing) (l₁ := [.r br0 mx0 es0 u0, .p bp0 mx0 es0 v0]) (l₂ := [.box L #[pt bp0, pt br0, pt bp1, pt br1] 51])))

theorem box2 {k : Nat} {a b : Value} {W : World} (h : W.heap[k]? = some (.cells #[a, b] 50 (0, 0))) : W.cell? ⟨k, 0, none⟩ = some a ∧ W.cell? ⟨k, 1, none⟩ = some b ∧ k < W.heap.size :=
  ⟨by rw [cell_of_row _ _ _ _ _ _ h]; rfl, by rw [cell_of_row _ _ _ _ _ _ h]; rfl, (Array.getElem?_eq_some_iff.1 h).1⟩

section
variable {w : World} {L bp0 br0 mx0 bp1 br1 mx1 bp br mx : Nat} {es0 es1 es : List E} {W W' : World} {T : List Thing}

/-- The pairs and further things. -/
def QuadT (w : World) (L bp0 br0 mx0 : Nat) (es0 : List E) (bp1 br1 mx1 : Nat) (es1 : List E) (T : List Thing) (W : World) : Prop :=
  ∃ u0 v0 u1 v1, All w (.box L #[pt bp0, pt br0, pt bp1, pt br1] 51 :: .r br0 mx0 es0 u0 :: .p bp0 mx0 es0 v0 :: .r br1 mx1 es1 u1 :: .p bp1 mx1 es1 v1 :: T) W
def HalfT (w : World) (L bp0 br0 mx0 : Nat) (es0 : List E) (bp1 br1 mx1 : Nat) (es1 : List E) (bp mx : Nat) (es : List E) (T : List Thing) (W : World) : Prop :=
  ∃ v u0 v0 u1 v1, All w (.p bp mx es v :: .box L #[pt bp0, pt br0, pt bp1, pt br1] 51 :: .r br0 mx0 es0 u0 :: .p bp0 mx0 es0 v0 :: .r br1 mx1 es1 u1 :: .p bp1 mx1 es1 v1 :: T) W
def ExtT (w : World) (L bp0 br0 mx0 : Nat) (es0 : List E) (bp1 br1 mx1 : Nat) (es1 : List E) (bp br mx : Nat) (es : List E) (T : List Thing) (W : World) : Prop :=
  ∃ u v u0 v0 u1 v1, All w (.r br mx es u :: .p bp mx es v :: .box L #[pt bp0, pt br0, pt bp1, pt br1] 51 :: .r br0 mx0 es0 u0 :: .p bp0 mx0 es0 v0 :: .r br1 mx1 es1 u1 :: .p bp1 mx1 es1 v1 :: T) W

/-- The box of c, while it holds nothing. -/
abbrev nb (k : Nat) : Thing := .box k #[.pointer none, .pointer none] 50

theorem Quad.plain (h : Quad w L bp0 br0 mx0 es0 bp1 br1 mx1 es1 W) : QuadT w L bp0 br0 mx0 es0 bp1 br1 mx1 es1 [] W := h

theorem Quad.boxed (h : Quad w L bp0 br0 mx0 es0 bp1 br1 mx1 es1 W) : QuadT w L bp0 br0 mx0 es0 bp1 br1 mx1 es1 [nb W.heap.size] (W.alloc (.cells #[.pointer none, .pointer none] 50)) := by
  obtain ⟨u0, v0, u1, v1, h⟩ := h
  exact ⟨u0, v0, u1, v1, (h.box _ 50).perm (List.perm_append_comm (α := Thing) (l₁ := [nb W.heap.size]) (l₂ := _))⟩

theorem HalfT.boxed (h : HalfT w L bp0 br0 mx0 es0 bp1 br1 mx1 es1 bp mx es [] W) : HalfT w L bp0 br0 mx0 es0 bp1 br1 mx1 es1 bp mx es [nb W.heap.size] (W.alloc (.cells #[.pointer none, .pointer none] 50)) := by
  obtain ⟨v, u0, v0, u1, v1, h⟩ := h
  exact ⟨v, u0, v0, u1, v1, (h.box _ 50).perm (List.perm_append_comm (α := Thing) (l₁ := [nb W.heap.size]) (l₂ := _))⟩

theorem HalfT.facts (h : HalfT w L bp0 br0 mx0 es0 bp1 br1 mx1 es1 bp mx es T W) : (W.cell? ⟨L, 0, none⟩ = some (pt bp0) ∧ W.cell? ⟨L, 1, none⟩ = some (pt br0) ∧ W.cell? ⟨L, 2, none⟩ = some (pt bp1) ∧ W.cell? ⟨L, 3, none⟩ = some (pt br1)) ∧
    (W.frozen? ⟨L, 0, none⟩ = false ∧ W.frozen? ⟨L, 1, none⟩ = false ∧ W.frozen? ⟨L, 2, none⟩ = false ∧ W.frozen? ⟨L, 3, none⟩ = false) ∧ L < W.heap.size := by
  obtain ⟨v, u0, v0, u1, v1, h⟩ := h
  exact box_facts (h.get [_] _ (.box L #[pt bp0, pt br0, pt bp1, pt br1] 51) rfl)

theorem QuadT.copy0 (h : QuadT w L bp0 br0 mx0 es0 bp1 br1 mx1 es1 T W) : Calls Try.prog 20 #[pt bp0] W fun e W' => ∃ c, e = .returned (pt c) ∧ HalfT w L bp0 br0 mx0 es0 bp1 br1 mx1 es1 c mx0 es0 T W' := by
  obtain ⟨u0, v0, u1, v1, H⟩ := h
  refine (all_copy [_, _] _ H rfl).mono ?_
  rintro e W' ⟨c, v', rfl, h'⟩
  exact ⟨c, rfl, v', u0, v0, u1, v1, h'⟩

theorem QuadT.copy1 (h : QuadT w L bp0 br0 mx0 es0 bp1 br1 mx1 es1 T W) : Calls Try.prog 20 #[pt bp1] W fun e W' => ∃ c, e = .returned (pt c) ∧ HalfT w L bp0 br0 mx0 es0 bp1 br1 mx1 es1 c mx1 es1 T W' := by
  obtain ⟨u0, v0, u1, v1, H⟩ := h
  refine (all_copy [_, _, _, _] _ H rfl).mono ?_
  rintro e W' ⟨c, v', rfl, h'⟩
  exact ⟨c, rfl, v', u0, v0, u1, v1, h'⟩

theorem HalfT.copy0 (h : HalfT w L bp0 br0 mx0 es0 bp1 br1 mx1 es1 bp mx0 es0 T W) : Calls Try.prog 22 #[pt br0] W fun e W' => ∃ c, e = .returned (pt c) ∧ ExtT w L bp0 br0 mx0 es0 bp1 br1 mx1 es1 bp c mx0 es0 T W' := by
  obtain ⟨v, u0, v0, u1, v1, H⟩ := h
  refine (all_rcopy [_, _] _ H rfl).mono ?_
  rintro e W' ⟨c, v', rfl, h'⟩
  exact ⟨c, rfl, v', v, u0, v0, u1, v1, h'⟩

theorem HalfT.copy1 (h : HalfT w L bp0 br0 mx0 es0 bp1 br1 mx1 es1 bp mx1 es1 T W) : Calls Try.prog 22 #[pt br1] W fun e W' => ∃ c, e = .returned (pt c) ∧ ExtT w L bp0 br0 mx0 es0 bp1 br1 mx1 es1 bp c mx1 es1 T W' := by
  obtain ⟨v, u0, v0, u1, v1, H⟩ := h
  refine (all_rcopy [_, _, _, _] _ H rfl).mono ?_
  rintro e W' ⟨c, v', rfl, h'⟩
  exact ⟨c, rfl, v', v, u0, v0, u1, v1, h'⟩

theorem ExtT.plain (h : ExtT w L bp0 br0 mx0 es0 bp1 br1 mx1 es1 bp br mx es T W) : Ext w L bp0 br0 mx0 es0 bp1 br1 mx1 es1 bp br mx es W := by
  obtain ⟨u, v, u0, v0, u1, v1, h⟩ := h
  exact ⟨u, v, u0, v0, u1, v1, h.sub (List.sublist_append_left (α := Thing) [.r br mx es u, .p bp mx es v, .box L #[pt bp0, pt br0, pt bp1, pt br1] 51, .r br0 mx0 es0 u0, .p bp0 mx0 es0 v0, .r br1 mx1 es1 u1, .p bp1 mx1 es1 v1] T)⟩

/-- The box in its block, its cells free. -/
theorem ExtT.box (k : Nat) (h : ExtT w L bp0 br0 mx0 es0 bp1 br1 mx1 es1 bp br mx es [nb k] W) : W.cell? ⟨k, 0, none⟩ = some (.pointer none) ∧ W.cell? ⟨k, 1, none⟩ = some (.pointer none) ∧ W.frozen? ⟨k, 0, none⟩ = false ∧ W.frozen? ⟨k, 1, none⟩ = false ∧ ¬ L = k := by
  obtain ⟨u, v, u0, v0, u1, v1, h⟩ := h
  have hb : W.heap[k]? = some (.cells #[.pointer none, .pointer none] 50 (0, 0)) := h.get [_, _, _, _, _, _, _] [] (nb k) rfl
  have hL : W.heap[L]? = some (.cells #[pt bp0, pt br0, pt bp1, pt br1] 51 (0, 0)) := h.get [_, _] _ (.box L #[pt bp0, pt br0, pt bp1, pt br1] 51) rfl
  refine ⟨by simp [World.cell?, hb], by simp [World.cell?, hb], by simp [World.frozen?, hb], by simp [World.frozen?, hb], ?_⟩
  rintro rfl
  rw [hb] at hL
  simp at hL

/-- The box is filled. -/
theorem ExtT.fill (k : Nat) (x y : Value) (h : ExtT w L bp0 br0 mx0 es0 bp1 br1 mx1 es1 bp br mx es [nb k] W) : Ext w L bp0 br0 mx0 es0 bp1 br1 mx1 es1 bp br mx es ((W.setCell ⟨k, 0, none⟩ x).setCell ⟨k, 1, none⟩ y) := by
  obtain ⟨u, v, u0, v0, u1, v1, h⟩ := h
  have h2 := (h.set [_, _, _, _, _, _, _] [] k _ 50 0 x).set [_, _, _, _, _, _, _] [] k _ 50 1 y
  exact ⟨u, v, u0, v0, u1, v1, h2.sub (List.sublist_append_left (α := Thing) [.r br mx es u, .p bp mx es v, .box L #[pt bp0, pt br0, pt bp1, pt br1] 51, .r br0 mx0 es0 u0, .p bp0 mx0 es0 v0, .r br1 mx1 es1 u1, .p bp1 mx1 es1 v1] _)⟩
end

end Go.Proofs.Ytlfbnhdcgldopaa
