/- made; the law's two pairs. -/
import Derived.Test.YtlfbnhdcgldopaaG3
import Derived.Laws.ResultCell
namespace Go.Proofs.Ytlfbnhdcgldopaa
open Go.RowKit

theorem All.perm {w : World} {ts ts' : List Thing} {W : World} (h : All w ts W) (hp : ts.Perm ts') : All w ts' W :=
  ⟨fun t ht => h.1 t (hp.mem_iff.2 ht), (hp.pairwise_iff fun h => apart.symm h).1 h.2.1, h.2.2⟩

theorem results_row_tmp {P : Program} {fn : Func} {p q : Tmp} {ty : TypeId} (h : fn.results = #[.cell p ty, .tmp q]) (tmps : Array Value) (w : World) (g : Nat) (t : TypeId) (cs : Array Value) (fr : Nat × Nat) (d : TypeDesc)
    (hp : tmps.getD p undef = .pointer (some ⟨g, 0, none⟩)) (hg : w.heap[g]? = some (.cells cs t fr))
    (hu : P.underlying ty = some d) (hd : (match d with | .struct _ | .array _ _ => true | _ => false) = true) (hi : (P.info? ty).map (·.size) = some cs.size) :
    (results fn tmps).run P w = .ok (.tuple #[.agg cs, tmps.getD q undef]) w := by
  rw [results_cell_tmp h, hp]
  simp [asAddr, run_loadVar_row w g t ty cs fr d hg hu hd hi]

abbrev pt (b : Nat) : Value := .pointer (some ⟨b, 0, none⟩)

set_option maxRecDepth 100000 in
set_option maxHeartbeats 2000000 in
theorem made_good {w W : World} {ts : List Thing} (h : All w ts W) (mx : Nat) (hmx : mx ≤ 65536) :
    Calls Try.prog 21 #[.int .i64 (mx : Int)] W fun e W' => ∃ bp br, e = .returned (.tuple #[.agg #[pt bp, pt br], .bool true]) ∧ All w (.r br mx [] (.slice none 0 0) :: .p bp mx [] (.slice none 0 0) :: ts) W' := by
  have H := h.box #[.pointer none, .pointer none] 50
  clear h
  go_enter Try.func21, Try.ntmps21
  go_wp2_with fail
  refine (all_new H mx hmx).mono ?_
  rintro e w1 ⟨rfl, h1⟩
  generalize (W.alloc (.cells #[.pointer none, .pointer none] 50)).heap.size = bp at h1
  clear H
  go_wp2_with fail
  refine (all_rnew h1 mx hmx).mono ?_
  rintro e w2 ⟨rfl, h2⟩
  generalize w1.heap.size = br at h2
  clear h1
  have hN : w2.heap[W.heap.size]? = some (.cells #[.pointer none, .pointer none] 50 (0, 0)) := h2.get [_, _] _ (.box W.heap.size #[.pointer none, .pointer none] 50) rfl
  have hc0 : w2.cell? ⟨W.heap.size, 0, none⟩ = some (.pointer none) := by simp [World.cell?, hN]
  have hc1 : w2.cell? ⟨W.heap.size, 1, none⟩ = some (.pointer none) := by simp [World.cell?, hN]
  have hf0 : w2.frozen? ⟨W.heap.size, 0, none⟩ = false := by simp [World.frozen?, hN]
  have hf1 : w2.frozen? ⟨W.heap.size, 1, none⟩ = false := by simp [World.frozen?, hN]
  have H3 := ((h2.set [_, _] ts W.heap.size _ 50 0 (pt bp)).set [_, _] ts W.heap.size _ 50 1 (pt br))
  have hN3 : ((w2.setCell ⟨W.heap.size, 0, none⟩ (pt bp)).setCell ⟨W.heap.size, 1, none⟩ (pt br)).heap[W.heap.size]? = some (.cells #[pt bp, pt br] 50 (0, 0)) := H3.get [_, _] _ (.box W.heap.size #[pt bp, pt br] 50) rfl
  have hd0 : ((w2.setCell ⟨W.heap.size, 0, none⟩ (pt bp)).setCell ⟨W.heap.size, 1, none⟩ (pt br)).cell? ⟨W.heap.size, 0, none⟩ = some (pt bp) := by rw [cell_of_row _ _ _ _ _ _ hN3]; rfl
  have hd1 : ((w2.setCell ⟨W.heap.size, 0, none⟩ (pt bp)).setCell ⟨W.heap.size, 1, none⟩ (pt br)).cell? ⟨W.heap.size, 1, none⟩ = some (pt br) := by rw [cell_of_row _ _ _ _ _ _ hN3]; rfl
  replace hd0 : Hid _ := hd0
  replace hd1 : Hid _ := hd1
  replace hN : Hid _ := hN
  replace hN3 : Hid _ := hN3
  go_wp2_with fail
  refine bodyPost_ret (results_row_tmp (p := 2) (q := 3) (ty := 50) rfl _ _ W.heap.size 50 #[pt bp, pt br] (0, 0) _ rfl hN3.out Try.underlying50 rfl (by kernel_rfl)) rfl ⟨bp, br, rfl, H3.sub ?_⟩
  exact (((List.Sublist.refl _).cons _).cons_cons _).cons_cons _

set_option maxRecDepth 100000 in
set_option maxHeartbeats 2000000 in
theorem made_bad {w W : World} {ts : List Thing} (h : All w ts W) (a : Int) (ha : ¬ (0 ≤ a ∧ a ≤ 65536)) :
    Calls Try.prog 21 #[.int .i64 a] W fun e W' => e = .returned (.tuple #[.agg #[.pointer none, .pointer none], .bool true]) ∧ All w ts W' := by
  have hB : Below W.heap.size W (W.alloc (.cells #[.pointer none, .pointer none] 50)) := (Below.refl _ W).alloc (Nat.le_refl _) _
  replace ha : Hid (¬ (0 ≤ a ∧ a ≤ 65536)) := ha
  go_enter Try.func21, Try.ntmps21
  go_wp2_with fail
  refine (new_bad a _ ha.out).mono ?_
  rintro e w1 ⟨rfl, rfl⟩
  go_wp2_with fail
  refine (rnew_bad a _ ha.out).mono ?_
  rintro e w1 ⟨rfl, rfl⟩
  go_wp2_with fail
  refine bodyPost_ret (results_row_tmp (p := 2) (q := 3) (ty := 50) rfl _ _ W.heap.size 50 #[.pointer none, .pointer none] (0, 0) _ rfl (heap_alloc_new _ _) Try.underlying50 rfl (by kernel_rfl)) rfl ⟨rfl, h.below hB⟩

section
variable {w : World} {L bp0 br0 mx0 bp1 br1 mx1 bp br mx : Nat} {es0 es1 es : List E} {W W' : World}

def Quad (w : World) (L bp0 br0 mx0 : Nat) (es0 : List E) (bp1 br1 mx1 : Nat) (es1 : List E) (W : World) : Prop :=
  ∃ u0 v0 u1 v1, All w [.box L #[pt bp0, pt br0, pt bp1, pt br1] 51, .r br0 mx0 es0 u0, .p bp0 mx0 es0 v0, .r br1 mx1 es1 u1, .p bp1 mx1 es1 v1] W

/-- .. and a third pair. -/
def Ext (w : World) (L bp0 br0 mx0 : Nat) (es0 : List E) (bp1 br1 mx1 : Nat) (es1 : List E) (bp br mx : Nat) (es : List E) (W : World) : Prop :=
  ∃ u v u0 v0 u1 v1, All w [.r br mx es u, .p bp mx es v, .box L #[pt bp0, pt br0, pt bp1, pt br1] 51, .r br0 mx0 es0 u0, .p bp0 mx0 es0 v0, .r br1 mx1 es1 u1, .p bp1 mx1 es1 v1] W

theorem box_facts {L : Nat} {a b c d : Value} {W : World} (h : W.heap[L]? = some (.cells #[a, b, c, d] 51 (0, 0))) : (W.cell? ⟨L, 0, none⟩ = some a ∧ W.cell? ⟨L, 1, none⟩ = some b ∧ W.cell? ⟨L, 2, none⟩ = some c ∧ W.cell? ⟨L, 3, none⟩ = some d) ∧
    (W.frozen? ⟨L, 0, none⟩ = false ∧ W.frozen? ⟨L, 1, none⟩ = false ∧ W.frozen? ⟨L, 2, none⟩ = false ∧ W.frozen? ⟨L, 3, none⟩ = false) ∧ L < W.heap.size := by
  refine ⟨⟨?_, ?_, ?_, ?_⟩, ⟨?_, ?_, ?_, ?_⟩, (Array.getElem?_eq_some_iff.1 h).1⟩
  all_goals simp [World.cell?, World.frozen?, h]

theorem Quad.facts (h : Quad w L bp0 br0 mx0 es0 bp1 br1 mx1 es1 W) : (W.cell? ⟨L, 0, none⟩ = some (pt bp0) ∧ W.cell? ⟨L, 1, none⟩ = some (pt br0) ∧ W.cell? ⟨L, 2, none⟩ = some (pt bp1) ∧ W.cell? ⟨L, 3, none⟩ = some (pt br1)) ∧
    (W.frozen? ⟨L, 0, none⟩ = false ∧ W.frozen? ⟨L, 1, none⟩ = false ∧ W.frozen? ⟨L, 2, none⟩ = false ∧ W.frozen? ⟨L, 3, none⟩ = false) ∧ L < W.heap.size := by
  obtain ⟨u0, v0, u1, v1, h⟩ := h
  exact box_facts (h.get [] _ (.box L #[pt bp0, pt br0, pt bp1, pt br1] 51) rfl)

theorem Ext.facts (h : Ext w L bp0 br0 mx0 es0 bp1 br1 mx1 es1 bp br mx es W) : (W.cell? ⟨L, 0, none⟩ = some (pt bp0) ∧ W.cell? ⟨L, 1, none⟩ = some (pt br0) ∧ W.cell? ⟨L, 2, none⟩ = some (pt bp1) ∧ W.cell? ⟨L, 3, none⟩ = some (pt br1)) ∧
    (W.frozen? ⟨L, 0, none⟩ = false ∧ W.frozen? ⟨L, 1, none⟩ = false ∧ W.frozen? ⟨L, 2, none⟩ = false ∧ W.frozen? ⟨L, 3, none⟩ = false) ∧ L < W.heap.size := by
  obtain ⟨u, v, u0, v0, u1, v1, h⟩ := h
  exact box_facts (h.get [_, _] _ (.box L #[pt bp0, pt br0, pt bp1, pt br1] 51) rfl)

theorem Quad.old (h : Quad w L bp0 br0 mx0 es0 bp1 br1 mx1 es1 W) : Below w.heap.size w W := by
  obtain ⟨u0, v0, u1, v1, h⟩ := h
  exact h.2.2

theorem Quad.below (h : Quad w L bp0 br0 mx0 es0 bp1 br1 mx1 es1 W) (hb : Below W.heap.size W W') : Quad w L bp0 br0 mx0 es0 bp1 br1 mx1 es1 W' := by
  obtain ⟨u0, v0, u1, v1, h⟩ := h
  exact ⟨u0, v0, u1, v1, h.below hb⟩

theorem Ext.below (h : Ext w L bp0 br0 mx0 es0 bp1 br1 mx1 es1 bp br mx es W) (hb : Below W.heap.size W W') : Ext w L bp0 br0 mx0 es0 bp1 br1 mx1 es1 bp br mx es W' := by
  obtain ⟨u, v, u0, v0, u1, v1, h⟩ := h
  exact ⟨u, v, u0, v0, u1, v1, h.below hb⟩

theorem Ext.set0 (h : Ext w L bp0 br0 mx0 es0 bp1 br1 mx1 es1 bp br mx es W) : Quad w L bp br mx es bp1 br1 mx1 es1 ((W.setCell ⟨L, 0, none⟩ (pt bp)).setCell ⟨L, 1, none⟩ (pt br)) := by
  obtain ⟨u, v, u0, v0, u1, v1, h⟩ := h
  have h2 := (h.set [_, _] _ L _ 51 0 (pt bp)).set [_, _] _ L _ 51 1 (pt br)
  refine ⟨u, v, u1, v1, (h2.sub (ts' := [.r br mx es u, .p bp mx es v, .box L #[pt bp, pt br, pt bp1, pt br1] 51, .r br1 mx1 es1 u1, .p bp1 mx1 es1 v1]) ?_).perm ?_⟩
  · exact (((((List.Sublist.refl _).cons _).cons _).cons_cons _).cons_cons _).cons_cons _
  · exact List.Perm.append_right (α := Thing) [.r br1 mx1 es1 u1, .p bp1 mx1 es1 v1] (List.perm_append_comm (α := Thing) (l₁ := [.r br mx es u, .p bp mx es v]) (l₂ := [.box L #[pt bp, pt br, pt bp1, pt br1] 51]))

theorem Ext.set1 (h : Ext w L bp0 br0 mx0 es0 bp1 br1 mx1 es1 bp br mx es W) : Quad w L bp0 br0 mx0 es0 bp br mx es ((W.setCell ⟨L, 2, none⟩ (pt bp)).setCell ⟨L, 3, none⟩ (pt br)) := by
  obtain ⟨u, v, u0, v0, u1, v1, h⟩ := h
  have h2 := (h.set [_, _] _ L _ 51 2 (pt bp)).set [_, _] _ L _ 51 3 (pt br)
  refine ⟨u0, v0, u, v, (h2.sub (ts' := [.r br mx es u, .p bp mx es v, .box L #[pt bp0, pt br0, pt bp, pt br] 51, .r br0 mx0 es0 u0, .p bp0 mx0 es0 v0]) ?_).perm ?_⟩
  · exact (((((((List.Sublist.refl _).cons _).cons _).cons_cons _).cons_cons _).cons_cons _).cons_cons _).cons_cons _
  · exact List.perm_append_comm (α := Thing) (l₁ := [.r br mx es u, .p bp mx es v]) (l₂ := [.box L #[pt bp0, pt br0, pt bp, pt br] 51, .r br0 mx0 es0 u0, .p bp0 mx0 es0 v0])

theorem Quad.tells0 (h : Quad w L bp0 br0 mx0 es0 bp1 br1 mx1 es1 W) : Calls Try.prog 24 #[.agg #[pt bp0, pt br0]] W fun e W' => e = .returned (.bool true) ∧ Quad w L bp0 br0 mx0 es0 bp1 br1 mx1 es1 W' := by
  obtain ⟨u0, v0, u1, v1, H⟩ := h
  refine (tells_any W bp0 br0 mx0 es0 v0 u0 (H.get [_, _] _ (.p bp0 mx0 es0 v0) rfl) (H.get [_] _ (.r br0 mx0 es0 u0) rfl)).mono ?_
  rintro e W' ⟨rfl, hb⟩
  exact ⟨rfl, u0, v0, u1, v1, H.below hb⟩

theorem Quad.tells1 (h : Quad w L bp0 br0 mx0 es0 bp1 br1 mx1 es1 W) : Calls Try.prog 24 #[.agg #[pt bp1, pt br1]] W fun e W' => e = .returned (.bool true) ∧ Quad w L bp0 br0 mx0 es0 bp1 br1 mx1 es1 W' := by
  obtain ⟨u0, v0, u1, v1, H⟩ := h
  refine (tells_any W bp1 br1 mx1 es1 v1 u1 (H.get [_, _, _, _] _ (.p bp1 mx1 es1 v1) rfl) (H.get [_, _, _] _ (.r br1 mx1 es1 u1) rfl)).mono ?_
  rintro e W' ⟨rfl, hb⟩
  exact ⟨rfl, u0, v0, u1, v1, H.below hb⟩

theorem Quad.whole0 (h : Quad w L bp0 br0 mx0 es0 bp1 br1 mx1 es1 W) : Calls Try.prog 25 #[.agg #[pt bp0, pt br0]] W fun e W' => e = .returned (.bool true) ∧ Quad w L bp0 br0 mx0 es0 bp1 br1 mx1 es1 W' := by
  obtain ⟨u0, v0, u1, v1, H⟩ := h
  refine (whole_any W bp0 br0 mx0 es0 v0 u0 (H.get [_, _] _ (.p bp0 mx0 es0 v0) rfl) (H.get [_] _ (.r br0 mx0 es0 u0) rfl)).mono ?_
  rintro e W' ⟨rfl, hb⟩
  exact ⟨rfl, u0, v0, u1, v1, H.below hb⟩

theorem Quad.whole1 (h : Quad w L bp0 br0 mx0 es0 bp1 br1 mx1 es1 W) : Calls Try.prog 25 #[.agg #[pt bp1, pt br1]] W fun e W' => e = .returned (.bool true) ∧ Quad w L bp0 br0 mx0 es0 bp1 br1 mx1 es1 W' := by
  obtain ⟨u0, v0, u1, v1, H⟩ := h
  refine (whole_any W bp1 br1 mx1 es1 v1 u1 (H.get [_, _, _, _] _ (.p bp1 mx1 es1 v1) rfl) (H.get [_, _, _] _ (.r br1 mx1 es1 u1) rfl)).mono ?_
  rintro e W' ⟨rfl, hb⟩
  exact ⟨rfl, u0, v0, u1, v1, H.below hb⟩

theorem Quad.plays0 (h : Quad w L bp0 br0 mx0 es0 bp1 br1 mx1 es1 W) (kind : Int) (two : Bool) (n x : ByteArray) (m : Int) (hsz : n.size + x.size + 32 ≤ 4611686018427387904) :
    Calls Try.prog 23 #[.agg #[pt bp0, pt br0], .agg #[.int .i64 kind, .bool two, .string n, .string x, .int .i64 m]] W fun e W' => e = .returned (.bool true) ∧ ∃ mx' es', Quad w L bp0 br0 mx' es' bp1 br1 mx1 es1 W' := by
  obtain ⟨u0, v0, u1, v1, H⟩ := h
  refine (plays_any w [.box L #[pt bp0, pt br0, pt bp1, pt br1] 51] [.r br1 mx1 es1 u1, .p bp1 mx1 es1 v1] bp0 br0 mx0 es0 W kind two n x m hsz ⟨u0, v0, H⟩).mono ?_
  rintro e W' ⟨rfl, mx', es', u, v, h'⟩
  exact ⟨rfl, mx', es', u, v, u1, v1, h'⟩

theorem Quad.plays1 (h : Quad w L bp0 br0 mx0 es0 bp1 br1 mx1 es1 W) (kind : Int) (two : Bool) (n x : ByteArray) (m : Int) (hsz : n.size + x.size + 32 ≤ 4611686018427387904) :
    Calls Try.prog 23 #[.agg #[pt bp1, pt br1], .agg #[.int .i64 kind, .bool two, .string n, .string x, .int .i64 m]] W fun e W' => e = .returned (.bool true) ∧ ∃ mx' es', Quad w L bp0 br0 mx0 es0 bp1 br1 mx' es' W' := by
  obtain ⟨u0, v0, u1, v1, H⟩ := h
  refine (plays_any w [.box L #[pt bp0, pt br0, pt bp1, pt br1] 51, .r br0 mx0 es0 u0, .p bp0 mx0 es0 v0] [] bp1 br1 mx1 es1 W kind two n x m hsz ⟨u1, v1, H⟩).mono ?_
  rintro e W' ⟨rfl, mx', es', u, v, h'⟩
  exact ⟨rfl, mx', es', u0, v0, u, v, h'⟩

/-- .. and the program's half of a third pair. -/
def Half (w : World) (L bp0 br0 mx0 : Nat) (es0 : List E) (bp1 br1 mx1 : Nat) (es1 : List E) (bp mx : Nat) (es : List E) (W : World) : Prop :=
  ∃ v u0 v0 u1 v1, All w [.p bp mx es v, .box L #[pt bp0, pt br0, pt bp1, pt br1] 51, .r br0 mx0 es0 u0, .p bp0 mx0 es0 v0, .r br1 mx1 es1 u1, .p bp1 mx1 es1 v1] W

theorem Half.facts (h : Half w L bp0 br0 mx0 es0 bp1 br1 mx1 es1 bp mx es W) : (W.cell? ⟨L, 0, none⟩ = some (pt bp0) ∧ W.cell? ⟨L, 1, none⟩ = some (pt br0) ∧ W.cell? ⟨L, 2, none⟩ = some (pt bp1) ∧ W.cell? ⟨L, 3, none⟩ = some (pt br1)) ∧
    (W.frozen? ⟨L, 0, none⟩ = false ∧ W.frozen? ⟨L, 1, none⟩ = false ∧ W.frozen? ⟨L, 2, none⟩ = false ∧ W.frozen? ⟨L, 3, none⟩ = false) ∧ L < W.heap.size := by
  obtain ⟨v, u0, v0, u1, v1, h⟩ := h
  exact box_facts (h.get [_] _ (.box L #[pt bp0, pt br0, pt bp1, pt br1] 51) rfl)

theorem Quad.copy0 (h : Quad w L bp0 br0 mx0 es0 bp1 br1 mx1 es1 W) : Calls Try.prog 20 #[pt bp0] W fun e W' => ∃ c, e = .returned (pt c) ∧ Half w L bp0 br0 mx0 es0 bp1 br1 mx1 es1 c mx0 es0 W' := by
  obtain ⟨u0, v0, u1, v1, H⟩ := h
  refine (all_copy [_, _] _ H rfl).mono ?_
  rintro e W' ⟨c, v', rfl, h'⟩
  exact ⟨c, rfl, v', u0, v0, u1, v1, h'⟩

theorem Quad.copy1 (h : Quad w L bp0 br0 mx0 es0 bp1 br1 mx1 es1 W) : Calls Try.prog 20 #[pt bp1] W fun e W' => ∃ c, e = .returned (pt c) ∧ Half w L bp0 br0 mx0 es0 bp1 br1 mx1 es1 c mx1 es1 W' := by
  obtain ⟨u0, v0, u1, v1, H⟩ := h
  refine (all_copy [_, _, _, _] _ H rfl).mono ?_
  rintro e W' ⟨c, v', rfl, h'⟩
  exact ⟨c, rfl, v', u0, v0, u1, v1, h'⟩

theorem Half.copy0 (h : Half w L bp0 br0 mx0 es0 bp1 br1 mx1 es1 bp mx0 es0 W) : Calls Try.prog 22 #[pt br0] W fun e W' => ∃ c, e = .returned (pt c) ∧ Ext w L bp0 br0 mx0 es0 bp1 br1 mx1 es1 bp c mx0 es0 W' := by
  obtain ⟨v, u0, v0, u1, v1, H⟩ := h
  refine (all_rcopy [_, _] _ H rfl).mono ?_
  rintro e W' ⟨c, v', rfl, h'⟩
  exact ⟨c, rfl, v', v, u0, v0, u1, v1, h'⟩

theorem Half.copy1 (h : Half w L bp0 br0 mx0 es0 bp1 br1 mx1 es1 bp mx1 es1 W) : Calls Try.prog 22 #[pt br1] W fun e W' => ∃ c, e = .returned (pt c) ∧ Ext w L bp0 br0 mx0 es0 bp1 br1 mx1 es1 bp c mx1 es1 W' := by
  obtain ⟨v, u0, v0, u1, v1, H⟩ := h
  refine (all_rcopy [_, _, _, _] _ H rfl).mono ?_
  rintro e W' ⟨c, v', rfl, h'⟩
  exact ⟨c, rfl, v', v, u0, v0, u1, v1, h'⟩

theorem Quad.made (h : Quad w L bp0 br0 mx0 es0 bp1 br1 mx1 es1 W) (m : Nat) (hm : m ≤ 65536) : Calls Try.prog 21 #[.int .i64 (m : Int)] W fun e W' => ∃ bp br, e = .returned (.tuple #[.agg #[pt bp, pt br], .bool true]) ∧ Ext w L bp0 br0 mx0 es0 bp1 br1 mx1 es1 bp br m [] W' := by
  obtain ⟨u0, v0, u1, v1, H⟩ := h
  refine (made_good H m hm).mono ?_
  rintro e W' ⟨bp, br, rfl, h'⟩
  exact ⟨bp, br, rfl, _, _, u0, v0, u1, v1, h'⟩

theorem Quad.unmade (h : Quad w L bp0 br0 mx0 es0 bp1 br1 mx1 es1 W) (a : Int) (ha : ¬ (0 ≤ a ∧ a ≤ 65536)) : Calls Try.prog 21 #[.int .i64 a] W fun e W' => e = .returned (.tuple #[.agg #[.pointer none, .pointer none], .bool true]) ∧ Quad w L bp0 br0 mx0 es0 bp1 br1 mx1 es1 W' := by
  obtain ⟨u0, v0, u1, v1, H⟩ := h
  refine (made_bad H a ha).mono ?_
  rintro e W' ⟨rfl, h'⟩
  exact ⟨rfl, u0, v0, u1, v1, h'⟩
end

end Go.Proofs.Ytlfbnhdcgldopaa
