/- Both tables: plays. -/
import Derived.Test.YtlfbnhdcgldopaaG2
namespace Go.Proofs.Ytlfbnhdcgldopaa
open Go.RowKit

/-- A pair in the list: the document's table, then the program's. -/
def Two (w : World) (A B : List Thing) (bp br mx : Nat) (es : List E) (W : World) : Prop := ∃ u v, All w (A ++ .r br mx es u :: .p bp mx es v :: B) W

def OpV (kind : Int) (two : Bool) (n x : ByteArray) (m : Int) : Value := .agg #[.int .i64 kind, .bool two, .string n, .string x, .int .i64 m]

def Bx (bp br : Nat) : Array Value := #[.pointer (some ⟨bp, 0, none⟩), .pointer (some ⟨br, 0, none⟩)]
def Ox (kind : Int) (two : Bool) (n x : ByteArray) (m : Int) : Array Value := #[.int .i64 kind, .bool two, .string n, .string x, .int .i64 m]

/-- The two boxes that plays makes, and the pair, in the midst of its work. -/
def Play (w : World) (A B : List Thing) (kind : Int) (two : Bool) (n x : ByteArray) (m : Int) (k bp br mx mx' : Nat) (es es' : List E) (W : World) : Prop :=
  ∃ u v, All w ((.box (k + 1) (Ox kind two n x m) 55 :: .box k (Bx bp br) 50 :: A) ++ .r br mx es u :: .p bp mx' es' v :: B) W

theorem Play.cells {w : World} {A B : List Thing} {kind : Int} {two : Bool} {n x : ByteArray} {m : Int} {k bp br mx mx' : Nat} {es es' : List E} {W : World} (h : Play w A B kind two n x m k bp br mx mx' es es' W) :
    W.cell? ⟨k + 1, 0, none⟩ = some (.int .i64 kind) ∧ W.cell? ⟨k + 1, 2, none⟩ = some (.string n) ∧ W.cell? ⟨k + 1, 3, none⟩ = some (.string x) ∧ W.cell? ⟨k + 1, 4, none⟩ = some (.int .i64 m) ∧
    W.cell? ⟨k, 0, none⟩ = some (.pointer (some ⟨bp, 0, none⟩)) ∧ W.cell? ⟨k, 1, none⟩ = some (.pointer (some ⟨br, 0, none⟩)) := by
  obtain ⟨u, v, h⟩ := h
  have h1 : W.heap[k + 1]? = some (.cells (Ox kind two n x m) 55 (0, 0)) := h.get [] _ _ rfl
  have h2 : W.heap[k]? = some (.cells (Bx bp br) 50 (0, 0)) := h.get [_] _ _ rfl
  refine ⟨?_, ?_, ?_, ?_, ?_, ?_⟩
  · rw [cell_of_row _ _ _ _ _ _ h1]; rfl
  · rw [cell_of_row _ _ _ _ _ _ h1]; rfl
  · rw [cell_of_row _ _ _ _ _ _ h1]; rfl
  · rw [cell_of_row _ _ _ _ _ _ h1]; rfl
  · rw [cell_of_row _ _ _ _ _ _ h2]; rfl
  · rw [cell_of_row _ _ _ _ _ _ h2]; rfl

theorem Play.start {w : World} {A B : List Thing} {bp br mx : Nat} {es : List E} {W : World} (h : Two w A B bp br mx es W) (kind : Int) (two : Bool) (n x : ByteArray) (m : Int) :
    Play w A B kind two n x m W.heap.size bp br mx mx es es ((W.alloc (.cells #[.pointer (some ⟨bp, 0, none⟩), .pointer (some ⟨br, 0, none⟩)] 50)).alloc (.cells #[.int .i64 kind, .bool two, .string n, .string x, .int .i64 m] 55)) := by
  obtain ⟨u, v, h⟩ := h
  have h2 := (h.box (Bx bp br) 50).box (Ox kind two n x m) 55
  rw [show (W.alloc (.cells (Bx bp br) 50)).heap.size = W.heap.size + 1 by simp] at h2
  exact ⟨u, v, h2⟩

theorem Play.stop {w : World} {A B : List Thing} {kind : Int} {two : Bool} {n x : ByteArray} {m : Int} {k bp br mx : Nat} {es : List E} {W : World} (h : Play w A B kind two n x m k bp br mx mx es es W) : Two w A B bp br mx es W := by
  obtain ⟨u, v, h⟩ := h
  exact ⟨u, v, h.sub (((List.Sublist.refl _).cons _).cons _)⟩

theorem Play.below {w : World} {A B : List Thing} {kind : Int} {two : Bool} {n x : ByteArray} {m : Int} {k bp br mx mx' : Nat} {es es' : List E} {W W' : World} (h : Play w A B kind two n x m k bp br mx mx' es es' W) (hb : Below W.heap.size W W') : Play w A B kind two n x m k bp br mx mx' es es' W' := by
  obtain ⟨u, v, h⟩ := h
  exact ⟨u, v, h.below hb⟩

theorem Play.tab {w : World} {A B : List Thing} {kind : Int} {two : Bool} {n x : ByteArray} {m : Int} {k bp br mx mx' : Nat} {es es' : List E} {W : World} (h : Play w A B kind two n x m k bp br mx mx' es es' W) : ∃ v, Tab W bp mx' es' v := by
  obtain ⟨u, v, h⟩ := h
  rw [List.append_cons] at h
  exact ⟨v, h.get _ B _ rfl⟩

theorem Play.rtab {w : World} {A B : List Thing} {kind : Int} {two : Bool} {n x : ByteArray} {m : Int} {k bp br mx mx' : Nat} {es es' : List E} {W : World} (h : Play w A B kind two n x m k bp br mx mx' es es' W) : ∃ u, RTab W br mx es u := by
  obtain ⟨u, v, h⟩ := h
  exact ⟨u, h.get _ _ _ rfl⟩

section
variable {w : World} {A B : List Thing} {kind : Int} {two : Bool} {n x : ByteArray} {m : Int} {k bp br mx mx' : Nat} {es es' : List E} {W : World}

theorem Play.add (h : Play w A B kind two n x m k bp br mx mx' es es' W) (hsz : n.size + x.size + 32 ≤ 4611686018427387904) :
    Calls Try.prog 10 #[.pointer (some ⟨bp, 0, none⟩), .string n, .string x] W fun e W' => e = .returned (.tuple #[]) ∧ Play w A B kind two n x m k bp br mx mx' es (keep mx' ((n, x) :: es')) W' := by
  obtain ⟨u, v, h⟩ := h
  rw [List.append_cons] at h
  refine (all_add _ B h n x hsz).mono ?_
  rintro e W' ⟨rfl, v', h'⟩
  rw [← List.append_cons] at h'
  exact ⟨rfl, u, v', h'⟩

theorem Play.radd (h : Play w A B kind two n x m k bp br mx mx' es es' W) (hsz : n.size + x.size + 32 ≤ 4611686018427387904) :
    Calls Try.prog 36 #[.pointer (some ⟨br, 0, none⟩), .string n, .string x] W fun e W' => e = .returned (.tuple #[]) ∧ Play w A B kind two n x m k bp br mx mx' (keep mx ((n, x) :: es)) es' W' := by
  obtain ⟨u, v, h⟩ := h
  refine (all_radd _ _ h n x hsz).mono ?_
  rintro e W' ⟨rfl, v', h'⟩
  exact ⟨rfl, v', v, h'⟩

theorem Play.resize (h : Play w A B kind two n x m k bp br mx mx' es es' W) (m' : Nat) (hm : m' ≤ 65536) :
    Calls Try.prog 17 #[.pointer (some ⟨bp, 0, none⟩), .int .i64 (m' : Int)] W fun e W' => e = .returned (.int .i64 0) ∧ Play w A B kind two n x m k bp br mx m' es (keep m' es') W' := by
  obtain ⟨u, v, h⟩ := h
  rw [List.append_cons] at h
  refine (all_resize _ B h m' hm).mono ?_
  rintro e W' ⟨rfl, v', h'⟩
  rw [← List.append_cons] at h'
  exact ⟨rfl, u, v', h'⟩

theorem Play.rresize (h : Play w A B kind two n x m k bp br mx mx' es es' W) (m' : Nat) (hm : m' ≤ 65536) :
    Calls Try.prog 37 #[.pointer (some ⟨br, 0, none⟩), .int .i64 (m' : Int)] W fun e W' => e = .returned (.int .i64 0) ∧ Play w A B kind two n x m k bp br m' mx' (keep m' es) es' W' := by
  obtain ⟨u, v, h⟩ := h
  refine (all_rresize _ _ h m' hm).mono ?_
  rintro e W' ⟨rfl, v', h'⟩
  exact ⟨rfl, v', v, h'⟩

theorem Play.at (h : Play w A B kind two n x m k bp br mx mx' es es' W) (i : Int) :
    Calls Try.prog 13 #[.pointer (some ⟨bp, 0, none⟩), .int .i64 i] W fun e W' => e = .returned (.tuple #[.string (atS es' i).1, .string (atS es' i).2.1, .int .i64 (atS es' i).2.2]) ∧ Play w A B kind two n x m k bp br mx mx' es es' W' := by
  obtain ⟨v, ht⟩ := h.tab
  refine (at_all _ _ _ _ _ ht i).mono ?_
  rintro e W' ⟨rfl, hb⟩
  exact ⟨rfl, h.below hb⟩

theorem Play.rat (h : Play w A B kind two n x m k bp br mx mx' es es' W) (i : Int) :
    Calls Try.prog 38 #[.pointer (some ⟨br, 0, none⟩), .int .i64 i] W fun e W' => e = .returned (.tuple #[.string (atS es i).1, .string (atS es i).2.1, .int .i64 (atS es i).2.2]) ∧ Play w A B kind two n x m k bp br mx mx' es es' W' := by
  obtain ⟨v, ht⟩ := h.rtab
  refine (rat_all _ _ _ _ _ ht i).mono ?_
  rintro e W' ⟨rfl, hb⟩
  exact ⟨rfl, h.below hb⟩

theorem Play.find (h : Play w A B kind two n x m k bp br mx mx' es es' W) :
    Calls Try.prog 11 #[.pointer (some ⟨bp, 0, none⟩), .string n, .string x] W fun e W' => e = .returned (.tuple #[.int .i64 ((findS (fixedL ++ es') (61 + es'.length) n x).1 : Int), .bool (findS (fixedL ++ es') (61 + es'.length) n x).2]) ∧ Play w A B kind two n x m k bp br mx mx' es es' W' := by
  obtain ⟨v, ht⟩ := h.tab
  refine (find_any _ _ _ _ _ ht n x).mono ?_
  rintro e W' ⟨rfl, hb⟩
  exact ⟨rfl, h.below hb⟩

theorem Play.rfind (h : Play w A B kind two n x m k bp br mx mx' es es' W) :
    Calls Try.prog 39 #[.pointer (some ⟨br, 0, none⟩), .string n, .string x] W fun e W' => e = .returned (.tuple #[.int .i64 ((findS (fixedL ++ es) (61 + es.length) n x).1 : Int), .bool (findS (fixedL ++ es) (61 + es.length) n x).2]) ∧ Play w A B kind two n x m k bp br mx mx' es es' W' := by
  obtain ⟨v, ht⟩ := h.rtab
  refine (rfind_any _ _ _ _ _ ht n x).mono ?_
  rintro e W' ⟨rfl, hb⟩
  exact ⟨rfl, h.below hb⟩
end

/-- What plays leaves. -/
def Plays (w : World) (A B : List Thing) (bp br mx : Nat) (es : List E) (W : World) (kind : Int) (two : Bool) (n x : ByteArray) (m : Int) : Prop :=
  Two w A B bp br mx es W → Calls Try.prog 23 #[.agg #[.pointer (some ⟨bp, 0, none⟩), .pointer (some ⟨br, 0, none⟩)], .agg #[.int .i64 kind, .bool two, .string n, .string x, .int .i64 m]] W fun e W' => e = .returned (.bool true) ∧ ∃ mx' es', Two w A B bp br mx' es' W'

set_option maxRecDepth 100000 in
set_option maxHeartbeats 2000000 in
theorem plays_add (w : World) (A B : List Thing) (bp br mx : Nat) (es : List E) (W : World) (two : Bool) (n x : ByteArray) (m : Int) (hsz : n.size + x.size + 32 ≤ 4611686018427387904) : Plays w A B bp br mx es W 1 two n x m := by
  intro h
  have H := Play.start h 1 two n x m
  clear h
  go_enter Try.func23, Try.ntmps23
  go_wp2_with fail
  refine (H.add hsz).mono ?_
  rintro e w1 ⟨rfl, h1⟩
  obtain ⟨d0, d1, d2, d3, d4, d5⟩ := h1.cells
  go_wp2_with fail
  refine (h1.radd hsz).mono ?_
  rintro e w2 ⟨rfl, h2⟩
  go_wp2_with fail
  go_ret
  exact ⟨rfl, _, _, h2.stop⟩

set_option maxRecDepth 100000 in
set_option maxHeartbeats 2000000 in
theorem plays_resize (w : World) (A B : List Thing) (bp br mx : Nat) (es : List E) (W : World) (two : Bool) (n x : ByteArray) (m : Int) : Plays w A B bp br mx es W 2 two n x m := by
  intro h
  have H := Play.start h 2 two n x m
  by_cases hm : 0 ≤ m ∧ m ≤ 65536
  · obtain ⟨m', rfl⟩ : ∃ m' : Nat, m = (m' : Int) := ⟨m.toNat, by omega⟩
    have hm' : m' ≤ 65536 := by omega
    clear h hm
    go_enter Try.func23, Try.ntmps23
    go_wp2_with fail
    refine (H.resize m' hm').mono ?_
    rintro e w1 ⟨rfl, h1⟩
    obtain ⟨d0, d1, d2, d3, d4, d5⟩ := h1.cells
    go_wp2_with fail
    refine (h1.rresize m' hm').mono ?_
    rintro e w2 ⟨rfl, h2⟩
    go_wp2_with fail
    go_ret
    exact ⟨rfl, _, _, h2.stop⟩
  · replace hm : Hid (¬ (0 ≤ m ∧ m ≤ 65536)) := hm
    clear h
    go_enter Try.func23, Try.ntmps23
    go_wp2_with fail
    refine (resize_bad _ bp m hm.out).mono ?_
    rintro e w1 ⟨rfl, rfl⟩
    go_wp2_with fail
    refine (rresize_bad _ br m hm.out).mono ?_
    rintro e w1 ⟨rfl, rfl⟩
    go_wp2_with fail
    go_ret
    exact ⟨rfl, _, _, H.stop⟩

set_option maxRecDepth 100000 in
set_option maxHeartbeats 2000000 in
theorem plays_at (w : World) (A B : List Thing) (bp br mx : Nat) (es : List E) (W : World) (two : Bool) (n x : ByteArray) (m : Int) : Plays w A B bp br mx es W 3 two n x m := by
  intro h
  have H := Play.start h 3 two n x m
  clear h
  go_enter Try.func23, Try.ntmps23
  go_wp2_with fail
  refine (H.at m).mono ?_
  rintro e w1 ⟨rfl, h1⟩
  obtain ⟨d0, d1, d2, d3, d4, d5⟩ := h1.cells
  have h1' := h1.rat m
  generalize (atS es m).1 = a0 at h1' ⊢
  generalize (atS es m).2.1 = a1 at h1' ⊢
  generalize (atS es m).2.2 = a2 at h1' ⊢
  go_wp2_with fail
  refine Calls.mono h1' ?_
  rintro e w2 ⟨rfl, h2⟩
  go_wp2_with fail
  go_ret
  exact ⟨rfl, _, _, h2.stop⟩

set_option maxRecDepth 100000 in
set_option maxHeartbeats 2000000 in
theorem plays_find (w : World) (A B : List Thing) (bp br mx : Nat) (es : List E) (W : World) (two : Bool) (n x : ByteArray) (m : Int) : Plays w A B bp br mx es W 4 two n x m := by
  intro h
  have H := Play.start h 4 two n x m
  clear h
  go_enter Try.func23, Try.ntmps23
  go_wp2_with fail
  refine H.find.mono ?_
  rintro e w1 ⟨rfl, h1⟩
  obtain ⟨d0, d1, d2, d3, d4, d5⟩ := h1.cells
  have h1' := h1.rfind
  generalize (findS (fixedL ++ es) (61 + es.length) n x).1 = a0 at h1' ⊢
  generalize (findS (fixedL ++ es) (61 + es.length) n x).2 = a1 at h1' ⊢
  go_wp2_with fail
  refine Calls.mono h1' ?_
  rintro e w2 ⟨rfl, h2⟩
  go_wp2_with fail
  go_ret
  exact ⟨rfl, _, _, h2.stop⟩

set_option maxRecDepth 100000 in
set_option maxHeartbeats 2000000 in
theorem plays_none (w : World) (A B : List Thing) (bp br mx : Nat) (es : List E) (W : World) (kind : Int) (two : Bool) (n x : ByteArray) (m : Int) (h1 : ¬ kind = 1) (h2 : ¬ kind = 2) (h3 : ¬ kind = 3) (h4 : ¬ kind = 4) : Plays w A B bp br mx es W kind two n x m := by
  intro h
  have H := Play.start h kind two n x m
  have b1 : (kind == 1) = false := beq_eq_false_iff_ne.2 h1
  have b2 : (kind == 2) = false := beq_eq_false_iff_ne.2 h2
  have b3 : (kind == 3) = false := beq_eq_false_iff_ne.2 h3
  have b4 : (kind == 4) = false := beq_eq_false_iff_ne.2 h4
  clear h h1 h2 h3 h4
  go_enter Try.func23, Try.ntmps23
  go_wp2_with fail
  go_ret
  exact ⟨rfl, _, _, H.stop⟩

theorem plays_any (w : World) (A B : List Thing) (bp br mx : Nat) (es : List E) (W : World) (kind : Int) (two : Bool) (n x : ByteArray) (m : Int) (hsz : n.size + x.size + 32 ≤ 4611686018427387904) : Plays w A B bp br mx es W kind two n x m := by
  by_cases h1 : kind = 1
  · subst h1; exact plays_add w A B bp br mx es W two n x m hsz
  by_cases h2 : kind = 2
  · subst h2; exact plays_resize w A B bp br mx es W two n x m
  by_cases h3 : kind = 3
  · subst h3; exact plays_at w A B bp br mx es W two n x m
  by_cases h4 : kind = 4
  · subst h4; exact plays_find w A B bp br mx es W two n x m
  exact plays_none w A B bp br mx es W kind two n x m h1 h2 h3 h4

end Go.Proofs.Ytlfbnhdcgldopaa
