/- The document's small functions. -/
import Derived.Test.YtfkimdgbkfogcaaDoorB1
namespace Go.Proofs.YtfkimdgbkfogcaaDoor
open Go.RowKit
set_option linter.unusedVariables false
set_option linter.unusedSimpArgs false

set_option maxRecDepth 100000 in
set_option maxHeartbeats 1000000 in
theorem rvalid_a (x y : Int) (c : Bool) (w : World) (h1 : x < 0) :
    Calls Tryd.prog 23 #[.agg #[.int .i64 x, .int .i64 y], .bool c] w fun e w' => e = .returned (.int .i64 1) ∧ Below w.heap.size w w' := by
  go_enter Tryd.func23, Tryd.ntmps23
  go_wp2
  go_ret
  exact ⟨rfl, bel1 _ _⟩
set_option maxRecDepth 100000 in
set_option maxHeartbeats 1000000 in
theorem rvalid_b (x y : Int) (c : Bool) (w : World) (h1 : 0 ≤ x) (h1b : ¬ x < 0) (h2 : 65535 < x) :
    Calls Tryd.prog 23 #[.agg #[.int .i64 x, .int .i64 y], .bool c] w fun e w' => e = .returned (.int .i64 1) ∧ Below w.heap.size w w' := by
  go_enter Tryd.func23, Tryd.ntmps23
  go_wp2
  go_ret
  exact ⟨rfl, bel1 _ _⟩
set_option maxRecDepth 100000 in
set_option maxHeartbeats 1000000 in
theorem rvalid_c (x y : Int) (c : Bool) (w : World) (h1 : 0 ≤ x) (h1b : ¬ x < 0) (h2 : x ≤ 65535) (h2b : ¬ 65535 < x) (h3 : y < 0) :
    Calls Tryd.prog 23 #[.agg #[.int .i64 x, .int .i64 y], .bool c] w fun e w' => e = .returned (.int .i64 1) ∧ Below w.heap.size w w' := by
  go_enter Tryd.func23, Tryd.ntmps23
  go_wp2
  go_ret
  exact ⟨rfl, bel1 _ _⟩
set_option maxRecDepth 100000 in
set_option maxHeartbeats 1000000 in
theorem rvalid_d (x y : Int) (c : Bool) (w : World) (h1 : 0 ≤ x) (h1b : ¬ x < 0) (h2 : x ≤ 65535) (h2b : ¬ 65535 < x) (h3 : 0 ≤ y) (h3b : ¬ y < 0) (h4 : 4294967295 < y) :
    Calls Tryd.prog 23 #[.agg #[.int .i64 x, .int .i64 y], .bool c] w fun e w' => e = .returned (.int .i64 1) ∧ Below w.heap.size w w' := by
  go_enter Tryd.func23, Tryd.ntmps23
  go_wp2
  go_ret
  exact ⟨rfl, bel1 _ _⟩
set_option maxRecDepth 100000 in
set_option maxHeartbeats 1000000 in
theorem rvalid_e (x y : Int) (c : Bool) (w : World) (h3 : 0 ≤ y) (h3b : ¬ y < 0) (h4b : ¬ 4294967295 < y) (hx : x = 2) (h5 : 1 < y) :
    Calls Tryd.prog 23 #[.agg #[.int .i64 x, .int .i64 y], .bool c] w fun e w' => e = .returned (.int .i64 1) ∧ Below w.heap.size w w' := by
  subst hx
  go_enter Tryd.func23, Tryd.ntmps23
  go_wp2
  go_ret
  exact ⟨rfl, bel1 _ _⟩
set_option maxRecDepth 100000 in
set_option maxHeartbeats 1000000 in
theorem rvalid_f (x y : Int) (c : Bool) (w : World) (hx : x = 2) (hy : y = 1) (hc : c = false) :
    Calls Tryd.prog 23 #[.agg #[.int .i64 x, .int .i64 y], .bool c] w fun e w' => e = .returned (.int .i64 1) ∧ Below w.heap.size w w' := by
  subst hx
  subst hy
  subst hc
  go_enter Tryd.func23, Tryd.ntmps23
  go_wp2
  go_ret
  exact ⟨rfl, bel1 _ _⟩
set_option maxRecDepth 100000 in
set_option maxHeartbeats 1000000 in
theorem rvalid_g (x y : Int) (c : Bool) (w : World) (hx : x = 2) (hy : y = 1) (hc : c = true) :
    Calls Tryd.prog 23 #[.agg #[.int .i64 x, .int .i64 y], .bool c] w fun e w' => e = .returned (.int .i64 0) ∧ Below w.heap.size w w' := by
  subst hx
  subst hy
  subst hc
  go_enter Tryd.func23, Tryd.ntmps23
  go_wp2
  go_ret
  exact ⟨rfl, bel1 _ _⟩
set_option maxRecDepth 100000 in
set_option maxHeartbeats 1000000 in
theorem rvalid_h (x y : Int) (c : Bool) (w : World) (hx : x = 2) (hy : y = 0) :
    Calls Tryd.prog 23 #[.agg #[.int .i64 x, .int .i64 y], .bool c] w fun e w' => e = .returned (.int .i64 0) ∧ Below w.heap.size w w' := by
  subst hx
  subst hy
  go_enter Tryd.func23, Tryd.ntmps23
  go_wp2
  go_ret
  exact ⟨rfl, bel1 _ _⟩
set_option maxRecDepth 100000 in
set_option maxHeartbeats 1000000 in
theorem rvalid_i (x y : Int) (c : Bool) (w : World) (h3 : 0 ≤ y) (h3b : ¬ y < 0) (h4b : ¬ 4294967295 < y) (hx : x = 4) (h5 : 2147483647 < y) :
    Calls Tryd.prog 23 #[.agg #[.int .i64 x, .int .i64 y], .bool c] w fun e w' => e = .returned (.int .i64 3) ∧ Below w.heap.size w w' := by
  subst hx
  go_enter Tryd.func23, Tryd.ntmps23
  go_wp2
  go_ret
  exact ⟨rfl, bel1 _ _⟩
set_option maxRecDepth 100000 in
set_option maxHeartbeats 1000000 in
theorem rvalid_j (x y : Int) (c : Bool) (w : World) (h3 : 0 ≤ y) (h3b : ¬ y < 0) (h4b : ¬ 4294967295 < y) (hx : x = 4) (h5 : ¬ 2147483647 < y) :
    Calls Tryd.prog 23 #[.agg #[.int .i64 x, .int .i64 y], .bool c] w fun e w' => e = .returned (.int .i64 0) ∧ Below w.heap.size w w' := by
  subst hx
  go_enter Tryd.func23, Tryd.ntmps23
  go_wp2
  go_ret
  exact ⟨rfl, bel1 _ _⟩
set_option maxRecDepth 100000 in
set_option maxHeartbeats 1000000 in
theorem rvalid_k (x y : Int) (c : Bool) (w : World) (h3 : 0 ≤ y) (h3b : ¬ y < 0) (h4b : ¬ 4294967295 < y) (hx : x = 5) (h5 : y < 16384) :
    Calls Tryd.prog 23 #[.agg #[.int .i64 x, .int .i64 y], .bool c] w fun e w' => e = .returned (.int .i64 1) ∧ Below w.heap.size w w' := by
  subst hx
  go_enter Tryd.func23, Tryd.ntmps23
  go_wp2
  go_ret
  exact ⟨rfl, bel1 _ _⟩
set_option maxRecDepth 100000 in
set_option maxHeartbeats 1000000 in
theorem rvalid_l (x y : Int) (c : Bool) (w : World) (h3 : 0 ≤ y) (h3b : ¬ y < 0) (h4b : ¬ 4294967295 < y) (hx : x = 5) (h5 : ¬ y < 16384) (h6 : 16777215 < y) :
    Calls Tryd.prog 23 #[.agg #[.int .i64 x, .int .i64 y], .bool c] w fun e w' => e = .returned (.int .i64 1) ∧ Below w.heap.size w w' := by
  subst hx
  go_enter Tryd.func23, Tryd.ntmps23
  go_wp2
  go_ret
  exact ⟨rfl, bel1 _ _⟩
set_option maxRecDepth 100000 in
set_option maxHeartbeats 1000000 in
theorem rvalid_m (x y : Int) (c : Bool) (w : World) (h3 : 0 ≤ y) (h3b : ¬ y < 0) (h4b : ¬ 4294967295 < y) (hx : x = 5) (h5 : ¬ y < 16384) (h6 : ¬ 16777215 < y) :
    Calls Tryd.prog 23 #[.agg #[.int .i64 x, .int .i64 y], .bool c] w fun e w' => e = .returned (.int .i64 0) ∧ Below w.heap.size w w' := by
  subst hx
  go_enter Tryd.func23, Tryd.ntmps23
  go_wp2
  go_ret
  exact ⟨rfl, bel1 _ _⟩
set_option maxRecDepth 100000 in
set_option maxHeartbeats 1000000 in
theorem rvalid_n (x y : Int) (c : Bool) (w : World) (h1 : 0 ≤ x) (h1b : ¬ x < 0) (h2 : x ≤ 65535) (h2b : ¬ 65535 < x) (h3 : 0 ≤ y) (h3b : ¬ y < 0) (h4 : y ≤ 4294967295) (h4b : ¬ 4294967295 < y) (b2 : (x == 2) = false) (b4 : (x == 4) = false) (b5 : (x == 5) = false) :
    Calls Tryd.prog 23 #[.agg #[.int .i64 x, .int .i64 y], .bool c] w fun e w' => e = .returned (.int .i64 0) ∧ Below w.heap.size w w' := by
  go_enter Tryd.func23, Tryd.ntmps23
  go_wp2
  go_ret
  exact ⟨rfl, bel1 _ _⟩
theorem rvalid_any (x y : Int) (c : Bool) (w : World) :
    Calls Tryd.prog 23 #[.agg #[.int .i64 x, .int .i64 y], .bool c] w fun e w' => e = .returned (.int .i64 (validS (x, y) c)) ∧ Below w.heap.size w w' := by
  unfold validS
  simp only
  by_cases h1 : 0 ≤ x ∧ x ≤ 65535
  · obtain ⟨p1, p2⟩ := h1
    by_cases h2 : 0 ≤ y ∧ y ≤ 4294967295
    · obtain ⟨p3, p4⟩ := h2
      rw [if_neg (by simp [p1, p2, p3, p4])]
      by_cases h3 : x = 2
      · by_cases h4 : 1 < y
        · rw [if_pos ⟨h3, by cases c <;> simp <;> omega⟩]; exact rvalid_e x y c w p3 (by omega) (by omega) h3 h4
        · rcases (by omega : y = 1 ∨ y = 0) with h5 | h5
          · cases c
            · rw [if_pos ⟨h3, by simp; omega⟩]; exact rvalid_f x y false w h3 h5 rfl
            · rw [if_neg (by simp; omega), if_neg (by omega), if_neg (by omega)]; exact rvalid_g x y true w h3 h5 rfl
          · rw [if_neg (by cases c <;> simp <;> omega), if_neg (by omega), if_neg (by omega)]; exact rvalid_h x y c w h3 h5
      · rw [if_neg (fun h => h3 h.1)]
        by_cases h4 : x = 4
        · by_cases h5 : 2147483647 < y
          · rw [if_pos ⟨h4, h5⟩]; exact rvalid_i x y c w p3 (by omega) (by omega) h4 h5
          · rw [if_neg (fun h => h5 h.2), if_neg (by omega)]; exact rvalid_j x y c w p3 (by omega) (by omega) h4 h5
        · rw [if_neg (fun h => h4 h.1)]
          by_cases h5 : x = 5
          · by_cases h6 : y < 16384
            · rw [if_pos ⟨h5, by omega⟩]; exact rvalid_k x y c w p3 (by omega) (by omega) h5 h6
            · by_cases h7 : 16777215 < y
              · rw [if_pos ⟨h5, by omega⟩]; exact rvalid_l x y c w p3 (by omega) (by omega) h5 h6 h7
              · rw [if_neg (by omega)]; exact rvalid_m x y c w p3 (by omega) (by omega) h5 h6 h7
          · rw [if_neg (fun h => h5 h.1)]
            exact rvalid_n x y c w p1 (by omega) p2 (by omega) p3 (by omega) p4 (by omega) (by simpa using h3) (by simpa using h4) (by simpa using h5)
    · rw [if_pos (.inr h2)]
      by_cases h3 : y < 0
      · exact rvalid_c x y c w p1 (by omega) p2 (by omega) h3
      · exact rvalid_d x y c w p1 (by omega) p2 (by omega) (by omega) h3 (by omega)
  · rw [if_pos (.inl h1)]
    by_cases h3 : x < 0
    · exact rvalid_a x y c w h3
    · exact rvalid_b x y c w (by omega) h3 (by omega)

set_option maxRecDepth 100000 in
set_option maxHeartbeats 1000000 in
theorem six_any (s : St) (w : World) : Calls Tryd.prog 42 #[.agg s.a] w fun e w' => e = .returned (.agg s.a) ∧ w' = (w.alloc (.cells s.a 27)).alloc (.cells s.a 68) := by
  obtain ⟨s1, s2, s3, s4, s5, s6⟩ := s
  unfold St.a
  simp only
  go_enter Tryd.func42, Tryd.ntmps42
  go_wp2
  refine bodyPost_ret (results_cell_row (p := 2) (ty := 68) rfl _ _ (w.heap.size + 1) 68 _ (0, 0) _ rfl ?hr Tryd.underlying68 rfl (by kernel_rfl)) rfl ⟨rfl, ?_⟩
  case hr => exact fresh2 _ _ _
  rfl

set_option maxRecDepth 100000 in
set_option maxHeartbeats 1000000 in
theorem rset_any (s : St) (w : World) : Calls Tryd.prog 43 #[.agg s.a] w fun e w' => e = .returned (.agg s.a) ∧ w' = (w.alloc (.cells s.a 68)).alloc (.cells s.a 27) := by
  obtain ⟨s1, s2, s3, s4, s5, s6⟩ := s
  unfold St.a
  simp only
  go_enter Tryd.func43, Tryd.ntmps43
  go_wp2
  refine bodyPost_ret (results_cell_row (p := 2) (ty := 27) rfl _ _ (w.heap.size + 1) 27 _ (0, 0) _ rfl ?hr Tryd.underlying27 rfl (by kernel_rfl)) rfl ⟨rfl, ?_⟩
  case hr => exact fresh2 _ _ _
  rfl

set_option maxRecDepth 100000 in
set_option maxHeartbeats 1000000 in
theorem rdefault_any (w : World) : Calls Tryd.prog 29 #[] w fun e w' => e = .returned (.agg St.dfl.a) ∧ Below w.heap.size w w' := by
  have hs := fun W => rset_any St.dfl W
  simp only [St.a, St.dfl] at hs ⊢
  go_enter Tryd.func29, Tryd.ntmps29
  go_wp2_with (go_at_call 43; refine (hs _).mono ?_; rintro e w' ⟨rfl, rfl⟩)
  refine bodyPost_ret (results_cell_row (p := 0) (ty := 27) rfl _ _ w.heap.size 27 #[.int .i64 4096, .int .i64 1, .int .i64 2147483647, .int .i64 65535, .int .i64 16384, .int .i64 2147483647] (0, 0) _ rfl ?hr Tryd.underlying27 rfl (by kernel_rfl)) rfl ⟨rfl, ?_⟩
  case hr =>
    rw [heap_al, if_neg (by simp; omega), heap_al, if_neg (by simp), heap_al, if_pos rfl]
  exact bel3 _ _ _ _

def St.top : St := ⟨2147483647, 1, 2147483647, 2147483647, 65536, 2147483647⟩
def St.low : St := ⟨0, 0, 0, 0, 16384, 1024⟩
def St.high : St := ⟨65536, 1, 2147483647, 2147483647, 65536, 2147483647⟩
def Top (w : World) : Prop := ∃ t, w.heap[1]? = some (.cells St.top.a t (0, 0))
def Low (w : World) : Prop := ∃ t, w.heap[2]? = some (.cells St.low.a t (0, 0))
def High (w : World) : Prop := ∃ t, w.heap[3]? = some (.cells St.high.a t (0, 0))
theorem Top.below {w w' : World} (h : Top w) (hb : Below w.heap.size w w') : Top w' := by
  obtain ⟨t, h⟩ := h
  exact ⟨t, (hb.block 1 (heap_lt h)).trans h⟩
theorem Low.below {w w' : World} (h : Low w) (hb : Below w.heap.size w w') : Low w' := by
  obtain ⟨t, h⟩ := h
  exact ⟨t, (hb.block 2 (heap_lt h)).trans h⟩
theorem High.below {w w' : World} (h : High w) (hb : Below w.heap.size w w') : High w' := by
  obtain ⟨t, h⟩ := h
  exact ⟨t, (hb.block 3 (heap_lt h)).trans h⟩
end Go.Proofs.YtfkimdgbkfogcaaDoor
