/- A table in memory; New, Len, Max, Size. -/
import Derived.Test.YtlfbnhdcgldopaaA2
namespace Go.Proofs.Ytlfbnhdcgldopaa
open Go.RowKit

/-- Block b holds a table of that max, with these moving entries (the newest first); v is its slice. -/
def Tab (w : World) (b mx : Nat) (es : List E) (v : Value) : Prop :=
  mx ≤ 65536 ∧ total es ≤ 65536 ∧ w.heap[b]? = some (.cells #[.int .i64 (mx : Int), .int .i64 (total es : Int), v] 62 (0, 0)) ∧ w.ownsRow 0 64 2 v es.length (cellsOf es)

/-- All blocks are as they were but those of S. -/
structure Kept (S : Nat → Prop) (w w' : World) : Prop where
  os : w'.os = w.os
  tape : w'.tape = w.tape
  output : w'.output = w.output
  size : w.heap.size ≤ w'.heap.size
  block : ∀ k, k < w.heap.size → ¬ S k → w'.heap[k]? = w.heap[k]?

theorem Kept.refl (S : Nat → Prop) (w : World) : Kept S w w := ⟨rfl, rfl, rfl, Nat.le_refl _, fun _ _ _ => rfl⟩
theorem Kept.trans {S : Nat → Prop} {a b c : World} (h : Kept S a b) (k : Kept S b c) : Kept S a c :=
  ⟨k.os.trans h.os, k.tape.trans h.tape, k.output.trans h.output, Nat.le_trans h.size k.size, fun i hi hs => (k.block i (Nat.lt_of_lt_of_le hi h.size) hs).trans (h.block i hi hs)⟩
theorem Kept.mono {S T : Nat → Prop} {w w' : World} (h : Kept S w w') (hs : ∀ k, k < w.heap.size → S k → T k) : Kept T w w' :=
  ⟨h.os, h.tape, h.output, h.size, fun k hk ht => h.block k hk fun s => ht (hs k hk s)⟩
theorem Kept.of_below {S : Nat → Prop} {w w' : World} (h : Below w.heap.size w w') : Kept S w w' :=
  ⟨h.os, h.tape, h.output, h.size, fun k hk _ => h.block k hk⟩
theorem Kept.below {S : Nat → Prop} {w w' : World} {B : Nat} (h : Kept S w w') (hB : B ≤ w.heap.size) (hs : ∀ k, k < B → ¬ S k) : Below B w w' :=
  ⟨h.os, h.tape, h.output, h.size, fun k hk => h.block k (Nat.lt_of_lt_of_le hk hB) (hs k hk)⟩

/-- A row stays where its block stays. -/
theorem row_stays {w w' : World} {base : Nat} {e : TypeId} {size : Nat} {v : Value} {n : Nat} {xs : List Value} (h : w.ownsRow base e size v n xs)
    (hb : ∀ k, v.ownBlock = some k → k < w.heap.size → w'.heap[k]? = w.heap[k]?) : w'.ownsRow base e size v n xs := by
  refine ⟨h.1, ?_⟩
  rcases h.2 with hn | ⟨g, cap, cur, rfl, hbs, hgg, rest⟩
  · exact .inl hn
  · refine .inr ⟨g, cap, cur, rfl, hbs, ?_, rest⟩
    rw [hb g rfl (Array.getElem?_eq_some_iff.1 hgg).1]
    exact hgg

theorem Tab.stays {w w' : World} {b mx : Nat} {es : List E} {v : Value} {S : Nat → Prop} (h : Tab w b mx es v) (hk : Kept S w w') (hb : ¬ S b) (hv : ∀ k, v.ownBlock = some k → ¬ S k) : Tab w' b mx es v := by
  obtain ⟨h1, h2, h3, h4⟩ := h
  refine ⟨h1, h2, ?_, row_stays h4 fun k e hk' => hk.block k hk' (hv k e)⟩
  rw [hk.block b (Array.getElem?_eq_some_iff.1 h3).1 hb]
  exact h3

theorem Tab.below {w w' : World} {b mx : Nat} {es : List E} {v : Value} (h : Tab w b mx es v) (hk : Below w.heap.size w w') : Tab w' b mx es v :=
  h.stays (S := fun _ => False) (Kept.of_below hk) id fun _ _ => id

theorem Tab.lt {w : World} {b mx : Nat} {es : List E} {v : Value} (h : Tab w b mx es v) : b < w.heap.size := (Array.getElem?_eq_some_iff.1 h.2.2.1).1

theorem Tab.row_lt {w : World} {b mx : Nat} {es : List E} {v : Value} (h : Tab w b mx es v) : ∀ k, v.ownBlock = some k → k < w.heap.size := fun k hk => (h.2.2.2.lt k hk).2

theorem Tab.row_ne {w : World} {b mx : Nat} {es : List E} {v : Value} (h : Tab w b mx es v) : ∀ k, v.ownBlock = some k → k ≠ b := by
  intro k hk e
  subst e
  rcases h.2.2.2.2 with ⟨rfl, _⟩ | ⟨g, cap, cur, rfl, _, hg, _⟩
  · simp [Value.ownBlock] at hk
  · simp [Value.ownBlock] at hk
    subst hk
    rw [h.2.2.1] at hg
    simp at hg

theorem Tab.len {w : World} {b mx : Nat} {es : List E} {v : Value} (h : Tab w b mx es v) : es.length ≤ 2048 := by
  have := length_total es
  have := h.1; have := h.2.1
  omega

theorem Tab.slice {w : World} {b mx : Nat} {es : List E} {v : Value} (h : Tab w b mx es v) : ∃ base cap, v = .slice base es.length cap := by
  rcases h.2.2.2.2 with ⟨rfl, hn⟩ | ⟨g, cap, cur, rfl, _⟩
  · exact ⟨none, 0, by rw [hn]⟩
  · exact ⟨_, cap, rfl⟩

theorem Tab.cells {w : World} {b mx : Nat} {es : List E} {v : Value} (h : Tab w b mx es v) :
    w.cell? ⟨b, 0, none⟩ = some (.int .i64 (mx : Int)) ∧ w.cell? ⟨b, 1, none⟩ = some (.int .i64 (total es : Int)) ∧ w.cell? ⟨b, 2, none⟩ = some v ∧
    w.frozen? ⟨b, 1, none⟩ = false ∧ w.frozen? ⟨b, 2, none⟩ = false ∧ w.frozen? ⟨b, 0, none⟩ = false := by
  obtain ⟨_, _, h3, _⟩ := h
  refine ⟨by simp [World.cell?, h3], by simp [World.cell?, h3], by simp [World.cell?, h3], ?_, ?_, ?_⟩
  all_goals simp [World.frozen?, h3]

set_option maxHeartbeats 400000 in
theorem new_good (mx : Nat) (w : World) (h : mx ≤ 65536) :
    Calls Try.prog 9 #[.int .i64 (mx : Int)] w fun e w' => e = .returned (.tuple #[.pointer (some ⟨w.heap.size, 0, none⟩), .int .i64 0]) ∧ Tab w' w.heap.size mx [] (.slice none 0 0) ∧ Below w.heap.size w w' := by
  have hd : decide (0 ≤ (mx : Int) ∧ (mx : Int) ≤ 65536) = true := by simp; omega
  go_enter Try.func9, Try.ntmps9
  go_wp2_with (go_at_call 26; refine (isMax_any _ w).mono ?_; rintro e w' ⟨rfl, rfl⟩; rw [hd])
  go_ret2
  refine ⟨rfl, ⟨h, by simp [total], ?_, World.ownsRow_nil _ _ _ _⟩, (Below.refl _ _).alloc (Nat.le_refl _) _⟩
  exact heap_alloc_new _ _

set_option maxHeartbeats 400000 in
theorem new_bad (a : Int) (w : World) (h : ¬ (0 ≤ a ∧ a ≤ 65536)) :
    Calls Try.prog 9 #[.int .i64 a] w fun e w' => e = .returned (.tuple #[.pointer none, .int .i64 1]) ∧ w' = w := by
  have hd : decide (0 ≤ a ∧ a ≤ 65536) = false := by simpa using h
  clear h
  go_enter Try.func9, Try.ntmps9
  go_wp2_with (go_at_call 26; refine (isMax_any _ w).mono ?_; rintro e w' ⟨rfl, rfl⟩; rw [hd])
  go_ret2
  exact ⟨rfl, rfl⟩

set_option maxHeartbeats 400000 in
theorem len_any (w : World) (b mx : Nat) (es : List E) (v : Value) (h : Tab w b mx es v) :
    Calls Try.prog 12 #[.pointer (some ⟨b, 0, none⟩)] w fun e w' => e = .returned (.int .i64 (es.length : Int)) ∧ w' = w := by
  obtain ⟨base, cap, rfl⟩ := h.slice
  obtain ⟨_, _, h2, _⟩ := h.cells
  clear h
  go_enter Try.func12, Try.ntmps12
  go_wp2
  go_ret
  exact ⟨rfl, rfl⟩

set_option maxHeartbeats 400000 in
theorem max_any (w : World) (b mx : Nat) (es : List E) (v : Value) (h : Tab w b mx es v) :
    Calls Try.prog 18 #[.pointer (some ⟨b, 0, none⟩)] w fun e w' => e = .returned (.int .i64 (mx : Int)) ∧ w' = w := by
  obtain ⟨h2, _⟩ := h.cells
  clear h
  go_enter Try.func18, Try.ntmps18
  go_wp2
  go_ret
  exact ⟨rfl, rfl⟩

set_option maxHeartbeats 400000 in
theorem tsize_any (w : World) (b mx : Nat) (es : List E) (v : Value) (h : Tab w b mx es v) :
    Calls Try.prog 19 #[.pointer (some ⟨b, 0, none⟩)] w fun e w' => e = .returned (.int .i64 (total es : Int)) ∧ w' = w := by
  obtain ⟨_, h2, _⟩ := h.cells
  clear h
  go_enter Try.func19, Try.ntmps19
  go_wp2
  go_ret
  exact ⟨rfl, rfl⟩

end Go.Proofs.Ytlfbnhdcgldopaa
