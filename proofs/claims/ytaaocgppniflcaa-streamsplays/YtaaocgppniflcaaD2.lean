/- The document's State, Cut, refused, birth, ours, Counts, Last, Next. -/
import Derived.Test.YtaaocgppniflcaaD1
namespace Go.Proofs.Ytaaocgppniflcaa
open Go.RowKit Go.Maps
set_option linter.unusedVariables false
set_option linter.unusedSimpArgs false

/-- what the document's list says of a stream -/
def lk (l : List O1) (id : Int) : Option (Int × Bool) := (l.find? (fun x => x.1 == id)).map (·.2)
theorem lk_find {l : List O1} {id : Int} : (findS l id = -1 ∧ lk l id = none) ∨ ∃ i, ∃ hi : i < l.length, findS l id = (i : Int) ∧ lk l id = some l[i].2 ∧ l[i].1 = id := by
  unfold findS lk
  cases h : l.findIdx? (fun x => x.1 == id) with
  | none =>
    left
    refine ⟨rfl, ?_⟩
    have := List.findIdx?_eq_none_iff.1 h
    rw [List.find?_eq_none.2 (fun x hx => by simpa using this x hx)]
    rfl
  | some i =>
    right
    obtain ⟨hi, h1, h2⟩ := List.findIdx?_eq_some_iff_getElem.1 h
    refine ⟨i, hi, rfl, ?_, by simpa using h1⟩
    have : l.find? (fun x => x.1 == id) = some l[i] := by
      rw [List.find?_eq_some_iff_getElem]
      exact ⟨h1, i, hi, rfl, fun j hj => by simpa using h2 j hj⟩
    rw [this]
    rfl
def rst (l : List O1) (id : Int) : Int := if isStr id = true then (match lk l id with | some x => x.1 | none => if id < topS l (id.tmod 2) then 6 else 0) else 6
def rcut (l : List O1) (id : Int) : Bool := match lk l id with | some x => x.2 | none => false
theorem RT.cells {w : World} {p : Nat} {c : Bool} {v : Value} {l : List O1} (h : RT w p c v l) : w.cell? ⟨p, 0, none⟩ = some (.bool c) ∧ w.cell? ⟨p, 1, none⟩ = some v ∧ p < w.heap.size := ⟨cell_blk h.blk 0, cell_blk h.blk 1, h.lt⟩

set_option maxRecDepth 100000 in
set_option maxHeartbeats 2000000 in
theorem rstate_any (w : World) (p : Nat) (c : Bool) (v : Value) (l : List O1) (id : Int) (h : RT w p c v l) : Calls Try.prog 24 #[.pointer (some ⟨p, 0, none⟩), .int .i64 id] w fun e w' => e = .returned (.int .i64 (rst l id)) ∧ w' = w := by
  unfold rst
  have hf := find_any w p c v l id h
  have ht := top_any w p c v l id h
  obtain ⟨c0, c1, hp⟩ := h.cells
  by_cases h1 : 1 ≤ id
  · by_cases h2 : id ≤ 2147483647
    · rw [if_pos (isStr_iff.2 ⟨h1, h2⟩)]
      have g1 : decide (id < 1) = false := decide_eq_false (by omega)
      have g2 : decide (2147483647 < id) = false := decide_eq_false (by omega)
      rcases lk_find (l := l) (id := id) with ⟨e1, e2⟩ | ⟨i, hi, e1, e2, e3⟩
      · rw [e1] at hf
        rw [e2]
        clear e1 e2 h h1 h2
        simp only
        generalize topS l (id.tmod 2) = tt at ht ⊢
        by_cases h3 : id < tt
        · rw [if_pos h3]
          have g3 : decide (id < tt) = true := decide_eq_true h3
          clear h3
          go_enter Try.func24, Try.ntmps24
          go_wp2_with fail
          refine hf.mono ?_
          rintro e w1 ⟨rfl, rfl⟩
          go_wp2_with fail
          refine ht.mono ?_
          rintro e w1 ⟨rfl, rfl⟩
          go_wp2
          go_ret
          exact ⟨rfl, rfl⟩
        · rw [if_neg h3]
          have g3 : decide (id < tt) = false := decide_eq_false h3
          clear h3
          go_enter Try.func24, Try.ntmps24
          go_wp2_with fail
          refine hf.mono ?_
          rintro e w1 ⟨rfl, rfl⟩
          go_wp2_with fail
          refine ht.mono ?_
          rintro e w1 ⟨rfl, rfl⟩
          go_wp2
          go_ret
          exact ⟨rfl, rfl⟩
      · rw [e1] at hf
        rw [e2]
        simp only
        obtain ⟨B, off, cap, e, hB, d0, d1, d2⟩ := h.row.isIn.one i hi
        subst e
        obtain ⟨y, hy⟩ : ∃ y, (l[i]).2.1 = y := ⟨_, rfl⟩
        rw [hy] at d1 ⊢
        have hc := h.row.slice
        obtain ⟨_, cc, he, hc1, hc2⟩ := hc
        injection he with hz1 hz2 he; clear hz1 hz2
        rw [← he] at hc1 hc2
        obtain ⟨n, hn⟩ : ∃ n, l.length = n := ⟨_, rfl⟩
        rw [hn] at hi hc1 c1
        clear e1 e2 e3 hy h ht d0 d2 he hn h1 h2
        go_enter Try.func24, Try.ntmps24
        go_wp2_with fail
        refine hf.mono ?_
        rintro e w1 ⟨rfl, rfl⟩
        go_wp2
        go_ret
        exact ⟨rfl, rfl⟩
    · rw [if_neg (fun e => h2 (isStr_iff.1 e).2)]
      have g1 : decide (id < 1) = false := decide_eq_false (by omega)
      have g2 : decide (2147483647 < id) = true := decide_eq_true (by omega)
      clear hf ht h
      go_enter Try.func24, Try.ntmps24
      go_wp2
      go_ret
      exact ⟨rfl, rfl⟩
  · rw [if_neg (fun e => h1 (isStr_iff.1 e).1)]
    have g1 : decide (id < 1) = true := decide_eq_true (by omega)
    clear hf ht h
    go_enter Try.func24, Try.ntmps24
    go_wp2
    go_ret
    exact ⟨rfl, rfl⟩

set_option maxRecDepth 100000 in
set_option maxHeartbeats 2000000 in
theorem rcut_any (w : World) (p : Nat) (c : Bool) (v : Value) (l : List O1) (id : Int) (h : RT w p c v l) : Calls Try.prog 26 #[.pointer (some ⟨p, 0, none⟩), .int .i64 id] w fun e w' => e = .returned (.bool (rcut l id)) ∧ w' = w := by
  unfold rcut
  have hf := find_any w p c v l id h
  obtain ⟨c0, c1, hp⟩ := h.cells
  rcases lk_find (l := l) (id := id) with ⟨e1, e2⟩ | ⟨i, hi, e1, e2, e3⟩
  · rw [e1] at hf
    rw [e2]
    clear e1 e2 h
    go_enter Try.func26, Try.ntmps26
    go_wp2_with fail
    refine hf.mono ?_
    rintro e w1 ⟨rfl, rfl⟩
    go_wp2
    go_ret
    exact ⟨rfl, rfl⟩
  · rw [e1] at hf
    rw [e2]
    simp only
    obtain ⟨B, off, cap, e, hB, d0, d1, d2⟩ := h.row.isIn.one i hi
    subst e
    obtain ⟨y, hy⟩ : ∃ y, (l[i]).2.2 = y := ⟨_, rfl⟩
    rw [hy] at d2 ⊢
    obtain ⟨_, cc, he, hc1, hc2⟩ := h.row.slice
    injection he with hz1 hz2 he; clear hz1 hz2
    rw [← he] at hc1 hc2
    obtain ⟨n, hn⟩ : ∃ n, l.length = n := ⟨_, rfl⟩
    rw [hn] at hi hc1 c1
    clear e1 e2 e3 hy h d0 d1 he hn
    go_enter Try.func26, Try.ntmps26
    go_wp2_with fail
    refine hf.mono ?_
    rintro e w1 ⟨rfl, rfl⟩
    go_wp2
    go_ret
    exact ⟨rfl, rfl⟩

set_option maxRecDepth 100000 in
set_option maxHeartbeats 1000000 in
theorem refused_any (g : Bool) (k : Int) (w : World) : Calls Try.prog 38 #[.agg #[.bool g, .int .i64 k]] w fun e w' => e = .returned (.agg #[.int .i64 (mis g).1, .int .i64 (mis g).2]) ∧ Below w.heap.size w w' := by
  cases g
  · go_enter Try.func38, Try.ntmps38
    go_wp2
    refine bodyPost_ret (results_c (p := 2) (ty := 55) rfl _ _ (w.heap.size + 1) 55 _ (0, 0) _ rfl (fresh2 _ _ _) Try.underlying55 rfl (by kernel_rfl)) rfl ⟨rfl, bel2 _ _ _⟩
  · go_enter Try.func38, Try.ntmps38
    go_wp2
    refine bodyPost_ret (results_c (p := 2) (ty := 55) rfl _ _ (w.heap.size + 1) 55 _ (0, 0) _ rfl (fresh2 _ _ _) Try.underlying55 rfl (by kernel_rfl)) rfl ⟨rfl, bel2 _ _ _⟩
set_option maxRecDepth 100000 in
set_option maxHeartbeats 1000000 in
theorem rcounts_any (s : Int) (w : World) : Calls Try.prog 44 #[.int .i64 s] w fun e w' => e = .returned (.bool (ct s)) ∧ w' = w := by
  have h : ct s = (decide (3 ≤ s) && decide (s ≤ 5)) := by
    unfold ct
    by_cases h1 : 3 ≤ s <;> by_cases h2 : s ≤ 5 <;> simp [h1, h2] <;> omega
  rw [h]
  clear h
  by_cases h1 : 3 ≤ s
  · by_cases h2 : s ≤ 5
    · have e1 : decide (3 ≤ s) = true := decide_eq_true h1
      have e2 : decide (s ≤ 5) = true := decide_eq_true h2
      rw [e1, e2]
      go_enter Try.func44, Try.ntmps44
      go_wp2
      go_ret
      exact ⟨rfl, rfl⟩
    · have e1 : decide (3 ≤ s) = true := decide_eq_true h1
      have e2 : decide (s ≤ 5) = false := decide_eq_false h2
      rw [e1, e2]
      go_enter Try.func44, Try.ntmps44
      go_wp2
      go_ret
      exact ⟨rfl, rfl⟩
  · have e1 : decide (3 ≤ s) = false := decide_eq_false h1
    rw [e1]
    go_enter Try.func44, Try.ntmps44
    go_wp2
    go_ret
    exact ⟨rfl, rfl⟩
end Go.Proofs.Ytaaocgppniflcaa
