/- BlockSplits: what lies side by side. -/
import Derived.Test.YtdgdjanchpfleaaD3
import Derived.Test.YtdgdjanchpfleaaC3
namespace Go.Proofs.Ytdgdjanchpfleaa
open Go.RowKit
set_option linter.unusedVariables false
set_option linter.unusedSimpArgs false

theorem needs_one {a n len k k' : Nat} (hk : Needs a n len k) (hk' : Needs a n len k') : k' = k := by
  obtain ⟨a1, a2⟩ := hk
  obtain ⟨b1, b2⟩ := hk'
  apply Classical.byContradiction
  intro hne
  rcases Nat.lt_or_gt_of_ne hne with hlt | hlt
  · have := Nat.mul_le_mul_right n (show k' ≤ k - 1 by omega)
    rcases a1 with e | e
    · omega
    · omega
  · have := Nat.mul_le_mul_right n (show k ≤ k' - 1 by omega)
    rcases b1 with e | e
    · omega
    · omega
theorem needs_ex (a n len : Nat) (hn : 0 < n) : ∃ k, Needs a n len k := by
  have main : ∀ m, ∃ k, (k = 0 ∨ a + (k - 1) * n < len) ∧ (len ≤ a + k * n ∨ m ≤ k) := by
    intro m
    induction m with
    | zero => exact ⟨0, .inl rfl, .inr (Nat.le_refl _)⟩
    | succ m ih =>
      obtain ⟨k, h1, h2⟩ := ih
      by_cases h3 : len ≤ a + k * n
      · exact ⟨k, h1, .inl h3⟩
      · refine ⟨k + 1, .inr (by simp only [Nat.add_sub_cancel]; omega), .inr ?_⟩
        rcases h2 with h2 | h2
        · exact absurd h2 h3
        · omega
  obtain ⟨k, h1, h2⟩ := main len
  refine ⟨k, h1, ?_⟩
  rcases h2 with h2 | h2
  · exact h2
  · have : k ≤ k * n := Nat.le_mul_of_pos_right _ hn
    omega
theorem MS.tk {h : Fr} (hm : MS h) : ∃ T : Nat, tkI h = (T : Int) ∧ T ≤ 261 := by
  obtain ⟨m1, m2, m3, m4, m5, m6⟩ := hm.parts
  refine ⟨(tkI h).toNat, ?_, ?_⟩
  · unfold tkI
    split <;> split <;> (try split) <;> omega
  · unfold tkI
    split <;> split <;> (try split) <;> omega

/-- what both Splits hand over -/
theorem both_split (h : Fr) (hm : MS h) (ps : List (Int × Int)) (t : ByteArray) (n : Nat) (hn : 16384 ≤ n) (hn2 : n ≤ 65536) (hl : t.size ≤ 131072) (hlen : ps.length * 16 ≤ 140737488355328) :
    ∃ a k, k ≤ 131072 ∧ (∀ (x : SV) w, In EP w (sv x) ps →
      Calls Try.prog 15 #[.agg (fv h (sv x)), .string t, .int .i64 (n : Int)] w fun e w' => ∃ (g : Nat) (c : Nat) (y : SV), e = .returned (.tuple #[.slice (some ⟨g, 0, none⟩) (k + 1) c, .int .i64 0]) ∧ R EF w' (.slice (some ⟨g, 0, none⟩) (k + 1) c) (splL h y t a n k) ∧ R EP w' (sv y) ps ∧ w.heap.size ≤ g ∧ (∀ k, (sv y).ownBlock = some k → w.heap.size ≤ k) ∧ Below w.heap.size w w') ∧
      (∀ (x : SV) w,
      Calls Try.prog 17 #[.agg (fv h (sv x)), .string t, .int .i64 (n : Int)] w fun e w' => ∃ (g : Nat) (c : Nat), e = .returned (.tuple #[.slice (some ⟨g, 0, none⟩) (k + 1) c, .int .i64 0]) ∧ R EF w' (.slice (some ⟨g, 0, none⟩) (k + 1) c) (splL h x t a n k) ∧ w.heap.size ≤ g ∧ Below w.heap.size w w') := by
  obtain ⟨T, hT, hT2⟩ := hm.tk
  obtain ⟨k, hk⟩ := needs_ex (min (n - T) t.size) n t.size (by omega)
  refine ⟨min (n - T) t.size, k, ?_, fun x w hI => ?_, fun x w => ?_⟩
  · rcases hk.1 with e | e
    · omega
    · have := Nat.le_mul_of_pos_right (k - 1) (show 0 < n by omega)
      omega
  · refine (split_ok h x ps t n w hI hlen hm hn hn2 hl T _ hT hT2 rfl).mono ?_
    rintro e w' ⟨v, y, k', rfl, hk', hS⟩
    obtain rfl := needs_one hk hk'
    obtain ⟨g, c, e1, _, _, _, e2, _⟩ := hS.rf.setc okF 0 0 (by rw [splL_length]; omega) (by decide)
    have hg := hS.ff g e2
    rw [splL_length] at e1
    subst e1
    exact ⟨g, c, y, rfl, hS.rf, hS.rp, by omega, hS.fp, hS.bel⟩
  · refine (rsplit_ok h x t n w hm hn hn2 hl T _ hT hT2 rfl).mono ?_
    rintro e w' ⟨v, k', rfl, hk', hS⟩
    obtain rfl := needs_one hk hk'
    obtain ⟨g, c, e1, _, _, _, e2, _⟩ := hS.rf.setc okF 0 0 (by rw [splL_length]; omega) (by decide)
    have hg := hS.ff g e2
    rw [splL_length] at e1
    subst e1
    exact ⟨g, c, rfl, hS.rf, by omega, hS.bel⟩

/-- one cell of the element with number j set -/
theorem R.setw {α : Type} {E : El α} (ok : E.Ok) {w : World} {g n c : Nat} {l : List α} {j i : Nat} {y : α} (h : R E w (.slice (some ⟨g, 0, none⟩) n c) (l.set j y)) (hj : j < l.length) (hi : i < E.sz) (u : Value) (x : α) (hx : E.enc x = (E.enc y).set i u) :
    R E (w.setCell ⟨g, j * E.sz + i, none⟩ u) (.slice (some ⟨g, 0, none⟩) n c) (l.set j x) := by
  obtain ⟨g', cap, e, _, _, _, _, _, _, q⟩ := h.setc ok j i (by rw [List.length_set]; exact hj) hi
  injection e with e1 e2 e3
  injection e1 with e1
  injection e1 with e1
  subst e1
  have := q u x (by rw [hx]; simp)
  rw [List.set_set] at this
  exact this
theorem R.set_self {α : Type} {E : El α} {w : World} {v : Value} {l : List α} (h : R E w v l) (j : Nat) (hj : j < l.length) : R E w v (l.set j l[j]) := by
  rw [List.set_getElem_self]; exact h

/-- the frame that the law writes over -/
def junkF : Fr := ⟨-9, 0, 0, ⟨#[]⟩, 0, 0, false, 0, 0, 0⟩
/-- a whole frame written -/
theorem R.setf {w : World} {g n c : Nat} {l : List (Fr × SV)} (h : R EF w (.slice (some ⟨g, 0, none⟩) n c) l) (j : Nat) (hj : j < l.length) :
    R EF (sets w g [(j * 11, .int .i64 (-9)), (j * 11 + 1, .int .i64 0), (j * 11 + 2, .int .i64 0), (j * 11 + 3, .string ⟨#[]⟩), (j * 11 + 4, .int .i64 0), (j * 11 + 5, .int .i64 0), (j * 11 + 6, .bool false), (j * 11 + 7, .int .i64 0), (j * 11 + 8, .int .i64 0), (j * 11 + 9, .int .i64 0), (j * 11 + 10, .slice none 0 0)]) (.slice (some ⟨g, 0, none⟩) n c) (l.set j (junkF, (none, 0, 0))) := by
  have h0 := h.set_self j hj
  obtain ⟨X, hX⟩ : ∃ X, l[j] = X := ⟨_, rfl⟩
  rw [hX] at h0
  obtain ⟨f, u⟩ := X
  have h1 := h0.setw okF hj (i := 0) (by decide) (.int .i64 (-9)) ({ f with ty := -9 }, u) rfl
  have h2 := h1.setw okF hj (i := 1) (by decide) (.int .i64 0) ({ f with ty := -9, fl := 0 }, u) rfl
  have h3 := h2.setw okF hj (i := 2) (by decide) (.int .i64 0) ({ f with ty := -9, fl := 0, st := 0 }, u) rfl
  have h4 := h3.setw okF hj (i := 3) (by decide) (.string ⟨#[]⟩) ({ f with ty := -9, fl := 0, st := 0, data := ⟨#[]⟩ }, u) rfl
  have h5 := h4.setw okF hj (i := 4) (by decide) (.int .i64 0) ({ f with ty := -9, fl := 0, st := 0, data := ⟨#[]⟩, pad := 0 }, u) rfl
  have h6 := h5.setw okF hj (i := 5) (by decide) (.int .i64 0) ({ f with ty := -9, fl := 0, st := 0, data := ⟨#[]⟩, pad := 0, dep := 0 }, u) rfl
  have h7 := h6.setw okF hj (i := 6) (by decide) (.bool false) ({ f with ty := -9, fl := 0, st := 0, data := ⟨#[]⟩, pad := 0, dep := 0, excl := false }, u) rfl
  have h8 := h7.setw okF hj (i := 7) (by decide) (.int .i64 0) ({ f with ty := -9, fl := 0, st := 0, data := ⟨#[]⟩, pad := 0, dep := 0, excl := false, wt := 0 }, u) rfl
  have h9 := h8.setw okF hj (i := 8) (by decide) (.int .i64 0) ({ f with ty := -9, fl := 0, st := 0, data := ⟨#[]⟩, pad := 0, dep := 0, excl := false, wt := 0, code := 0 }, u) rfl
  have h10 := h9.setw okF hj (i := 9) (by decide) (.int .i64 0) (junkF, u) rfl
  exact h10.setw okF hj (i := 10) (by decide) (.slice none 0 0) (junkF, (none, 0, 0)) rfl

/-- the three answers: the one that is written over (its params in hand: u, qs), the second, the document's -/
structure Bs (w wr : World) (gl cl gk ck gm cm k : Nat) (Ll Lk Lm : List (Fr × SV)) (u y2 y3 : SV) (qs ps : List (Int × Int)) : Prop where
  bel : Below w.heap.size w wr
  rl : R EF wr (.slice (some ⟨gl, 0, none⟩) (k + 1) cl) Ll
  rk : R EF wr (.slice (some ⟨gk, 0, none⟩) (k + 1) ck) Lk
  rm : R EF wr (.slice (some ⟨gm, 0, none⟩) (k + 1) cm) Lm
  ru : R EP wr (sv u) qs
  r2 : R EP wr (sv y2) ps
  r3 : R EP wr (sv y3) ps
  fl : w.heap.size ≤ gl
  nk : gk ≠ gl
  nm : gm ≠ gl
  fu : ∀ i, (sv u).ownBlock = some i → w.heap.size ≤ i
  n2 : ∀ i, (sv u).ownBlock = some i → (sv y2).ownBlock ≠ some i
  n3 : ∀ i, (sv u).ownBlock = some i → (sv y3).ownBlock ≠ some i
theorem R.lenl {w : World} {g k c : Nat} {L : List (Fr × SV)} (h : R EF w (.slice (some ⟨g, 0, none⟩) (k + 1) c) L) : L.length = k + 1 := by
  obtain ⟨b, cap, e, _⟩ := h.slice
  injection e with _ e _
  exact e.symm

variable {w wr w' : World} {gl cl gk ck gm cm k : Nat} {Ll Lk Lm : List (Fr × SV)} {u y2 y3 : SV} {qs ps : List (Int × Int)}
theorem Bs.below (B : Bs w wr gl cl gk ck gm cm k Ll Lk Lm u y2 y3 qs ps) (hb : Below wr.heap.size wr w') : Bs w w' gl cl gk ck gm cm k Ll Lk Lm u y2 y3 qs ps :=
  ⟨B.bel.trans (hb.mono B.bel.size), B.rl.below hb, B.rk.below hb, B.rm.below hb, B.ru.below hb, B.r2.below hb, B.r3.below hb, B.fl, B.nk, B.nm, B.fu, B.n2, B.n3⟩
theorem Bs.lblk (B : Bs w wr gl cl gk ck gm cm k Ll Lk Lm u y2 y3 qs ps) : ∃ c, wr.heap[gl]? = some (.cells c 24 (0, 0)) := B.rl.ty gl rfl
/-- the first one's row turned -/
theorem Bs.setl (B : Bs w wr gl cl gk ck gm cm k Ll Lk Lm u y2 y3 qs ps) {Ll' : List (Fr × SV)} (hk : Ks (fun i => i = gl) wr w') (hr : R EF w' (.slice (some ⟨gl, 0, none⟩) (k + 1) cl) Ll') : Bs w w' gl cl gk ck gm cm k Ll' Lk Lm u y2 y3 qs ps := by
  obtain ⟨c, hc⟩ := B.lblk
  refine ⟨B.bel.trans (hk.below B.bel.size fun i hi e => by have := B.fl; omega), hr, B.rk.stays fun i hi hlt => hk.block i hlt fun e => ?_, B.rm.stays fun i hi hlt => hk.block i hlt fun e => ?_, B.ru.stays fun i hi hlt => hk.block i hlt (own_ne B.ru hc (by decide) i hi), B.r2.stays fun i hi hlt => hk.block i hlt (own_ne B.r2 hc (by decide) i hi), B.r3.stays fun i hi hlt => hk.block i hlt (own_ne B.r3 hc (by decide) i hi), B.fl, B.nk, B.nm, B.fu, B.n2, B.n3⟩
  · simp [Value.ownBlock] at hi
    exact B.nk (hi.trans e)
  · simp [Value.ownBlock] at hi
    exact B.nm (hi.trans e)
/-- its params turned -/
theorem Bs.setp (B : Bs w wr gl cl gk ck gm cm k Ll Lk Lm u y2 y3 qs ps) {qs' : List (Int × Int)} (hk : Ks (fun i => (sv u).ownBlock = some i) wr w') (hr : R EP w' (sv u) qs') : Bs w w' gl cl gk ck gm cm k Ll Lk Lm u y2 y3 qs' ps := by
  have ne : ∀ {o : Value} {L : List (Fr × SV)}, R EF wr o L → ∀ i, o.ownBlock = some i → ¬ (sv u).ownBlock = some i := fun h i hi e => by
    obtain ⟨c, hc⟩ := h.ty i hi
    exact own_ne B.ru hc (by decide) i e rfl
  exact ⟨B.bel.trans (hk.below B.bel.size fun i hi e => by have := B.fu i e; omega), B.rl.stays fun i hi hlt => hk.block i hlt (ne B.rl i hi), B.rk.stays fun i hi hlt => hk.block i hlt (ne B.rk i hi), B.rm.stays fun i hi hlt => hk.block i hlt (ne B.rm i hi), hr, B.r2.stays fun i hi hlt => hk.block i hlt fun e => B.n2 i e hi, B.r3.stays fun i hi hlt => hk.block i hlt fun e => B.n3 i e hi, B.fl, B.nk, B.nm, B.fu, B.n2, B.n3⟩
/-- none in hand -/
theorem Bs.bare (B : Bs w wr gl cl gk ck gm cm k Ll Lk Lm u y2 y3 qs ps) : Bs w wr gl cl gk ck gm cm k Ll Lk Lm (none, 0, 0) y2 y3 [] ps :=
  ⟨B.bel, B.rl, B.rk, B.rm, R.nil _ _, B.r2, B.r3, B.fl, B.nk, B.nm, fun i hi => by simp [sv, Value.ownBlock] at hi, fun i hi => by simp [sv, Value.ownBlock] at hi, fun i hi => by simp [sv, Value.ownBlock] at hi⟩
theorem Bs.junk (B : Bs w wr gl cl gk ck gm cm k Ll Lk Lm u y2 y3 qs ps) (j : Nat) (hj : j < k + 1) : Bs w (sets wr gl [(j * 11, .int .i64 (-9)), (j * 11 + 1, .int .i64 0), (j * 11 + 2, .int .i64 0), (j * 11 + 3, .string ⟨#[]⟩), (j * 11 + 4, .int .i64 0), (j * 11 + 5, .int .i64 0), (j * 11 + 6, .bool false), (j * 11 + 7, .int .i64 0), (j * 11 + 8, .int .i64 0), (j * 11 + 9, .int .i64 0), (j * 11 + 10, .slice none 0 0)]) gl cl gk ck gm cm k (Ll.set j (junkF, (none, 0, 0))) Lk Lm (none, 0, 0) y2 y3 [] ps :=
  (B.setl (sets_ks (fun i => i = gl) gl rfl _ _) (B.rl.setf j (by rw [B.rl.lenl]; exact hj))).bare
theorem Bs.par (B : Bs w wr gl cl gk ck gm cm k Ll Lk Lm u y2 y3 qs ps) (j : Nat) (hj : j < qs.length) : ∃ g cap, sv u = .slice (some ⟨g, 0, none⟩) qs.length cap ∧ qs.length ≤ cap ∧ cap ≤ 9223372036854775807 ∧ g < wr.heap.size ∧ wr.cell? ⟨g, j * 2, none⟩ = some (.int .i64 qs[j].1) ∧ wr.cell? ⟨g, j * 2 + 1, none⟩ = some (.int .i64 qs[j].2) ∧ wr.frozen? ⟨g, j * 2, none⟩ = false ∧ wr.frozen? ⟨g, j * 2 + 1, none⟩ = false ∧
    Bs w ((wr.setCell ⟨g, j * 2, none⟩ (.int .i64 (-9))).setCell ⟨g, j * 2 + 1, none⟩ (.int .i64 0)) gl cl gk ck gm cm k Ll Lk Lm u y2 y3 (qs.set j (-9, 0)) ps := by
  obtain ⟨g, cap, e, m1, m2, m3, m4, m5, m6, m7⟩ := B.ru.setc okP j 0 hj (by decide)
  refine ⟨g, cap, e, m1, m2, m3, m5 0 _ rfl, m5 1 _ rfl, m6 _, m6 _, ?_⟩
  have h0 := B.ru.set_self j hj
  rw [e] at h0 m4
  have h1 := h0.setw okP hj (i := 0) (by decide) (.int .i64 (-9)) (-9, qs[j].2) rfl
  have h2 := h1.setw okP hj (i := 1) (by decide) (.int .i64 0) (-9, 0) rfl
  rw [← e] at h2 m4
  exact B.setp ((Ks.setCell (fun i => (sv u).ownBlock = some i) wr g (j * 2) _ m4).trans (Ks.setCell (fun i => (sv u).ownBlock = some i) _ g (j * 2 + 1) _ m4) (fun _ _ h => h) (fun _ _ h => h)) h2
end Go.Proofs.Ytdgdjanchpfleaa
