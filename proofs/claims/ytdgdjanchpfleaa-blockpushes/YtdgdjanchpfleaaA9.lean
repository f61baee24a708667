/- Split. -/
import Derived.Test.YtdgdjanchpfleaaM2
namespace Go.Proofs.Ytdgdjanchpfleaa
open Go.RowKit
set_option linter.unusedVariables false
set_option linter.unusedSimpArgs false

/-- a CONTINUATION frame -/
def cont (st fl : Int) (d : ByteArray) : Fr := ⟨9, fl, st, d, 0, 0, false, 0, 0, 0⟩
/-- the first frame -/
def f0F (h : Fr) (t : ByteArray) (a : Nat) : Fr := { h with fl := bits .andNot .i64 h.fl 4, data := t.extract 0 a }
def pieceF (h : Fr) (t : ByteArray) (a n i : Nat) : Fr := cont h.st 0 (t.extract (a + i * n) (min (a + i * n + n) t.size))
/-- the frames so far: the first, and k behind it -/
def cutL (h : Fr) (y : SV) (t : ByteArray) (a n k : Nat) : List (Fr × SV) := (f0F h t a, y) :: (List.range k).map fun i => (pieceF h t a n i, (none, 0, 0))
theorem cutL_length (h : Fr) (y : SV) (t : ByteArray) (a n k : Nat) : (cutL h y t a n k).length = k + 1 := by simp [cutL]
theorem cutL_succ (h : Fr) (y : SV) (t : ByteArray) (a n k : Nat) : cutL h y t a n (k + 1) = cutL h y t a n k ++ [(pieceF h t a n k, (none, 0, 0))] := by
  simp [cutL, List.range_succ]
/-- the last frame's flag -/
def endF (x : Fr × SV) : Fr × SV := ({ x.1 with fl := bits .or .i64 x.1.fl 4 }, x.2)
/-- all frames -/
def splL (h : Fr) (y : SV) (t : ByteArray) (a n k : Nat) : List (Fr × SV) := (cutL h y t a n k).set k (endF ((cutL h y t a n k).getD k (f0F h t a, y)))
/-- k frames are needed behind the first -/
def Needs (a n len k : Nat) : Prop := (k = 0 ∨ a + (k - 1) * n < len) ∧ len ≤ a + k * n

set_option maxHeartbeats 2000000 in
set_option maxRecDepth 100000 in
theorem split_arg (h : Fr) (x : SV) (t : ByteArray) (size : Int) (w : World) (hbad : ¬ (MS h ∧ 16384 ≤ size ∧ size ≤ 65536)) :
    Calls Try.prog 15 #[.agg (fv h (sv x)), .string t, .int .i64 size] w fun e w' => e = .returned (.tuple #[.slice none 0 0, .int .i64 1]) ∧ Below w.heap.size w w' := by
  have hC : Hid (∀ W, Calls Try.prog 25 #[.agg (fv h (sv x))] W fun e w' => e = .returned (.bool (dMS h)) ∧ Below W.heap.size W w') := fun W => maySplit_any h (sv x) W
  obtain ⟨xb, xl, xc⟩ := x
  have B0 : Hid _ := bel1 w (.cells (fv h (.slice xb xl xc)) 24)
  simp only [sv] at hC ⊢
  unfold fv at hC B0 ⊢
  by_cases hm : MS h
  · have hd : dMS h = true := (dMS_iff h).2 hm
    rw [hd] at hC
    have hb : size < 16384 ∨ (¬ size < 16384 ∧ 65536 < size) := by
      by_cases h1 : size < 16384
      · exact .inl h1
      · exact .inr ⟨h1, by
          apply Classical.byContradiction
          intro h2
          exact hbad ⟨hm, by omega, by omega⟩⟩
    clear hbad hm hd
    rcases hb with h1 | ⟨h1, h2⟩
    all_goals
      go_enter Try.func15, Try.ntmps15
      go_wp2_with fail
      go_at_call 25
      refine (hC.out _).mono ?_
      rintro e w1 ⟨rfl, hb⟩
      have B1 : Hid (Below w.heap.size w w1) := B0.out.trans (hb.mono B0.out.size)
      clear hb
      go_wp2_with fail
      go_ret2
      exact ⟨rfl, B1.out⟩
  · have hd : dMS h = false := by
      cases e : dMS h
      · rfl
      · exact absurd ((dMS_iff h).1 e) hm
    rw [hd] at hC
    clear hbad hm hd
    go_enter Try.func15, Try.ntmps15
    go_wp2_with fail
    go_at_call 25
    refine (hC.out _).mono ?_
    rintro e w1 ⟨rfl, hb⟩
    have B1 : Hid (Below w.heap.size w w1) := B0.out.trans (hb.mono B0.out.size)
    clear hb
    go_wp2_with fail
    go_ret2
    exact ⟨rfl, B1.out⟩

set_option maxHeartbeats 2000000 in
set_option maxRecDepth 100000 in
theorem split_long (h : Fr) (x : SV) (t : ByteArray) (size : Int) (w : World) (hok : MS h ∧ 16384 ≤ size ∧ size ≤ 65536) (hl : 131072 < t.size) :
    Calls Try.prog 15 #[.agg (fv h (sv x)), .string t, .int .i64 size] w fun e w' => e = .returned (.tuple #[.slice none 0 0, .int .i64 3]) ∧ Below w.heap.size w w' := by
  have hC : Hid (∀ W, Calls Try.prog 25 #[.agg (fv h (sv x))] W fun e w' => e = .returned (.bool (dMS h)) ∧ Below W.heap.size W w') := fun W => maySplit_any h (sv x) W
  obtain ⟨xb, xl, xc⟩ := x
  have B0 : Hid _ := bel1 w (.cells (fv h (.slice xb xl xc)) 24)
  simp only [sv] at hC ⊢
  unfold fv at hC B0 ⊢
  obtain ⟨hm, h1, h2⟩ := hok
  have hd : dMS h = true := (dMS_iff h).2 hm
  rw [hd] at hC
  have h1' : ¬ size < 16384 := by omega
  have h2' : ¬ 65536 < size := by omega
  have hl' : (131072 : Int) < (t.size : Int) := by omega
  clear hm hd h1 h2 hl
  go_enter Try.func15, Try.ntmps15
  go_wp2_with fail
  go_at_call 25
  refine (hC.out _).mono ?_
  rintro e w1 ⟨rfl, hb⟩
  have B1 : Hid (Below w.heap.size w w1) := B0.out.trans (hb.mono B0.out.size)
  clear hb
  go_wp2_with fail
  go_ret2
  exact ⟨rfl, B1.out⟩

/-- Within Split's loop. -/
structure Sp (w wr : World) (h : Fr) (x y : SV) (ps : List (Int × Int)) (v : Value) (L : List (Fr × SV)) : Prop where
  b1 : FB wr w.heap.size h (sv x)
  rp : R EP wr (sv y) ps
  fp : ∀ k, (sv y).ownBlock = some k → w.heap.size ≤ k
  rf : R EF wr v L
  ff : ∀ k, v.ownBlock = some k → w.heap.size < k
  bel : Below w.heap.size w wr
theorem Sp.below {w wr w' : World} {h : Fr} {x y : SV} {ps : List (Int × Int)} {v : Value} {L : List (Fr × SV)} (S : Sp w wr h x y ps v L) (hb : Below wr.heap.size wr w') : Sp w w' h x y ps v L :=
  ⟨S.b1.below hb, S.rp.below hb, S.fp, S.rf.below hb, S.ff, S.bel.trans (hb.mono S.bel.size)⟩
/-- one frame more -/
theorem Sp.more {w wr : World} {h : Fr} {x y : SV} {ps : List (Int × Int)} {v : Value} {L : List (Fr × SV)} (S : Sp w wr h x y ps v L) (hl : L.length ≤ 1000) (st : Int) (d : ByteArray) :
    ∃ base cap w', (Builtin.append_ #[37, 37] 37 #[v, .slice (some ⟨wr.heap.size, 0, none⟩) 1 1]).run Try.prog (wr.alloc (.cells (fv (cont st 0 d) (.slice none 0 0)) 24)) = .ok (.slice base (L.length + 1) cap) w' ∧
      Sp w w' h x y ps (.slice base (L.length + 1) cap) (L ++ [(cont st 0 d, (none, 0, 0))]) := by
  have hb := bel1 wr (.cells (fv (cont st 0 d) (.slice none 0 0)) 24)
  have S1 := S.below hb
  have hin : In EF (wr.alloc (.cells (fv (cont st 0 d) (.slice none 0 0)) 24)) (.slice (some ⟨wr.heap.size, 0, none⟩) 1 1) [(cont st 0 d, (none, 0, 0))] := in_one _ _ _ (fv (cont st 0 d) (.slice none 0 0)) 24 (0, 0) (by rw [heap_al, if_pos rfl]) rfl
  obtain ⟨base, cap, w', h1, h2, h3⟩ := app okF _ v L S1.rf _ _ hin (by simp [EF]; omega)
  simp only [List.length_cons, List.length_nil, Nat.zero_add] at h1 h2 h3
  have ne : ∀ k c t, (wr.alloc (.cells (fv (cont st 0 d) (.slice none 0 0)) 24)).heap[k]? = some (.cells c t (0, 0)) → t ≠ 24 → v.ownBlock ≠ some k := fun k c t hc ht e => by
    obtain ⟨c', hc'⟩ := S1.rf.ty k e
    rw [hc] at hc'
    injection hc' with hc'
    injection hc' with _ e2
    exact ht e2
  refine ⟨base, cap, w', h1, ?_, S1.rp.stays fun k hk hlt => ?_, S.fp, h2, fun k hk => ?_, S1.bel.trans (h3.belowB S1.bel.size fun k hk => Nat.le_of_lt (S.ff k hk))⟩
  · exact (h3.block _ S1.b1.lt fun e => by have := S.ff _ e; omega).trans S1.b1
  · obtain ⟨c, hc⟩ := S1.rp.ty k hk
    exact h3.block k hlt (ne _ _ _ hc (by decide))
  · rcases h3.own k hk with e | e
    · exact S.ff k e
    · have := S1.b1.lt
      omega

/-- the first frame in a row of its own -/
theorem Sp.first {w w4 : World} {h : Fr} {x y : SV} {ps : List (Int × Int)} (f : Fr) (b1 : FB w4 w.heap.size h (sv x)) (rp : R EP w4 (sv y) ps) (fp : ∀ k, (sv y).ownBlock = some k → w.heap.size ≤ k) (bel : Below w.heap.size w w4) :
    Sp w (w4.alloc (.cells (fv f (sv y)) 24)) h x y ps (.slice (some ⟨w4.heap.size, 0, none⟩) 1 1) [(f, y)] := by
  have hb := bel1 w4 (.cells (fv f (sv y)) 24)
  have := b1.lt
  refine ⟨b1.below hb, rp.below hb, fp, R.one okF _ (by rw [heap_al, if_pos rfl]; rfl) rfl, fun k hk => ?_, bel.trans (hb.mono bel.size)⟩
  simp [Value.ownBlock] at hk
  omega

set_option maxHeartbeats 8000000 in
set_option maxRecDepth 100000 in
theorem split_ok (h : Fr) (x : SV) (ps : List (Int × Int)) (t : ByteArray) (n : Nat) (w : World) (hI : In EP w (sv x) ps) (hlen : ps.length * 16 ≤ 140737488355328) (hm : MS h) (h1 : 16384 ≤ n) (h2 : n ≤ 65536) (hl : t.size ≤ 131072) (T a : Nat) (hT : tkI h = (T : Int)) (hT2 : T ≤ 261) (ha : a = min (n - T) t.size) :
    Calls Try.prog 15 #[.agg (fv h (sv x)), .string t, .int .i64 (n : Int)] w fun e w' => ∃ (v : Value) (y : SV) (k : Nat), e = .returned (.tuple #[v, .int .i64 0]) ∧ Needs a n t.size k ∧ Sp w w' h x y ps v (splL h y t a n k) := by
  have hC : Hid (∀ W, Calls Try.prog 25 #[.agg (fv h (sv x))] W fun e w' => e = .returned (.bool true) ∧ Below W.heap.size W w') := fun W => by
    have := maySplit_any h (sv x) W
    rw [(dMS_iff h).2 hm] at this
    exact this
  have hpad : 0 ≤ h.pad ∧ h.pad ≤ 255 := by
    obtain ⟨_, _, _, p1, p2⟩ := hm
    refine ⟨p1, ?_⟩
    split at p2 <;> omega
  have hC2 : Hid (∀ W, Calls Try.prog 26 #[.agg (fv h (sv x))] W fun e w' => e = .returned (.int .i64 (T : Int)) ∧ Below W.heap.size W w') := fun W => by
    have := taken_any h (sv x) W hpad.1 hpad.2
    rw [hT] at this
    exact this
  have hC3 : Hid (∀ W, Below w.heap.size w W → Calls Try.prog 27 #[.agg (fv h (sv x))] W fun e w' => ∃ yb yl yc, e = .returned (.agg (fv h (.slice yb yl yc))) ∧ Hid (R EP w' (.slice yb yl yc) ps ∧ (∀ k, (Value.slice yb yl yc).ownBlock = some k → w.heap.size ≤ k) ∧ Below W.heap.size W w')) := fun W hb => by
    refine (copyOf_any h x ps W (hI.below hb) hlen).mono ?_
    rintro e w' ⟨⟨yb, yl, yc⟩, rfl, q1, q2, q3⟩
    exact ⟨yb, yl, yc, rfl, q1, fun k hk => Nat.le_trans hb.size (q2 k hk), q3⟩
  have hC4 : Hid (∀ (s : ByteArray) W, s.size ≤ 131072 → Calls Try.prog 28 #[.string s] W fun e w' => e = .returned (.string s) ∧ Below W.heap.size W w') := fun s W hs => clone_any s W (by omega)
  have F0 : FB (w.alloc (.cells (fv h (sv x)) 24)) w.heap.size h (sv x) := by unfold FB; rw [heap_al, if_pos rfl]
  have B0 := bel1 w (.cells (fv h (sv x)) 24)
  obtain ⟨xb, xl, xc⟩ := x
  simp only [sv] at hC hC2 hC3 F0 B0 ⊢
  unfold fv at hC hC2 hC3 F0 B0 ⊢
  replace F0 : Hid _ := F0
  replace B0 : Hid _ := B0
  have g1 : ¬ ((n : Int) < 16384) := by omega
  have g2 : ¬ (65536 < (n : Int)) := by omega
  have g3 : ¬ ((131072 : Int) < (t.size : Int)) := by omega
  have g4 : min ((n : Int) - (T : Int)) (t.size : Int) = (a : Int) := by omega
  have g5 : a ≤ t.size := by omega
  have g6 : (a : Int) ≤ (t.size : Int) := by omega
  have HS : Hid ((t.extract 0 a).size ≤ 131072) := by show _ ≤ _; rw [ByteArray.size_extract]; omega
  have HA : Hid (a ≤ t.size ∧ t.size ≤ 131072 ∧ 16384 ≤ n ∧ n ≤ 65536) := ⟨g5, hl, h1, h2⟩
  clear hI hlen hm hT ha hpad
  go_enter Try.func15, Try.ntmps15
  go_wp2_with fail
  go_at_call 25
  refine (hC.out _).mono ?_
  rintro e w1 ⟨rfl, hb⟩
  have F1 := FB.below F0.out hb
  have B1 : Hid (Below w.heap.size w w1) := B0.out.trans (hb.mono B0.out.size)
  obtain ⟨c0, c1, c2, c3, c4, c5, c6, c7, c8, c9, c10⟩ := F1.cells
  replace F1 : Hid (FB w1 w.heap.size h (.slice xb xl xc)) := F1
  clear hb hC F0 B0
  go_wp2_with fail
  go_at_call 26
  refine (hC2.out _).mono ?_
  rintro e w2 ⟨rfl, hb⟩
  have F2 := F1.out.below hb
  have B2 : Hid (Below w.heap.size w w2) := B1.out.trans (hb.mono B1.out.size)
  clear c0 c1 c2 c3 c4 c5 c6 c7 c8 c9 c10
  obtain ⟨c0, c1, c2, c3, c4, c5, c6, c7, c8, c9, c10⟩ := F2.cells
  replace F2 : Hid (FB w2 w.heap.size h (.slice xb xl xc)) := F2
  clear hb hC2 F1 B1
  go_wp2_with fail
  go_at_call 27
  refine (hC3.out _ B2.out).mono ?_
  rintro e w3 ⟨yb, yl, yc, rfl, h3⟩
  have F3 := F2.out.below h3.out.2.2
  have B3 : Hid (Below w.heap.size w w3) := B2.out.trans (h3.out.2.2.mono B2.out.size)
  clear c0 c1 c2 c3 c4 c5 c6 c7 c8 c9 c10
  obtain ⟨c0, c1, c2, c3, c4, c5, c6, c7, c8, c9, c10⟩ := F3.cells
  have l3 : w.heap.size < w3.heap.size := F3.lt
  replace F3 : Hid (FB w3 w.heap.size h (.slice xb xl xc)) := F3
  clear hC3 F2 B2
  go_wp2_with fail
  go_at_call 28
  refine (hC4.out _ _ HS.out).mono ?_
  rintro e w4 ⟨rfl, hb⟩
  have sz4 : w3.heap.size + 1 ≤ w4.heap.size := by have := hb.size; rw [size_al] at this; exact this
  have hb3 : Below w3.heap.size w3 w4 := (bel1 w3 _).trans (hb.mono (by simp))
  have G4 : FB w4 w3.heap.size { h with fl := bits .andNot .i64 h.fl 4 } (.slice yb yl yc) := (hb.block _ (by simp)).trans (by rw [heap_al, if_pos rfl]; rfl)
  have S4 : Hid (Sp w ((w4.setCell ⟨w3.heap.size, 3, none⟩ (.string (t.extract 0 a))).alloc (.cells (fv (f0F h t a) (.slice yb yl yc)) 24)) h (xb, xl, xc) (yb, yl, yc) ps (.slice (some ⟨w4.heap.size, 0, none⟩) 1 1) (cutL h (yb, yl, yc) t a n 0)) := by
    have hK : Below w3.heap.size w4 (w4.setCell ⟨w3.heap.size, 3, none⟩ (.string (t.extract 0 a))) := (Below.refl _ w4).setCell (p := ⟨w3.heap.size, 3, none⟩) (Nat.le_refl _) _
    have hB : Below w3.heap.size w3 (w4.setCell ⟨w3.heap.size, 3, none⟩ (.string (t.extract 0 a))) := hb3.trans hK
    have := Sp.first (w := w) (x := (xb, xl, xc)) (y := (yb, yl, yc)) (f0F h t a) (F3.out.below hB) (R.below h3.out.1 hB) h3.out.2.1 (B3.out.trans (hB.mono B3.out.size))
    have e : (w4.setCell ⟨w3.heap.size, 3, none⟩ (.string (t.extract 0 a))).heap.size = w4.heap.size := by simp
    rw [e] at this
    exact this
  clear c0 c1 c2 c3 c4 c5 c6 c7 c8 c9 c10
  obtain ⟨c0, c1, c2, c3, c4, c5, c6, c7, c8, c9, c10⟩ := G4.cells
  have c11 := G4.frozen 3
  have l4 : w3.heap.size < w4.heap.size := by omega
  clear hb hb3 G4 sz4 h3 F3 B3
  unfold fv f0F at S4
  obtain ⟨W5, hW5⟩ : ∃ W5, W5 = (w4.setCell ⟨w3.heap.size, 3, none⟩ (.string (t.extract 0 a))).alloc (.cells #[.int .i64 h.ty, .int .i64 (bits .andNot .i64 h.fl 4), .int .i64 h.st, .string (t.extract 0 a), .int .i64 h.pad, .int .i64 h.dep, .bool h.excl, .int .i64 h.wt, .int .i64 h.code, .int .i64 h.last, .slice yb yl yc] 24) := ⟨_, rfl⟩
  rw [← hW5] at S4
  have HW5 : Hid _ := hW5
  clear hW5
  go_wp2_with fail
  go_loopw [9, 11] (fun av fs wr => ∃ (k A : Nat) (base : Option Addr) (cap : Nat), k ≤ 9 ∧ av = .int .i64 (A : Int) ∧ fs = .slice base (k + 1) cap ∧ Hid (A = a + k * n ∧ (k = 0 ∨ a + (k - 1) * n < t.size)) ∧ Hid (Sp w wr h (xb, xl, xc) (yb, yl, yc) ps (.slice base (k + 1) cap) (cutL h (yb, yl, yc) t a n k))) (fun av _ _ => t.size + 65536 - (intOf av).toNat)
  case atStart =>
    refine ⟨0, a, _, _, by omega, rfl, rfl, ⟨by omega, .inl rfl⟩, ?_⟩
    rw [← HW5.out]
    exact S4.out
  case round =>
    obtain ⟨k, A, base, cap, hk9, rfl, rfl, hAk, hS⟩ := hrel
    by_cases hlt : A < t.size
    · obtain ⟨e, he⟩ : ∃ e, e = min (A + n) t.size := ⟨_, rfl⟩
      have q1 : min ((A : Int) + (n : Int)) (t.size : Int) = (e : Int) := by omega
      have q2 : (A : Int) ≤ (e : Int) := by omega
      have q3 : (e : Int) ≤ (t.size : Int) := by omega
      have q4 : (A : Int) < (t.size : Int) := by omega
      have HE : Hid (e = min (A + n) t.size) := he
      have hse : Hid ((t.extract A e).size ≤ 131072) := by show _ ≤ _; rw [ByteArray.size_extract]; omega
      clear he
      obtain ⟨c0, c1, c2, c3, c4, c5, c6, c7, c8, c9, c10⟩ := hS.out.b1.cells
      have hM : Hid (∀ w6, Below wr.heap.size wr w6 → ∃ base' cap' w7, (Builtin.append_ #[37, 37] 37 #[.slice base (k + 1) cap, .slice (some ⟨w6.heap.size, 0, none⟩) 1 1]).run Try.prog (w6.alloc (.cells #[.int .i64 9, .int .i64 0, .int .i64 h.st, .string (t.extract A e), .int .i64 0, .int .i64 0, .bool false, .int .i64 0, .int .i64 0, .int .i64 0, .slice none 0 0] 24)) = .ok (.slice base' (k + 1 + 1) cap') w7 ∧
          Hid (Sp w w7 h (xb, xl, xc) (yb, yl, yc) ps (.slice base' (k + 1 + 1) cap') (cutL h (yb, yl, yc) t a n (k + 1)))) := fun w6 hb => by
        obtain ⟨base', cap', w7, m1, m2⟩ := (hS.out.below hb).more (by rw [cutL_length]; omega) h.st (t.extract A e)
        rw [cutL_length] at m1 m2
        refine ⟨base', cap', w7, m1, ?_⟩
        rw [cutL_succ]
        unfold pieceF
        rw [← hAk.out.1, ← HE.out]
        exact m2
      have hcl : Hid (∀ w5, Below wr.heap.size wr w5 → Calls Try.prog 28 #[.string (t.extract A e)] w5 fun e' w6 => e' = .returned (.string (t.extract A e)) ∧ w6.cell? ⟨w.heap.size, 2, none⟩ = some (.int .i64 h.st) ∧ ∃ base' cap' w7, Hid ((Builtin.append_ #[37, 37] 37 #[.slice base (k + 1) cap, .slice (some ⟨w6.heap.size, 0, none⟩) 1 1]).run Try.prog (w6.alloc (.cells #[.int .i64 9, .int .i64 0, .int .i64 h.st, .string (t.extract A e), .int .i64 0, .int .i64 0, .bool false, .int .i64 0, .int .i64 0, .int .i64 0, .slice none 0 0] 24)) = .ok (.slice base' (k + 1 + 1) cap') w7) ∧
          Hid (Sp w w7 h (xb, xl, xc) (yb, yl, yc) ps (.slice base' (k + 1 + 1) cap') (cutL h (yb, yl, yc) t a n (k + 1)))) := fun w5 hb => by
        refine (hC4.out _ w5 hse.out).mono ?_
        rintro e' w6 ⟨rfl, hb6⟩
        have hb' := hb.trans (hb6.mono hb.size)
        obtain ⟨base', cap', w7, m1, m2⟩ := hM.out w6 hb'
        exact ⟨rfl, (hS.out.b1.below hb').cell 2, base', cap', w7, m1, m2⟩
      have HNX : Hid (∀ (base' : Option Addr) (cap' : Nat) (w7 : World), Sp w w7 h (xb, xl, xc) (yb, yl, yc) ps (.slice base' (k + 1 + 1) cap') (cutL h (yb, yl, yc) t a n (k + 1)) → ∃ (k' A' : Nat) (base : Option Addr) (cap : Nat), k' ≤ 9 ∧ Value.int .i64 ((A : Int) + (n : Int)) = .int .i64 (A' : Int) ∧ Value.slice base' (k + 1 + 1) cap' = .slice base (k' + 1) cap ∧ Hid (A' = a + k' * n ∧ (k' = 0 ∨ a + (k' - 1) * n < t.size)) ∧ Hid (Sp w w7 h (xb, xl, xc) (yb, yl, yc) ps (.slice base (k' + 1) cap) (cutL h (yb, yl, yc) t a n k'))) := fun base' cap' w7 hS7 => by
        have hA1 := hAk.out.1
        have hA2 := HA.out
        have h10 : k * n ≤ 131072 := by omega
        have h11 : k ≤ 8 := by
          apply Classical.byContradiction
          intro h9
          have := Nat.mul_le_mul (show 9 ≤ k by omega) hA2.2.2.1
          omega
        refine ⟨k + 1, A + n, base', cap', by omega, by simp, rfl, ⟨by rw [Nat.succ_mul]; omega, .inr ?_⟩, hS7⟩
        simp only [Nat.add_sub_cancel]
        omega
      clear hM hAk hS HE
      go_upto_region 16 with fail
      go_region_law (first | (refine step_value 28 _ _ rfl ?_; go_simp; go_wp2_with (go_at_call 28; refine (hcl.out _ (by (repeat (first | exact Below.refl _ _ | refine Below.drew ?_ | refine below_drewN ?_ _ | refine Below.alloc ?_ (by first | exact Nat.le_refl _ | (simp only [size_al, size_dr]; omega)) _)))).mono ?_; rintro e' w6 ⟨rfl, d2, base', cap', w7, hrun, S7⟩)) | (refine step_append_run rfl (.tmp 62) (.tmp 68) 37 37 rfl hrun.out (by simp [Act.eval]) (by simp [Act.eval]) ?_))
      all_goals
        go_wp2_with fail
        go_roundw
        case rel => exact HNX.out base' cap' w7 S7.out
        case measure => simp [intOf]; omega
    · have q4 : ¬ ((A : Int) < (t.size : Int)) := by omega
      have hN : Hid (Needs a n t.size k) := ⟨hAk.out.2, by have := hAk.out.1; omega⟩
      obtain ⟨g, cap', e1, m1, m2, m3, m4, m5, m6, m7⟩ := hS.out.rf.setc okF k 1 (by rw [cutL_length]; omega) (by decide)
      injection e1 with e1 e2 e3
      subst e1
      subst e3
      clear e2
      rw [cutL_length] at m1
      obtain ⟨X, hX⟩ : ∃ X, (cutL h (yb, yl, yc) t a n k)[k]'(by rw [cutL_length]; omega) = X := ⟨_, rfl⟩
      have d1 : wr.cell? ⟨g, k * 11 + 1, none⟩ = some (.int .i64 X.1.fl) := m5 1 _ (by rw [hX]; rfl)
      have d2 := m6 (k * 11 + 1)
      have hfin : Hid (Sp w (wr.setCell ⟨g, k * 11 + 1, none⟩ (.int .i64 (bits .or .i64 X.1.fl 4))) h (xb, xl, xc) (yb, yl, yc) ps (.slice (some ⟨g, 0, none⟩) (k + 1) cap) (splL h (yb, yl, yc) t a n k)) := by
        have hr := m7 (.int .i64 (bits .or .i64 X.1.fl 4)) (endF X) (by rw [hX]; rfl)
        have hne := hS.out.ff g m4
        refine ⟨(setCell_other _ _ _ _ _ (by omega)).trans hS.out.b1, R.stays hS.out.rp fun i hi _ => setCell_other _ _ _ _ _ fun e => ?_, hS.out.fp, ?_, hS.out.ff, hS.out.bel.trans ((Below.refl _ wr).setCell (p := ⟨g, k * 11 + 1, none⟩) (Nat.le_of_lt hne) _)⟩
        · obtain ⟨c, hc⟩ := hS.out.rf.ty g m4
          exact own_ne hS.out.rp hc (by decide) i hi e
        · unfold splL
          rw [show (cutL h (yb, yl, yc) t a n k).getD k (f0F h t a, (yb, yl, yc)) = X by rw [List.getD_eq_getElem?_getD, List.getElem?_eq_getElem (by rw [cutL_length]; omega), hX]; rfl]
          exact hr
      have k1 : (0 : Int) ≤ (k : Int) := by omega
      clear m5 m6 m7 hX hAk m1 m2 m4
      go_wp2_with fail
      go_ret2
      first | exact ⟨_, rfl, yb, yl, yc, k, hN.out, hfin.out⟩ | exact ⟨_, rfl, k, hN.out, yb, yl, yc, hfin.out⟩
end Go.Proofs.Ytdgdjanchpfleaa
