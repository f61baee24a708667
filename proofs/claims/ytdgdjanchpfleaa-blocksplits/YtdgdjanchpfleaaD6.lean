/- BlockSplits, walked. -/
import Derived.Test.YtdgdjanchpfleaaD4
import Derived.Deep.CutRange
import Derived.BigQuiet
import Derived.Deep.RegionHeld3
namespace Go.Proofs.Ytdgdjanchpfleaa
open Go.RowKit
set_option linter.unusedVariables false
set_option linter.unusedSimpArgs false

/-- the frame with number i of a row of frames, cell by cell -/
theorem R.fcells {w : World} {g n c : Nat} {L : List (Fr × SV)} (h : R EF w (.slice (some ⟨g, 0, none⟩) n c) L) (i : Nat) {X : Fr} {u : SV} (hX : L[i]? = some (X, u)) :
    w.cell? ⟨g, i * 11, none⟩ = some (.int .i64 X.ty) ∧ w.cell? ⟨g, i * 11 + 1, none⟩ = some (.int .i64 X.fl) ∧ w.cell? ⟨g, i * 11 + 2, none⟩ = some (.int .i64 X.st) ∧ w.cell? ⟨g, i * 11 + 3, none⟩ = some (.string X.data) ∧ w.cell? ⟨g, i * 11 + 4, none⟩ = some (.int .i64 X.pad) ∧ w.cell? ⟨g, i * 11 + 5, none⟩ = some (.int .i64 X.dep) ∧
    w.cell? ⟨g, i * 11 + 6, none⟩ = some (.bool X.excl) ∧ w.cell? ⟨g, i * 11 + 7, none⟩ = some (.int .i64 X.wt) ∧ w.cell? ⟨g, i * 11 + 8, none⟩ = some (.int .i64 X.code) ∧ w.cell? ⟨g, i * 11 + 9, none⟩ = some (.int .i64 X.last) ∧ w.cell? ⟨g, i * 11 + 10, none⟩ = some (sv u) ∧ (∀ o, w.frozen? ⟨g, o, none⟩ = false) ∧ g < w.heap.size := by
  have hi : i < L.length := (List.getElem?_eq_some_iff.1 hX).1
  obtain ⟨g', c', e1, q1, q2, q3, q4, d, q5, q6⟩ := h.setc okF i 0 hi (by decide)
  injection e1 with e1 e2 e3
  injection e1 with e1
  injection e1 with e1
  subst e1
  have hget : L[i] = (X, u) := by
    rw [List.getElem?_eq_getElem hi] at hX
    exact Option.some.inj hX
  rw [hget] at d
  exact ⟨d 0 _ rfl, d 1 _ rfl, d 2 _ rfl, d 3 _ rfl, d 4 _ rfl, d 5 _ rfl, d 6 _ rfl, d 7 _ rfl, d 8 _ rfl, d 9 _ rfl, d 10 _ rfl, q5, q3⟩

/-- the second and the document's answer -/
structure Bt (w wr : World) (gk ck gm cm k : Nat) (Lk Lm : List (Fr × SV)) (y2 y3 : SV) (ps : List (Int × Int)) : Prop where
  bel : Below w.heap.size w wr
  rk : R EF wr (.slice (some ⟨gk, 0, none⟩) (k + 1) ck) Lk
  rm : R EF wr (.slice (some ⟨gm, 0, none⟩) (k + 1) cm) Lm
  r2 : R EP wr (sv y2) ps
  r3 : R EP wr (sv y3) ps
theorem Bt.below {w wr w' : World} {gk ck gm cm k : Nat} {Lk Lm : List (Fr × SV)} {y2 y3 : SV} {ps : List (Int × Int)} (B : Bt w wr gk ck gm cm k Lk Lm y2 y3 ps) (hb : Below wr.heap.size wr w') : Bt w w' gk ck gm cm k Lk Lm y2 y3 ps :=
  ⟨B.bel.trans (hb.mono B.bel.size), B.rk.below hb, B.rm.below hb, B.r2.below hb, B.r3.below hb⟩
/-- the frame that the law lays behind the first answer -/
def lastF : Fr := ⟨-8, 0, 0, ⟨#[]⟩, 0, 0, false, 0, 0, 0⟩
theorem Bs.last {w wr : World} {gl cl gk ck gm cm k : Nat} {Ll Lk Lm : List (Fr × SV)} {u y2 y3 : SV} {qs ps : List (Int × Int)} (B : Bs w wr gl cl gk ck gm cm k Ll Lk Lm u y2 y3 qs ps) (hk : k ≤ 131072) :
    ∃ base cap w', (Builtin.append_ #[37, 37] 37 #[.slice (some ⟨gl, 0, none⟩) (k + 1) cl, .slice (some ⟨wr.heap.size, 0, none⟩) 1 1]).run Try.prog (wr.alloc (.cells (fv lastF (.slice none 0 0)) 24)) = .ok (.slice base (k + 1 + 1) cap) w' ∧ Bt w w' gk ck gm cm k Lk Lm y2 y3 ps := by
  have hb := bel1 wr (.cells (fv lastF (.slice none 0 0)) 24)
  have B1 := B.below hb
  have hin : In EF (wr.alloc (.cells (fv lastF (.slice none 0 0)) 24)) (.slice (some ⟨wr.heap.size, 0, none⟩) 1 1) [(lastF, (none, 0, 0))] := in_one _ _ _ (fv lastF (.slice none 0 0)) 24 (0, 0) (by rw [heap_al, if_pos rfl]) rfl
  have hll := B1.rl.lenl
  obtain ⟨base, cap, w', h1, h2, h3⟩ := app okF _ _ Ll B1.rl _ _ hin (by rw [hll]; simp [EF]; omega)
  rw [hll] at h1
  obtain ⟨c, hc⟩ := B1.lblk
  have st : ∀ i, i < (wr.alloc (.cells (fv lastF (.slice none 0 0)) 24)).heap.size → i ≠ gl → w'.heap[i]? = (wr.alloc (.cells (fv lastF (.slice none 0 0)) 24)).heap[i]? := fun i hi hn => h3.block i hi fun e => by
    simp [Value.ownBlock] at e
    exact hn e.symm
  refine ⟨base, cap, w', h1, B1.bel.trans (h3.belowB B1.bel.size fun i hi => ?_), B1.rk.stays fun i hi hlt => st i hlt ?_, B1.rm.stays fun i hi hlt => st i hlt ?_, B1.r2.stays fun i hi hlt => st i hlt (own_ne B1.r2 hc (by decide) i hi), B1.r3.stays fun i hi hlt => st i hlt (own_ne B1.r3 hc (by decide) i hi)⟩
  · simp [Value.ownBlock] at hi
    rw [← hi]
    exact B.fl
  · simp [Value.ownBlock] at hi
    rw [← hi]
    exact B.nk
  · simp [Value.ownBlock] at hi
    rw [← hi]
    exact B.nm

set_option maxHeartbeats 40000000 in
set_option maxRecDepth 100000 in
theorem blockSplits_any (h : Fr) (x : SV) (ps : List (Int × Int)) (t : ByteArray) (size : Int) (w : World) (hI : In EP w (sv x) ps) (hlen : ps.length * 16 ≤ 140737488355328) :
    Calls Try.prog 6 #[.agg (fv h (sv x)), .string t, .int .i64 size] w fun e w' => e = .returned (.bool true) ∧ Below w.heap.size w w' := by
  have hC2 : Hid (∀ W, Below w.heap.size w W → Calls Try.prog 11 #[.agg (fv h (sv x))] W fun e w' => ∃ yb yl yc, e = .returned (.agg (fv h (.slice yb yl yc))) ∧ Hid (R EP w' (.slice yb yl yc) ps ∧ Below W.heap.size W w' ∧ ∀ k, (Value.slice yb yl yc).ownBlock = some k → W.heap.size ≤ k)) := fun W hy => by
    refine (own_any h x ps W (hI.below hy) hlen).mono ?_
    rintro e w' ⟨⟨yb, yl, yc⟩, rfl, q1, q2, q3⟩
    exact ⟨yb, yl, yc, rfl, q1, q3, q2⟩
  have B0 : Hid (Below w.heap.size w (w.alloc (.cells (fv h (sv x)) 24)) ∧ FB (w.alloc (.cells (fv h (sv x)) 24)) w.heap.size h (sv x)) := ⟨bel1 w _, by unfold FB; rw [heap_al, if_pos rfl]⟩
  by_cases hbad : MS h ∧ 16384 ≤ size ∧ size ≤ 65536 ∧ t.size ≤ 131072
  · obtain ⟨hm, hs1, hs2, hl⟩ := hbad
    obtain ⟨n, rfl⟩ := Int.eq_ofNat_of_zero_le (show 0 ≤ size by omega)
    obtain ⟨a, k, hk, hS, hR⟩ := both_split h hm ps t n (by omega) (by omega) hl hlen
    replace hS : Hid (∀ (x : SV) w, In EP w (sv x) ps → _) := hS
    replace hR : Hid (∀ (x : SV) w, _) := hR
    obtain ⟨xb, xl, xc⟩ := x
    simp only [sv] at hC2 B0 hS hR ⊢
    unfold fv at hC2 B0 hS hR ⊢
    clear hI hm
    go_enter Try.func6, Try.ntmps6
    go_wp2_with fail
    go_at_call 11
    refine (hC2.out _ B0.out.1).mono ?_
    rintro e w1 ⟨pb, pl, pc, rfl, h1⟩
    have B1 : Hid (Below w.heap.size w w1 ∧ FB w1 w.heap.size h (.slice xb xl xc)) := ⟨B0.out.1.trans (h1.out.2.1.mono B0.out.1.size), FB.below B0.out.2 h1.out.2.1⟩
    go_wp2_with fail
    go_at_call 15
    refine (hS.out (pb, pl, pc) _ (R.isIn h1.out.1)).mono ?_
    rintro e w2 ⟨gl, cl, ⟨yb, yl, yc⟩, rfl, rl, r1, fl, f1, hb⟩
    have B2 : Hid (Below w.heap.size w w2 ∧ FB w2 w.heap.size h (.slice xb xl xc)) := ⟨B1.out.1.trans (hb.mono B1.out.1.size), FB.below B1.out.2 hb⟩
    have Q2 : Hid (R EF w2 (.slice (some ⟨gl, 0, none⟩) (k + 1) cl) (splL h (yb, yl, yc) t a n k) ∧ R EP w2 (sv (yb, yl, yc)) ps ∧ w.heap.size ≤ gl ∧ ∀ k, (sv (yb, yl, yc)).ownBlock = some k → w.heap.size ≤ k) := ⟨rl, r1, Nat.le_trans B1.out.1.size fl, fun k hk => Nat.le_trans B1.out.1.size (f1 k hk)⟩
    obtain ⟨c0, c1, c2, c3, c4, c5, c6, c7, c8, c9, c10⟩ := FB.cells B2.out.2
    clear hb rl r1 fl f1 h1 B0 B1
    go_wp2_with fail
    go_at_call 11
    refine (hC2.out _ B2.out.1).mono ?_
    rintro e w3 ⟨pb, pl, pc, rfl, h1⟩
    have B3 : Hid (Below w.heap.size w w3 ∧ FB w3 w.heap.size h (.slice xb xl xc)) := ⟨B2.out.1.trans (h1.out.2.1.mono B2.out.1.size), FB.below B2.out.2 h1.out.2.1⟩
    clear c0 c1 c2 c3 c4 c5 c6 c7 c8 c9 c10
    go_wp2_with fail
    go_at_call 15
    refine (hS.out (pb, pl, pc) _ (R.isIn h1.out.1)).mono ?_
    rintro e w4 ⟨gk, ck, ⟨zb, zl, zc⟩, rfl, rk, r2, fk, f2, hb⟩
    have B4 : Hid (Below w.heap.size w w4 ∧ FB w4 w.heap.size h (.slice xb xl xc)) := ⟨B3.out.1.trans (hb.mono B3.out.1.size), FB.below B3.out.2 hb⟩
    have hb24 : Below w2.heap.size w2 w4 := h1.out.2.1.trans (hb.mono h1.out.2.1.size)
    have Q4 : Hid (R EF w4 (.slice (some ⟨gl, 0, none⟩) (k + 1) cl) (splL h (yb, yl, yc) t a n k) ∧ R EP w4 (sv (yb, yl, yc)) ps ∧ R EF w4 (.slice (some ⟨gk, 0, none⟩) (k + 1) ck) (splL h (zb, zl, zc) t a n k) ∧ R EP w4 (sv (zb, zl, zc)) ps ∧ w2.heap.size ≤ gk ∧ gl < w2.heap.size ∧ (∀ k, (sv (yb, yl, yc)).ownBlock = some k → k < w2.heap.size) ∧ (∀ k, (sv (zb, zl, zc)).ownBlock = some k → w2.heap.size ≤ k) ∧ w2.heap.size ≤ w4.heap.size) := ⟨R.below Q2.out.1 hb24, R.below Q2.out.2.1 hb24, rk, r2, Nat.le_trans h1.out.2.1.size fk, R.lt Q2.out.1 gl rfl, R.lt Q2.out.2.1, fun k hk => Nat.le_trans h1.out.2.1.size (f2 k hk), hb24.size⟩
    obtain ⟨c0, c1, c2, c3, c4, c5, c6, c7, c8, c9, c10⟩ := FB.cells B4.out.2
    clear hb rk r2 fk f2 h1 B2 B3 hb24
    go_wp2_with fail
    go_at_call 11
    refine (hC2.out _ B4.out.1).mono ?_
    rintro e w5 ⟨pb, pl, pc, rfl, h1⟩
    have B5 : Hid (Below w.heap.size w w5) := B4.out.1.trans (h1.out.2.1.mono B4.out.1.size)
    clear c0 c1 c2 c3 c4 c5 c6 c7 c8 c9 c10
    go_wp2_with fail
    go_at_call 17
    refine (hR.out (pb, pl, pc) w5).mono ?_
    rintro e w6 ⟨gm, cm, rfl, rm, fm, hb⟩
    have B6 : Hid (Bs w w6 gl cl gk ck gm cm k (splL h (yb, yl, yc) t a n k) (splL h (zb, zl, zc) t a n k) (splL h (pb, pl, pc) t a n k) (yb, yl, yc) (zb, zl, zc) (pb, pl, pc) ps ps) := by
      have hb46 : Below w4.heap.size w4 w6 := h1.out.2.1.trans (hb.mono h1.out.2.1.size)
      obtain ⟨q1, q2, q3, q4, q5, q6, q7, q8, q9⟩ := Q4.out
      have s5 := h1.out.2.1.size
      exact ⟨B5.out.trans (hb.mono B5.out.size), q1.below hb46, q3.below hb46, rm, q2.below hb46, q4.below hb46, R.below h1.out.1 hb, Q2.out.2.2.1, by omega, by omega, Q2.out.2.2.2, fun i hi e => by have := q7 i hi; have := q8 i e; omega, fun i hi e => by have := q7 i hi; have := h1.out.2.2 i e; omega⟩
    clear hb rm fm h1 B4 B5 Q2 Q4 hC2 hS hR
    go_wp2_with fail
    go_at_call 10
    refine (first_any w6).mono ?_
    rintro e w7 ⟨rfl, hb⟩
    have B7 : Hid _ := B6.out.below hb
    clear hb B6
    go_wp2_with fail
    go_loopw [13] (fun iv wr => ∃ i : Nat, iv = .int .i64 (i : Int) ∧ i ≤ k + 1 ∧ Hid (∃ Ll, Bs w wr gl cl gk ck gm cm k Ll (splL h (zb, zl, zc) t a n k) (splL h (pb, pl, pc) t a n k) (if i = 0 then (yb, yl, yc) else (none, 0, 0)) (zb, zl, zc) (pb, pl, pc) (if i = 0 then ps else []) ps ∧ ∀ j, i ≤ j → j ≤ k → Ll[j]? = some (spF h t a n k j, if j = 0 then (yb, yl, yc) else (none, 0, 0)))) (fun iv _ => k + 1 - (intOf iv).toNat)
    case atStart => exact ⟨0, rfl, by omega, _, B7.out, fun j _ hj => splL_get h (yb, yl, yc) t a n k j hj⟩
    case round =>
      obtain ⟨i, rfl, hik, hinv⟩ := hrel
      clear B7
      by_cases hlt : i < k + 1
      · obtain ⟨Ll, B, hL⟩ := hinv.out
        obtain ⟨⟨ub, ul, uc⟩, hu⟩ : ∃ u : SV, (if i = 0 then (yb, yl, yc) else (none, 0, 0) : SV) = u := ⟨_, rfl⟩
        obtain ⟨⟨vb, vl, vc⟩, hv⟩ : ∃ u : SV, (if i = 0 then (pb, pl, pc) else (none, 0, 0) : SV) = u := ⟨_, rfl⟩
        obtain ⟨qs, hqs⟩ : ∃ qs : List (Int × Int), (if i = 0 then ps else []) = qs := ⟨_, rfl⟩
        have hXl := hL i (Nat.le_refl _) (by omega)
        have hXm := splL_get h (pb, pl, pc) t a n k i (by omega)
        have hIm : ∀ W, Below wr.heap.size wr W → In EP W (.slice vb vl vc) qs := fun W hb => by
          rw [← hqs]
          by_cases h0 : i = 0
          · rw [if_pos h0] at hv ⊢
            injection hv with hv1 hv2
            injection hv2 with hv2 hv3
            subst hv1 hv2 hv3
            exact R.isIn (B.r3.below hb)
          · rw [if_neg h0] at hv ⊢
            injection hv with hv1 hv2
            injection hv2 with hv2 hv3
            subst hv1 hv2 hv3
            exact .inl ⟨rfl, rfl⟩
        rw [hu] at hXl B
        rw [hv] at hXm
        rw [hqs] at B
        obtain ⟨X, hX⟩ : ∃ X, spF h t a n k i = X := ⟨_, rfl⟩
        rw [hX] at hXl hXm
        obtain ⟨l0, l1, l2, l3, l4, l5, l6, l7, l8, l9, l10, l11, l12⟩ := B.rl.fcells i hXl
        obtain ⟨m0, m1, m2, m3, m4, m5, m6, m7, m8, m9, m10, m11, m12⟩ := B.rm.fcells i hXm
        obtain ⟨ul', uq⟩ : ul = qs.length ∧ qs.length ≤ uc ∧ uc ≤ 9223372036854775807 := by
          obtain ⟨b', c', e, q1, q2⟩ := B.ru.slice
          simp only [sv] at e
          injection e with e1 e2 e3
          subst e3
          exact ⟨e2, q1, q2⟩
        subst ul'
        obtain ⟨uq1, uq2⟩ := uq
        have hsame : Hid (∀ W, Below wr.heap.size wr W → Calls Try.prog 13 #[.agg (fv X (.slice ub qs.length uc)), .agg (fv X (.slice vb vl vc))] W fun e w' => e = .returned (.bool true) ∧ Below wr.heap.size wr w') := fun W hb => by
          refine (same_eq X W (ub, qs.length, uc) (vb, vl, vc) qs (R.isIn (B.ru.below hb)) (hIm W hb)).mono ?_
          rintro e w' ⟨rfl, hb'⟩
          exact ⟨rfl, hb.trans (hb'.mono hb.size)⟩
        have HB : Hid (Bs w wr gl cl gk ck gm cm k Ll (splL h (zb, zl, zc) t a n k) (splL h (pb, pl, pc) t a n k) (ub, qs.length, uc) (zb, zl, zc) (pb, pl, pc) qs ps) := B
        have HL : Hid (∀ j, i + 1 ≤ j → j ≤ k → Ll[j]? = some (spF h t a n k j, if j = 0 then (yb, yl, yc) else (none, 0, 0))) := fun j h1 h2 => hL j (by omega) h2
        have HXl : Hid (Ll[i]? = some (X, (ub, qs.length, uc))) := hXl
        have hcl : k + 1 ≤ cl ∧ cl ≤ 9223372036854775807 := by have := R.slice B.rl; obtain ⟨b', c', e, q1, q2⟩ := this; injection e with e1 e2 e3; subst e3; omega
        have hcm : k + 1 ≤ cm ∧ cm ≤ 9223372036854775807 := by have := R.slice B.rm; obtain ⟨b', c', e, q1, q2⟩ := this; injection e with e1 e2 e3; subst e3; omega
        obtain ⟨hcl1, hcl2⟩ := hcl
        obtain ⟨hcm1, hcm2⟩ := hcm
        simp only [sv] at l10 m10
        unfold fv at hsame
        clear hXl hXm hIm B hL hX hu hv hqs hinv l11 m11
        have hheld : Hid (∀ W, Below wr.heap.size wr W → (W.cell? ⟨gl, i * 11, none⟩ = some (.int .i64 X.ty) ∧ W.cell? ⟨gl, i * 11 + 1, none⟩ = some (.int .i64 X.fl) ∧ W.cell? ⟨gl, i * 11 + 2, none⟩ = some (.int .i64 X.st) ∧ W.cell? ⟨gl, i * 11 + 3, none⟩ = some (.string X.data) ∧ W.cell? ⟨gl, i * 11 + 4, none⟩ = some (.int .i64 X.pad) ∧ W.cell? ⟨gl, i * 11 + 5, none⟩ = some (.int .i64 X.dep) ∧ W.cell? ⟨gl, i * 11 + 6, none⟩ = some (.bool X.excl) ∧ W.cell? ⟨gl, i * 11 + 7, none⟩ = some (.int .i64 X.wt) ∧ W.cell? ⟨gl, i * 11 + 8, none⟩ = some (.int .i64 X.code) ∧ W.cell? ⟨gl, i * 11 + 9, none⟩ = some (.int .i64 X.last) ∧ W.cell? ⟨gl, i * 11 + 10, none⟩ = some (.slice ub qs.length uc) ∧ W.cell? ⟨gm, i * 11, none⟩ = some (.int .i64 X.ty) ∧ W.cell? ⟨gm, i * 11 + 1, none⟩ = some (.int .i64 X.fl) ∧ W.cell? ⟨gm, i * 11 + 2, none⟩ = some (.int .i64 X.st) ∧ W.cell? ⟨gm, i * 11 + 3, none⟩ = some (.string X.data) ∧ W.cell? ⟨gm, i * 11 + 4, none⟩ = some (.int .i64 X.pad) ∧ W.cell? ⟨gm, i * 11 + 5, none⟩ = some (.int .i64 X.dep) ∧ W.cell? ⟨gm, i * 11 + 6, none⟩ = some (.bool X.excl) ∧ W.cell? ⟨gm, i * 11 + 7, none⟩ = some (.int .i64 X.wt) ∧ W.cell? ⟨gm, i * 11 + 8, none⟩ = some (.int .i64 X.code) ∧ W.cell? ⟨gm, i * 11 + 9, none⟩ = some (.int .i64 X.last) ∧ W.cell? ⟨gm, i * 11 + 10, none⟩ = some (.slice vb vl vc) ∧ Below wr.heap.size wr W)) := fun W hb => by
          have g1 : ∀ {o : Nat} {v : Value}, wr.cell? ⟨gl, o, none⟩ = some v → W.cell? ⟨gl, o, none⟩ = some v := fun h => (hb.cell l12).trans h
          have g2 : ∀ {o : Nat} {v : Value}, wr.cell? ⟨gm, o, none⟩ = some v → W.cell? ⟨gm, o, none⟩ = some v := fun h => (hb.cell m12).trans h
          exact ⟨g1 l0, g1 l1, g1 l2, g1 l3, g1 l4, g1 l5, g1 l6, g1 l7, g1 l8, g1 l9, g1 l10, g2 m0, g2 m1, g2 m2, g2 m3, g2 m4, g2 m5, g2 m6, g2 m7, g2 m8, g2 m9, g2 m10, hb⟩
        have hget : Hid (∀ W, (W.cell? ⟨gl, i * 11, none⟩ = some (.int .i64 X.ty) ∧ W.cell? ⟨gl, i * 11 + 1, none⟩ = some (.int .i64 X.fl) ∧ W.cell? ⟨gl, i * 11 + 2, none⟩ = some (.int .i64 X.st) ∧ W.cell? ⟨gl, i * 11 + 3, none⟩ = some (.string X.data) ∧ W.cell? ⟨gl, i * 11 + 4, none⟩ = some (.int .i64 X.pad) ∧ W.cell? ⟨gl, i * 11 + 5, none⟩ = some (.int .i64 X.dep) ∧ W.cell? ⟨gl, i * 11 + 6, none⟩ = some (.bool X.excl) ∧ W.cell? ⟨gl, i * 11 + 7, none⟩ = some (.int .i64 X.wt) ∧ W.cell? ⟨gl, i * 11 + 8, none⟩ = some (.int .i64 X.code) ∧ W.cell? ⟨gl, i * 11 + 9, none⟩ = some (.int .i64 X.last) ∧ W.cell? ⟨gl, i * 11 + 10, none⟩ = some (.slice ub qs.length uc) ∧ W.cell? ⟨gm, i * 11, none⟩ = some (.int .i64 X.ty) ∧ W.cell? ⟨gm, i * 11 + 1, none⟩ = some (.int .i64 X.fl) ∧ W.cell? ⟨gm, i * 11 + 2, none⟩ = some (.int .i64 X.st) ∧ W.cell? ⟨gm, i * 11 + 3, none⟩ = some (.string X.data) ∧ W.cell? ⟨gm, i * 11 + 4, none⟩ = some (.int .i64 X.pad) ∧ W.cell? ⟨gm, i * 11 + 5, none⟩ = some (.int .i64 X.dep) ∧ W.cell? ⟨gm, i * 11 + 6, none⟩ = some (.bool X.excl) ∧ W.cell? ⟨gm, i * 11 + 7, none⟩ = some (.int .i64 X.wt) ∧ W.cell? ⟨gm, i * 11 + 8, none⟩ = some (.int .i64 X.code) ∧ W.cell? ⟨gm, i * 11 + 9, none⟩ = some (.int .i64 X.last) ∧ W.cell? ⟨gm, i * 11 + 10, none⟩ = some (.slice vb vl vc) ∧ Below wr.heap.size wr W) → Below wr.heap.size wr W) := fun W h => by
          obtain ⟨-, -, -, -, -, -, -, -, -, -, -, -, -, -, -, -, -, -, -, -, -, -, h⟩ := h
          exact h
        go_upto_region 9 with fail
        go_cut [81] from 66 to 103 (fun c wx => c = .bool false ∧ Hid (Below wr.heap.size wr wx))
        case first =>
          clear HB HL HXl
          go_region_held3 (fun W => (W.cell? ⟨gl, i * 11, none⟩ = some (.int .i64 X.ty) ∧ W.cell? ⟨gl, i * 11 + 1, none⟩ = some (.int .i64 X.fl) ∧ W.cell? ⟨gl, i * 11 + 2, none⟩ = some (.int .i64 X.st) ∧ W.cell? ⟨gl, i * 11 + 3, none⟩ = some (.string X.data) ∧ W.cell? ⟨gl, i * 11 + 4, none⟩ = some (.int .i64 X.pad) ∧ W.cell? ⟨gl, i * 11 + 5, none⟩ = some (.int .i64 X.dep) ∧ W.cell? ⟨gl, i * 11 + 6, none⟩ = some (.bool X.excl) ∧ W.cell? ⟨gl, i * 11 + 7, none⟩ = some (.int .i64 X.wt) ∧ W.cell? ⟨gl, i * 11 + 8, none⟩ = some (.int .i64 X.code) ∧ W.cell? ⟨gl, i * 11 + 9, none⟩ = some (.int .i64 X.last) ∧ W.cell? ⟨gl, i * 11 + 10, none⟩ = some (.slice ub qs.length uc) ∧ W.cell? ⟨gm, i * 11, none⟩ = some (.int .i64 X.ty) ∧ W.cell? ⟨gm, i * 11 + 1, none⟩ = some (.int .i64 X.fl) ∧ W.cell? ⟨gm, i * 11 + 2, none⟩ = some (.int .i64 X.st) ∧ W.cell? ⟨gm, i * 11 + 3, none⟩ = some (.string X.data) ∧ W.cell? ⟨gm, i * 11 + 4, none⟩ = some (.int .i64 X.pad) ∧ W.cell? ⟨gm, i * 11 + 5, none⟩ = some (.int .i64 X.dep) ∧ W.cell? ⟨gm, i * 11 + 6, none⟩ = some (.bool X.excl) ∧ W.cell? ⟨gm, i * 11 + 7, none⟩ = some (.int .i64 X.wt) ∧ W.cell? ⟨gm, i * 11 + 8, none⟩ = some (.int .i64 X.code) ∧ W.cell? ⟨gm, i * 11 + 9, none⟩ = some (.int .i64 X.last) ∧ W.cell? ⟨gm, i * 11 + 10, none⟩ = some (.slice vb vl vc) ∧ Below wr.heap.size wr W)) (first | exact hheld.out _ (Below.refl _ _).drew | exact hheld.out _ (by assumption)) (first | (go_at_call 13; refine (hsame.out _ (hget.out _ (by assumption))).mono ?_; rintro e w8 ⟨rfl, hb8⟩))
          all_goals
            go_wp2_with fail
            go_meet
            case rel => exact ⟨rfl, by first | exact hb8 | exact hb8.drew⟩
        obtain ⟨rfl, hb⟩ := hcut
        have HC : Hid _ := HB.out.below hb.out
        clear HB hb hheld hget hsame l0 l1 l2 l3 l4 l5 l6 l7 l8 l9 l10 l12 m0 m1 m2 m3 m4 m5 m6 m7 m8 m9 m10 m12
        go_wp2_with fail
        go_loopw [14] (fun jv wj => ∃ j : Nat, jv = .int .i64 (j : Int) ∧ j ≤ qs.length ∧ Hid (∃ qs' : List (Int × Int), qs'.length = qs.length ∧ Bs w wj gl cl gk ck gm cm k Ll (splL h (zb, zl, zc) t a n k) (splL h (pb, pl, pc) t a n k) (ub, qs.length, uc) (zb, zl, zc) (pb, pl, pc) qs' ps)) (fun jv _ => qs.length - (intOf jv).toNat)
        case atStart => exact ⟨0, rfl, by omega, qs, rfl, HC.out⟩
        case round =>
          clear HC
          obtain ⟨j, rfl, hjq, hj⟩ := hrel
          obtain ⟨qs', hql, B⟩ := hj.out
          obtain ⟨-, -, -, -, -, -, -, -, -, -, l10, l11, l12⟩ := B.rl.fcells i HXl.out
          simp only [sv] at l10
          by_cases hjl : j < qs.length
          · obtain ⟨g, cap, e, e1, e2, e3, p0, p1, p2, p3, B2⟩ := B.par j (by omega)
            simp only [sv] at e
            injection e with e4 e5 e6
            subst e4
            subst e6
            have hjl' : (j : Int) < (qs.length : Int) := by omega
            have HB2 : Hid _ := B2
            have HQ : Hid (qs'.length = qs.length) := hql
            obtain ⟨pa, hpa⟩ : ∃ pa, (qs'[j]'(by omega)).1 = pa := ⟨_, rfl⟩
            obtain ⟨pq, hpq⟩ : ∃ pa, (qs'[j]'(by omega)).2 = pa := ⟨_, rfl⟩
            rw [hpa] at p0
            rw [hpq] at p1
            clear hpa hpq B B2 hj hql e1 e2 e5 l11
            go_wp2_with fail
            go_roundw
            case rel => exact ⟨j + 1, by simp, by omega, _, by rw [List.length_set]; exact HQ.out, HB2.out⟩
            case measure => simp [intOf]; omega
          · have hjl' : ¬ (j : Int) < (qs.length : Int) := by omega
            obtain ⟨n0, n1, n2, n3, n4, n5, n6, n7, n8, n9, n10⟩ : wr.frozen? ⟨gl, i * 11, none⟩ = false ∧ wr.frozen? ⟨gl, i * 11 + 1, none⟩ = false ∧ wr.frozen? ⟨gl, i * 11 + 2, none⟩ = false ∧ wr.frozen? ⟨gl, i * 11 + 3, none⟩ = false ∧ wr.frozen? ⟨gl, i * 11 + 4, none⟩ = false ∧ wr.frozen? ⟨gl, i * 11 + 5, none⟩ = false ∧ wr.frozen? ⟨gl, i * 11 + 6, none⟩ = false ∧ wr.frozen? ⟨gl, i * 11 + 7, none⟩ = false ∧ wr.frozen? ⟨gl, i * 11 + 8, none⟩ = false ∧ wr.frozen? ⟨gl, i * 11 + 9, none⟩ = false ∧ wr.frozen? ⟨gl, i * 11 + 10, none⟩ = false := ⟨l11 _, l11 _, l11 _, l11 _, l11 _, l11 _, l11 _, l11 _, l11 _, l11 _, l11 _⟩
            clear l10
            obtain ⟨l0, l1, l2, l3, l4, l5, l6, l7, l8, l9, l10, -, -⟩ := B.rl.fcells i HXl.out
            simp only [sv] at l10
            have HJ : Hid (Bs w _ gl cl gk ck gm cm k (Ll.set i (junkF, (none, 0, 0))) _ _ (none, 0, 0) _ _ [] ps) := B.junk i hlt
            simp only [sets, List.foldl_cons, List.foldl_nil] at HJ
            clear B hj hql l11 hjl hjq
            go_wp2_with fail
            go_roundw
            case rel =>
              refine ⟨i + 1, by simp, by omega, _, by rw [if_neg (by omega), if_neg (by omega)]; exact HJ.out, fun j h1 h2 => ?_⟩
              rw [List.getElem?_set_ne (by omega)]
              exact HL.out j h1 h2
            case measure => simp [intOf]; omega
      · have hlt' : ¬ (i : Int) < ((k + 1 : Nat) : Int) := by omega
        obtain ⟨Ll, B, hL⟩ := hinv.out
        obtain ⟨base, cap, w8, hrun, BT⟩ := B.last hk
        have hck : k + 1 ≤ ck ∧ ck ≤ 9223372036854775807 := by have := R.slice B.rk; obtain ⟨b', c', e, q1, q2⟩ := this; injection e with e1 e2 e3; subst e3; omega
        have hcm : k + 1 ≤ cm ∧ cm ≤ 9223372036854775807 := by have := R.slice B.rm; obtain ⟨b', c', e, q1, q2⟩ := this; injection e with e1 e2 e3; subst e3; omega
        obtain ⟨hck1, hck2⟩ := hck
        obtain ⟨hcm1, hcm2⟩ := hcm
        unfold fv lastF at hrun
        replace hrun : Hid _ := hrun
        have HBT : Hid (Bt w w8 gk ck gm cm k (splL h (zb, zl, zc) t a n k) (splL h (pb, pl, pc) t a n k) (zb, zl, zc) (pb, pl, pc) ps) := BT
        clear B hL hinv BT
        go_wp2_with (at_builtin; refine Lib.wpList_append_run _ rfl _ _ _ _ rfl _ _ rfl rfl _ _ hrun.out ?_)
        go_loopw [15] (fun iv wr => ∃ i : Nat, iv = .int .i64 (i : Int) ∧ i ≤ k + 1 ∧ Hid (Bt w wr gk ck gm cm k (splL h (zb, zl, zc) t a n k) (splL h (pb, pl, pc) t a n k) (zb, zl, zc) (pb, pl, pc) ps)) (fun iv _ => k + 1 - (intOf iv).toNat)
        case atStart => exact ⟨0, rfl, by omega, HBT.out⟩
        case round =>
          clear hrun HBT hlt' hlt hik
          obtain ⟨i, rfl, hik, HB⟩ := hrel
          by_cases hlt : i < k + 1
          · obtain ⟨⟨ub, ul, uc⟩, hu⟩ : ∃ u : SV, (if i = 0 then (zb, zl, zc) else (none, 0, 0) : SV) = u := ⟨_, rfl⟩
            obtain ⟨⟨vb, vl, vc⟩, hv⟩ : ∃ u : SV, (if i = 0 then (pb, pl, pc) else (none, 0, 0) : SV) = u := ⟨_, rfl⟩
            have B := HB.out
            have hXl := splL_get h (zb, zl, zc) t a n k i (by omega)
            have hXm := splL_get h (pb, pl, pc) t a n k i (by omega)
            have hIm : ∃ qs : List (Int × Int), ∀ W, Below wr.heap.size wr W → In EP W (.slice ub ul uc) qs ∧ In EP W (.slice vb vl vc) qs := by
              by_cases h0 : i = 0
              · rw [if_pos h0] at hv hu
                injection hv with hv1 hv2
                injection hv2 with hv2 hv3
                subst hv1 hv2 hv3
                injection hu with hu1 hu2
                injection hu2 with hu2 hu3
                subst hu1 hu2 hu3
                exact ⟨ps, fun W hb => ⟨R.isIn (B.r2.below hb), R.isIn (B.r3.below hb)⟩⟩
              · rw [if_neg h0] at hv hu
                injection hv with hv1 hv2
                injection hv2 with hv2 hv3
                subst hv1 hv2 hv3
                injection hu with hu1 hu2
                injection hu2 with hu2 hu3
                subst hu1 hu2 hu3
                exact ⟨[], fun W hb => ⟨.inl ⟨rfl, rfl⟩, .inl ⟨rfl, rfl⟩⟩⟩
            obtain ⟨qs, hIm⟩ := hIm
            rw [hu] at hXl
            rw [hv] at hXm
            obtain ⟨X, hX⟩ : ∃ X, spF h t a n k i = X := ⟨_, rfl⟩
            rw [hX] at hXl hXm
            obtain ⟨l0, l1, l2, l3, l4, l5, l6, l7, l8, l9, l10, l11, l12⟩ := B.rk.fcells i hXl
            obtain ⟨m0, m1, m2, m3, m4, m5, m6, m7, m8, m9, m10, m11, m12⟩ := B.rm.fcells i hXm
            have hsame : Hid (∀ W, Below wr.heap.size wr W → Calls Try.prog 13 #[.agg (fv X (.slice ub ul uc)), .agg (fv X (.slice vb vl vc))] W fun e w' => e = .returned (.bool true) ∧ Below wr.heap.size wr w') := fun W hb => by
              refine (same_eq X W (ub, ul, uc) (vb, vl, vc) qs (hIm W hb).1 (hIm W hb).2).mono ?_
              rintro e w' ⟨rfl, hb'⟩
              exact ⟨rfl, hb.trans (hb'.mono hb.size)⟩
            simp only [sv] at l10 m10
            unfold fv at hsame
            have hheld : Hid (∀ W, Below wr.heap.size wr W → (W.cell? ⟨gk, i * 11, none⟩ = some (.int .i64 X.ty) ∧ W.cell? ⟨gk, i * 11 + 1, none⟩ = some (.int .i64 X.fl) ∧ W.cell? ⟨gk, i * 11 + 2, none⟩ = some (.int .i64 X.st) ∧ W.cell? ⟨gk, i * 11 + 3, none⟩ = some (.string X.data) ∧ W.cell? ⟨gk, i * 11 + 4, none⟩ = some (.int .i64 X.pad) ∧ W.cell? ⟨gk, i * 11 + 5, none⟩ = some (.int .i64 X.dep) ∧ W.cell? ⟨gk, i * 11 + 6, none⟩ = some (.bool X.excl) ∧ W.cell? ⟨gk, i * 11 + 7, none⟩ = some (.int .i64 X.wt) ∧ W.cell? ⟨gk, i * 11 + 8, none⟩ = some (.int .i64 X.code) ∧ W.cell? ⟨gk, i * 11 + 9, none⟩ = some (.int .i64 X.last) ∧ W.cell? ⟨gk, i * 11 + 10, none⟩ = some (.slice ub ul uc) ∧ W.cell? ⟨gm, i * 11, none⟩ = some (.int .i64 X.ty) ∧ W.cell? ⟨gm, i * 11 + 1, none⟩ = some (.int .i64 X.fl) ∧ W.cell? ⟨gm, i * 11 + 2, none⟩ = some (.int .i64 X.st) ∧ W.cell? ⟨gm, i * 11 + 3, none⟩ = some (.string X.data) ∧ W.cell? ⟨gm, i * 11 + 4, none⟩ = some (.int .i64 X.pad) ∧ W.cell? ⟨gm, i * 11 + 5, none⟩ = some (.int .i64 X.dep) ∧ W.cell? ⟨gm, i * 11 + 6, none⟩ = some (.bool X.excl) ∧ W.cell? ⟨gm, i * 11 + 7, none⟩ = some (.int .i64 X.wt) ∧ W.cell? ⟨gm, i * 11 + 8, none⟩ = some (.int .i64 X.code) ∧ W.cell? ⟨gm, i * 11 + 9, none⟩ = some (.int .i64 X.last) ∧ W.cell? ⟨gm, i * 11 + 10, none⟩ = some (.slice vb vl vc) ∧ Below wr.heap.size wr W)) := fun W hb => by
              have g1 : ∀ {o : Nat} {v : Value}, wr.cell? ⟨gk, o, none⟩ = some v → W.cell? ⟨gk, o, none⟩ = some v := fun h => (hb.cell l12).trans h
              have g2 : ∀ {o : Nat} {v : Value}, wr.cell? ⟨gm, o, none⟩ = some v → W.cell? ⟨gm, o, none⟩ = some v := fun h => (hb.cell m12).trans h
              exact ⟨g1 l0, g1 l1, g1 l2, g1 l3, g1 l4, g1 l5, g1 l6, g1 l7, g1 l8, g1 l9, g1 l10, g2 m0, g2 m1, g2 m2, g2 m3, g2 m4, g2 m5, g2 m6, g2 m7, g2 m8, g2 m9, g2 m10, hb⟩
            have hget : Hid (∀ W, (W.cell? ⟨gk, i * 11, none⟩ = some (.int .i64 X.ty) ∧ W.cell? ⟨gk, i * 11 + 1, none⟩ = some (.int .i64 X.fl) ∧ W.cell? ⟨gk, i * 11 + 2, none⟩ = some (.int .i64 X.st) ∧ W.cell? ⟨gk, i * 11 + 3, none⟩ = some (.string X.data) ∧ W.cell? ⟨gk, i * 11 + 4, none⟩ = some (.int .i64 X.pad) ∧ W.cell? ⟨gk, i * 11 + 5, none⟩ = some (.int .i64 X.dep) ∧ W.cell? ⟨gk, i * 11 + 6, none⟩ = some (.bool X.excl) ∧ W.cell? ⟨gk, i * 11 + 7, none⟩ = some (.int .i64 X.wt) ∧ W.cell? ⟨gk, i * 11 + 8, none⟩ = some (.int .i64 X.code) ∧ W.cell? ⟨gk, i * 11 + 9, none⟩ = some (.int .i64 X.last) ∧ W.cell? ⟨gk, i * 11 + 10, none⟩ = some (.slice ub ul uc) ∧ W.cell? ⟨gm, i * 11, none⟩ = some (.int .i64 X.ty) ∧ W.cell? ⟨gm, i * 11 + 1, none⟩ = some (.int .i64 X.fl) ∧ W.cell? ⟨gm, i * 11 + 2, none⟩ = some (.int .i64 X.st) ∧ W.cell? ⟨gm, i * 11 + 3, none⟩ = some (.string X.data) ∧ W.cell? ⟨gm, i * 11 + 4, none⟩ = some (.int .i64 X.pad) ∧ W.cell? ⟨gm, i * 11 + 5, none⟩ = some (.int .i64 X.dep) ∧ W.cell? ⟨gm, i * 11 + 6, none⟩ = some (.bool X.excl) ∧ W.cell? ⟨gm, i * 11 + 7, none⟩ = some (.int .i64 X.wt) ∧ W.cell? ⟨gm, i * 11 + 8, none⟩ = some (.int .i64 X.code) ∧ W.cell? ⟨gm, i * 11 + 9, none⟩ = some (.int .i64 X.last) ∧ W.cell? ⟨gm, i * 11 + 10, none⟩ = some (.slice vb vl vc) ∧ Below wr.heap.size wr W) → Below wr.heap.size wr W) := fun W h => by
              obtain ⟨-, -, -, -, -, -, -, -, -, -, -, -, -, -, -, -, -, -, -, -, -, -, h⟩ := h
              exact h
            clear hXl hXm hIm B hX hu hv l11 m11
            go_upto_region 20 with fail
            go_region_held3 (fun W => (W.cell? ⟨gk, i * 11, none⟩ = some (.int .i64 X.ty) ∧ W.cell? ⟨gk, i * 11 + 1, none⟩ = some (.int .i64 X.fl) ∧ W.cell? ⟨gk, i * 11 + 2, none⟩ = some (.int .i64 X.st) ∧ W.cell? ⟨gk, i * 11 + 3, none⟩ = some (.string X.data) ∧ W.cell? ⟨gk, i * 11 + 4, none⟩ = some (.int .i64 X.pad) ∧ W.cell? ⟨gk, i * 11 + 5, none⟩ = some (.int .i64 X.dep) ∧ W.cell? ⟨gk, i * 11 + 6, none⟩ = some (.bool X.excl) ∧ W.cell? ⟨gk, i * 11 + 7, none⟩ = some (.int .i64 X.wt) ∧ W.cell? ⟨gk, i * 11 + 8, none⟩ = some (.int .i64 X.code) ∧ W.cell? ⟨gk, i * 11 + 9, none⟩ = some (.int .i64 X.last) ∧ W.cell? ⟨gk, i * 11 + 10, none⟩ = some (.slice ub ul uc) ∧ W.cell? ⟨gm, i * 11, none⟩ = some (.int .i64 X.ty) ∧ W.cell? ⟨gm, i * 11 + 1, none⟩ = some (.int .i64 X.fl) ∧ W.cell? ⟨gm, i * 11 + 2, none⟩ = some (.int .i64 X.st) ∧ W.cell? ⟨gm, i * 11 + 3, none⟩ = some (.string X.data) ∧ W.cell? ⟨gm, i * 11 + 4, none⟩ = some (.int .i64 X.pad) ∧ W.cell? ⟨gm, i * 11 + 5, none⟩ = some (.int .i64 X.dep) ∧ W.cell? ⟨gm, i * 11 + 6, none⟩ = some (.bool X.excl) ∧ W.cell? ⟨gm, i * 11 + 7, none⟩ = some (.int .i64 X.wt) ∧ W.cell? ⟨gm, i * 11 + 8, none⟩ = some (.int .i64 X.code) ∧ W.cell? ⟨gm, i * 11 + 9, none⟩ = some (.int .i64 X.last) ∧ W.cell? ⟨gm, i * 11 + 10, none⟩ = some (.slice vb vl vc) ∧ Below wr.heap.size wr W)) (first | exact hheld.out _ (Below.refl _ _).drew | exact hheld.out _ (by assumption)) (first | (go_at_call 13; refine (hsame.out _ (hget.out _ (by assumption))).mono ?_; rintro e w8 ⟨rfl, hb8⟩))
            all_goals
              go_wp2_with fail
              go_roundw
              case rel => exact ⟨i + 1, by simp, by omega, HB.out.below (by first | exact hb8 | exact hb8.drew)⟩
              case measure => simp [intOf]; omega
          · have hlt' : ¬ (i : Int) < ((k + 1 : Nat) : Int) := by omega
            go_wp2_with fail
            go_ret
            exact ⟨rfl, HB.out.bel⟩
  · obtain ⟨ec, hS, hR⟩ : ∃ ec : Int, (∀ (y : SV) W, Calls Try.prog 15 #[.agg (fv h (sv y)), .string t, .int .i64 size] W fun e w' => e = .returned (.tuple #[.slice none 0 0, .int .i64 ec]) ∧ Below W.heap.size W w') ∧ (∀ (y : SV) W, Calls Try.prog 17 #[.agg (fv h (sv y)), .string t, .int .i64 size] W fun e w' => e = .returned (.tuple #[.slice none 0 0, .int .i64 ec]) ∧ Below W.heap.size W w') := by
      by_cases h1 : MS h ∧ 16384 ≤ size ∧ size ≤ 65536
      · have h2 : 131072 < t.size := by
          apply Classical.byContradiction
          intro h3
          exact hbad ⟨h1.1, h1.2.1, h1.2.2, by omega⟩
        exact ⟨3, fun y W => split_long h y t size W h1 h2, fun y W => rsplit_long h y t size W h1 h2⟩
      · exact ⟨1, fun y W => split_arg h y t size W h1, fun y W => rsplit_arg h y t size W h1⟩
    replace hS : Hid (∀ (y : SV) W, _) := hS
    replace hR : Hid (∀ (y : SV) W, _) := hR
    obtain ⟨xb, xl, xc⟩ := x
    simp only [sv] at hC2 B0 hS hR ⊢
    unfold fv at hC2 B0 hS hR ⊢
    clear hI hbad
    go_enter Try.func6, Try.ntmps6
    go_wp2_with fail
    go_at_call 11
    refine (hC2.out _ B0.out.1).mono ?_
    rintro e w1 ⟨pb, pl, pc, rfl, h1⟩
    have B1 : Hid (Below w.heap.size w w1 ∧ FB w1 w.heap.size h (.slice xb xl xc)) := ⟨B0.out.1.trans (h1.out.2.1.mono B0.out.1.size), FB.below B0.out.2 h1.out.2.1⟩
    go_wp2_with fail
    go_at_call 15
    refine (hS.out (pb, pl, pc) _).mono ?_
    rintro e w2 ⟨rfl, hb⟩
    have B2 : Hid (Below w.heap.size w w2 ∧ FB w2 w.heap.size h (.slice xb xl xc)) := ⟨B1.out.1.trans (hb.mono B1.out.1.size), FB.below B1.out.2 hb⟩
    obtain ⟨c0, c1, c2, c3, c4, c5, c6, c7, c8, c9, c10⟩ := FB.cells B2.out.2
    clear hb h1 B0 B1
    go_wp2_with fail
    go_at_call 11
    refine (hC2.out _ B2.out.1).mono ?_
    rintro e w3 ⟨pb, pl, pc, rfl, h1⟩
    have B3 : Hid (Below w.heap.size w w3 ∧ FB w3 w.heap.size h (.slice xb xl xc)) := ⟨B2.out.1.trans (h1.out.2.1.mono B2.out.1.size), FB.below B2.out.2 h1.out.2.1⟩
    clear c0 c1 c2 c3 c4 c5 c6 c7 c8 c9 c10
    go_wp2_with fail
    go_at_call 15
    refine (hS.out (pb, pl, pc) _).mono ?_
    rintro e w4 ⟨rfl, hb⟩
    have B4 : Hid (Below w.heap.size w w4 ∧ FB w4 w.heap.size h (.slice xb xl xc)) := ⟨B3.out.1.trans (hb.mono B3.out.1.size), FB.below B3.out.2 hb⟩
    obtain ⟨c0, c1, c2, c3, c4, c5, c6, c7, c8, c9, c10⟩ := FB.cells B4.out.2
    clear hb h1 B2 B3
    go_wp2_with fail
    go_at_call 11
    refine (hC2.out _ B4.out.1).mono ?_
    rintro e w5 ⟨pb, pl, pc, rfl, h1⟩
    have B5 : Hid (Below w.heap.size w w5) := B4.out.1.trans (h1.out.2.1.mono B4.out.1.size)
    clear c0 c1 c2 c3 c4 c5 c6 c7 c8 c9 c10
    go_wp2_with fail
    go_at_call 17
    refine (hR.out (pb, pl, pc) w5).mono ?_
    rintro e w6 ⟨rfl, hb⟩
    have B6 : Hid (Below w.heap.size w w6) := B5.out.trans (hb.mono B5.out.size)
    clear hb h1 B4 B5 hC2 hS hR
    go_wp2_with fail
    go_at_call 10
    refine (first_any w6).mono ?_
    rintro e w7 ⟨rfl, hb⟩
    have B7 : Hid (Below w.heap.size w w7) := B6.out.trans (hb.mono B6.out.size)
    clear hb B6
    have hrun : ∃ base cap w', Hid ((Builtin.append_ #[37, 37] 37 #[.slice none 0 0, .slice (some ⟨w7.heap.size, 0, none⟩) 1 1]).run Try.prog (w7.alloc (.cells (fv lastF (.slice none 0 0)) 24)) = .ok (.slice base 1 cap) w') ∧ Hid (Below w.heap.size w w') := by
      have hb := bel1 w7 (.cells (fv lastF (.slice none 0 0)) 24)
      have hin : In EF (w7.alloc (.cells (fv lastF (.slice none 0 0)) 24)) (.slice (some ⟨w7.heap.size, 0, none⟩) 1 1) [(lastF, (none, 0, 0))] := in_one _ _ _ (fv lastF (.slice none 0 0)) 24 (0, 0) (by rw [heap_al, if_pos rfl]) rfl
      obtain ⟨base, cap, w', h1, h2, h3⟩ := app okF _ _ [] (R.nil EF _) _ _ hin (by simp [EF])
      have h4 := B7.out.trans (hb.mono B7.out.size)
      exact ⟨base, cap, w', h1, h4.trans (h3.fresh.mono h4.size)⟩
    obtain ⟨base, cap, w8, hrun, B8⟩ := hrun
    unfold fv lastF at hrun
    clear B7
    go_wp2_with fail
    go_loopw [13] (fun iv wr => iv = .int .i64 0 ∧ wr = w7) (fun iv _ => 0)
    case atStart => exact ⟨rfl, rfl⟩
    case round =>
      obtain ⟨rfl, rfl⟩ := hrel
      go_wp2_with (at_builtin; refine Lib.wpList_append_run _ rfl _ _ _ _ rfl _ _ rfl rfl _ _ hrun.out ?_)
      go_loopw [15] (fun iv wr => iv = .int .i64 0 ∧ wr = w8) (fun iv _ => 0)
      case atStart => exact ⟨rfl, rfl⟩
      case round =>
        obtain ⟨rfl, rfl⟩ := hrel
        go_wp2_with fail
        go_ret
        exact ⟨rfl, B8.out⟩
end Go.Proofs.Ytdgdjanchpfleaa
