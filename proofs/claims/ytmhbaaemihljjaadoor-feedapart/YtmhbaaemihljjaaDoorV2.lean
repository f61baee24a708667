/- FeedApart: what holds between its calls. -/
import Derived.Test.YtmhbaaemihljjaaDoorV0
namespace Go.Proofs.YtmhbaaemihljjaaDoor
open Go.RowKit
set_option linter.unusedVariables false
set_option linter.unusedSimpArgs false

theorem PRow.ty {w : World} {o : Value} {l : List (Int × Int)} (h : PRow w o l) (k : Nat) (hk : o.ownBlock = some k) : ∃ c, w.heap[k]? = some (.cells c 49 (0, 0)) := by
  rcases h.2 with ⟨rfl, hn⟩ | ⟨g, cap, cur, rfl, _, hg, hn, hm, _⟩
  · simp [Value.ownBlock] at hk
  · simp [Value.ownBlock] at hk
    subst hk
    exact ⟨_, hg⟩
/-- what a row of params grows into leaves all else -/
theorem gr_other {W W' : World} {x a : Value} {X : List (Int × Int)} (hx : PRow W x X) (hG : Gr W W' x a) {k : Nat} {cs : Array Value} {t : TypeId} (hk : W.heap[k]? = some (.cells cs t (0, 0))) (ht : t ≠ 49) : W'.heap[k]? = some (.cells cs t (0, 0)) := by
  refine (hG.block k (Array.getElem?_eq_some_iff.1 hk).1 fun e => ?_).trans hk
  obtain ⟨c, hc⟩ := hx.ty k e
  rw [hk] at hc
  injection hc with hc
  injection hc with _ hc _
  exact ht hc
theorem All.gr {w W W' : World} {fs : List Fed} (h : All w W fs) {x a : Value} {X : List (Int × Int)} (hx : PRow W x X) (hn : ∀ k, x.ownBlock = some k → w.heap.size ≤ k) (hG : Gr W W' x a) : All w W' fs := by
  refine ⟨h.kin, h.pos, h.bel.trans ⟨hG.os, hG.tape, hG.output, hG.size, fun k hk => hG.block k (Nat.lt_of_lt_of_le hk h.bel.size) fun e => by have := hn k e; omega⟩, fun t ht => ?_, h.new, h.apart⟩
  have hf := h.fd t ht
  refine hf.same ?_ fun k hk => ?_
  · exact (gr_other hx hG hf.blk (by decide)).trans hf.blk.symm
  · obtain ⟨cur, hc⟩ := hf.rowType k hk
    exact (gr_other hx hG hc (by decide)).trans hc.symm

/-- The feed, the law's params p, and two frames that were told, in boxes A and B. -/
structure Fa (w : World) (g : Nat) (v : Value) (S : St) (p x y : Value) (P X : List (Int × Int)) (A B : Nat) (W : World) : Prop where
  all : All w W [(g, v, S)]
  pr : PRow W p P
  xr : PRow W x X
  yr : PRow W y P
  fx : FB W A fSet x
  fy : FB W B fSet y
  xp : ∀ k, x.ownBlock = some k → p.ownBlock ≠ some k
  xy : ∀ k, x.ownBlock = some k → y.ownBlock ≠ some k
  yp : ∀ k, y.ownBlock = some k → p.ownBlock ≠ some k
  nx : ∀ k, x.ownBlock = some k → w.heap.size ≤ k
  ny : ∀ k, y.ownBlock = some k → w.heap.size ≤ k
section
variable {w : World} {g : Nat} {v : Value} {S : St} {p x y : Value} {P X : List (Int × Int)} {A B : Nat} {W W' : World}
theorem Fa.below (h : Fa w g v S p x y P X A B W) (hb : Below W.heap.size W W') : Fa w g v S p x y P X A B W' :=
  ⟨h.all.later hb, h.pr.below fun k _ hk => hb.block k hk, h.xr.below fun k _ hk => hb.block k hk, h.yr.below fun k _ hk => hb.block k hk, h.fx.below hb, h.fy.below hb, h.xp, h.xy, h.yp, h.nx, h.ny⟩
/-- a place of x set anew -/
theorem Fa.set (h : Fa w g v S p x y P X A B W) (j : Nat) (hj : j < X.length) (a b : Int) : ∃ k cap, x = .slice (some ⟨k, 0, none⟩) X.length cap ∧ X.length ≤ cap ∧ cap ≤ 9223372036854775807 ∧ k < W.heap.size ∧
    (∃ u, W.cell? ⟨k, j * 2, none⟩ = some u) ∧ (∃ u, W.cell? ⟨k, j * 2 + 1, none⟩ = some u) ∧ W.frozen? ⟨k, j * 2, none⟩ = false ∧ W.frozen? ⟨k, j * 2 + 1, none⟩ = false ∧
    Fa w g v S p x y P (X.set j (a, b)) A B ((W.setCell ⟨k, j * 2, none⟩ (.int .i64 a)).setCell ⟨k, j * 2 + 1, none⟩ (.int .i64 b)) := by
  obtain ⟨k, cap, e, h1, h2, h3, h4, h5, h6, h7, h8⟩ := prow_set h.xr j hj a b
  have hown : x.ownBlock = some k := by rw [e]; rfl
  obtain ⟨cs, hc⟩ := h.xr.ty k hown
  have ho : ∀ i, i ≠ k → ((W.setCell ⟨k, j * 2, none⟩ (.int .i64 a)).setCell ⟨k, j * 2 + 1, none⟩ (.int .i64 b)).heap[i]? = W.heap[i]? := fun i hi => by rw [setCell_other _ _ _ _ _ hi, setCell_other _ _ _ _ _ hi]
  have hne : ∀ {i : Nat} {ds : Array Value} {t : TypeId}, W.heap[i]? = some (.cells ds t (0, 0)) → t ≠ 49 → i ≠ k := fun {i ds t} hi ht e => by
    rw [e, hc] at hi
    injection hi with hi
    injection hi with _ hi _
    exact ht hi.symm
  refine ⟨k, cap, e, h1, h2, h3, h4, h5, h6, h7, h.all.sets k cs 49 hc (by decide) (by decide) (h.nx k hown) [(j * 2, .int .i64 a), (j * 2 + 1, .int .i64 b)], h.pr.below fun i hi _ => ho i fun e => h.xp k hown (e ▸ hi), h8, h.yr.below fun i hi _ => ho i fun e => h.xy k hown (e ▸ hi), (ho A (hne h.fx (by decide))).trans h.fx, (ho B (hne h.fy (by decide))).trans h.fy, h.xp, h.xy, h.yp, h.nx, h.ny⟩
end

/-- both made longer -/
theorem Fa.two {w : World} {g : Nat} {v : Value} {S : St} {p x y : Value} {P X : List (Int × Int)} {A B : Nat} {W : World} (h : Fa w g v S p x y P X A B W) (hX : (X.length + 1) * 16 ≤ 140737488355328) (hP : (P.length + 1) * 16 ≤ 140737488355328) :
    ∃ b1 c1 W2 b2 c2 W4, (Builtin.append_ #[26, 26] 26 #[x, .slice (some ⟨W.heap.size, 0, none⟩) 1 1]).run Tryd.prog (W.alloc (.cells #[.int .i64 (-2), .int .i64 0] 49)) = .ok (.slice b1 (X.length + 1) c1) W2 ∧ W2.cell? ⟨B, 10, none⟩ = some y ∧
      (Builtin.append_ #[26, 26] 26 #[y, .slice (some ⟨W2.heap.size, 0, none⟩) 1 1]).run Tryd.prog (W2.alloc (.cells #[.int .i64 (-3), .int .i64 0] 49)) = .ok (.slice b2 (P.length + 1) c2) W4 ∧
      All w W4 [(g, v, S)] ∧ PRow W4 p P ∧ PRow W4 x X ∧ PRow W4 (.slice b1 (X.length + 1) c1) (X ++ [(-2, 0)]) ∧ PRow W4 (.slice b2 (P.length + 1) c2) (P ++ [(-3, 0)]) ∧ FB W4 A fSet x := by
  have hb1 : Below W.heap.size W (W.alloc (.cells #[.int .i64 (-2), .int .i64 0] 49)) := (Below.refl _ W).alloc (Nat.le_refl _) _
  have h1 := h.below hb1
  obtain ⟨b1, c1, W2, hr1, r1, r2, g1⟩ := prow_append_both _ x X h1.xr W.heap.size (-2) 0 (heap_alloc_new W _) hX
  have hA2 := h1.all.gr h1.xr h1.nx g1
  have p2 : PRow W2 p P := h1.pr.below fun k hk hlt => g1.block k hlt fun e => h1.xp k e hk
  have y2 : PRow W2 y P := h1.yr.below fun k hk hlt => g1.block k hlt fun e => h1.xy k e hk
  have fx2 : FB W2 A fSet x := gr_other h1.xr g1 h1.fx (by decide)
  have fy2 : FB W2 B fSet y := gr_other h1.xr g1 h1.fy (by decide)
  have hb3 : Below W2.heap.size W2 (W2.alloc (.cells #[.int .i64 (-3), .int .i64 0] 49)) := (Below.refl _ W2).alloc (Nat.le_refl _) _
  have y3 := y2.below (w' := W2.alloc (.cells #[.int .i64 (-3), .int .i64 0] 49)) fun k _ hk => hb3.block k hk
  obtain ⟨b2, c2, W4, hr2, q1, q2, g2⟩ := prow_append_both _ y P y3 W2.heap.size (-3) 0 (heap_alloc_new W2 _) hP
  have ylt : ∀ k, y.ownBlock = some k → k < W.heap.size := fun k hk => h.yr.lt k hk
  have kp : ∀ {o : Value} {l : List (Int × Int)}, PRow W2 o l → (∀ k, o.ownBlock = some k → y.ownBlock ≠ some k) → PRow W4 o l := fun {o l} hr hne => hr.below fun k hk hlt => (g2.block k (by rw [size_al]; omega) (hne k hk)).trans (hb3.block k hlt)
  refine ⟨b1, c1, W2, b2, c2, W4, hr1, fy2.cell 10, hr2, (hA2.later hb3).gr y3 h.ny g2, kp p2 fun k hk e => h.yp k e hk, kp r2 fun k hk e => h.xy k hk e, kp r1 fun k hk e => ?_, q1, ?_⟩
  · rcases g1.own k hk with hh | hh
    · exact h.xy k hh e
    · have := ylt k e
      rw [size_al] at hh
      omega
  · exact gr_other y3 g2 (fx2.below hb3) (by decide)

def negAt (P : List (Int × Int)) (j : Nat) : List (Int × Int) := List.replicate j (-1, 0) ++ P.drop j
theorem negAt_length (P : List (Int × Int)) (j : Nat) (h : j ≤ P.length) : (negAt P j).length = P.length := by simp [negAt]; omega
theorem negAt_zero (P : List (Int × Int)) : negAt P 0 = P := by simp [negAt]
theorem negAt_step (P : List (Int × Int)) (j : Nat) (h : j < P.length) : (negAt P j).set j (-1, 0) = negAt P (j + 1) := by
  unfold negAt
  rw [List.set_append_right _ _ (by simp), List.length_replicate, Nat.sub_self, List.drop_eq_getElem_cons h, List.set_cons_zero, List.replicate_succ']
  simp
theorem negAt_get (P : List (Int × Int)) (n j : Nat) (h : j < n) (hn : n ≤ P.length) : (negAt P n)[j]'(by rw [negAt_length P n hn]; omega) = (-1, 0) := by
  unfold negAt
  rw [List.getElem_append_left (by simpa using h)]
  simp

/-- All rows, to be read. -/
structure Fc (w : World) (p x z a c : Value) (P X : List (Int × Int)) (A C : Nat) (W : World) : Prop where
  bel : Below w.heap.size w W
  pr : PRow W p P
  xr : PRow W x X
  zr : PRow W z P
  ar : PRow W a (X ++ [(-2, 0)])
  cr : PRow W c (P ++ [(-3, 0)])
  fx : FB W A fSet x
  fz : FB W C fSet z
theorem Fc.below {w W W' : World} {p x z a c : Value} {P X : List (Int × Int)} {A C : Nat} (h : Fc w p x z a c P X A C W) (hb : Below W.heap.size W W') : Fc w p x z a c P X A C W' :=
  ⟨h.bel.trans (hb.mono h.bel.size), h.pr.below fun k _ hk => hb.block k hk, h.xr.below fun k _ hk => hb.block k hk, h.zr.below fun k _ hk => hb.block k hk, h.ar.below fun k _ hk => hb.block k hk, h.cr.below fun k _ hk => hb.block k hk, h.fx.below hb, h.fz.below hb⟩
end Go.Proofs.YtmhbaaemihljjaaDoor
