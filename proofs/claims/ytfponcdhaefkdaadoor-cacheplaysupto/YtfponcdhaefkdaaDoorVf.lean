import Derived.Test.YtfponcdhaefkdaaDoorVd
/- over. -/
namespace Go.Proofs.YtfponcdhaefkdaaDoor
open Go.RowKit
set_option linter.unusedVariables false
set_option linter.unusedSimpArgs false
theorem R.setw {α : Type} {E : El α} (ok : E.Ok) {w : World} {g n c : Nat} {l : List α} {j i : Nat} {y : α} (h : R E w (.slice (some ⟨g, 0, none⟩) n c) (l.set j y)) (hj : j < l.length) (hi : i < E.sz) (u : Value) (x : α) (hx : E.enc x = (E.enc y).set i u) :
    R E (w.setCell ⟨g, j * E.sz + i, none⟩ u) (.slice (some ⟨g, 0, none⟩) n c) (l.set j x) := by
  obtain ⟨g', cap, e, _, _, _, _, _, _, q⟩ := h.setc ok j i (by rw [List.length_set]; exact hj) hi
  injection e with e1 e2 e3
  injection e1 with e1
  injection e1 with e1
  subst e1
  have := q u x (by rw [hx]; simp)
  rw [List.set_set] at this
  exact this
def setF (w : World) (g j : Nat) (f : Fd) : World := ((w.setCell ⟨g, j * 3, none⟩ (.string f.n)).setCell ⟨g, j * 3 + 1, none⟩ (.string f.v)).setCell ⟨g, j * 3 + 2, none⟩ (.bool f.nv)
theorem R.setF {w : World} {g n c : Nat} {l : List Fd} (h : R EFd w (.slice (some ⟨g, 0, none⟩) n c) l) (j : Nat) (hj : j < l.length) (f : Fd) : R EFd (setF w g j f) (.slice (some ⟨g, 0, none⟩) n c) (l.set j f) := by
  have h0 : R EFd w (.slice (some ⟨g, 0, none⟩) n c) (l.set j l[j]) := by rw [List.set_getElem_self]; exact h
  obtain ⟨X, hX⟩ : ∃ X, l[j] = X := ⟨_, rfl⟩
  rw [hX] at h0
  have h1 := h0.setw okFd hj (i := 0) (by decide) (.string f.n) ⟨f.n, X.v, X.nv⟩ rfl
  have h2 := h1.setw okFd hj (i := 1) (by decide) (.string f.v) ⟨f.n, f.v, X.nv⟩ rfl
  exact h2.setw okFd hj (i := 2) (by decide) (.bool f.nv) f rfl
theorem setF_ks (w : World) (g j : Nat) (f : Fd) : Ks (fun k => k = g) w (setF w g j f) :=
  ((Ks.setCell (fun k => k = g) w g (j * 3) _ rfl).trans (Ks.setCell (fun k => k = g) _ g (j * 3 + 1) _ rfl) (fun i _ hi => hi) (fun i _ hi => hi)).trans (Ks.setCell (fun k => k = g) _ g (j * 3 + 2) _ rfl) (fun i _ hi => hi) (fun i _ hi => hi)
theorem R.cellsF {w : World} {g n c : Nat} {l : List Fd} (h : R EFd w (.slice (some ⟨g, 0, none⟩) n c) l) (j : Nat) (hj : j < l.length) : w.cell? ⟨g, j * 3, none⟩ = some (.string l[j].n) ∧ w.cell? ⟨g, j * 3 + 1, none⟩ = some (.string l[j].v) ∧ w.cell? ⟨g, j * 3 + 2, none⟩ = some (.bool l[j].nv) ∧ ∀ i, w.frozen? ⟨g, i, none⟩ = false := by
  obtain ⟨g', cap', e5, x1, x2, g2, x3, g3, g4, x4⟩ := h.setc okFd j 0 hj (by decide)
  injection e5 with e5 e6 e7
  injection e5 with e5
  injection e5 with e5
  subst e5
  exact ⟨g3 0 _ rfl, g3 1 _ rfl, g3 2 _ rfl, g4⟩
/-- written over -/
def ovF : Fd := ⟨⟨#[118, 97, 114, 121]⟩, ⟨#[42]⟩, false⟩
def ovL (l : List Fd) (k : Nat) : List Fd := (List.replicate k ovF) ++ l.drop k
theorem ovL_len (l : List Fd) (k : Nat) (h : k ≤ l.length) : (ovL l k).length = l.length := by unfold ovL; rw [List.length_append, List.length_replicate, List.length_drop]; omega
theorem ovL_succ (l : List Fd) (k : Nat) (h : k < l.length) : (ovL l k).set k ovF = ovL l (k + 1) := by
  unfold ovL
  rw [List.set_append_right _ _ (by simp), List.length_replicate, Nat.sub_self, List.drop_eq_getElem_cons h, List.set_cons_zero, List.replicate_succ', List.append_assoc]
  rfl
set_option maxHeartbeats 4000000 in
set_option maxRecDepth 100000 in
theorem over_any (w : World) (y : SV) (l : List Fd) (h : R EFd w (sv y) l) : Calls Tryd.prog 17 #[sv y] w fun e w' => e = .returned (.tuple #[]) ∧ R EFd w' (sv y) (List.replicate l.length ovF) ∧ Ks (fun k => (sv y).ownBlock = some k) w w' := by
  obtain ⟨b, c, e, m1, m2⟩ := h.slice
  obtain ⟨yb, yl, yc⟩ := y
  simp only [sv] at e h ⊢
  injection e with e1 e2 e3
  subst e1 e2 e3
  obtain ⟨N, hN⟩ : ∃ N, l.length = N := ⟨_, rfl⟩
  rw [hN] at h m1 ⊢
  have HN : Hid (l.length = N) := hN
  have HR : Hid (R EFd w (.slice yb N yc) (ovL l 0)) := by show R _ _ _ _; unfold ovL; simpa using h
  clear h hN
  go_enter Tryd.func17, Tryd.ntmps17
  go_wp2_with fail
  go_loopw [2] (fun iv wr => ∃ k : Nat, iv = .int .i64 (k : Int) ∧ k ≤ N ∧ Hid (R EFd wr (.slice yb N yc) (ovL l k) ∧ Ks (fun k => (Value.slice yb N yc).ownBlock = some k) w wr)) (fun iv _ => N - (intOf iv).toNat)
  case atStart => exact ⟨0, rfl, by omega, HR.out, Ks.refl _ _⟩
  case round =>
    clear HR
    obtain ⟨k, rfl, hk, hJ⟩ := hrel
    by_cases hlt : k < N
    · have l1 : (k : Int) < (N : Int) := by omega
      have hkl : k < (ovL l k).length := by rw [ovL_len l k (by rw [HN.out]; omega), HN.out]; exact hlt
      obtain ⟨g, cap, e, hzz⟩ := hJ.out.1.setc okFd k 0 hkl (by decide)
      clear hzz
      injection e with e1 e2 e3
      clear e2 e3
      subst e1
      obtain ⟨p0, p1, p2, pf⟩ := R.cellsF hJ.out.1 k hkl
      have f0 := pf (k * 3)
      have f1 := pf (k * 3 + 1)
      have f2 := pf (k * 3 + 2)
      obtain ⟨V, hV⟩ : ∃ V, ((wr.setCell ⟨g, k * 3, none⟩ (.string ⟨#[118, 97, 114, 121]⟩)).setCell ⟨g, k * 3 + 1, none⟩ (.string ⟨#[42]⟩)).setCell ⟨g, k * 3 + 2, none⟩ (.bool false) = V := ⟨_, rfl⟩
      have HNx : Hid (R EFd V (.slice (some ⟨g, 0, none⟩) N yc) (ovL l (k + 1)) ∧ Ks (fun k => (Value.slice (some ⟨g, 0, none⟩) N yc).ownBlock = some k) w V) := by
        have h1 := R.setF hJ.out.1 k hkl ovF
        rw [ovL_succ l k (by rw [HN.out]; exact hlt)] at h1
        have h2 := setF_ks wr g k ovF
        have e : setF wr g k ovF = V := hV
        rw [e] at h1 h2
        exact ⟨h1, hJ.out.2.trans h2 (fun i _ hi => hi) (fun i _ hi => by rw [hi]; rfl)⟩
      clear hJ pf
      go_wp2_with fail
      try rw [hV]
      go_roundw
      case rel => exact ⟨k + 1, by simp, by omega, HNx.out⟩
      case measure => simp [intOf]; omega
    · have l1 : ¬ (k : Int) < (N : Int) := by omega
      have HE : Hid (R EFd wr (.slice yb N yc) (List.replicate N ovF) ∧ Ks (fun k => (Value.slice yb N yc).ownBlock = some k) w wr) := by
        have h := hJ.out
        have e : ovL l k = List.replicate N ovF := by
          have : k = N := by omega
          subst this
          unfold ovL
          rw [List.drop_of_length_le (by rw [HN.out]; omega), List.append_nil]
        rw [e] at h
        exact h
      clear hJ
      go_wp2_with fail
      go_end0
      exact ⟨rfl, HE.out⟩
end Go.Proofs.YtfponcdhaefkdaaDoor
/- CacheEnds: one cache with one entry. -/
namespace Go.Proofs.YtfponcdhaefkdaaDoor
open Go.RowKit
set_option linter.unusedVariables false
set_option linter.unusedSimpArgs false
theorem claimHit {W : World} {g : Nat} {c : Ca} {y : SV} {e : En} {q : Rq} {Q : List Fd} {n : Int} {b : ByteArray} {fr : List Fd} {st ar : Int} (h : Cx W g c y [e]) (he : Ee e q Q n b fr st ar) (hb : q.b = ⟨#[]⟩) (zQ : Q.length ≤ 1099511627776) (hQg : ∀ V, Ks (fun k => k = g) W V → In EFd V (sv q.y) Q) (t : Int) (ht : t ≤ 9223372036854775807) (hx : ¬ c.lf < max c.ck t - ar) :
    Calls Tryd.prog 13 #[.pointer (some ⟨g, 0, none⟩), .agg (rqv q), .int .i64 t] W fun r w' => ∃ v z : SV, r = .returned (.tuple #[.agg (rsv n (sv v) b), .int .i64 st, .bool true]) ∧ R EFd w' (sv v) fr ∧ Cx w' g (hr c t) z [] ∧ (sv z).ownBlock = (sv y).ownBlock ∧ Ks (Ow g y) W w' := by
  refine (claim_any W g c y [e] h q Q zQ hQg t ht).mono ?_
  have hb : anB (hr c t) q Q e = true := by rw [he.self hb]; show (!decide (c.lf < max c.ck t - ar)) = true; rw [decide_eq_false hx]; rfl
  have hi : [e].findIdx? (anB (hr c t) q Q) = some 0 := by simp [hb]
  rw [hi]
  rintro r w' (⟨h1, _⟩ | ⟨i, hil, h1, rfl, z, h2, h3, h4, h5⟩)
  · cases h1
  · injection h1 with h1
    subst h1
    simp only [List.getElem_cons_zero] at h5 ⊢
    rw [he.rn, he.rb, he.st]
    have := h5.r
    rw [he.rf] at this
    exact ⟨e.ry, z, rfl, this, h2, h3, h4⟩
theorem claimMiss {W : World} {g : Nat} {c : Ca} {y : SV} {e : En} {q : Rq} {Q : List Fd} {n : Int} {b : ByteArray} {fr : List Fd} {st ar : Int} (h : Cx W g c y [e]) (he : Ee e q Q n b fr st ar) (hb : q.b = ⟨#[]⟩) (zQ : Q.length ≤ 1099511627776) (hQg : ∀ V, Ks (fun k => k = g) W V → In EFd V (sv q.y) Q) (t : Int) (ht : t ≤ 9223372036854775807) (hx : c.lf < max c.ck t - ar) :
    Calls Tryd.prog 13 #[.pointer (some ⟨g, 0, none⟩), .agg (rqv q), .int .i64 t] W fun r w' => r = .returned (.tuple #[.agg z3, .int .i64 0, .bool false]) ∧ Cx w' g (hr c t) y [e] ∧ Ks (Ow g y) W w' := by
  refine (claim_any W g c y [e] h q Q zQ hQg t ht).mono ?_
  have hb : anB (hr c t) q Q e = false := by rw [he.self hb]; show (!decide (c.lf < max c.ck t - ar)) = false; rw [decide_eq_true hx]; rfl
  have hi : [e].findIdx? (anB (hr c t) q Q) = none := by simp [hb]
  rw [hi]
  rintro r w' (⟨_, rfl, h2, h3⟩ | ⟨i, hil, h1, _⟩)
  · exact ⟨rfl, h2, h3⟩
  · cases h1
theorem holdsMiss {W : World} {g : Nat} {c : Ca} {y : SV} {e : En} {q : Rq} {Q : List Fd} {n : Int} {b : ByteArray} {fr : List Fd} {st ar : Int} (h : Cx W g c y [e]) (he : Ee e q Q n b fr st ar) (hb : q.b = ⟨#[]⟩) (zQ : Q.length ≤ 1099511627776) (hQg : ∀ V, Ks (fun k => k = g) W V → In EFd V (sv q.y) Q) (t : Int) (ht : t ≤ 9223372036854775807) (hx : c.lf < max c.ck t - ar) :
    Calls Tryd.prog 14 #[.pointer (some ⟨g, 0, none⟩), .agg (rqv q), .int .i64 t] W fun r w' => r = .returned (.bool false) ∧ Cx w' g (hr c t) y [e] ∧ Ks (Ow g y) W w' := by
  refine (holds_any W g c y [e] h q Q (hQg W (Ks.refl _ _)) zQ hQg t ht).mono ?_
  rintro r w' ⟨rfl, h1, h2⟩
  have hb : anB (hr c t) q Q e = false := by rw [he.self hb]; show (!decide (c.lf < max c.ck t - ar)) = false; rw [decide_eq_true hx]; rfl
  have hp : plI (hr c t) q Q [e] = -1 := plI_none (fun j hj => by
    have : j = 0 := by simpa using hj
    subst this
    exact hb)
  rw [hp]
  exact ⟨rfl, h1, h2.mono fun i _ hi => .inl hi⟩
theorem tickStay {W : World} {g : Nat} {c : Ca} {y : SV} {e : En} (h : Cx W g c y [e]) (t : Int) (ht : t ≤ 9223372036854775807) (hx : ¬ c.lf < max c.ck t - e.ar) :
    Calls Tryd.prog 10 #[.pointer (some ⟨g, 0, none⟩), .int .i64 t] W fun r w' => ∃ gs z : SV, r = .returned (sv gs) ∧ R EI w' (sv gs) [] ∧ Cx w' g (hr c t) z [e] ∧ (sv z).ownBlock = (sv y).ownBlock ∧ Ks (Ow g y) W w' := by
  refine (tick_any W g c y [e] h t ht).mono ?_
  rintro r w' ⟨gs, rfl, hT⟩
  have hb : exB (hr c t) e = false := decide_eq_false hx
  simp only [List.dropWhile_cons, List.takeWhile_cons, hb, Bool.false_eq_true, if_false, List.map_nil] at hT
  obtain ⟨z, h1, h2⟩ := hT.cx
  exact ⟨gs, z, rfl, hT.gone, h1, h2, hT.ks⟩
theorem tickGo {W : World} {g : Nat} {c : Ca} {y : SV} {e : En} (h : Cx W g c y [e]) (t : Int) (ht : t ≤ 9223372036854775807) (hx : c.lf < max c.ck t - e.ar) :
    Calls Tryd.prog 10 #[.pointer (some ⟨g, 0, none⟩), .int .i64 t] W fun r w' => ∃ gs z : SV, r = .returned (sv gs) ∧ R EI w' (sv gs) [e.st] ∧ Cx w' g (hr c t) z [] ∧ (sv z).ownBlock = (sv y).ownBlock ∧ Ks (Ow g y) W w' := by
  refine (tick_any W g c y [e] h t ht).mono ?_
  rintro r w' ⟨gs, rfl, hT⟩
  have hb : exB (hr c t) e = true := decide_eq_true hx
  simp only [List.dropWhile_cons, List.takeWhile_cons, hb, if_true, List.dropWhile_nil, List.takeWhile_nil, List.map_cons, List.map_nil] at hT
  obtain ⟨z, h1, h2⟩ := hT.cx
  exact ⟨gs, z, rfl, hT.gone, h1, h2, hT.ks⟩
theorem storeGo {W : World} {g : Nat} {c : Ca} {y : SV} {e : En} {q : Rq} {Q : List Fd} {n : Int} {ry : SV} {b : ByteArray} {fr : List Fd} (h : Cx W g c y [e]) (hQ : ∀ V, Ks (Ow g y) W V → In EFd V (sv q.y) Q) (hR : ∀ V, Ks (Ow g y) W V → In EFd V (sv ry) fr) (hz : Az q Q b fr) (hs : starB fr = false) (st t : Int) (ht : t ≤ 9223372036854775807) (hme : 1 ≤ c.me) (hmb : c.mb = 1152921504606846976) (hx : c.lf < max c.ck t - e.ar) :
    Calls Tryd.prog 11 #[.pointer (some ⟨g, 0, none⟩), .agg (rqv q), .agg (rsv n (sv ry) b), .int .i64 st, .int .i64 t] W fun r w' => ∃ gs : SV, r = .returned (.tuple #[.bool true, sv gs]) ∧ R EI w' (sv gs) [e.st] ∧ Ks (Ow g y) W w' := by
  refine (store_any W g c y [e] h q Q n ry b fr st t ht hQ hR hz.zq hz.zQ hz.zQf hz.zb hz.zR hz.zRf (by have := hz.zS; omega) hz.zN).mono ?_
  have e2 : decide ((hr c t).mb < ((b.size + szL fr : Nat) : Int)) = false := decide_eq_false (by show ¬ c.mb < _; have := hz.zS; omega)
  have e3 : decide ((hr c t).me = 0) = false := decide_eq_false (by show ¬ c.me = 0; omega)
  have e1 : noB (hr c t) b fr = false := by unfold noB; rw [e2, e3, hs]; rfl
  have hb : exB (hr c t) e = true := decide_eq_true hx
  intro r w' hS
  unfold stP at hS
  rw [e1] at hS
  simp only [List.dropWhile_cons, List.takeWhile_cons, hb, if_true, List.dropWhile_nil, List.takeWhile_nil, List.map_cons, List.map_nil] at hS
  rcases hS with ⟨h1, _⟩ | ⟨h1, gs, y1, y2, y3, z, rfl, hx, hz', hk, hgs, _, hn⟩
  · cases h1
  · exact ⟨gs, rfl, by simpa [evD] using hgs, hk⟩
/-- what stands beside the caches -/
structure Ew (w W : World) (q0 r0 ga : Nat) (q : Rq) (n : Int) (ry : SV) (b : ByteArray) (P : Array Value) (X : List (Nat × Array Value × TypeId)) (F : List (SV × List Fd)) (I : List (SV × List Int)) : Prop where
  bel : Below w.heap.size w W
  bq : RqB W q0 q
  br : W.heap[r0]? = some (.cells (rsv n (sv ry) b) 26 (0, 0))
  ba : W.heap[ga]? = some (.cells P 31 (0, 0))
  xs : ∀ p ∈ X, p.2.2 ≠ 83 ∧ p.2.2 ≠ 87 ∧ W.heap[p.1]? = some (.cells p.2.1 p.2.2 (0, 0))
  fs : ∀ p ∈ F, R EFd W (sv p.1) p.2
  is : ∀ p ∈ I, R EI W (sv p.1) p.2
theorem Ew.below {w W W' : World} {q0 r0 ga : Nat} {q : Rq} {n : Int} {ry : SV} {b : ByteArray} {P : Array Value} {X : List (Nat × Array Value × TypeId)} {F : List (SV × List Fd)} {I : List (SV × List Int)} (h : Ew w W q0 r0 ga q n ry b P X F I) (hb : Below W.heap.size W W') : Ew w W' q0 r0 ga q n ry b P X F I :=
  ⟨h.bel.trans (hb.mono h.bel.size), h.bq.below hb, (hb.block _ (heap_lt h.br)).trans h.br, (hb.block _ (heap_lt h.ba)).trans h.ba, fun p hp => ⟨(h.xs p hp).1, (h.xs p hp).2.1, (hb.block _ (heap_lt (h.xs p hp).2.2)).trans (h.xs p hp).2.2⟩, fun p hp => (h.fs p hp).below hb, fun p hp => (h.is p hp).below hb⟩
theorem Ew.ks {w W W' : World} {q0 r0 ga : Nat} {q : Rq} {n : Int} {ry : SV} {b : ByteArray} {P : Array Value} {X : List (Nat × Array Value × TypeId)} {F : List (SV × List Fd)} {I : List (SV × List Int)} (h : Ew w W q0 r0 ga q n ry b P X F I) {g : Nat} {c : Ca} {y : SV} {L : List En} (hx : Cx W g c y L) (hk : Ks (Ow g y) W W') (hb : Below w.heap.size w W') : Ew w W' q0 r0 ga q n ry b P X F I := by
  refine ⟨hb, (hk.block _ (heap_lt h.bq) (hx.offb h.bq (by decide) (by decide))).trans h.bq, (hk.block _ (heap_lt h.br) (hx.offb h.br (by decide) (by decide))).trans h.br, (hk.block _ (heap_lt h.ba) (hx.offb h.ba (by decide) (by decide))).trans h.ba, fun p hp => ⟨(h.xs p hp).1, (h.xs p hp).2.1, (hk.block _ (heap_lt (h.xs p hp).2.2) (hx.offb (h.xs p hp).2.2 (h.xs p hp).1 (h.xs p hp).2.1)).trans (h.xs p hp).2.2⟩, fun p hp => (h.fs p hp).stays fun k hk' hl => hk.block k hl ?_, fun p hp => (h.is p hp).stays fun k hk' hl => hk.block k hl ?_⟩
  · obtain ⟨cc, hc⟩ := (h.fs p hp).ty k hk'
    exact hx.offb hc (by decide) (by decide)
  · obtain ⟨cc, hc⟩ := (h.is p hp).ty k hk'
    exact hx.offb hc (by decide) (by decide)
theorem Ew.addx {w W : World} {q0 r0 ga : Nat} {q : Rq} {n : Int} {ry : SV} {b : ByteArray} {P : Array Value} {X : List (Nat × Array Value × TypeId)} {F : List (SV × List Fd)} {I : List (SV × List Int)} (h : Ew w W q0 r0 ga q n ry b P X F I) (k : Nat) (cc : Array Value) (t : TypeId) (h1 : t ≠ 83) (h2 : t ≠ 87) (h3 : W.heap[k]? = some (.cells cc t (0, 0))) : Ew w W q0 r0 ga q n ry b P ((k, cc, t) :: X) F I :=
  ⟨h.bel, h.bq, h.br, h.ba, fun p hp => by
    rcases List.mem_cons.1 hp with rfl | hp
    · exact ⟨h1, h2, h3⟩
    · exact h.xs p hp, h.fs, h.is⟩
theorem Ew.addf {w W : World} {q0 r0 ga : Nat} {q : Rq} {n : Int} {ry : SV} {b : ByteArray} {P : Array Value} {X : List (Nat × Array Value × TypeId)} {F : List (SV × List Fd)} {I : List (SV × List Int)} (h : Ew w W q0 r0 ga q n ry b P X F I) (v : SV) (l : List Fd) (h3 : R EFd W (sv v) l) : Ew w W q0 r0 ga q n ry b P X ((v, l) :: F) I :=
  ⟨h.bel, h.bq, h.br, h.ba, h.xs, fun p hp => by
    rcases List.mem_cons.1 hp with rfl | hp
    · exact h3
    · exact h.fs p hp, h.is⟩
theorem Ew.addi {w W : World} {q0 r0 ga : Nat} {q : Rq} {n : Int} {ry : SV} {b : ByteArray} {P : Array Value} {X : List (Nat × Array Value × TypeId)} {F : List (SV × List Fd)} {I : List (SV × List Int)} (h : Ew w W q0 r0 ga q n ry b P X F I) (v : SV) (l : List Int) (h3 : R EI W (sv v) l) : Ew w W q0 r0 ga q n ry b P X F ((v, l) :: I) :=
  ⟨h.bel, h.bq, h.br, h.ba, h.xs, h.fs, fun p hp => by
    rcases List.mem_cons.1 hp with rfl | hp
    · exact h3
    · exact h.is p hp⟩
/-- the array, as far as it is filled -/
def arr (G : Nat → Nat) (i : Nat) : Array Value := #[if 0 < i then .pointer (some ⟨G 0, 0, none⟩) else .pointer none, if 1 < i then .pointer (some ⟨G 1, 0, none⟩) else .pointer none, if 2 < i then .pointer (some ⟨G 2, 0, none⟩) else .pointer none, if 3 < i then .pointer (some ⟨G 3, 0, none⟩) else .pointer none]
theorem arr_get (G : Nat → Nat) (i : Nat) (h : i < 4) : (arr G i)[i]? = some (.pointer none) := by
  have : i = 0 ∨ i = 1 ∨ i = 2 ∨ i = 3 := by omega
  rcases this with rfl | rfl | rfl | rfl <;> rfl
theorem arr_set (G : Nat → Nat) (i : Nat) (h : i < 4) (g : Nat) : (arr G i).setIfInBounds i (.pointer (some ⟨g, 0, none⟩)) = arr (fun j => if j = i then g else G j) (i + 1) := by
  have : i = 0 ∨ i = 1 ∨ i = 2 ∨ i = 3 := by omega
  rcases this with rfl | rfl | rfl | rfl <;> rfl
/-- the loop: i caches are made -/
structure Lp (w W : World) (q0 r0 ga : Nat) (q : Rq) (n : Int) (ry : SV) (b : ByteArray) (c : Ca) (OK : List En → Prop) (i : Nat) (G : Nat → Nat) (Y : Nat → SV) (LL : Nat → List En) (lo : Nat → Nat) : Prop where
  ew : Ew w W q0 r0 ga q n ry b (arr G i) [] [] []
  cx : ∀ j, j < i → Cx W (G j) c (Y j) (LL j)
  ins : ∀ j, j < i → ∀ k, Cb (G j) (Y j) (LL j) k → lo j ≤ k ∧ k < lo (j + 1)
  ok : ∀ j, j < i → OK (LL j)
  mo : ∀ j, j < i → lo j ≤ lo (j + 1)
  lt : lo i ≤ W.heap.size
  l0 : w.heap.size ≤ lo 0
  ga : ga < lo 0
theorem Lp.next {w wr W : World} {q0 r0 ga : Nat} {q : Rq} {n : Int} {ry : SV} {b : ByteArray} {c : Ca} {OK : List En → Prop} {i : Nat} {G : Nat → Nat} {Y : Nat → SV} {LL : Nat → List En} {lo : Nat → Nat} (h : Lp w wr q0 r0 ga q n ry b c OK i G Y LL lo) (hi : i < 4) {g : Nat} {y : SV} {L : List En} (hn : Rn wr W g c y L) (hok : OK L) (hg : w.heap.size ≤ ga) :
    Lp w (W.setCell ⟨ga, i, none⟩ (.pointer (some ⟨g, 0, none⟩))) q0 r0 ga q n ry b c OK (i + 1) (fun j => if j = i then g else G j) (fun j => if j = i then y else Y j) (fun j => if j = i then L else LL j) (fun j => if j = i + 1 then W.heap.size else lo j) := by
  have hE := h.ew.below hn.bel
  have hlo : lo 0 ≤ lo i := by
    have : ∀ j, j ≤ i → lo 0 ≤ lo j := fun j => by
      induction j with
      | zero => intro _; exact Nat.le_refl _
      | succ j ih => intro hj; exact Nat.le_trans (ih (by omega)) (h.mo j (by omega))
    exact this i (Nat.le_refl _)
  have hne : ∀ k, lo 0 ≤ k → k ≠ ga := fun k hk e => by have := h.ga; omega
  have hlk : ∀ j, j < i → lo 0 ≤ lo j := fun j => by
    induction j with
    | zero => intro _; exact Nat.le_refl _
    | succ j ih => intro hj; exact Nat.le_trans (ih (by omega)) (h.mo j (by omega))
  have hset : ∀ k, k ≠ ga → (W.setCell ⟨ga, i, none⟩ (.pointer (some ⟨g, 0, none⟩))).heap[k]? = W.heap[k]? := fun k hk => setCell_other _ _ _ _ _ hk
  refine ⟨⟨hE.bel.setCell (p := ⟨ga, i, none⟩) hg _, ?_, ?_, ?_, fun p hp => by simp at hp, fun p hp => by simp at hp, fun p hp => by simp at hp⟩, fun j hj => ?_, fun j hj => ?_, fun j hj => ?_, fun j hj => ?_, ?_, ?_, ?_⟩
  · have hb := hE.bq
    unfold RqB at hb ⊢
    rw [hset q0 (fun e => by rw [e, hE.ba] at hb; injection hb with hb; injection hb with _ hb; cases hb)]
    exact hb
  · have hb := hE.br
    rw [hset r0 (fun e => by rw [e, hE.ba] at hb; injection hb with hb; injection hb with _ hb; cases hb)]
    exact hb
  · rw [setCell_block _ _ _ _ _ _ _ hE.ba, arr_set G i hi g]
  · by_cases e : j = i
    · subst e
      simp only [if_true]
      exact hn.cx.keep fun k hk _ => hset k (hne k (by have := hn.lo k hk; have := h.lt; omega))
    · simp only [e, if_false]
      have hj' : j < i := by omega
      exact ((h.cx j hj').below hn.bel).keep fun k hk _ => hset k (hne k (by have := h.ins j hj' k hk; have := hlk j hj'; omega))
  · by_cases e : j = i
    · subst e
      simp only [if_true, show ¬ j = j + 1 by omega, if_false]
      intro k hk
      exact ⟨by have := hn.lo k hk; have := h.lt; omega, hn.cx.lt hk⟩
    · simp only [e, if_false, show ¬ j = i + 1 by omega, show ¬ j + 1 = i + 1 by omega]
      exact h.ins j (by omega)
  · by_cases e : j = i
    · subst e; simp only [if_true]; exact hok
    · simp only [e, if_false]; exact h.ok j (by omega)
  · by_cases e : j = i
    · subst e
      simp only [show ¬ j = j + 1 by omega, if_false, if_true]
      have := h.lt; have := hn.bel.size; omega
    · simp only [show ¬ j = i + 1 by omega, show ¬ j + 1 = i + 1 by omega, if_false]
      exact h.mo j (by omega)
  · simp [World.setCell]
  · simp only [show ¬ (0 : Nat) = i + 1 by omega, if_false]; exact h.l0
  · simp only [show ¬ (0 : Nat) = i + 1 by omega, if_false]; exact h.ga
theorem Lp.four {w W : World} {q0 r0 ga : Nat} {q : Rq} {n : Int} {ry : SV} {b : ByteArray} {c : Ca} {OK : List En → Prop} {G : Nat → Nat} {Y : Nat → SV} {LL : Nat → List En} {lo : Nat → Nat} (h : Lp w W q0 r0 ga q n ry b c OK 4 G Y LL lo) :
    C4 w W (lo 0) (lo 1) (lo 2) (lo 3) (lo 4) (G 0) c (Y 0) (LL 0) (G 1) c (Y 1) (LL 1) (G 2) c (Y 2) (LL 2) (G 3) c (Y 3) (LL 3) :=
  ⟨h.cx 0 (by omega), h.cx 1 (by omega), h.cx 2 (by omega), h.cx 3 (by omega), h.ins 0 (by omega), h.ins 1 (by omega), h.ins 2 (by omega), h.ins 3 (by omega), h.ew.bel, h.l0, h.mo 0 (by omega), h.mo 1 (by omega), h.mo 2 (by omega), h.mo 3 (by omega)⟩
end Go.Proofs.YtfponcdhaefkdaaDoor
/- CacheApart: two caches and rows of fields side by side. -/
namespace Go.Proofs.YtfponcdhaefkdaaDoor
open Go.RowKit
set_option linter.unusedVariables false
set_option linter.unusedSimpArgs false
def ownB (v : SV) (k : Nat) : Prop := (sv v).ownBlock = some k
structure Aw (w W : World) (gx : Nat) (cx : Ca) (yx : SV) (Lx : List En) (gy : Nat) (cy : Ca) (yy : SV) (Ly : List En) (X : List (Nat × Array Value × TypeId)) (F : List (SV × List Fd)) : Prop where
  x : Cx W gx cx yx Lx
  y : Cx W gy cy yy Ly
  xy : ∀ k, Cb gx yx Lx k → ¬ Cb gy yy Ly k
  bel : Below w.heap.size w W
  lx : ∀ k, Cb gx yx Lx k → w.heap.size ≤ k
  ly : ∀ k, Cb gy yy Ly k → w.heap.size ≤ k
  xs : ∀ p ∈ X, (p.2.2 ≠ 83 ∧ p.2.2 ≠ 87 ∧ p.2.2 ≠ 51) ∧ W.heap[p.1]? = some (.cells p.2.1 p.2.2 (0, 0))
  fs : ∀ p ∈ F, R EFd W (sv p.1) p.2 ∧ ∀ k, ownB p.1 k → w.heap.size ≤ k ∧ ¬ Cb gx yx Lx k ∧ ¬ Cb gy yy Ly k
  fa : F.Pairwise fun p q => ∀ k, ownB p.1 k → ¬ ownB q.1 k
theorem Aw.below {w W W' : World} {gx gy : Nat} {cx cy : Ca} {yx yy : SV} {Lx Ly : List En} {X : List (Nat × Array Value × TypeId)} {F : List (SV × List Fd)} (h : Aw w W gx cx yx Lx gy cy yy Ly X F) (hb : Below W.heap.size W W') : Aw w W' gx cx yx Lx gy cy yy Ly X F :=
  ⟨h.x.below hb, h.y.below hb, h.xy, h.bel.trans (hb.mono h.bel.size), h.lx, h.ly, fun p hp => ⟨(h.xs p hp).1, (hb.block _ (heap_lt (h.xs p hp).2)).trans (h.xs p hp).2⟩, fun p hp => ⟨(h.fs p hp).1.below hb, (h.fs p hp).2⟩, h.fa⟩
theorem Aw.turn {w W : World} {gx gy : Nat} {cx cy : Ca} {yx yy : SV} {Lx Ly : List En} {X : List (Nat × Array Value × TypeId)} {F : List (SV × List Fd)} (h : Aw w W gx cx yx Lx gy cy yy Ly X F) : Aw w W gy cy yy Ly gx cx yx Lx X F :=
  ⟨h.y, h.x, fun k hk hx => h.xy k hx hk, h.bel, h.ly, h.lx, h.xs, fun p hp => ⟨(h.fs p hp).1, fun k hk => ⟨((h.fs p hp).2 k hk).1, ((h.fs p hp).2 k hk).2.2, ((h.fs p hp).2 k hk).2.1⟩⟩, h.fa⟩
theorem Aw.opx {w W W' : World} {gx gy : Nat} {cx cy c' : Ca} {yx yy z : SV} {Lx Ly M : List En} {X : List (Nat × Array Value × TypeId)} {F : List (SV × List Fd)} (h : Aw w W gx cx yx Lx gy cy yy Ly X F) (hk : Ks (Ow gx yx) W W') (hx : Cx W' gx c' z M) (hl : ∀ k, Cb gx z M k → Cb gx yx Lx k ∨ W.heap.size ≤ k) : Aw w W' gx c' z M gy cy yy Ly X F := by
  have hno : ∀ k, k < W.heap.size → ¬ Cb gx yx Lx k → ¬ Cb gx z M k := fun k hkl hn hc => by
    rcases hl k hc with e | e
    · exact hn e
    · omega
  refine ⟨hx, h.y.keep fun k hk' hl' => hk.block k hl' fun ho => h.xy k (.inl ho) hk', fun k hk' hy => ?_, h.bel.trans (hk.below h.bel.size fun i hi ho => by have := h.lx i (.inl ho); omega), fun k hk' => ?_, h.ly, fun p hp => ⟨(h.xs p hp).1, (hk.block _ (heap_lt (h.xs p hp).2) (h.x.offb (h.xs p hp).2 (h.xs p hp).1.1 (h.xs p hp).1.2.1)).trans (h.xs p hp).2⟩, fun p hp => ⟨(h.fs p hp).1.stays fun k hk' hl' => hk.block k hl' fun ho => ((h.fs p hp).2 k hk').2.1 (.inl ho), fun k hk' => ⟨((h.fs p hp).2 k hk').1, hno k ((h.fs p hp).1.lt k hk') ((h.fs p hp).2 k hk').2.1, ((h.fs p hp).2 k hk').2.2⟩⟩, h.fa⟩
  · exact hno k (h.y.lt hy) (fun hc => h.xy k hc hy) hk'
  · rcases hl k hk' with e | e
    · exact h.lx k e
    · exact Nat.le_trans h.bel.size e
/-- a row of fields is written, or grows -/
theorem Aw.row {w W W' : World} {gx gy : Nat} {cx cy : Ca} {yx yy : SV} {Lx Ly : List En} {X : List (Nat × Array Value × TypeId)} {v : SV} {l : List Fd} {F : List (SV × List Fd)} (h : Aw w W gx cx yx Lx gy cy yy Ly X ((v, l) :: F)) (hk : Ks (ownB v) W W') : Aw w W' gx cx yx Lx gy cy yy Ly X F := by
  have hv := h.fs (v, l) (by simp)
  have hp := List.pairwise_cons.1 h.fa
  refine ⟨h.x.keep fun k hk' hl => hk.block k hl fun ho => (hv.2 k ho).2.1 hk', h.y.keep fun k hk' hl => hk.block k hl fun ho => (hv.2 k ho).2.2 hk', h.xy, h.bel.trans (hk.below h.bel.size fun i hi ho => by have := (hv.2 i ho).1; omega), h.lx, h.ly, fun p hp' => ⟨(h.xs p hp').1, (hk.block _ (heap_lt (h.xs p hp').2) fun ho => ?_).trans (h.xs p hp').2⟩, fun p hp' => ⟨(h.fs p (by simp [hp'])).1.stays fun k hk' hl => hk.block k hl fun ho => hp.1 p hp' k ho hk', (h.fs p (by simp [hp'])).2⟩, hp.2⟩
  obtain ⟨cc, hc⟩ := hv.1.ty _ ho
  have h2 := (h.xs p hp').2
  rw [hc] at h2
  injection h2 with h2
  injection h2 with _ h2
  exact (h.xs p hp').1.2.2 h2.symm
theorem Aw.put {w W : World} {gx gy : Nat} {cx cy : Ca} {yx yy : SV} {Lx Ly : List En} {X : List (Nat × Array Value × TypeId)} {F : List (SV × List Fd)} (h : Aw w W gx cx yx Lx gy cy yy Ly X F) (v : SV) (l : List Fd) (hR : R EFd W (sv v) l) (hv : ∀ k, ownB v k → w.heap.size ≤ k ∧ ¬ Cb gx yx Lx k ∧ ¬ Cb gy yy Ly k) (hF : ∀ p ∈ F, ∀ k, ownB v k → ¬ ownB p.1 k) : Aw w W gx cx yx Lx gy cy yy Ly X ((v, l) :: F) :=
  ⟨h.x, h.y, h.xy, h.bel, h.lx, h.ly, h.xs, fun p hp => by
    rcases List.mem_cons.1 hp with rfl | hp
    · exact ⟨hR, hv⟩
    · exact h.fs p hp, List.pairwise_cons.2 ⟨fun p hp k hk => hF p hp k hk, h.fa⟩⟩
/-- a row that is new -/
theorem Aw.fresh {w W W' : World} {gx gy : Nat} {cx cy : Ca} {yx yy : SV} {Lx Ly : List En} {X : List (Nat × Array Value × TypeId)} {F : List (SV × List Fd)} (h : Aw w W gx cx yx Lx gy cy yy Ly X F) (hb : Below W.heap.size W W') (v : SV) (l : List Fd) (hR : R EFd W' (sv v) l) (hv : ∀ k, ownB v k → W.heap.size ≤ k) : Aw w W' gx cx yx Lx gy cy yy Ly X ((v, l) :: F) :=
  (h.below hb).put v l hR (fun k hk => ⟨Nat.le_trans h.bel.size (hv k hk), fun hc => by have := h.x.lt hc; have := hv k hk; omega, fun hc => by have := h.y.lt hc; have := hv k hk; omega⟩) (fun p hp k hk hk' => by have := (h.fs p hp).1.lt k hk'; have := hv k hk; omega)
theorem Aw.swap {w W : World} {gx gy : Nat} {cx cy : Ca} {yx yy : SV} {Lx Ly : List En} {X : List (Nat × Array Value × TypeId)} {p q : SV × List Fd} {F : List (SV × List Fd)} (h : Aw w W gx cx yx Lx gy cy yy Ly X (p :: q :: F)) : Aw w W gx cx yx Lx gy cy yy Ly X (q :: p :: F) := by
  have h1 := List.pairwise_cons.1 h.fa
  have h2 := List.pairwise_cons.1 h1.2
  refine ⟨h.x, h.y, h.xy, h.bel, h.lx, h.ly, h.xs, fun r hr => h.fs r (by simp only [List.mem_cons] at hr ⊢; rcases hr with h | h | h <;> simp [h]), List.pairwise_cons.2 ⟨fun r hr k hk hk' => ?_, List.pairwise_cons.2 ⟨fun r hr => h1.1 r (by simp [hr]), h2.2⟩⟩⟩
  rcases List.mem_cons.1 hr with rfl | hr
  · exact h1.1 q (by simp) k hk' hk
  · exact h2.1 r hr k hk hk'
theorem Aw.box {w W : World} {gx gy : Nat} {cx cy : Ca} {yx yy : SV} {Lx Ly : List En} {X : List (Nat × Array Value × TypeId)} {F : List (SV × List Fd)} (h : Aw w W gx cx yx Lx gy cy yy Ly X F) (k : Nat) (cc : Array Value) (t : TypeId) (h1 : t ≠ 83 ∧ t ≠ 87 ∧ t ≠ 51) (h2 : W.heap[k]? = some (.cells cc t (0, 0))) : Aw w W gx cx yx Lx gy cy yy Ly ((k, cc, t) :: X) F :=
  ⟨h.x, h.y, h.xy, h.bel, h.lx, h.ly, fun p hp => by
    rcases List.mem_cons.1 hp with rfl | hp
    · exact ⟨h1, h2⟩
    · exact h.xs p hp, h.fs, h.fa⟩
end Go.Proofs.YtfponcdhaefkdaaDoor
/- CacheApart: what its calls do. -/
namespace Go.Proofs.YtfponcdhaefkdaaDoor
open Go.RowKit
set_option linter.unusedVariables false
set_option linter.unusedSimpArgs false
theorem drop_none {α : Type} {p : α → Bool} {l : List α} (h : ∀ e ∈ l, p e = false) : l.dropWhile p = l ∧ l.takeWhile p = [] := by
  cases l with
  | nil => exact ⟨rfl, rfl⟩
  | cons x r =>
    have := h x (by simp)
    exact ⟨by rw [List.dropWhile_cons_of_neg (by rw [this]; simp)], by rw [List.takeWhile_cons_of_neg (by rw [this]; simp)]⟩
theorem ev_none {c : Ca} {z : Nat} {L : List En} (h : lkB c L z = false) : evL c z L = L := by
  cases L with
  | nil => rfl
  | cons x r => unfold evL; rw [h]; rfl
theorem Aw.storex {w W : World} {gx gy : Nat} {cx cy : Ca} {yx yy : SV} {Lx Ly : List En} {X : List (Nat × Array Value × TypeId)} {F : List (SV × List Fd)} (h : Aw w W gx cx yx Lx gy cy yy Ly X F) {q : Rq} {Q : List Fd} {n : Int} {ry : SV} {b : ByteArray} {fr : List Fd} (hQ : ∀ V, Ks (Ow gx yx) W V → In EFd V (sv q.y) Q) (hR : ∀ V, Ks (Ow gx yx) W V → In EFd V (sv ry) fr) (hz : Az q Q b fr) (hs : starB fr = false) (st t : Int) (ht : t ≤ 9223372036854775807) (hl : (Lx.length : Int) < cx.me) (hm : ((totL Lx + (b.size + szL fr) : Nat) : Int) ≤ cx.mb) (hx : ∀ e ∈ Lx, exB (hr cx t) e = false) :
    Calls Tryd.prog 11 #[.pointer (some ⟨gx, 0, none⟩), .agg (rqv q), .agg (rsv n (sv ry) b), .int .i64 st, .int .i64 t] W fun r w' => ∃ (u : Value) (z : SV) (e : En), r = .returned u ∧ Aw w w' gx (hr cx t) z (Lx ++ [e]) gy cy yy Ly X F ∧ Ee e q Q n b fr st (hr cx t).ck := by
  refine (store_any W gx cx yx Lx h.x q Q n ry b fr st t ht hQ hR hz.zq hz.zQ hz.zQf hz.zb hz.zR hz.zRf (by have := hz.zS; omega) hz.zN).mono ?_
  have e2 : decide ((hr cx t).mb < ((b.size + szL fr : Nat) : Int)) = false := decide_eq_false (by show ¬ cx.mb < _; omega)
  have e3 : decide ((hr cx t).me = 0) = false := decide_eq_false (by show ¬ cx.me = 0; omega)
  have e1 : noB (hr cx t) b fr = false := by unfold noB; rw [e2, e3, hs]; rfl
  have el : lkB (hr cx t) Lx (b.size + szL fr) = false := by
    unfold lkB
    rw [decide_eq_false (show ¬ (hr cx t).me ≤ (Lx.length : Int) by show ¬ cx.me ≤ _; omega), decide_eq_false (show ¬ (hr cx t).mb < _ by show ¬ cx.mb < _; omega)]
    rfl
  intro r w' hS
  unfold stP at hS
  rw [e1, (drop_none hx).1, (drop_none hx).2, ev_none el] at hS
  rcases hS with ⟨h1, _⟩ | ⟨_, gs, y1, y2, y3, z, rfl, hx', hz', hk, _, _, hn⟩
  · cases h1
  · refine ⟨_, z, _, rfl, h.opx hk hx' fun k hk' => ?_, ⟨rfl, rfl, rfl, rfl, rfl, rfl, rfl, rfl, rfl⟩⟩
    rcases hk' with (rfl | hk') | ⟨e, he, hk'⟩
    · exact .inl (.inl (.inl rfl))
    · rcases hz' k hk' with e | e
      · exact .inl (.inl (.inr e))
      · exact .inr e
    · rcases List.mem_append.1 he with he | he
      · exact .inl (.inr ⟨e, he, hk'⟩)
      · rw [List.mem_singleton.1 he] at hk'
        exact .inr (hn k hk')
theorem Aw.claimx {w W : World} {gx gy : Nat} {cx cy : Ca} {yx yy : SV} {e : En} {M Ly : List En} {X : List (Nat × Array Value × TypeId)} {F : List (SV × List Fd)} (h : Aw w W gx cx yx (e :: M) gy cy yy Ly X F) {q0 q : Rq} {Q : List Fd} {n : Int} {b : ByteArray} {fr : List Fd} {st ar : Int} (he : Ee e q0 Q n b fr st ar) (hq : hdL q = hdL q0) (hb : q.b = ⟨#[]⟩) (zQ : Q.length ≤ 1099511627776) (hQg : ∀ V, Ks (fun k => k = gx) W V → In EFd V (sv q.y) Q) (t : Int) (ht : t ≤ 9223372036854775807) (hx : ¬ cx.lf < max cx.ck t - ar) :
    Calls Tryd.prog 13 #[.pointer (some ⟨gx, 0, none⟩), .agg (rqv q), .int .i64 t] W fun r w' => ∃ v z : SV, r = .returned (.tuple #[.agg (rsv n (sv v) b), .int .i64 st, .bool true]) ∧ Aw w w' gx (hr cx t) z M gy cy yy Ly X ((v, fr) :: F) := by
  refine (claim_any W gx cx yx (e :: M) h.x q Q zQ hQg t ht).mono ?_
  have ha : anB (hr cx t) q Q e = true := by
    unfold anB exB
    rw [he.mt, hb, he.ar]
    have h1 : mtB q0 q Q Q (nmF fr) = true := by unfold mtB mtL eqB; rw [hq]; simp
    have h2 : decide ((hr cx t).lf < (hr cx t).ck - ar) = false := decide_eq_false hx
    rw [h1, h2]
    simp
  have hi : (e :: M).findIdx? (anB (hr cx t) q Q) = some 0 := by simp [List.findIdx?_cons, ha]
  rw [hi]
  rintro r w' (⟨h1, _⟩ | ⟨i, hil, h1, rfl, z, h2, h3, h4, h5⟩)
  · cases h1
  · injection h1 with h1
    subst h1
    simp only [List.getElem_cons_zero, List.eraseIdx_cons_zero] at h2 h5 ⊢
    rw [he.rn, he.rb, he.st]
    have hr5 := h5.r
    rw [he.rf] at hr5
    have hap := List.pairwise_cons.1 h.x.ap
    have hEr := h.x.er e (by simp)
    have hA := h.opx h4 h2 fun k hk => .inl (cb_sub h3 (fun e' he' => by simp [he']) hk)
    refine ⟨e.ry, z, rfl, hA.put e.ry fr hr5 (fun k hk => ?_) (fun p hp k hk hk' => ((h.fs p hp).2 k hk').2.1 (.inr ⟨e, by simp, .inr (.inr hk)⟩))⟩
    have hCb : Cb gx yx (e :: M) k := .inr ⟨e, by simp, .inr (.inr hk)⟩
    refine ⟨h.lx k hCb, fun hc => ?_, h.xy k hCb⟩
    rcases hc with hc | ⟨e', he', hc⟩
    · exact h.x.off hEr (.inr (.inr hk)) (by rw [← ow_eq h3]; exact hc)
    · exact hap.1 e' he' k (.inr (.inr hk)) hc
theorem Aw.tickx {w W : World} {gx gy : Nat} {cx cy : Ca} {yx yy : SV} {e : En} {Ly : List En} {X : List (Nat × Array Value × TypeId)} {F : List (SV × List Fd)} (h : Aw w W gx cx yx [e] gy cy yy Ly X F) (t : Int) (ht : t ≤ 9223372036854775807) (hx : cx.lf < max cx.ck t - e.ar) :
    Calls Tryd.prog 10 #[.pointer (some ⟨gx, 0, none⟩), .int .i64 t] W fun r w' => ∃ gs z : SV, r = .returned (sv gs) ∧ R EI w' (sv gs) [e.st] ∧ (∀ k, ownB gs k → W.heap.size ≤ k) ∧ Aw w w' gx (hr cx t) z [] gy cy yy Ly X F ∧ Ks (Ow gx yx) W w' := by
  refine (tick_any W gx cx yx [e] h.x t ht).mono ?_
  rintro r w' ⟨gs, rfl, hT⟩
  have hb : exB (hr cx t) e = true := decide_eq_true hx
  simp only [List.dropWhile_cons, List.takeWhile_cons, hb, if_true, List.dropWhile_nil, List.takeWhile_nil, List.map_cons, List.map_nil] at hT
  obtain ⟨z, h1, h2⟩ := hT.cx
  exact ⟨gs, z, rfl, hT.gone, hT.new, h.opx hT.ks h1 (fun k hk => .inl (cb_sub h2 (by simp) hk)), hT.ks⟩
theorem R.front {α : Type} {E : El α} (ok : E.Ok) {w : World} {base : Option Addr} {cap : Nat} {l r : List α} (h : R E w (.slice base (l.length + r.length) cap) (l ++ r)) (h0 : 0 < (l ++ r).length) : R E w (.slice base l.length cap) l := by
  rcases h.2 with ⟨_, h1⟩ | ⟨g, cap', cur, hv, hb, hg, hn, hm, hs, ht⟩
  · omega
  · injection hv with e1 e2 e3
    subst e1 e3
    rw [List.length_append] at hn
    refine ⟨by rw [ok.length], .inr ⟨g, cap, cur, rfl, hb, hg, by omega, hm, hs, ?_⟩⟩
    have e : cur.toList.take (l.length * E.sz) = (cur.toList.take ((l ++ r).length * E.sz)).take (l.length * E.sz) := by
      rw [List.take_take, Nat.min_eq_left (by rw [List.length_append]; exact Nat.mul_le_mul_right _ (by omega))]
    rw [e, ht, El.cs_append, ← ok.length l, List.take_left']
    rfl
/-- two fields more, behind a row that stays as it was -/
theorem app_both {W : World} {o : Value} {l : List Fd} (hR : R EFd W o l) (B : Nat) (x1 x2 : Fd) (hB : W.heap[B]? = some (.cells #[.string x1.n, .string x1.v, .bool x1.nv, .string x2.n, .string x2.v, .bool x2.nv] 51 (0, 0))) (hl : l.length ≤ 1099511627776) :
    ∃ base cap w', (Builtin.append_ #[22, 22] 22 #[o, .slice (some ⟨B, 0, none⟩) 2 2]).run Tryd.prog W = .ok (.slice base (l.length + 2) cap) w' ∧ R EFd w' (.slice base (l.length + 2) cap) (l ++ [x1, x2]) ∧ R EFd w' o l ∧ Gr W w' o (.slice base (l.length + 2) cap) := by
  have hin : R EFd W (.slice (some ⟨B, 0, none⟩) 2 2) [x1, x2] := R.whole okFd (c := #[.string x1.n, .string x1.v, .bool x1.nv, .string x2.n, .string x2.v, .bool x2.nv]) [x1, x2] (by simp) hB rfl
  obtain ⟨base, cap, w', hrun, hP, hG⟩ := app okFd W o l hR (.slice (some ⟨B, 0, none⟩) 2 2) [x1, x2] hin.isIn (by simp only [EFd, List.length_cons, List.length_nil]; omega)
  have el : l.length + [x1, x2].length = l.length + 2 := rfl
  rw [el] at hrun hP hG
  replace hrun : (Builtin.append_ #[22, 22] 22 #[o, .slice (some ⟨B, 0, none⟩) 2 2]).run Tryd.prog W = .ok (.slice base (l.length + 2) cap) w' := hrun
  refine ⟨base, cap, w', hrun, hP, ?_, hG⟩
  rcases hR.2 with ⟨rfl, h0⟩ | ⟨g, cap0, cur, rfl, _, hgg, hnc, _, hcs, _⟩
  · obtain rfl := List.eq_nil_of_length_eq_zero h0
    exact R.nil EFd _
  · obtain ⟨i0, z, hi0, hz0, hz1, hz2, hz3⟩ := info_z okFd
    have hcell : ∀ j u, (EFd.cs [x1, x2])[j]? = some u → W.cell? ((⟨B, 0, none⟩ : Addr).add j) = some u := by
      intro j u hj
      rw [Addr.add_lit, cell_blk hB, Nat.zero_add]
      have e : (#[.string x1.n, .string x1.v, .bool x1.nv, .string x2.n, .string x2.v, .bool x2.nv] : Array Value).toList = EFd.cs [x1, x2] := rfl
      rw [← Array.getElem?_toList, e]
      exact hj
    by_cases hroom : l.length + 2 ≤ cap0
    · have hr := run_append_room (P := Tryd.prog) W 22 22 51 i0 Tryd.underlying22 hi0 g l.length cap0 cur hgg ⟨B, 0, none⟩ 2 2 (EFd.cs [x1, x2]) (by rw [hz1]; rfl) hcell (okFd.ones _) hroom (by rw [hcs, hz1, okFd.length]; simp [EFd]; omega)
      rw [hrun] at hr
      injection hr with hr _
      injection hr with e1 e2 e3
      subst e1
      subst e3
      exact R.front okFd (r := [x1, x2]) hP (by simp)
    · have hr := run_append_grow (P := Tryd.prog) W 22 22 51 i0 z Tryd.underlying22 hi0 hz0 ⟨g, 0, none⟩ l.length cap0 (EFd.cs l) (by rw [okFd.length, hz1]) (World.ownsRow.cells hR (g := g) rfl) ⟨B, 0, none⟩ 2 2 (EFd.cs [x1, x2]) (by rw [hz1]; rfl) hcell (by omega) (by omega) (growslice_fits (by omega) (by rw [hz2]; simp [EFd]; omega))
      rw [hrun] at hr
      injection hr with hr hw
      subst hw
      refine hR.stays fun k hk hlt => ?_
      rw [heap_al, if_neg (by rw [size_dr]; omega), heap_dr]
theorem Aw.rowKeep {w W W' : World} {gx gy : Nat} {cx cy : Ca} {yx yy : SV} {Lx Ly : List En} {X : List (Nat × Array Value × TypeId)} {v : SV} {l : List Fd} {F : List (SV × List Fd)} (h : Aw w W gx cx yx Lx gy cy yy Ly X ((v, l) :: F)) (hk : Ks (ownB v) W W') (l' : List Fd) (hR : R EFd W' (sv v) l') : Aw w W' gx cx yx Lx gy cy yy Ly X ((v, l') :: F) :=
  (h.row hk).put v l' hR (fun k hk' => (h.fs (v, l) (by simp)).2 k hk') (fun p hp k hk' => (List.pairwise_cons.1 h.fa).1 p hp k hk')
theorem tick_nil {W : World} {g : Nat} {c : Ca} {y : SV} (h : Cx W g c y []) (t : Int) (ht : t ≤ 9223372036854775807) : Calls Tryd.prog 10 #[.pointer (some ⟨g, 0, none⟩), .int .i64 t] W fun r w' => ∃ u1 u3, r = .returned (.slice u1 0 u3) ∧ Ks (Ow g y) W w' := by
  refine (tick_any W g c y [] h t ht).mono ?_
  rintro r w' ⟨⟨u1, u2, u3⟩, rfl, hT⟩
  have h2 := (slice_len hT.gone.isIn).1
  simp only [List.takeWhile_nil, List.map_nil, List.length_nil] at h2
  rw [h2]
  exact ⟨u1, u3, rfl, hT.ks⟩
theorem R.zero {w : World} {u1 : Option Addr} {u2 u3 : Nat} {n : Int} {l : List Int} (h : R EI w (.slice u1 u2 u3) (n :: l)) : ∃ g, u1 = some ⟨g, 0, none⟩ ∧ w.cell? ⟨g, 0, none⟩ = some (.int .i64 n) ∧ w.frozen? ⟨g, 0, none⟩ = false ∧ (∃ cc, w.heap[g]? = some (.cells cc 2 (0, 0))) ∧ ∀ m : Int, R EI (w.setCell ⟨g, 0, none⟩ (.int .i64 m)) (.slice (some ⟨g, 0, none⟩) u2 u3) (m :: l) := by
  obtain ⟨g, cap, e, _, _, _, _, g3, g4, g5⟩ := h.setc okI 0 0 (by simp) (by decide)
  injection e with e1 e2 e3
  subst e1
  exact ⟨g, rfl, g3 0 _ rfl, g4 0, h.ty g rfl, fun m => g5 (.int .i64 m) m rfl⟩
end Go.Proofs.YtfponcdhaefkdaaDoor
