/- VaryFields, walked. -/
import Derived.Test.YtckdldbheejmhaaDoorD3
import Derived.Deep.Cut
import Derived.Deep.CutRange
import Derived.Deep.RegionHeld3
namespace Go.Proofs.YtckdldbheejmhaaDoor
open Go.RowKit
set_option linter.unusedVariables false
set_option linter.unusedSimpArgs false

/-- the place that a number tells among n + 1 -/
def atN (at' : Int) (n : Nat) : Nat := ((at' % 18446744073709551616) % ((n : Int) + 1)).toNat
theorem atN_le (at' : Int) (n : Nat) : atN at' n ≤ n := by
  unfold atN
  have h1 := Int.emod_lt_of_pos (at' % 18446744073709551616) (show (0 : Int) < (n : Int) + 1 by omega)
  have h2 := Int.emod_nonneg (at' % 18446744073709551616) (show ((n : Int) + 1) ≠ 0 by omega)
  omega
theorem atN_eq (at' : Int) (n : Nat) (hn : n ≤ 3518437208781) : wrap64 ((IntKind.u64.wrap at').tmod ((n : Int) + 1)) = ((atN at' n : Nat) : Int) := by
  have h2 := Int.emod_nonneg (at' % 18446744073709551616) (show ((n : Int) + 1) ≠ 0 by omega)
  have h1 := Int.emod_lt_of_pos (at' % 18446744073709551616) (show (0 : Int) < (n : Int) + 1 by omega)
  have h3 : IntKind.u64.wrap at' = at' % 18446744073709551616 := by rw [IntKind.wrap_u64]
  rw [h3, Int.tmod_eq_emod_of_nonneg (Int.emod_nonneg _ (by decide))]
  unfold atN
  rw [Int.toNat_of_nonneg h2]
  unfold wrap64
  omega
/-- a request's fields set anew -/
theorem RqB.setY {w : World} {g : Nat} {q : Rq} (h : RqB w g q) (y : SV) : RqB (w.setCell ⟨g, 4, none⟩ (.slice y.1 y.2.1 y.2.2)) g { q with y := y } := by
  unfold RqB at *
  rw [setCell_block _ _ _ _ _ _ _ h]
  rfl
/-- what was laid behind a request's fields -/
theorem RqB.app {w3 W : World} {g : Nat} {q : Rq} {L news : List Fd} (h : RqB W g q) (hg : w3.heap.size ≤ g) (hD : Below w3.heap.size w3 W) (hR : R EFd W (sv q.y) L) (ho : ∀ k, (sv q.y).ownBlock = some k → w3.heap.size ≤ k) (v : Value) (hv : In EFd W v news) (hl : (L.length + news.length) * 40 ≤ 140737488355328) :
    ∃ b c W', (Builtin.append_ #[22, 22] 22 #[sv q.y, v]).run Tryd.prog W = .ok (.slice b (L.length + news.length) c) W' ∧ RqB W' g q ∧ RqB (W'.setCell ⟨g, 4, none⟩ (.slice b (L.length + news.length) c)) g { q with y := (b, L.length + news.length, c) } ∧ R EFd (W'.setCell ⟨g, 4, none⟩ (.slice b (L.length + news.length) c)) (.slice b (L.length + news.length) c) (L ++ news) ∧ Below w3.heap.size w3 (W'.setCell ⟨g, 4, none⟩ (.slice b (L.length + news.length) c)) ∧ (∀ k, (Value.slice b (L.length + news.length) c).ownBlock = some k → w3.heap.size ≤ k) ∧ ∀ k, k < W.heap.size → k ≠ g → (sv q.y).ownBlock ≠ some k → (W'.setCell ⟨g, 4, none⟩ (.slice b (L.length + news.length) c)).heap[k]? = W.heap[k]? := by
  obtain ⟨b, c, W', e1, e2, e3⟩ := Go.Proofs.YtckdldbheejmhaaDoor.app okFd W _ _ hR v news hv hl
  have hng : (sv q.y).ownBlock ≠ some g := fun e => by
    obtain ⟨x, hx⟩ := hR.ty g e
    unfold RqB at h
    rw [h] at hx
    simp [EFd] at hx
  have h' : RqB W' g q := (e3.block g (heap_lt h) hng).trans h
  have hset : ∀ k, k ≠ g → (W'.setCell ⟨g, 4, none⟩ (.slice b (L.length + news.length) c)).heap[k]? = W'.heap[k]? := fun k hk => setCell_other _ _ _ _ _ hk
  refine ⟨b, c, W', e1, h', h'.setY (b, L.length + news.length, c), R.stays e2 fun k hk _ => hset k fun e => ?_, (hD.trans (e3.belowB hD.size ho)).setCell (p := ⟨g, 4, none⟩) hg _, fun k hk => ?_, fun k h1 h2 h3 => (hset k h2).trans (e3.block k h1 h3)⟩
  · obtain ⟨x, hx⟩ := R.ty e2 k hk
    unfold RqB at h'
    rw [e, h'] at hx
    simp [EFd] at hx
  · rcases e3.own k hk with e | e
    · exact ho k e
    · exact Nat.le_trans hD.size e
theorem add_add' (a : Addr) (x y : Nat) : (a.add x).add y = a.add (x + y) := by
  unfold Addr.add
  by_cases hx : x = 0
  · by_cases hy : y = 0 <;> simp [hx, hy]
  · by_cases hy : y = 0
    · simp [hx, hy]
    · have : x + y ≠ 0 := by omega
      simp [hx, hy, this, Nat.add_assoc]
theorem in_back {α : Type} {E : El α} (ok : E.Ok) {w : World} {b : Option Addr} {n cap : Nat} {l : List α} (h : In E w (.slice b n cap) l) (k : Nat) (hk : k ≤ l.length) : In E w (.slice (if cap = k then b else Option.map (fun x => x.add (k * E.sz)) b) (l.length - k) (cap - k)) (l.drop k) := by
  rcases h with ⟨h, h'⟩ | ⟨a, cap', e, h1, h2, h3⟩
  · subst h'
    have : k = 0 := by simpa using hk
    subst this
    injection h with e1 e2 e3
    subst e1 e3
    exact .inl ⟨by simp, rfl⟩
  · injection e with e1 e2 e3
    subst e1 e3
    by_cases hc : cap = k
    · rw [if_pos hc]
      have hlk : l.length = k := by omega
      refine .inr ⟨a, cap - k, by rw [List.length_drop], by rw [List.length_drop]; omega, by omega, fun j u hu => ?_⟩
      rw [List.drop_of_length_le (by omega)] at hu
      simp [El.cs] at hu
    · rw [if_neg hc]
      refine .inr ⟨a.add (k * E.sz), cap - k, by rw [List.length_drop]; rfl, by rw [List.length_drop]; omega, by omega, fun j u hu => ?_⟩
      rw [add_add']
      refine h3 _ _ ?_
      have hsp : E.cs l = E.cs (l.take k) ++ E.cs (l.drop k) := by rw [← El.cs_append, List.take_append_drop]
      have hl : (E.cs (l.take k)).length = k * E.sz := by rw [ok.length, List.length_take, Nat.min_eq_left hk]
      rw [hsp, List.getElem?_append_right (by omega), hl]
      have : k * E.sz + j - k * E.sz = j := by omega
      rw [this]
      exact hu
structure Qs (w3 : World) (g : Nat) (q : Rq) (L : List Fd) (W : World) : Prop where
  bx : RqB W g q
  row : R EFd W (sv q.y) L
  bel : Below w3.heap.size w3 W
  own : ∀ k, (sv q.y).ownBlock = some k → w3.heap.size ≤ k
theorem Qs.drew {w3 : World} {g : Nat} {q : Rq} {L : List Fd} {W W' : World} (h : Qs w3 g q L W) (hb : Below W.heap.size W W') : Qs w3 g q L W' := ⟨h.bx.below hb, h.row.below hb, h.bel.trans (hb.mono h.bel.size), h.own⟩
theorem Qs.app {w3 : World} {g : Nat} {q : Rq} {L news : List Fd} {W : World} (h : Qs w3 g q L W) (hg : w3.heap.size ≤ g) (v : Value) (hv : In EFd W v news) (hl : (L.length + news.length) * 40 ≤ 140737488355328) :
    ∃ b c W', Hid ((Builtin.append_ #[22, 22] 22 #[.slice q.y.1 q.y.2.1 q.y.2.2, v]).run Tryd.prog W = .ok (.slice b (L.length + news.length) c) W') ∧ W'.cell? ⟨g, 4, none⟩ = some (.slice q.y.1 q.y.2.1 q.y.2.2) ∧ W'.frozen? ⟨g, 4, none⟩ = false ∧ g < W'.heap.size ∧ Hid (Qs w3 g { q with y := (b, L.length + news.length, c) } (L ++ news) (W'.setCell ⟨g, 4, none⟩ (.slice b (L.length + news.length) c))) := by
  obtain ⟨b, c, W', a1, a2, a3, a4, a5, a6, _⟩ := h.bx.app hg h.bel h.row h.own v hv hl
  exact ⟨b, c, W', a1, cell_blk a2 4, frozen_blk a2 4, heap_lt a2, a3, a4, a5, a6⟩
theorem in_front {α : Type} {E : El α} {w : World} {b : Option Addr} {n cap : Nat} {l : List α} (h : In E w (.slice b n cap) l) (k : Nat) (hk : k ≤ l.length) : In E w (.slice b k cap) (l.take k) := by
  rcases h with ⟨h, h'⟩ | ⟨a, cap', e, h1, h2, h3⟩
  · subst h'
    have : k = 0 := by simpa using hk
    subst this
    injection h with e1 e2 e3
    subst e1 e3
    exact .inl ⟨rfl, rfl⟩
  · injection e with e1 e2 e3
    subst e1 e3
    refine .inr ⟨a, cap, ?_, by rw [List.length_take]; omega, h2, fun j u hu => h3 j u ?_⟩
    · rw [List.length_take, Nat.min_eq_left hk]
    · have hsp : E.cs l = E.cs (l.take k) ++ E.cs (l.drop k) := by rw [← El.cs_append, List.take_append_drop]
      rw [hsp, List.getElem?_append_left (List.getElem?_eq_some_iff.1 hu).1]
      exact hu
/-- an empty row, made -/
theorem R.zero {α : Type} {E : El α} {w : World} {g : Nat} (h : w.heap[g]? = some (.cells #[] E.e (0, 0))) : R E w (.slice (some ⟨g, 0, none⟩) 0 0) ([] : List α) := by
  refine ⟨by simp [El.cs], .inr ⟨g, 0, #[], rfl, Nat.zero_le _, h, Nat.le_refl _, by decide, by simp, ?_⟩⟩
  simp [El.cs]
/-- a request's fields copied, and set -/
theorem Qs.copied {w9 v9 : World} {q : Rq} {news : List Fd} (hb : Below w9.heap.size w9 v9) (h : RqB v9 w9.heap.size q) (v : Value) (hv : ∀ W, Below v9.heap.size v9 W → In EFd W v news) (hl : news.length * 40 ≤ 140737488355328) :
    ∃ b c W', Hid ((Builtin.append_ #[22, 22] 22 #[.slice (some ⟨v9.heap.size, 0, none⟩) 0 0, v]).run Tryd.prog (v9.alloc (.cells #[] 30)) = .ok (.slice b news.length c) W') ∧ W'.cell? ⟨w9.heap.size, 4, none⟩ = some (.slice q.y.1 q.y.2.1 q.y.2.2) ∧ W'.frozen? ⟨w9.heap.size, 4, none⟩ = false ∧ w9.heap.size < W'.heap.size ∧ Hid (Qs w9 w9.heap.size { q with y := (b, news.length, c) } news (W'.setCell ⟨w9.heap.size, 4, none⟩ (.slice b news.length c))) := by
  have ba := bel1 v9 (.cells #[] 30)
  obtain ⟨b, c, W', e1, e2, e3⟩ := Go.Proofs.YtckdldbheejmhaaDoor.app okFd (v9.alloc (.cells #[] 30)) _ _ (R.zero (E := EFd) (g := v9.heap.size) (by rw [heap_al, if_pos rfl]; rfl)) v news (hv _ ba) (by simpa [EFd] using hl)
  simp only [List.length_nil, Nat.zero_add, List.nil_append] at e1 e2 e3
  have hbW : Below v9.heap.size v9 W' := ba.trans (e3.belowB ba.size fun k hk => by simp [Value.ownBlock] at hk; omega)
  have hB := h.below hbW
  have ho : ∀ k, (Value.slice b news.length c).ownBlock = some k → v9.heap.size ≤ k := fun k hk => by
    rcases e3.own k hk with e | e
    · simp [Value.ownBlock] at e; omega
    · exact Nat.le_trans ba.size e
  have hlt : w9.heap.size < v9.heap.size := heap_lt h
  refine ⟨b, c, W', e1, cell_blk hB 4, frozen_blk hB 4, heap_lt hB, hB.setY (b, news.length, c), R.stays e2 fun k hk _ => setCell_other _ _ _ _ _ (by have := ho k hk; omega), (hb.trans (hbW.mono hb.size)).setCell (p := ⟨w9.heap.size, 4, none⟩) (Nat.le_refl _) _, fun k hk => ?_⟩
  have := ho k hk
  omega
/-- a field's cells in a request's row -/
theorem Qs.field {w9 : World} {g : Nat} {q : Rq} {P : List Fd} {a : Nat} {f : Fd} {W : World} (h : Qs w9 g q (inL P a f) W) (ha : a ≤ P.length) :
    ∃ r c, q.y = (some ⟨r, 0, none⟩, P.length + 1, c) ∧ P.length + 1 ≤ c ∧ c ≤ 9223372036854775807 ∧ r ≠ g ∧ r < W.heap.size ∧ W.cell? ⟨r, a * 3 + 1, none⟩ = some (.string f.v) ∧ W.cell? ⟨r, a * 3 + 2, none⟩ = some (.bool f.nv) ∧ W.frozen? ⟨r, a * 3 + 1, none⟩ = false ∧ W.frozen? ⟨r, a * 3 + 2, none⟩ = false ∧
      (∀ x, Qs w9 g q (inL P a ⟨f.n, x, f.nv⟩) (W.setCell ⟨r, a * 3 + 1, none⟩ (.string x))) ∧ ∀ b, Qs w9 g q (inL P a ⟨f.n, f.v, b⟩) (W.setCell ⟨r, a * 3 + 2, none⟩ (.bool b)) := by
  have hj : a < (inL P a f).length := by rw [in_len ha]; omega
  obtain ⟨r, c, e, c1, c2, rl, ro, cs, fz, s1⟩ := R.setc okFd h.row a 1 hj (by decide)
  obtain ⟨r', _, _, _, _, _, ro', _, _, s2⟩ := R.setc okFd h.row a 2 hj (by decide)
  obtain rfl : r = r' := by rw [ro] at ro'; exact Option.some.inj ro'
  rw [in_at ha] at cs s1 s2
  rw [in_len ha] at e c1
  have rg : r ≠ g := fun x => by
    obtain ⟨u, hu⟩ := R.ty h.row r ro
    have hb := h.bx
    unfold RqB at hb
    rw [x, hb] at hu
    simp [EFd] at hu
  have hq : q.y = (some ⟨r, 0, none⟩, P.length + 1, c) := by
    obtain ⟨m, s, a', p, ⟨y1, y2, y3⟩, b⟩ := q
    simp only [sv, Value.slice.injEq] at e
    obtain ⟨e1, e2, e3⟩ := e
    rw [e1, e2, e3]
  have hw : ∀ i u, RqB (W.setCell ⟨r, i, none⟩ u) g q ∧ Below w9.heap.size w9 (W.setCell ⟨r, i, none⟩ u) := fun i u => ⟨(setCell_other _ _ _ _ _ (Ne.symm rg)).trans h.bx, h.bel.setCell (p := ⟨r, i, none⟩) (h.own r ro) _⟩
  refine ⟨r, c, hq, c1, c2, rg, rl, cs 1 _ rfl, cs 2 _ rfl, fz _, fz _, fun x => ⟨(hw _ _).1, ?_, (hw _ _).2, h.own⟩, fun b => ⟨(hw _ _).1, ?_, (hw _ _).2, h.own⟩⟩
  · have := s1 (.string x) ⟨f.n, x, f.nv⟩ rfl
    rw [in_set ha] at this
    exact this
  · have := s2 (.bool b) ⟨f.n, f.v, b⟩ rfl
    rw [in_set ha] at this
    exact this
set_option maxHeartbeats 40000000 in
set_option maxRecDepth 100000 in
theorem varyFields_any (p : Rq) (t : SV) (f : Fd) (at' : Int) (P : List Fd) (l : List ByteArray) (w : World) (hP : In EFd w (sv p.y) P) (hl : In ES w (sv t) l) (zP : P.length * 40 ≤ 140737488351232) (zb : p.b.size ≤ 140737488355328) (zf : f.v.size ≤ 140737488355328) (a0 : -9223372036854775808 ≤ at') (a1 : at' ≤ 9223372036854775807) :
    Calls Tryd.prog 4 #[.agg (rqv p), sv t, .agg (fdv f), .int .i64 at'] w fun e w' => e = .returned (.bool true) ∧ Below w.heap.size w w' := by
  obtain ⟨w2, hw2⟩ : ∃ x, (w.alloc (.cells (rqv p) 24)).alloc (.cells (fdv f) 30) = x := ⟨_, rfl⟩
  have B2 : Below w.heap.size w w2 := by rw [← hw2]; exact bel2 w _ _
  have HB : Hid (RqB w2 w.heap.size p ∧ FdB w2 (w.heap.size + 1) f) := by
    rw [← hw2]
    exact ⟨by unfold RqB; rw [heap_al, if_neg (by simp), heap_al, if_pos rfl], fresh2 _ _ _⟩
  have BW : Hid (Below w.heap.size w w2) := B2
  have HI : Hid ((∀ W, Below w2.heap.size w2 W → In EFd W (sv p.y) P) ∧ ∀ W, Below w2.heap.size w2 W → In ES W (sv t) l) := ⟨fun W hb => (hP.below B2).below hb, fun W hb => (hl.below B2).below hb⟩
  obtain ⟨tb, tl, tc⟩ := t
  obtain ⟨pm, ps, pa, pp, ⟨pyb, n, pyc⟩, pb⟩ := p
  obtain ⟨fn, fv, fnv⟩ := f
  obtain ⟨e1, e2, e3⟩ := slice_len (show In EFd w (.slice pyb n pyc) P from hP)
  have EN : Hid (n = P.length) := e1
  have hnc : n ≤ pyc := by omega
  have hpc : pyc ≤ 9223372036854775807 := e3
  have hn40 : n ≤ 3518437208781 := by omega
  have zb' : pb.size ≤ 140737488355328 := zb
  have zf' : fv.size ≤ 140737488355328 := zf
  have HZ : Hid (P.length * 40 ≤ 140737488351232) := zP
  obtain ⟨a, ha⟩ : ∃ a, atN at' n = a := ⟨_, rfl⟩
  have hal : a ≤ n := by rw [← ha]; exact atN_le at' n
  have HW2 : Hid ((w.alloc (.cells #[.string pm, .string ps, .string pa, .string pp, .slice pyb n pyc, .string pb] 24)).alloc (.cells #[.string fn, .string fv, .bool fnv] 30) = w2) := hw2
  simp only [rqv, sv, fdv] at HI ⊢
  clear hP hl B2 hw2 e1 e2 e3 zP zb zf
  go_enter Tryd.func4, Tryd.ntmps4
  go_wp2_with fail
  go_at_call 8
  rw [HW2.out]
  refine (first_any w2).mono ?_
  rintro e w3 ⟨rfl, bx⟩
  have D0 : Hid (Below w2.heap.size w2 w3) := bx
  clear bx HW2
  obtain ⟨z0, z1, z2, z3, z4, z5, z6⟩ := (HB.out.1.below D0.out).cells
  go_upto_region 4 with fail
  rw [show wrap64 ((IntKind.u64.wrap at').tmod ((n : Int) + 1)) = (a : Int) from by rw [← ha]; exact atN_eq at' n hn40]
  clear ha
  have hpx : ¬ pb.size + 1 > 9223372036854775807 := by omega
  go_upto_region 7 with fail
  obtain ⟨PB, hPB⟩ : ∃ x, pb ++ ⟨#[120]⟩ = x := ⟨_, rfl⟩
  rw [hPB]
  obtain ⟨w4, hw4⟩ : ∃ x, w3.alloc (.cells #[.string pm, .string ps, .string pa, .string pp, .slice none 0 0, .string PB] 24) = x := ⟨_, rfl⟩
  have q4 : RqB (w3.alloc (.cells #[.string pm, .string ps, .string pa, .string pp, .slice none 0 0, .string PB] 24)) w3.heap.size ⟨pm, ps, pa, pp, (none, 0, 0), PB⟩ := by unfold RqB; rw [heap_al, if_pos rfl]; rfl
  have Q0 : Hid (Qs w3 w3.heap.size ⟨pm, ps, pa, pp, (none, 0, 0), PB⟩ [] w4) := by rw [← hw4]; exact ⟨q4, R.nil _ _, bel1 _ _, fun k hk => by simp [sv, Value.ownBlock] at hk⟩
  rw [hw4]
  have H2 : Hid (∀ W, Below w3.heap.size w3 W → Below w2.heap.size w2 W) := fun W hb => D0.out.trans (hb.mono D0.out.size)
  have HCP : Hid (∀ W, Below w3.heap.size w3 W → (fun W => W.cell? ⟨w.heap.size, 4, none⟩ = some (.slice pyb n pyc)) W) := fun W hb => by
    obtain ⟨_, _, _, _, h, _⟩ := (HB.out.1.below (H2.out W hb)).cells
    exact h
  have ha1 : (a : Int) ≤ (n : Int) := by omega
  have ha2 : (a : Int) ≤ (pyc : Int) := by omega
  have ha3 : (n : Int) ≤ (pyc : Int) := by omega
  have haP : Hid (a ≤ P.length) := by show _ ≤ _; rw [← EN.out]; exact hal
  have w2l : w.heap.size < w2.heap.size := heap_lt HB.out.1
  clear q4 hw4 z0 z1 z2 z3 z4 z5 z6
  go_cut [35] from 11 (fun _ wx => ∃ yb yc, Hid (Qs w3 w3.heap.size ⟨pm, ps, pa, pp, (yb, a, yc), PB⟩ (P.take a) wx))
  case first =>
    as_aux_lemma =>
      have hIW : Below w4.heap.size w4 (w4.drew) := (Below.refl _ _).drew
      refine wp_region_held_drew (S := (fun W => W.cell? ⟨w.heap.size, 4, none⟩ = some (.slice pyb n pyc))) (by kernel_rfl) (HCP.out _ (Q0.out.bel.trans (hIW.mono Q0.out.bel.size))) (fun hHeld => ?_)
      generalize hWg : World.drew _ = W at hIW hHeld ⊢
      clear hWg
      have QW := Q0.out.drew hIW
      obtain ⟨b7, c7, W', a1, a2, a3, a4, Q2⟩ := QW.app (Nat.le_refl _) (.slice pyb a pyc) (in_front (HI.out.1 W (H2.out W QW.bel)) a haP.out) (by have := HZ.out; have := haP.out; simp; omega)
      have ela : ([] : List Fd).length + (P.take a).length = a := by have := haP.out; simp; omega
      rw [ela] at a1 Q2
      simp only at a1 a2
      have c4 := cell_blk QW.bx 4
      have cl4 := heap_lt QW.bx
      simp only [rqv, sv, List.getElem?_toArray, List.getElem?_cons_succ, List.getElem?_cons_zero] at c4
      have hcW : Hid ((fun W => W.cell? ⟨w.heap.size, 4, none⟩ = some (.slice pyb n pyc)) W) := HCP.out _ QW.bel
      have QW' := Q2.out
      have hc2 : Hid ((fun W => W.cell? ⟨w.heap.size, 4, none⟩ = some (.slice pyb n pyc)) (W'.setCell ⟨w3.heap.size, 4, none⟩ (.slice b7 a c7))) := HCP.out _ QW'.bel
      have hc1 : Hid ((fun W => W.cell? ⟨w.heap.size, 4, none⟩ = some (.slice pyb n pyc)) W') := by
        have h := hc2.out
        dsimp only at h
        have hne : w3.heap.size ≠ w.heap.size := by have := D0.out.size; omega
        rw [World.cell?_setCell_far _ _ _ _ hne] at h
        exact h
      simp only [List.nil_append] at QW'
      replace QW' : Hid (Qs w3 w3.heap.size ⟨pm, ps, pa, pp, (b7, a, c7), PB⟩ (P.take a) (W'.setCell ⟨w3.heap.size, 4, none⟩ (.slice b7 a c7))) := QW'
      clear QW Q0 ela Q2
      refine wpAnyH_take (i := 0) (oi := { dst := some 28, op := Op.fieldAddr 24 (Operand.tmp 9) 4, type := 0, pos := "outright.go:55", after := #[], guard := none }) (v := ?vv1) rfl (by kernel_rfl) (by kernel_rfl) (by kernel_rfl) (fun _ _ _ h => h) (Or.inl ⟨by rfl, ?hy1⟩) (by assumption) ?_
      case hy1 => (intro w hSw; (try dsimp only at hSw); go_simp; all_goals with_reducible rfl)
      try simp only [Act.put, List.setIfInBounds_toArray, List.set_cons_zero, List.set_cons_succ]
      refine wpAnyH_take (i := 2) (oi := { dst := some 30, op := Op.fieldAddr 24 (Operand.tmp 4) 4, type := 0, pos := "outright.go:55", after := #[], guard := none }) (v := ?vv2) rfl (by kernel_rfl) (by kernel_rfl) (by kernel_rfl) (fun _ _ _ h => h) (Or.inl ⟨by rfl, ?hy2⟩) (by assumption) ?_
      case hy2 => (intro w hSw; (try dsimp only at hSw); go_simp; all_goals with_reducible rfl)
      try simp only [Act.put, List.setIfInBounds_toArray, List.set_cons_zero, List.set_cons_succ]
      refine wpAnyH_take (i := 3) (oi := { dst := some 31, op := Op.load 22 (Operand.tmp 30), type := 22, pos := "outright.go:55", after := #[{ on := 2, ground := Ground.data }], guard := none }) (v := ?vv3) rfl (by kernel_rfl) (by kernel_rfl) (by kernel_rfl) (fun _ _ _ h => h) (Or.inl ⟨by rfl, ?hy3⟩) (by assumption) ?_
      case hy3 => (intro w hSw; (try dsimp only at hSw); go_simp; all_goals with_reducible rfl)
      try simp only [Act.put, List.setIfInBounds_toArray, List.set_cons_zero, List.set_cons_succ]
      refine wpAnyH_take (i := 4) (oi := { dst := some 32, op := Op.move (Operand.tmp 3), type := 3, pos := "outright.go:55", after := #[], guard := none }) (v := ?vv4) rfl (by kernel_rfl) (by kernel_rfl) (by kernel_rfl) (fun _ _ _ h => h) (Or.inl ⟨by rfl, ?hy4⟩) (by assumption) ?_
      case hy4 => (intro w hSw; (try dsimp only at hSw); go_simp; all_goals with_reducible rfl)
      try simp only [Act.put, List.setIfInBounds_toArray, List.set_cons_zero, List.set_cons_succ]
      refine wpAnyH_take (i := 5) (oi := { dst := some 33, op := Op.slice 22 (Operand.tmp 31) none (some (Operand.tmp 32)) none, type := 22, pos := "outright.go:55", after := #[{ on := 3, ground := Ground.data }, { on := 4, ground := Ground.data }], guard := none }) (v := ?vv5) rfl (by kernel_rfl) (by kernel_rfl) (by kernel_rfl) (fun _ _ _ h => h) (Or.inl ⟨by rfl, ?hy5⟩) (by assumption) ?_
      case hy5 => (intro w hSw; (try dsimp only at hSw); go_simp; all_goals with_reducible rfl)
      try simp only [Act.put, List.setIfInBounds_toArray, List.set_cons_zero, List.set_cons_succ]
      refine wpAnyH_ready (rs := [1]) (by kernel_rfl) (by simp) ?_
      refine AllReadyH.cons (o := { dst := some 29, op := Op.load 22 (Operand.tmp 28), type := 22, pos := "outright.go:55", after := #[{ on := 0, ground := Ground.data }], guard := none }) rfl (fun K hK => ?_) AllReadyH.nil
      go_simp
      go_wp2_with fail
      refine hK.out _ _ (hcW.out) (fun hHeld => ?_)
      clear hK K
      try simp only [Act.put, List.setIfInBounds_toArray, List.set_cons_zero, List.set_cons_succ]
      refine wpAnyH_ready (rs := [6]) (by kernel_rfl) (by simp) ?_
      refine AllReadyH.cons (o := { dst := some 34, op := Op.call { callee := Callee.builtin Builtin.append, args := #[Operand.tmp 29, Operand.tmp 33], argTypes := #[22, 22] }, type := 22, pos := "outright.go:55", after := #[{ on := 1, ground := Ground.data }, { on := 5, ground := Ground.data }], guard := none }) rfl (fun K hK => ?_) AllReadyH.nil
      refine step_append_run rfl (.tmp 29) (.tmp 33) 22 22 rfl a1.out (by first | rfl | simp [Act.eval, Act.put]) (by first | rfl | simp [Act.eval, Act.put]) ?_
      refine hK.out _ _ hc1.out (fun hHeld => ?_)
      clear hK K
      try simp only [Act.put, List.setIfInBounds_toArray, List.set_cons_zero, List.set_cons_succ]
      refine wpAnyH_take (i := 7) (oi := { dst := some 35, op := Op.fieldAddr 24 (Operand.tmp 9) 4, type := 0, pos := "outright.go:55", after := #[{ on := 0, ground := Ground.phase }, { on := 1, ground := Ground.phase }, { on := 2, ground := Ground.phase }, { on := 3, ground := Ground.phase }, { on := 4, ground := Ground.phase }, { on := 5, ground := Ground.phase }, { on := 6, ground := Ground.phase }], guard := none }) (v := ?vv6) rfl (by kernel_rfl) (by kernel_rfl) (by kernel_rfl) (fun _ _ _ h => h) (Or.inl ⟨by rfl, ?hy6⟩) (by assumption) ?_
      case hy6 => (intro w hSw; (try dsimp only at hSw); go_simp; all_goals with_reducible rfl)
      try simp only [Act.put, List.setIfInBounds_toArray, List.set_cons_zero, List.set_cons_succ]
      refine wpAnyH_ready (rs := [8]) (by kernel_rfl) (by simp) ?_
      refine AllReadyH.cons (o := { dst := none, op := Op.store 22 (Operand.tmp 35) (Operand.tmp 34), type := 0, pos := "outright.go:55", after := #[{ on := 7, ground := Ground.data }, { on := 6, ground := Ground.data }, { on := 6, ground := Ground.chain }, { on := 0, ground := Ground.phase }, { on := 1, ground := Ground.phase }, { on := 2, ground := Ground.phase }, { on := 3, ground := Ground.phase }, { on := 4, ground := Ground.phase }, { on := 5, ground := Ground.phase }, { on := 6, ground := Ground.phase }], guard := none }) rfl (fun K hK => ?_) AllReadyH.nil
      go_simp
      go_wp2_with fail
      refine hK.out _ _ (hc2.out) (fun hHeld => ?_)
      clear hK K
      try simp only [Act.put, List.setIfInBounds_toArray, List.set_cons_zero, List.set_cons_succ]
      refine wpAnyH_done (by kernel_rfl) ?_ _
      go_wp2_with fail
      go_meet
      exact ⟨b7, c7, QW'.out⟩
  obtain ⟨yb, yc, Q1⟩ := hcut
  obtain ⟨w5, hw5⟩ : ∃ x, wc = x := ⟨_, rfl⟩
  rw [hw5] at Q1 ⊢
  clear hw5 Q0
  have bf := bel1 w5 (.cells #[.string fn, .string fv, .bool fnv] 30)
  obtain ⟨b8, c8, w6, a1, a2, a3, a4, Q2⟩ := (Q1.out.drew bf).app (Nat.le_refl _) (.slice (some ⟨w5.heap.size, 0, none⟩) 1 1) (in_one (x := (⟨fn, fv, fnv⟩ : Fd)) _ _ #[.string fn, .string fv, .bool fnv] 30 (0, 0) (by rw [heap_al, if_pos rfl]) rfl) (by have := HZ.out; have := haP.out; simp; omega)
  have ela : (P.take a).length + [(⟨fn, fv, fnv⟩ : Fd)].length = a + 1 := by have := haP.out; simp; omega
  rw [ela] at a1 Q2
  simp only at a1 a2
  have c4 := cell_blk Q1.out.bx 4
  have cl4 := heap_lt Q1.out.bx
  obtain ⟨f0, f1, f2⟩ := (HB.out.2.below (H2.out _ Q1.out.bel)).cells
  have fl := heap_lt (HB.out.2.below (H2.out _ Q1.out.bel))
  simp only [rqv, sv, List.getElem?_toArray, List.getElem?_cons_succ, List.getElem?_cons_zero] at c4
  clear bf ela
  go_upto_region 9 with (at_builtin; refine Lib.wpList_append_run _ rfl _ _ _ _ rfl _ _ rfl rfl _ _ a1.out ?_)
  obtain ⟨w7, hw7⟩ : ∃ x, w6.setCell ⟨w3.heap.size, 4, none⟩ (.slice b8 (a + 1) c8) = x := ⟨_, rfl⟩
  rw [hw7] at Q2 ⊢
  have Q3 : Hid (Qs w3 w3.heap.size ⟨pm, ps, pa, pp, (b8, a + 1, c8), PB⟩ (P.take a ++ [⟨fn, fv, fnv⟩]) w7) := Q2.out
  clear hw7 Q2 Q1 a1 a2 a3 a4 c4 cl4 f0 f1 f2 fl
  go_cut [49] from 11 (fun _ wx => ∃ yb yc, Hid (Qs w3 w3.heap.size ⟨pm, ps, pa, pp, (yb, n + 1, yc), PB⟩ (inL P a ⟨fn, fv, fnv⟩) wx))
  case first =>
    have hsl : Hid (∀ W, Below w2.heap.size w2 W → In EFd W (.slice (if pyc = a then pyb else Option.map (fun x => x.add (a * 3)) pyb) (n - a) (pyc - a)) (P.drop a)) := fun W hb => by
      have h := in_back okFd (HI.out.1 W hb) a haP.out
      rw [← EN.out] at h
      exact h
    as_aux_lemma =>
      have hIW : Below w7.heap.size w7 (w7.drew) := (Below.refl _ _).drew
      refine wp_region_held_drew (S := (fun W => W.cell? ⟨w.heap.size, 4, none⟩ = some (.slice pyb n pyc))) (by kernel_rfl) (HCP.out _ (Q3.out.bel.trans (hIW.mono Q3.out.bel.size))) (fun hHeld => ?_)
      generalize hWg : World.drew _ = W at hIW hHeld ⊢
      clear hWg
      have QW := Q3.out.drew hIW
      obtain ⟨b7, c7, W', a1, a2, a3, a4, Q2⟩ := QW.app (Nat.le_refl _) (.slice (if pyc = a then pyb else Option.map (fun x => x.add (a * 3)) pyb) (n - a) (pyc - a)) (hsl.out W (H2.out W QW.bel)) (by have := HZ.out; have := haP.out; simp; omega)
      have ela : (P.take a ++ [(⟨fn, fv, fnv⟩ : Fd)]).length + (P.drop a).length = n + 1 := by have := haP.out; have := EN.out; simp; omega
      rw [ela] at a1 Q2
      simp only at a1 a2
      have c4 := cell_blk QW.bx 4
      have cl4 := heap_lt QW.bx
      simp only [rqv, sv, List.getElem?_toArray, List.getElem?_cons_succ, List.getElem?_cons_zero] at c4
      have hcW : Hid ((fun W => W.cell? ⟨w.heap.size, 4, none⟩ = some (.slice pyb n pyc)) W) := HCP.out _ QW.bel
      have QW' := Q2.out
      have hc2 : Hid ((fun W => W.cell? ⟨w.heap.size, 4, none⟩ = some (.slice pyb n pyc)) (W'.setCell ⟨w3.heap.size, 4, none⟩ (.slice b7 (n + 1) c7))) := HCP.out _ QW'.bel
      have hc1 : Hid ((fun W => W.cell? ⟨w.heap.size, 4, none⟩ = some (.slice pyb n pyc)) W') := by
        have h := hc2.out
        dsimp only at h
        have hne : w3.heap.size ≠ w.heap.size := by have := D0.out.size; omega
        rw [World.cell?_setCell_far _ _ _ _ hne] at h
        exact h
      replace QW' : Hid (Qs w3 w3.heap.size ⟨pm, ps, pa, pp, (b7, n + 1, c7), PB⟩ (inL P a ⟨fn, fv, fnv⟩) (W'.setCell ⟨w3.heap.size, 4, none⟩ (.slice b7 (n + 1) c7))) := QW'
      clear QW Q3 ela Q2
      refine wpAnyH_take (i := 0) (oi := { dst := some 42, op := Op.fieldAddr 24 (Operand.tmp 9) 4, type := 0, pos := "outright.go:57", after := #[], guard := none }) (v := ?vv7) rfl (by kernel_rfl) (by kernel_rfl) (by kernel_rfl) (fun _ _ _ h => h) (Or.inl ⟨by rfl, ?hy7⟩) (by assumption) ?_
      case hy7 => (intro w hSw; (try dsimp only at hSw); go_simp; all_goals with_reducible rfl)
      try simp only [Act.put, List.setIfInBounds_toArray, List.set_cons_zero, List.set_cons_succ]
      refine wpAnyH_take (i := 2) (oi := { dst := some 44, op := Op.fieldAddr 24 (Operand.tmp 4) 4, type := 0, pos := "outright.go:57", after := #[], guard := none }) (v := ?vv8) rfl (by kernel_rfl) (by kernel_rfl) (by kernel_rfl) (fun _ _ _ h => h) (Or.inl ⟨by rfl, ?hy8⟩) (by assumption) ?_
      case hy8 => (intro w hSw; (try dsimp only at hSw); go_simp; all_goals with_reducible rfl)
      try simp only [Act.put, List.setIfInBounds_toArray, List.set_cons_zero, List.set_cons_succ]
      refine wpAnyH_take (i := 3) (oi := { dst := some 45, op := Op.load 22 (Operand.tmp 44), type := 22, pos := "outright.go:57", after := #[{ on := 2, ground := Ground.data }], guard := none }) (v := ?vv9) rfl (by kernel_rfl) (by kernel_rfl) (by kernel_rfl) (fun _ _ _ h => h) (Or.inl ⟨by rfl, ?hy9⟩) (by assumption) ?_
      case hy9 => (intro w hSw; (try dsimp only at hSw); go_simp; all_goals with_reducible rfl)
      try simp only [Act.put, List.setIfInBounds_toArray, List.set_cons_zero, List.set_cons_succ]
      refine wpAnyH_take (i := 4) (oi := { dst := some 46, op := Op.move (Operand.tmp 3), type := 3, pos := "outright.go:57", after := #[], guard := none }) (v := ?vv10) rfl (by kernel_rfl) (by kernel_rfl) (by kernel_rfl) (fun _ _ _ h => h) (Or.inl ⟨by rfl, ?hy10⟩) (by assumption) ?_
      case hy10 => (intro w hSw; (try dsimp only at hSw); go_simp; all_goals with_reducible rfl)
      try simp only [Act.put, List.setIfInBounds_toArray, List.set_cons_zero, List.set_cons_succ]
      refine wpAnyH_take (i := 5) (oi := { dst := some 47, op := Op.slice 22 (Operand.tmp 45) (some (Operand.tmp 46)) none none, type := 22, pos := "outright.go:57", after := #[{ on := 3, ground := Ground.data }, { on := 4, ground := Ground.data }], guard := none }) (v := ?vv11) rfl (by kernel_rfl) (by kernel_rfl) (by kernel_rfl) (fun _ _ _ h => h) (Or.inl ⟨by rfl, ?hy11⟩) (by assumption) ?_
      case hy11 => (intro w hSw; (try dsimp only at hSw); go_simp; all_goals with_reducible rfl)
      try simp only [Act.put, List.setIfInBounds_toArray, List.set_cons_zero, List.set_cons_succ]
      generalize (if pyc = a then pyb else Option.map (fun x => x.add (a * 3)) pyb) = U1 at a1 ⊢
      refine wpAnyH_ready (rs := [1]) (by kernel_rfl) (by simp) ?_
      refine AllReadyH.cons (o := { dst := some 43, op := Op.load 22 (Operand.tmp 42), type := 22, pos := "outright.go:57", after := #[{ on := 0, ground := Ground.data }], guard := none }) rfl (fun K hK => ?_) AllReadyH.nil
      go_simp
      go_wp2_with fail
      refine hK.out _ _ (hcW.out) (fun hHeld => ?_)
      clear hK K
      try simp only [Act.put, List.setIfInBounds_toArray, List.set_cons_zero, List.set_cons_succ]
      refine wpAnyH_ready (rs := [6]) (by kernel_rfl) (by simp) ?_
      refine AllReadyH.cons (o := { dst := some 48, op := Op.call { callee := Callee.builtin Builtin.append, args := #[Operand.tmp 43, Operand.tmp 47], argTypes := #[22, 22] }, type := 22, pos := "outright.go:57", after := #[{ on := 1, ground := Ground.data }, { on := 5, ground := Ground.data }], guard := none }) rfl (fun K hK => ?_) AllReadyH.nil
      refine step_append_run rfl (.tmp 43) (.tmp 47) 22 22 rfl a1.out (by first | rfl | simp [Act.eval, Act.put]) (by first | rfl | simp [Act.eval, Act.put]) ?_
      refine hK.out _ _ hc1.out (fun hHeld => ?_)
      clear hK K
      try simp only [Act.put, List.setIfInBounds_toArray, List.set_cons_zero, List.set_cons_succ]
      refine wpAnyH_take (i := 7) (oi := { dst := some 49, op := Op.fieldAddr 24 (Operand.tmp 9) 4, type := 0, pos := "outright.go:57", after := #[{ on := 0, ground := Ground.phase }, { on := 1, ground := Ground.phase }, { on := 2, ground := Ground.phase }, { on := 3, ground := Ground.phase }, { on := 4, ground := Ground.phase }, { on := 5, ground := Ground.phase }, { on := 6, ground := Ground.phase }], guard := none }) (v := ?vv12) rfl (by kernel_rfl) (by kernel_rfl) (by kernel_rfl) (fun _ _ _ h => h) (Or.inl ⟨by rfl, ?hy12⟩) (by assumption) ?_
      case hy12 => (intro w hSw; (try dsimp only at hSw); go_simp; all_goals with_reducible rfl)
      try simp only [Act.put, List.setIfInBounds_toArray, List.set_cons_zero, List.set_cons_succ]
      refine wpAnyH_ready (rs := [8]) (by kernel_rfl) (by simp) ?_
      refine AllReadyH.cons (o := { dst := none, op := Op.store 22 (Operand.tmp 49) (Operand.tmp 48), type := 0, pos := "outright.go:57", after := #[{ on := 7, ground := Ground.data }, { on := 6, ground := Ground.data }, { on := 6, ground := Ground.chain }, { on := 0, ground := Ground.phase }, { on := 1, ground := Ground.phase }, { on := 2, ground := Ground.phase }, { on := 3, ground := Ground.phase }, { on := 4, ground := Ground.phase }, { on := 5, ground := Ground.phase }, { on := 6, ground := Ground.phase }], guard := none }) rfl (fun K hK => ?_) AllReadyH.nil
      go_simp
      go_wp2_with fail
      refine hK.out _ _ (hc2.out) (fun hHeld => ?_)
      clear hK K
      try simp only [Act.put, List.setIfInBounds_toArray, List.set_cons_zero, List.set_cons_succ]
      refine wpAnyH_done (by kernel_rfl) ?_ _
      go_wp2_with fail
      go_meet
      exact ⟨b7, c7, QW'.out⟩
  obtain ⟨yb, yc, Q4⟩ := hcut
  obtain ⟨w8, hw8⟩ : ∃ x, wc = x := ⟨_, rfl⟩
  rw [hw8] at Q4 ⊢
  clear hw8 Q3
  obtain ⟨n1, hn1⟩ : ∃ x, n + 1 = x := ⟨_, rfl⟩
  rw [hn1] at Q4
  have DW : Hid (Below w2.heap.size w2 w8) := H2.out _ Q4.out.bel
  have HPI : Hid (∀ W, Below w2.heap.size w2 W → In EFd W (.slice pyb n pyc) P) := HI.out.1
  have HTI : Hid (∀ W, Below w2.heap.size w2 W → In ES W (.slice tb tl tc) l) := HI.out.2
  have HQI : Hid (∀ W, Below w8.heap.size w8 W → In EFd W (.slice yb n1 yc) (inL P a ⟨fn, fv, fnv⟩)) := fun W hb => (R.isIn Q4.out.row).below hb
  have HZ1 : Hid (P.length * 40 ≤ 140737488355328) := by have := HZ.out; show _ ≤ _; omega
  have HZ2 : Hid ((inL P a ⟨fn, fv, fnv⟩).length * 40 ≤ 140737488355328) := by show _ ≤ _; rw [in_len haP.out]; have := HZ.out; omega
  have HZ3 : Hid (∀ g, (inL P a g).length * 40 ≤ 140737488355328) := fun g => by rw [in_len haP.out]; have := HZ.out; omega
  have HBX : Hid (∀ W, Below w8.heap.size w8 W → RqB W w.heap.size ⟨pm, ps, pa, pp, (pyb, n, pyc), pb⟩ ∧ RqB W w3.heap.size ⟨pm, ps, pa, pp, (yb, n1, yc), PB⟩ ∧ FdB W (w.heap.size + 1) ⟨fn, fv, fnv⟩) := fun W hb => by
    have h := DW.out.trans (hb.mono DW.out.size)
    exact ⟨HB.out.1.below h, Q4.out.bx.below hb, HB.out.2.below h⟩
  obtain ⟨Nb, hNb⟩ : ∃ b, nmB l fn = b := ⟨_, rfl⟩
  have HN : Hid (nmB l fn = Nb) := hNb
  clear hNb
  go_upto_region 10 with fail
  go_cut [69] from 11 (fun x wx => x = .bool false ∧ Hid (Below w8.heap.size w8 wx))
  case first =>
    have HC : Hid (∀ W, Below w8.heap.size w8 W → (fun W => W.cell? ⟨w.heap.size, 0, none⟩ = some (.string pm) ∧ W.cell? ⟨w.heap.size, 1, none⟩ = some (.string ps) ∧ W.cell? ⟨w.heap.size, 2, none⟩ = some (.string pa) ∧ W.cell? ⟨w.heap.size, 3, none⟩ = some (.string pp) ∧ W.cell? ⟨w.heap.size, 4, none⟩ = some (.slice pyb n pyc) ∧ W.cell? ⟨w.heap.size, 5, none⟩ = some (.string pb) ∧ W.cell? ⟨w3.heap.size, 0, none⟩ = some (.string pm) ∧ W.cell? ⟨w3.heap.size, 1, none⟩ = some (.string ps) ∧ W.cell? ⟨w3.heap.size, 2, none⟩ = some (.string pa) ∧ W.cell? ⟨w3.heap.size, 3, none⟩ = some (.string pp) ∧ W.cell? ⟨w3.heap.size, 4, none⟩ = some (.slice yb n1 yc) ∧ W.cell? ⟨w3.heap.size, 5, none⟩ = some (.string PB) ∧ W.cell? ⟨w.heap.size + 1, 0, none⟩ = some (.string fn)) W) := fun W hb => by
      obtain ⟨h1, h2, h3⟩ := HBX.out W hb
      obtain ⟨x0, x1, x2, x3, x4, x5, _⟩ := h1.cells
      obtain ⟨u0, u1, u2, u3, u4, u5, _⟩ := h2.cells
      exact ⟨x0, x1, x2, x3, x4, x5, u0, u1, u2, u3, u4, u5, h3.cells.1⟩
    cases Nb
    · as_aux_lemma =>
        have hIW : Below w8.heap.size w8 (w8.drew) := (Below.refl _ _).drew
        refine wp_region_held_drew (S := (fun W => W.cell? ⟨w.heap.size, 0, none⟩ = some (.string pm) ∧ W.cell? ⟨w.heap.size, 1, none⟩ = some (.string ps) ∧ W.cell? ⟨w.heap.size, 2, none⟩ = some (.string pa) ∧ W.cell? ⟨w.heap.size, 3, none⟩ = some (.string pp) ∧ W.cell? ⟨w.heap.size, 4, none⟩ = some (.slice pyb n pyc) ∧ W.cell? ⟨w.heap.size, 5, none⟩ = some (.string pb) ∧ W.cell? ⟨w3.heap.size, 0, none⟩ = some (.string pm) ∧ W.cell? ⟨w3.heap.size, 1, none⟩ = some (.string ps) ∧ W.cell? ⟨w3.heap.size, 2, none⟩ = some (.string pa) ∧ W.cell? ⟨w3.heap.size, 3, none⟩ = some (.string pp) ∧ W.cell? ⟨w3.heap.size, 4, none⟩ = some (.slice yb n1 yc) ∧ W.cell? ⟨w3.heap.size, 5, none⟩ = some (.string PB) ∧ W.cell? ⟨w.heap.size + 1, 0, none⟩ = some (.string fn))) (by kernel_rfl) (HC.out _ hIW) (fun hHeld => ?_)
        generalize hWg : World.drew _ = W at hIW hHeld ⊢
        clear hWg
        refine wpAnyH_take (i := 0) (oi := { dst := some 50, op := Op.load 24 (Operand.tmp 4), type := 24, pos := "outright.go:58", after := #[], guard := none }) (v := ?vv13) rfl (by kernel_rfl) (by kernel_rfl) (by kernel_rfl) (fun _ _ _ h => h) (Or.inl ⟨by rfl, ?hy13⟩) (by assumption) ?_
        case hy13 => (intro w hSw; (try dsimp only at hSw); go_simp; all_goals with_reducible rfl)
        try simp only [Act.put, List.setIfInBounds_toArray, List.set_cons_zero, List.set_cons_succ]
        refine wpAnyH_take (i := 1) (oi := { dst := some 51, op := Op.load 24 (Operand.tmp 9), type := 24, pos := "outright.go:58", after := #[], guard := none }) (v := ?vv14) rfl (by kernel_rfl) (by kernel_rfl) (by kernel_rfl) (fun _ _ _ h => h) (Or.inl ⟨by rfl, ?hy14⟩) (by assumption) ?_
        case hy14 => (intro w hSw; (try dsimp only at hSw); go_simp; all_goals with_reducible rfl)
        try simp only [Act.put, List.setIfInBounds_toArray, List.set_cons_zero, List.set_cons_succ]
        refine wpAnyH_take (i := 2) (oi := { dst := some 52, op := Op.move (Operand.tmp 1), type := 25, pos := "outright.go:58", after := #[], guard := none }) (v := ?vv15) rfl (by kernel_rfl) (by kernel_rfl) (by kernel_rfl) (fun _ _ _ h => h) (Or.inl ⟨by rfl, ?hy15⟩) (by assumption) ?_
        case hy15 => (intro w hSw; (try dsimp only at hSw); go_simp; all_goals with_reducible rfl)
        try simp only [Act.put, List.setIfInBounds_toArray, List.set_cons_zero, List.set_cons_succ]
        refine wpAnyH_take (i := 4) (oi := { dst := some 54, op := Op.move (Operand.tmp 1), type := 25, pos := "outright.go:58", after := #[], guard := none }) (v := ?vv16) rfl (by kernel_rfl) (by kernel_rfl) (by kernel_rfl) (fun _ _ _ h => h) (Or.inl ⟨by rfl, ?hy16⟩) (by assumption) ?_
        case hy16 => (intro w hSw; (try dsimp only at hSw); go_simp; all_goals with_reducible rfl)
        try simp only [Act.put, List.setIfInBounds_toArray, List.set_cons_zero, List.set_cons_succ]
        refine wpAnyH_take (i := 5) (oi := { dst := some 55, op := Op.fieldAddr 30 (Operand.tmp 6) 0, type := 0, pos := "outright.go:58", after := #[], guard := none }) (v := ?vv17) rfl (by kernel_rfl) (by kernel_rfl) (by kernel_rfl) (fun _ _ _ h => h) (Or.inl ⟨by rfl, ?hy17⟩) (by assumption) ?_
        case hy17 => (intro w hSw; (try dsimp only at hSw); go_simp; all_goals with_reducible rfl)
        try simp only [Act.put, List.setIfInBounds_toArray, List.set_cons_zero, List.set_cons_succ]
        refine wpAnyH_take (i := 6) (oi := { dst := some 56, op := Op.load 9 (Operand.tmp 55), type := 9, pos := "outright.go:58", after := #[{ on := 5, ground := Ground.data }], guard := none }) (v := ?vv18) rfl (by kernel_rfl) (by kernel_rfl) (by kernel_rfl) (fun _ _ _ h => h) (Or.inl ⟨by rfl, ?hy18⟩) (by assumption) ?_
        case hy18 => (intro w hSw; (try dsimp only at hSw); go_simp; all_goals with_reducible rfl)
        try simp only [Act.put, List.setIfInBounds_toArray, List.set_cons_zero, List.set_cons_succ]
        refine wpAnyH_ready (rs := [3]) (by kernel_rfl) (by simp) ?_
        refine AllReadyH.cons (o := { dst := some 53, op := Op.call { callee := Callee.value (Operand.func 9), args := #[Operand.tmp 50, Operand.tmp 51, Operand.tmp 52], argTypes := #[24, 24, 25] }, type := 4, pos := "outright.go:58", after := #[{ on := 0, ground := Ground.data }, { on := 1, ground := Ground.data }, { on := 2, ground := Ground.data }], guard := none }) rfl (fun K hK => ?_) AllReadyH.nil
        go_simp
        refine (match_any ⟨pm, ps, pa, pp, (pyb, n, pyc), pb⟩ ⟨pm, ps, pa, pp, (yb, n1, yc), PB⟩ (tb, tl, tc) (P) (inL P a ⟨fn, fv, fnv⟩) l _ (HPI.out _ (DW.out.trans (hIW.mono DW.out.size))) (HQI.out _ hIW) (HTI.out _ (DW.out.trans (hIW.mono DW.out.size))) HZ1.out HZ2.out).mono ?_
        rintro e' Wx ⟨rfl, bX⟩
        rw [show mtB ⟨pm, ps, pa, pp, (pyb, n, pyc), pb⟩ ⟨pm, ps, pa, pp, (yb, n1, yc), PB⟩ (P) (inL P a ⟨fn, fv, fnv⟩) l = true from by rw [mt_more ⟨pm, ps, pa, pp, (pyb, n, pyc), pb⟩ ⟨pm, ps, pa, pp, (yb, n1, yc), PB⟩ P l a ⟨fn, fv, fnv⟩ rfl, HN.out]; rfl]
        have hIWx : Below w8.heap.size w8 Wx := hIW.trans (bX.mono hIW.size)
        go_wp2_with fail
        refine hK.out _ _ (HC.out _ hIWx) (fun hHeld => ?_)
        clear hK K bX hIW
        try simp only [Act.put, List.setIfInBounds_toArray, List.set_cons_zero, List.set_cons_succ]
        refine wpAnyH_ready (rs := [7]) (by kernel_rfl) (by simp) ?_
        refine AllReadyH.cons (o := { dst := some 57, op := Op.call { callee := Callee.value (Operand.func 10), args := #[Operand.tmp 54, Operand.tmp 56], argTypes := #[25, 9] }, type := 4, pos := "outright.go:58", after := #[{ on := 4, ground := Ground.data }, { on := 6, ground := Ground.data }, { on := 3, ground := Ground.chain }], guard := none }) rfl (fun K hK => ?_) AllReadyH.nil
        go_simp
        refine (named_any (tb, tl, tc) l fn _ (HTI.out _ (DW.out.trans (hIWx.mono DW.out.size)))).mono ?_
        rintro e' Wxx ⟨rfl, bX⟩
        rw [HN.out]
        have hIWxx : Below w8.heap.size w8 Wxx := hIWx.trans (bX.mono hIWx.size)
        go_wp2_with fail
        refine hK.out _ _ (HC.out _ hIWxx) (fun hHeld => ?_)
        clear hK K bX hIWx
        try simp only [Act.put, List.setIfInBounds_toArray, List.set_cons_zero, List.set_cons_succ]
        refine wpAnyH_take (i := 8) (oi := { dst := some 58, op := Op.binOp BinOp.eql 4 (Operand.tmp 53) (Operand.tmp 57) 4, type := 4, pos := "outright.go:58", after := #[{ on := 3, ground := Ground.data }, { on := 7, ground := Ground.data }], guard := none }) (v := ?vv19) rfl (by kernel_rfl) (by kernel_rfl) (by kernel_rfl) (fun _ _ _ h => h) (Or.inl ⟨by rfl, ?hy19⟩) (by assumption) ?_
        case hy19 => (intro w hSw; (try dsimp only at hSw); go_simp; all_goals with_reducible rfl)
        try simp only [Act.put, List.setIfInBounds_toArray, List.set_cons_zero, List.set_cons_succ]
        refine wpAnyH_take (i := 9) (oi := { dst := some 59, op := Op.move (Operand.tmp 58), type := 4, pos := "outright.go:58", after := #[{ on := 8, ground := Ground.data }, { on := 7, ground := Ground.chain }], guard := none }) (v := ?vv20) rfl (by kernel_rfl) (by kernel_rfl) (by kernel_rfl) (fun _ _ _ h => h) (Or.inl ⟨by rfl, ?hy20⟩) (by assumption) ?_
        case hy20 => (intro w hSw; (try dsimp only at hSw); go_simp; all_goals with_reducible rfl)
        try simp only [Act.put, List.setIfInBounds_toArray, List.set_cons_zero, List.set_cons_succ]
        refine wpAnyH_take (i := 10) (oi := { dst := some 60, op := Op.load 24 (Operand.tmp 9), type := 24, pos := "outright.go:58", after := #[{ on := 9, ground := Ground.guard }], guard := some (9, false) }) (v := ?vv21) rfl (by kernel_rfl) (by kernel_rfl) (by kernel_rfl) (fun _ _ _ h => h) (Or.inl ⟨by rfl, ?hy21⟩) (by assumption) ?_
        case hy21 => (intro w hSw; (try dsimp only at hSw); go_simp; all_goals with_reducible rfl)
        try simp only [Act.put, List.setIfInBounds_toArray, List.set_cons_zero, List.set_cons_succ]
        refine wpAnyH_take (i := 11) (oi := { dst := some 61, op := Op.load 24 (Operand.tmp 4), type := 24, pos := "outright.go:58", after := #[{ on := 9, ground := Ground.guard }], guard := some (9, false) }) (v := ?vv22) rfl (by kernel_rfl) (by kernel_rfl) (by kernel_rfl) (fun _ _ _ h => h) (Or.inl ⟨by rfl, ?hy22⟩) (by assumption) ?_
        case hy22 => (intro w hSw; (try dsimp only at hSw); go_simp; all_goals with_reducible rfl)
        try simp only [Act.put, List.setIfInBounds_toArray, List.set_cons_zero, List.set_cons_succ]
        refine wpAnyH_take (i := 12) (oi := { dst := some 62, op := Op.move (Operand.tmp 1), type := 25, pos := "outright.go:58", after := #[{ on := 9, ground := Ground.guard }], guard := some (9, false) }) (v := ?vv23) rfl (by kernel_rfl) (by kernel_rfl) (by kernel_rfl) (fun _ _ _ h => h) (Or.inl ⟨by rfl, ?hy23⟩) (by assumption) ?_
        case hy23 => (intro w hSw; (try dsimp only at hSw); go_simp; all_goals with_reducible rfl)
        try simp only [Act.put, List.setIfInBounds_toArray, List.set_cons_zero, List.set_cons_succ]
        refine wpAnyH_take (i := 14) (oi := { dst := some 64, op := Op.move (Operand.tmp 1), type := 25, pos := "outright.go:58", after := #[{ on := 9, ground := Ground.guard }], guard := some (9, false) }) (v := ?vv24) rfl (by kernel_rfl) (by kernel_rfl) (by kernel_rfl) (fun _ _ _ h => h) (Or.inl ⟨by rfl, ?hy24⟩) (by assumption) ?_
        case hy24 => (intro w hSw; (try dsimp only at hSw); go_simp; all_goals with_reducible rfl)
        try simp only [Act.put, List.setIfInBounds_toArray, List.set_cons_zero, List.set_cons_succ]
        refine wpAnyH_take (i := 15) (oi := { dst := some 65, op := Op.fieldAddr 30 (Operand.tmp 6) 0, type := 0, pos := "outright.go:58", after := #[{ on := 9, ground := Ground.guard }], guard := some (9, false) }) (v := ?vv25) rfl (by kernel_rfl) (by kernel_rfl) (by kernel_rfl) (fun _ _ _ h => h) (Or.inl ⟨by rfl, ?hy25⟩) (by assumption) ?_
        case hy25 => (intro w hSw; (try dsimp only at hSw); go_simp; all_goals with_reducible rfl)
        try simp only [Act.put, List.setIfInBounds_toArray, List.set_cons_zero, List.set_cons_succ]
        refine wpAnyH_take (i := 16) (oi := { dst := some 66, op := Op.load 9 (Operand.tmp 65), type := 9, pos := "outright.go:58", after := #[{ on := 15, ground := Ground.data }, { on := 9, ground := Ground.guard }], guard := some (9, false) }) (v := ?vv26) rfl (by kernel_rfl) (by kernel_rfl) (by kernel_rfl) (fun _ _ _ h => h) (Or.inl ⟨by rfl, ?hy26⟩) (by assumption) ?_
        case hy26 => (intro w hSw; (try dsimp only at hSw); go_simp; all_goals with_reducible rfl)
        try simp only [Act.put, List.setIfInBounds_toArray, List.set_cons_zero, List.set_cons_succ]
        refine wpAnyH_ready (rs := [13]) (by kernel_rfl) (by simp) ?_
        refine AllReadyH.cons (o := { dst := some 63, op := Op.call { callee := Callee.value (Operand.func 9), args := #[Operand.tmp 60, Operand.tmp 61, Operand.tmp 62], argTypes := #[24, 24, 25] }, type := 4, pos := "outright.go:58", after := #[{ on := 10, ground := Ground.data }, { on := 11, ground := Ground.data }, { on := 12, ground := Ground.data }, { on := 9, ground := Ground.chain }, { on := 9, ground := Ground.guard }], guard := some (9, false) }) rfl (fun K hK => ?_) AllReadyH.nil
        go_simp
        refine (match_any ⟨pm, ps, pa, pp, (yb, n1, yc), PB⟩ ⟨pm, ps, pa, pp, (pyb, n, pyc), pb⟩ (tb, tl, tc) (inL P a ⟨fn, fv, fnv⟩) (P) l _ (HQI.out _ hIWxx) (HPI.out _ (DW.out.trans (hIWxx.mono DW.out.size))) (HTI.out _ (DW.out.trans (hIWxx.mono DW.out.size))) HZ2.out HZ1.out).mono ?_
        rintro e' Wxxx ⟨rfl, bX⟩
        rw [show mtB ⟨pm, ps, pa, pp, (yb, n1, yc), PB⟩ ⟨pm, ps, pa, pp, (pyb, n, pyc), pb⟩ (inL P a ⟨fn, fv, fnv⟩) (P) l = true from by rw [mtB_symm, mt_more ⟨pm, ps, pa, pp, (pyb, n, pyc), pb⟩ ⟨pm, ps, pa, pp, (yb, n1, yc), PB⟩ P l a ⟨fn, fv, fnv⟩ rfl, HN.out]; rfl]
        have hIWxxx : Below w8.heap.size w8 Wxxx := hIWxx.trans (bX.mono hIWxx.size)
        go_wp2_with fail
        refine hK.out _ _ (HC.out _ hIWxxx) (fun hHeld => ?_)
        clear hK K bX hIWxx
        try simp only [Act.put, List.setIfInBounds_toArray, List.set_cons_zero, List.set_cons_succ]
        refine wpAnyH_ready (rs := [17]) (by kernel_rfl) (by simp) ?_
        refine AllReadyH.cons (o := { dst := some 67, op := Op.call { callee := Callee.value (Operand.func 10), args := #[Operand.tmp 64, Operand.tmp 66], argTypes := #[25, 9] }, type := 4, pos := "outright.go:58", after := #[{ on := 14, ground := Ground.data }, { on := 16, ground := Ground.data }, { on := 13, ground := Ground.chain }, { on := 9, ground := Ground.guard }], guard := some (9, false) }) rfl (fun K hK => ?_) AllReadyH.nil
        go_simp
        refine (named_any (tb, tl, tc) l fn _ (HTI.out _ (DW.out.trans (hIWxxx.mono DW.out.size)))).mono ?_
        rintro e' Wxxxx ⟨rfl, bX⟩
        rw [HN.out]
        have hIWxxxx : Below w8.heap.size w8 Wxxxx := hIWxxx.trans (bX.mono hIWxxx.size)
        go_wp2_with fail
        refine hK.out _ _ (HC.out _ hIWxxxx) (fun hHeld => ?_)
        clear hK K bX hIWxxx
        try simp only [Act.put, List.setIfInBounds_toArray, List.set_cons_zero, List.set_cons_succ]
        refine wpAnyH_take (i := 18) (oi := { dst := some 68, op := Op.binOp BinOp.eql 4 (Operand.tmp 63) (Operand.tmp 67) 4, type := 4, pos := "outright.go:58", after := #[{ on := 13, ground := Ground.data }, { on := 17, ground := Ground.data }, { on := 9, ground := Ground.guard }], guard := some (9, false) }) (v := ?vv27) rfl (by kernel_rfl) (by kernel_rfl) (by kernel_rfl) (fun _ _ _ h => h) (Or.inl ⟨by rfl, ?hy27⟩) (by assumption) ?_
        case hy27 => (intro w hSw; (try dsimp only at hSw); go_simp; all_goals with_reducible rfl)
        try simp only [Act.put, List.setIfInBounds_toArray, List.set_cons_zero, List.set_cons_succ]
        refine wpAnyH_take (i := 19) (oi := { dst := some 69, op := Op.pick (Operand.tmp 59) (Operand.const (Value.bool true)) (Operand.tmp 68), type := 4, pos := "outright.go:58", after := #[{ on := 9, ground := Ground.data }, { on := 18, ground := Ground.data }], guard := none }) (v := ?vv28) rfl (by kernel_rfl) (by kernel_rfl) (by kernel_rfl) (fun _ _ _ h => h) (Or.inl ⟨by rfl, ?hy28⟩) (by assumption) ?_
        case hy28 => (intro w hSw; (try dsimp only at hSw); go_simp; all_goals with_reducible rfl)
        try simp only [Act.put, List.setIfInBounds_toArray, List.set_cons_zero, List.set_cons_succ]
        refine wpAnyH_done (by kernel_rfl) ?_ _
        go_wp2_with fail
        go_meet
        exact ⟨by first | rfl | simp, hIWxxxx⟩
    · as_aux_lemma =>
        have hIW : Below w8.heap.size w8 (w8.drew) := (Below.refl _ _).drew
        refine wp_region_held_drew (S := (fun W => W.cell? ⟨w.heap.size, 0, none⟩ = some (.string pm) ∧ W.cell? ⟨w.heap.size, 1, none⟩ = some (.string ps) ∧ W.cell? ⟨w.heap.size, 2, none⟩ = some (.string pa) ∧ W.cell? ⟨w.heap.size, 3, none⟩ = some (.string pp) ∧ W.cell? ⟨w.heap.size, 4, none⟩ = some (.slice pyb n pyc) ∧ W.cell? ⟨w.heap.size, 5, none⟩ = some (.string pb) ∧ W.cell? ⟨w3.heap.size, 0, none⟩ = some (.string pm) ∧ W.cell? ⟨w3.heap.size, 1, none⟩ = some (.string ps) ∧ W.cell? ⟨w3.heap.size, 2, none⟩ = some (.string pa) ∧ W.cell? ⟨w3.heap.size, 3, none⟩ = some (.string pp) ∧ W.cell? ⟨w3.heap.size, 4, none⟩ = some (.slice yb n1 yc) ∧ W.cell? ⟨w3.heap.size, 5, none⟩ = some (.string PB) ∧ W.cell? ⟨w.heap.size + 1, 0, none⟩ = some (.string fn))) (by kernel_rfl) (HC.out _ hIW) (fun hHeld => ?_)
        generalize hWg : World.drew _ = W at hIW hHeld ⊢
        clear hWg
        refine wpAnyH_take (i := 0) (oi := { dst := some 50, op := Op.load 24 (Operand.tmp 4), type := 24, pos := "outright.go:58", after := #[], guard := none }) (v := ?vv29) rfl (by kernel_rfl) (by kernel_rfl) (by kernel_rfl) (fun _ _ _ h => h) (Or.inl ⟨by rfl, ?hy29⟩) (by assumption) ?_
        case hy29 => (intro w hSw; (try dsimp only at hSw); go_simp; all_goals with_reducible rfl)
        try simp only [Act.put, List.setIfInBounds_toArray, List.set_cons_zero, List.set_cons_succ]
        refine wpAnyH_take (i := 1) (oi := { dst := some 51, op := Op.load 24 (Operand.tmp 9), type := 24, pos := "outright.go:58", after := #[], guard := none }) (v := ?vv30) rfl (by kernel_rfl) (by kernel_rfl) (by kernel_rfl) (fun _ _ _ h => h) (Or.inl ⟨by rfl, ?hy30⟩) (by assumption) ?_
        case hy30 => (intro w hSw; (try dsimp only at hSw); go_simp; all_goals with_reducible rfl)
        try simp only [Act.put, List.setIfInBounds_toArray, List.set_cons_zero, List.set_cons_succ]
        refine wpAnyH_take (i := 2) (oi := { dst := some 52, op := Op.move (Operand.tmp 1), type := 25, pos := "outright.go:58", after := #[], guard := none }) (v := ?vv31) rfl (by kernel_rfl) (by kernel_rfl) (by kernel_rfl) (fun _ _ _ h => h) (Or.inl ⟨by rfl, ?hy31⟩) (by assumption) ?_
        case hy31 => (intro w hSw; (try dsimp only at hSw); go_simp; all_goals with_reducible rfl)
        try simp only [Act.put, List.setIfInBounds_toArray, List.set_cons_zero, List.set_cons_succ]
        refine wpAnyH_take (i := 4) (oi := { dst := some 54, op := Op.move (Operand.tmp 1), type := 25, pos := "outright.go:58", after := #[], guard := none }) (v := ?vv32) rfl (by kernel_rfl) (by kernel_rfl) (by kernel_rfl) (fun _ _ _ h => h) (Or.inl ⟨by rfl, ?hy32⟩) (by assumption) ?_
        case hy32 => (intro w hSw; (try dsimp only at hSw); go_simp; all_goals with_reducible rfl)
        try simp only [Act.put, List.setIfInBounds_toArray, List.set_cons_zero, List.set_cons_succ]
        refine wpAnyH_take (i := 5) (oi := { dst := some 55, op := Op.fieldAddr 30 (Operand.tmp 6) 0, type := 0, pos := "outright.go:58", after := #[], guard := none }) (v := ?vv33) rfl (by kernel_rfl) (by kernel_rfl) (by kernel_rfl) (fun _ _ _ h => h) (Or.inl ⟨by rfl, ?hy33⟩) (by assumption) ?_
        case hy33 => (intro w hSw; (try dsimp only at hSw); go_simp; all_goals with_reducible rfl)
        try simp only [Act.put, List.setIfInBounds_toArray, List.set_cons_zero, List.set_cons_succ]
        refine wpAnyH_take (i := 6) (oi := { dst := some 56, op := Op.load 9 (Operand.tmp 55), type := 9, pos := "outright.go:58", after := #[{ on := 5, ground := Ground.data }], guard := none }) (v := ?vv34) rfl (by kernel_rfl) (by kernel_rfl) (by kernel_rfl) (fun _ _ _ h => h) (Or.inl ⟨by rfl, ?hy34⟩) (by assumption) ?_
        case hy34 => (intro w hSw; (try dsimp only at hSw); go_simp; all_goals with_reducible rfl)
        try simp only [Act.put, List.setIfInBounds_toArray, List.set_cons_zero, List.set_cons_succ]
        refine wpAnyH_ready (rs := [3]) (by kernel_rfl) (by simp) ?_
        refine AllReadyH.cons (o := { dst := some 53, op := Op.call { callee := Callee.value (Operand.func 9), args := #[Operand.tmp 50, Operand.tmp 51, Operand.tmp 52], argTypes := #[24, 24, 25] }, type := 4, pos := "outright.go:58", after := #[{ on := 0, ground := Ground.data }, { on := 1, ground := Ground.data }, { on := 2, ground := Ground.data }], guard := none }) rfl (fun K hK => ?_) AllReadyH.nil
        go_simp
        refine (match_any ⟨pm, ps, pa, pp, (pyb, n, pyc), pb⟩ ⟨pm, ps, pa, pp, (yb, n1, yc), PB⟩ (tb, tl, tc) (P) (inL P a ⟨fn, fv, fnv⟩) l _ (HPI.out _ (DW.out.trans (hIW.mono DW.out.size))) (HQI.out _ hIW) (HTI.out _ (DW.out.trans (hIW.mono DW.out.size))) HZ1.out HZ2.out).mono ?_
        rintro e' Wx ⟨rfl, bX⟩
        rw [show mtB ⟨pm, ps, pa, pp, (pyb, n, pyc), pb⟩ ⟨pm, ps, pa, pp, (yb, n1, yc), PB⟩ (P) (inL P a ⟨fn, fv, fnv⟩) l = false from by rw [mt_more ⟨pm, ps, pa, pp, (pyb, n, pyc), pb⟩ ⟨pm, ps, pa, pp, (yb, n1, yc), PB⟩ P l a ⟨fn, fv, fnv⟩ rfl, HN.out]; rfl]
        have hIWx : Below w8.heap.size w8 Wx := hIW.trans (bX.mono hIW.size)
        go_wp2_with fail
        refine hK.out _ _ (HC.out _ hIWx) (fun hHeld => ?_)
        clear hK K bX hIW
        try simp only [Act.put, List.setIfInBounds_toArray, List.set_cons_zero, List.set_cons_succ]
        refine wpAnyH_ready (rs := [7]) (by kernel_rfl) (by simp) ?_
        refine AllReadyH.cons (o := { dst := some 57, op := Op.call { callee := Callee.value (Operand.func 10), args := #[Operand.tmp 54, Operand.tmp 56], argTypes := #[25, 9] }, type := 4, pos := "outright.go:58", after := #[{ on := 4, ground := Ground.data }, { on := 6, ground := Ground.data }, { on := 3, ground := Ground.chain }], guard := none }) rfl (fun K hK => ?_) AllReadyH.nil
        go_simp
        refine (named_any (tb, tl, tc) l fn _ (HTI.out _ (DW.out.trans (hIWx.mono DW.out.size)))).mono ?_
        rintro e' Wxx ⟨rfl, bX⟩
        rw [HN.out]
        have hIWxx : Below w8.heap.size w8 Wxx := hIWx.trans (bX.mono hIWx.size)
        go_wp2_with fail
        refine hK.out _ _ (HC.out _ hIWxx) (fun hHeld => ?_)
        clear hK K bX hIWx
        try simp only [Act.put, List.setIfInBounds_toArray, List.set_cons_zero, List.set_cons_succ]
        refine wpAnyH_take (i := 8) (oi := { dst := some 58, op := Op.binOp BinOp.eql 4 (Operand.tmp 53) (Operand.tmp 57) 4, type := 4, pos := "outright.go:58", after := #[{ on := 3, ground := Ground.data }, { on := 7, ground := Ground.data }], guard := none }) (v := ?vv35) rfl (by kernel_rfl) (by kernel_rfl) (by kernel_rfl) (fun _ _ _ h => h) (Or.inl ⟨by rfl, ?hy35⟩) (by assumption) ?_
        case hy35 => (intro w hSw; (try dsimp only at hSw); go_simp; all_goals with_reducible rfl)
        try simp only [Act.put, List.setIfInBounds_toArray, List.set_cons_zero, List.set_cons_succ]
        refine wpAnyH_take (i := 9) (oi := { dst := some 59, op := Op.move (Operand.tmp 58), type := 4, pos := "outright.go:58", after := #[{ on := 8, ground := Ground.data }, { on := 7, ground := Ground.chain }], guard := none }) (v := ?vv36) rfl (by kernel_rfl) (by kernel_rfl) (by kernel_rfl) (fun _ _ _ h => h) (Or.inl ⟨by rfl, ?hy36⟩) (by assumption) ?_
        case hy36 => (intro w hSw; (try dsimp only at hSw); go_simp; all_goals with_reducible rfl)
        try simp only [Act.put, List.setIfInBounds_toArray, List.set_cons_zero, List.set_cons_succ]
        refine wpAnyH_take (i := 10) (oi := { dst := some 60, op := Op.load 24 (Operand.tmp 9), type := 24, pos := "outright.go:58", after := #[{ on := 9, ground := Ground.guard }], guard := some (9, false) }) (v := ?vv37) rfl (by kernel_rfl) (by kernel_rfl) (by kernel_rfl) (fun _ _ _ h => h) (Or.inl ⟨by rfl, ?hy37⟩) (by assumption) ?_
        case hy37 => (intro w hSw; (try dsimp only at hSw); go_simp; all_goals with_reducible rfl)
        try simp only [Act.put, List.setIfInBounds_toArray, List.set_cons_zero, List.set_cons_succ]
        refine wpAnyH_take (i := 11) (oi := { dst := some 61, op := Op.load 24 (Operand.tmp 4), type := 24, pos := "outright.go:58", after := #[{ on := 9, ground := Ground.guard }], guard := some (9, false) }) (v := ?vv38) rfl (by kernel_rfl) (by kernel_rfl) (by kernel_rfl) (fun _ _ _ h => h) (Or.inl ⟨by rfl, ?hy38⟩) (by assumption) ?_
        case hy38 => (intro w hSw; (try dsimp only at hSw); go_simp; all_goals with_reducible rfl)
        try simp only [Act.put, List.setIfInBounds_toArray, List.set_cons_zero, List.set_cons_succ]
        refine wpAnyH_take (i := 12) (oi := { dst := some 62, op := Op.move (Operand.tmp 1), type := 25, pos := "outright.go:58", after := #[{ on := 9, ground := Ground.guard }], guard := some (9, false) }) (v := ?vv39) rfl (by kernel_rfl) (by kernel_rfl) (by kernel_rfl) (fun _ _ _ h => h) (Or.inl ⟨by rfl, ?hy39⟩) (by assumption) ?_
        case hy39 => (intro w hSw; (try dsimp only at hSw); go_simp; all_goals with_reducible rfl)
        try simp only [Act.put, List.setIfInBounds_toArray, List.set_cons_zero, List.set_cons_succ]
        refine wpAnyH_take (i := 14) (oi := { dst := some 64, op := Op.move (Operand.tmp 1), type := 25, pos := "outright.go:58", after := #[{ on := 9, ground := Ground.guard }], guard := some (9, false) }) (v := ?vv40) rfl (by kernel_rfl) (by kernel_rfl) (by kernel_rfl) (fun _ _ _ h => h) (Or.inl ⟨by rfl, ?hy40⟩) (by assumption) ?_
        case hy40 => (intro w hSw; (try dsimp only at hSw); go_simp; all_goals with_reducible rfl)
        try simp only [Act.put, List.setIfInBounds_toArray, List.set_cons_zero, List.set_cons_succ]
        refine wpAnyH_take (i := 15) (oi := { dst := some 65, op := Op.fieldAddr 30 (Operand.tmp 6) 0, type := 0, pos := "outright.go:58", after := #[{ on := 9, ground := Ground.guard }], guard := some (9, false) }) (v := ?vv41) rfl (by kernel_rfl) (by kernel_rfl) (by kernel_rfl) (fun _ _ _ h => h) (Or.inl ⟨by rfl, ?hy41⟩) (by assumption) ?_
        case hy41 => (intro w hSw; (try dsimp only at hSw); go_simp; all_goals with_reducible rfl)
        try simp only [Act.put, List.setIfInBounds_toArray, List.set_cons_zero, List.set_cons_succ]
        refine wpAnyH_take (i := 16) (oi := { dst := some 66, op := Op.load 9 (Operand.tmp 65), type := 9, pos := "outright.go:58", after := #[{ on := 15, ground := Ground.data }, { on := 9, ground := Ground.guard }], guard := some (9, false) }) (v := ?vv42) rfl (by kernel_rfl) (by kernel_rfl) (by kernel_rfl) (fun _ _ _ h => h) (Or.inl ⟨by rfl, ?hy42⟩) (by assumption) ?_
        case hy42 => (intro w hSw; (try dsimp only at hSw); go_simp; all_goals with_reducible rfl)
        try simp only [Act.put, List.setIfInBounds_toArray, List.set_cons_zero, List.set_cons_succ]
        refine wpAnyH_ready (rs := [13]) (by kernel_rfl) (by simp) ?_
        refine AllReadyH.cons (o := { dst := some 63, op := Op.call { callee := Callee.value (Operand.func 9), args := #[Operand.tmp 60, Operand.tmp 61, Operand.tmp 62], argTypes := #[24, 24, 25] }, type := 4, pos := "outright.go:58", after := #[{ on := 10, ground := Ground.data }, { on := 11, ground := Ground.data }, { on := 12, ground := Ground.data }, { on := 9, ground := Ground.chain }, { on := 9, ground := Ground.guard }], guard := some (9, false) }) rfl (fun K hK => ?_) AllReadyH.nil
        go_simp
        refine (match_any ⟨pm, ps, pa, pp, (yb, n1, yc), PB⟩ ⟨pm, ps, pa, pp, (pyb, n, pyc), pb⟩ (tb, tl, tc) (inL P a ⟨fn, fv, fnv⟩) (P) l _ (HQI.out _ hIWxx) (HPI.out _ (DW.out.trans (hIWxx.mono DW.out.size))) (HTI.out _ (DW.out.trans (hIWxx.mono DW.out.size))) HZ2.out HZ1.out).mono ?_
        rintro e' Wxxx ⟨rfl, bX⟩
        rw [show mtB ⟨pm, ps, pa, pp, (yb, n1, yc), PB⟩ ⟨pm, ps, pa, pp, (pyb, n, pyc), pb⟩ (inL P a ⟨fn, fv, fnv⟩) (P) l = false from by rw [mtB_symm, mt_more ⟨pm, ps, pa, pp, (pyb, n, pyc), pb⟩ ⟨pm, ps, pa, pp, (yb, n1, yc), PB⟩ P l a ⟨fn, fv, fnv⟩ rfl, HN.out]; rfl]
        have hIWxxx : Below w8.heap.size w8 Wxxx := hIWxx.trans (bX.mono hIWxx.size)
        go_wp2_with fail
        refine hK.out _ _ (HC.out _ hIWxxx) (fun hHeld => ?_)
        clear hK K bX hIWxx
        try simp only [Act.put, List.setIfInBounds_toArray, List.set_cons_zero, List.set_cons_succ]
        refine wpAnyH_ready (rs := [17]) (by kernel_rfl) (by simp) ?_
        refine AllReadyH.cons (o := { dst := some 67, op := Op.call { callee := Callee.value (Operand.func 10), args := #[Operand.tmp 64, Operand.tmp 66], argTypes := #[25, 9] }, type := 4, pos := "outright.go:58", after := #[{ on := 14, ground := Ground.data }, { on := 16, ground := Ground.data }, { on := 13, ground := Ground.chain }, { on := 9, ground := Ground.guard }], guard := some (9, false) }) rfl (fun K hK => ?_) AllReadyH.nil
        go_simp
        refine (named_any (tb, tl, tc) l fn _ (HTI.out _ (DW.out.trans (hIWxxx.mono DW.out.size)))).mono ?_
        rintro e' Wxxxx ⟨rfl, bX⟩
        rw [HN.out]
        have hIWxxxx : Below w8.heap.size w8 Wxxxx := hIWxxx.trans (bX.mono hIWxxx.size)
        go_wp2_with fail
        refine hK.out _ _ (HC.out _ hIWxxxx) (fun hHeld => ?_)
        clear hK K bX hIWxxx
        try simp only [Act.put, List.setIfInBounds_toArray, List.set_cons_zero, List.set_cons_succ]
        refine wpAnyH_take (i := 18) (oi := { dst := some 68, op := Op.binOp BinOp.eql 4 (Operand.tmp 63) (Operand.tmp 67) 4, type := 4, pos := "outright.go:58", after := #[{ on := 13, ground := Ground.data }, { on := 17, ground := Ground.data }, { on := 9, ground := Ground.guard }], guard := some (9, false) }) (v := ?vv43) rfl (by kernel_rfl) (by kernel_rfl) (by kernel_rfl) (fun _ _ _ h => h) (Or.inl ⟨by rfl, ?hy43⟩) (by assumption) ?_
        case hy43 => (intro w hSw; (try dsimp only at hSw); go_simp; all_goals with_reducible rfl)
        try simp only [Act.put, List.setIfInBounds_toArray, List.set_cons_zero, List.set_cons_succ]
        refine wpAnyH_take (i := 19) (oi := { dst := some 69, op := Op.pick (Operand.tmp 59) (Operand.const (Value.bool true)) (Operand.tmp 68), type := 4, pos := "outright.go:58", after := #[{ on := 9, ground := Ground.data }, { on := 18, ground := Ground.data }], guard := none }) (v := ?vv44) rfl (by kernel_rfl) (by kernel_rfl) (by kernel_rfl) (fun _ _ _ h => h) (Or.inl ⟨by rfl, ?hy44⟩) (by assumption) ?_
        case hy44 => (intro w hSw; (try dsimp only at hSw); go_simp; all_goals with_reducible rfl)
        try simp only [Act.put, List.setIfInBounds_toArray, List.set_cons_zero, List.set_cons_succ]
        refine wpAnyH_done (by kernel_rfl) ?_ _
        go_wp2_with fail
        go_meet
        exact ⟨by first | rfl | simp, hIWxxxx⟩
  obtain ⟨hx, hD⟩ := hcut
  subst hx
  obtain ⟨w9, hw9⟩ : ∃ x, wc = x := ⟨_, rfl⟩
  rw [hw9] at hD ⊢
  clear hw9
  obtain ⟨b1, b2, b3⟩ := HBX.out _ hD.out
  obtain ⟨y0, y1, y2, y3, y4, y5, y6⟩ := b2.cells
  obtain ⟨f0, f1, f2⟩ := b3.cells
  have fl := heap_lt b3
  clear b1 b2 b3
  go_upto_region 13 with fail
  obtain ⟨v9, hv9⟩ : ∃ x, w9.alloc (.cells #[.string pm, .string ps, .string pa, .string pp, .slice yb n1 yc, .string PB] 24) = x := ⟨_, rfl⟩
  have o9 : Hid (RqB v9 w9.heap.size ⟨pm, ps, pa, pp, (yb, n1, yc), PB⟩) := by rw [← hv9]; unfold RqB; rw [heap_al, if_pos rfl]; rfl
  have bo9 : Hid (Below w9.heap.size w9 v9) := by rw [← hv9]; exact bel1 _ _
  rw [hv9]
  clear hv9 y0 y1 y2 y3 y4 y5 y6 f0 f1 f2 fl
  have B8 : Hid (Below w8.heap.size w8 v9) := hD.out.trans (bo9.out.mono hD.out.size)
  obtain ⟨b1, b2, b3⟩ := HBX.out _ B8.out
  have y4 := cell_blk b2 4
  have yl := heap_lt b2
  simp only [rqv, sv, List.getElem?_toArray, List.getElem?_cons_succ, List.getElem?_cons_zero] at y4
  obtain ⟨gb, gc, w10, e1, e2, e3, e4, O1⟩ := Qs.copied bo9.out o9.out (.slice yb n1 yc) (fun W hb => HQI.out W (B8.out.trans (hb.mono B8.out.size))) HZ2.out
  have hn1' : (inL P a ⟨fn, fv, fnv⟩).length = n1 := by rw [in_len haP.out, ← EN.out]; exact hn1
  rw [hn1'] at e1 O1
  simp only at e2
  clear b1 b2 b3 hn1'
  go_upto_region 14 with (at_builtin; refine Lib.wpList_append_run _ rfl _ _ _ _ rfl _ _ rfl rfl _ _ e1.out ?_)
  obtain ⟨v10, hv10⟩ : ∃ x, w10.setCell ⟨w9.heap.size, 4, none⟩ (.slice gb n1 gc) = x := ⟨_, rfl⟩
  rw [hv10] at O1 ⊢
  have O2 : Hid (Qs w9 w9.heap.size ⟨pm, ps, pa, pp, (gb, n1, gc), PB⟩ (inL P a ⟨fn, fv, fnv⟩) v10) := O1.out
  clear hv10 O1 e1 e2 e3 e4 y4 yl
  obtain ⟨r, oc, q1, q2, q3, q4, q5, q6, q7, q8, q9, q10, _⟩ := O2.out.field haP.out
  simp only [Prod.mk.injEq] at q1
  obtain ⟨rfl, hq1, rfl⟩ := q1
  have hn2 : Hid (n1 = P.length + 1) := hq1
  have haN : Hid (a < n1) := by show _ < _; rw [hn2.out]; have := haP.out; omega
  have hai : (a : Int) < (n1 : Int) := by have := haN.out; omega
  have hlc : n1 ≤ gc := by rw [hq1]; exact q2
  obtain ⟨FV, hFV⟩ : ∃ x, fv ++ ⟨#[121]⟩ = x := ⟨_, rfl⟩
  have HNE : Hid (FV ≠ fv) := by show _ ≠ _; rw [← hFV]; exact more_ne _ _ (by decide)
  have hfx : ¬ fv.size + 1 > 9223372036854775807 := by omega
  have FB : Hid (∀ W, Below w9.heap.size w9 W → Below w8.heap.size w8 W) := fun W hb => hD.out.trans (hb.mono hD.out.size)
  have o4 := cell_blk O2.out.bx 4
  have ol := heap_lt O2.out.bx
  simp only [rqv, sv, List.getElem?_toArray, List.getElem?_cons_succ, List.getElem?_cons_zero] at o4
  obtain ⟨_, _, b3⟩ := HBX.out _ (FB.out _ O2.out.bel)
  obtain ⟨f0, f1, f2⟩ := b3.cells
  have fl := heap_lt b3
  have O3 : Hid (Qs w9 w9.heap.size ⟨pm, ps, pa, pp, (some ⟨r, 0, none⟩, n1, gc), PB⟩ (inL P a ⟨fn, FV, fnv⟩) (v10.setCell ⟨r, a * 3 + 1, none⟩ (.string FV))) := q10 FV
  clear hq1 q2 q10 b3 q7 q9
  go_upto_region 15 with fail
  obtain ⟨v11, hv11⟩ : ∃ x, v10.setCell ⟨r, a * 3 + 1, none⟩ (.string FV) = x := ⟨_, rfl⟩
  rw [hv11] at O3 ⊢
  clear hv11 hFV hfx q3 q4 q5 q6 q8 o4 ol f0 f1 f2 fl O2
  obtain ⟨r', oc', q1, _, q3, q4, q5, q6, q7, _, q9, _, q10⟩ := O3.out.field haP.out
  simp only [Prod.mk.injEq, Option.some.injEq, Addr.mk.injEq, and_true] at q1
  obtain ⟨rfl, hq1, rfl⟩ := q1
  obtain ⟨NV, hNV⟩ : ∃ x, (!fnv) = x := ⟨_, rfl⟩
  have o4 := cell_blk O3.out.bx 4
  have ol := heap_lt O3.out.bx
  simp only [rqv, sv, List.getElem?_toArray, List.getElem?_cons_succ, List.getElem?_cons_zero] at o4
  obtain ⟨_, _, b3⟩ := HBX.out _ (FB.out _ O3.out.bel)
  obtain ⟨f0, f1, f2⟩ := b3.cells
  have fl := heap_lt b3
  have O4 : Hid (Qs w9 w9.heap.size ⟨pm, ps, pa, pp, (some ⟨r, 0, none⟩, n1, gc), PB⟩ (inL P a ⟨fn, FV, NV⟩) (v11.setCell ⟨r, a * 3 + 2, none⟩ (.bool NV))) := q10 NV
  clear hq1 q10 b3 q6
  go_upto_region 16 with fail
  obtain ⟨w12, hw12⟩ : ∃ x, v11.setCell ⟨r, a * 3 + 2, none⟩ (.bool NV) = x := ⟨_, rfl⟩
  rw [hw12] at O4 ⊢
  clear hw12 hNV q3 q4 q5 q7 q9 o4 ol f0 f1 f2 fl O3
  clear DW
  have DW : Hid (Below w2.heap.size w2 w12) := by
    have h8 := H2.out _ Q4.out.bel
    have h := FB.out _ O4.out.bel
    exact h8.trans (h.mono h8.size)
  have HQI' : Hid (∀ W, Below w12.heap.size w12 W → In EFd W (.slice yb n1 yc) (inL P a ⟨fn, fv, fnv⟩)) := fun W hb => HQI.out W ((FB.out _ O4.out.bel).trans (hb.mono (FB.out _ O4.out.bel).size))
  have HBX' : Hid (∀ W, Below w12.heap.size w12 W → RqB W w9.heap.size ⟨pm, ps, pa, pp, (some ⟨r, 0, none⟩, n1, gc), PB⟩ ∧ RqB W w3.heap.size ⟨pm, ps, pa, pp, (yb, n1, yc), PB⟩ ∧ FdB W (w.heap.size + 1) ⟨fn, fv, fnv⟩) := fun W hb => by
    have h := (FB.out _ O4.out.bel).trans (hb.mono (FB.out _ O4.out.bel).size)
    obtain ⟨_, h2, h3⟩ := HBX.out W h
    exact ⟨O4.out.bx.below hb, h2, h3⟩
  clear HQI
  have HQI := HQI'
  clear HQI'
  have HOI : Hid (∀ W, Below w12.heap.size w12 W → In EFd W (.slice (some ⟨r, 0, none⟩) n1 gc) (inL P a ⟨fn, FV, NV⟩)) := fun W hb => (R.isIn O4.out.row).below hb
  go_cut [100] from 11 (fun x wx => x = .bool false ∧ Hid (Below w12.heap.size w12 wx))
  case first =>
    have HC : Hid (∀ W, Below w12.heap.size w12 W → (fun W => W.cell? ⟨w9.heap.size, 0, none⟩ = some (.string pm) ∧ W.cell? ⟨w9.heap.size, 1, none⟩ = some (.string ps) ∧ W.cell? ⟨w9.heap.size, 2, none⟩ = some (.string pa) ∧ W.cell? ⟨w9.heap.size, 3, none⟩ = some (.string pp) ∧ W.cell? ⟨w9.heap.size, 4, none⟩ = some (.slice (some ⟨r, 0, none⟩) n1 gc) ∧ W.cell? ⟨w9.heap.size, 5, none⟩ = some (.string PB) ∧ W.cell? ⟨w3.heap.size, 0, none⟩ = some (.string pm) ∧ W.cell? ⟨w3.heap.size, 1, none⟩ = some (.string ps) ∧ W.cell? ⟨w3.heap.size, 2, none⟩ = some (.string pa) ∧ W.cell? ⟨w3.heap.size, 3, none⟩ = some (.string pp) ∧ W.cell? ⟨w3.heap.size, 4, none⟩ = some (.slice yb n1 yc) ∧ W.cell? ⟨w3.heap.size, 5, none⟩ = some (.string PB) ∧ W.cell? ⟨w.heap.size + 1, 0, none⟩ = some (.string fn)) W) := fun W hb => by
      obtain ⟨h1, h2, h3⟩ := HBX'.out W hb
      obtain ⟨x0, x1, x2, x3, x4, x5, _⟩ := h1.cells
      obtain ⟨u0, u1, u2, u3, u4, u5, _⟩ := h2.cells
      exact ⟨x0, x1, x2, x3, x4, x5, u0, u1, u2, u3, u4, u5, h3.cells.1⟩
    cases Nb
    · as_aux_lemma =>
        have hIW : Below w12.heap.size w12 (w12.drew) := (Below.refl _ _).drew
        refine wp_region_held_drew (S := (fun W => W.cell? ⟨w9.heap.size, 0, none⟩ = some (.string pm) ∧ W.cell? ⟨w9.heap.size, 1, none⟩ = some (.string ps) ∧ W.cell? ⟨w9.heap.size, 2, none⟩ = some (.string pa) ∧ W.cell? ⟨w9.heap.size, 3, none⟩ = some (.string pp) ∧ W.cell? ⟨w9.heap.size, 4, none⟩ = some (.slice (some ⟨r, 0, none⟩) n1 gc) ∧ W.cell? ⟨w9.heap.size, 5, none⟩ = some (.string PB) ∧ W.cell? ⟨w3.heap.size, 0, none⟩ = some (.string pm) ∧ W.cell? ⟨w3.heap.size, 1, none⟩ = some (.string ps) ∧ W.cell? ⟨w3.heap.size, 2, none⟩ = some (.string pa) ∧ W.cell? ⟨w3.heap.size, 3, none⟩ = some (.string pp) ∧ W.cell? ⟨w3.heap.size, 4, none⟩ = some (.slice yb n1 yc) ∧ W.cell? ⟨w3.heap.size, 5, none⟩ = some (.string PB) ∧ W.cell? ⟨w.heap.size + 1, 0, none⟩ = some (.string fn))) (by kernel_rfl) (HC.out _ hIW) (fun hHeld => ?_)
        generalize hWg : World.drew _ = W at hIW hHeld ⊢
        clear hWg
        refine wpAnyH_take (i := 0) (oi := { dst := some 92, op := Op.load 24 (Operand.tmp 10), type := 24, pos := "outright.go:65", after := #[], guard := none }) (v := ?vv45) rfl (by kernel_rfl) (by kernel_rfl) (by kernel_rfl) (fun _ _ _ h => h) (Or.inl ⟨by rfl, ?hy45⟩) (by assumption) ?_
        case hy45 => (intro w hSw; (try dsimp only at hSw); go_simp; all_goals with_reducible rfl)
        try simp only [Act.put, List.setIfInBounds_toArray, List.set_cons_zero, List.set_cons_succ]
        refine wpAnyH_take (i := 1) (oi := { dst := some 93, op := Op.load 24 (Operand.tmp 9), type := 24, pos := "outright.go:65", after := #[], guard := none }) (v := ?vv46) rfl (by kernel_rfl) (by kernel_rfl) (by kernel_rfl) (fun _ _ _ h => h) (Or.inl ⟨by rfl, ?hy46⟩) (by assumption) ?_
        case hy46 => (intro w hSw; (try dsimp only at hSw); go_simp; all_goals with_reducible rfl)
        try simp only [Act.put, List.setIfInBounds_toArray, List.set_cons_zero, List.set_cons_succ]
        refine wpAnyH_take (i := 2) (oi := { dst := some 94, op := Op.move (Operand.tmp 1), type := 25, pos := "outright.go:65", after := #[], guard := none }) (v := ?vv47) rfl (by kernel_rfl) (by kernel_rfl) (by kernel_rfl) (fun _ _ _ h => h) (Or.inl ⟨by rfl, ?hy47⟩) (by assumption) ?_
        case hy47 => (intro w hSw; (try dsimp only at hSw); go_simp; all_goals with_reducible rfl)
        try simp only [Act.put, List.setIfInBounds_toArray, List.set_cons_zero, List.set_cons_succ]
        refine wpAnyH_take (i := 4) (oi := { dst := some 96, op := Op.move (Operand.tmp 1), type := 25, pos := "outright.go:65", after := #[], guard := none }) (v := ?vv48) rfl (by kernel_rfl) (by kernel_rfl) (by kernel_rfl) (fun _ _ _ h => h) (Or.inl ⟨by rfl, ?hy48⟩) (by assumption) ?_
        case hy48 => (intro w hSw; (try dsimp only at hSw); go_simp; all_goals with_reducible rfl)
        try simp only [Act.put, List.setIfInBounds_toArray, List.set_cons_zero, List.set_cons_succ]
        refine wpAnyH_take (i := 5) (oi := { dst := some 97, op := Op.fieldAddr 30 (Operand.tmp 6) 0, type := 0, pos := "outright.go:65", after := #[], guard := none }) (v := ?vv49) rfl (by kernel_rfl) (by kernel_rfl) (by kernel_rfl) (fun _ _ _ h => h) (Or.inl ⟨by rfl, ?hy49⟩) (by assumption) ?_
        case hy49 => (intro w hSw; (try dsimp only at hSw); go_simp; all_goals with_reducible rfl)
        try simp only [Act.put, List.setIfInBounds_toArray, List.set_cons_zero, List.set_cons_succ]
        refine wpAnyH_take (i := 6) (oi := { dst := some 98, op := Op.load 9 (Operand.tmp 97), type := 9, pos := "outright.go:65", after := #[{ on := 5, ground := Ground.data }], guard := none }) (v := ?vv50) rfl (by kernel_rfl) (by kernel_rfl) (by kernel_rfl) (fun _ _ _ h => h) (Or.inl ⟨by rfl, ?hy50⟩) (by assumption) ?_
        case hy50 => (intro w hSw; (try dsimp only at hSw); go_simp; all_goals with_reducible rfl)
        try simp only [Act.put, List.setIfInBounds_toArray, List.set_cons_zero, List.set_cons_succ]
        refine wpAnyH_ready (rs := [3]) (by kernel_rfl) (by simp) ?_
        refine AllReadyH.cons (o := { dst := some 95, op := Op.call { callee := Callee.value (Operand.func 9), args := #[Operand.tmp 92, Operand.tmp 93, Operand.tmp 94], argTypes := #[24, 24, 25] }, type := 4, pos := "outright.go:65", after := #[{ on := 0, ground := Ground.data }, { on := 1, ground := Ground.data }, { on := 2, ground := Ground.data }], guard := none }) rfl (fun K hK => ?_) AllReadyH.nil
        go_simp
        refine (match_any ⟨pm, ps, pa, pp, (some ⟨r, 0, none⟩, n1, gc), PB⟩ ⟨pm, ps, pa, pp, (yb, n1, yc), PB⟩ (tb, tl, tc) (inL P a ⟨fn, FV, NV⟩) (inL P a ⟨fn, fv, fnv⟩) l _ (HOI.out _ hIW) (HQI.out _ hIW) (HTI.out _ (DW.out.trans (hIW.mono DW.out.size))) (HZ3.out _) HZ2.out).mono ?_
        rintro e' Wx ⟨rfl, bX⟩
        rw [show mtB ⟨pm, ps, pa, pp, (some ⟨r, 0, none⟩, n1, gc), PB⟩ ⟨pm, ps, pa, pp, (yb, n1, yc), PB⟩ (inL P a ⟨fn, FV, NV⟩) (inL P a ⟨fn, fv, fnv⟩) l = true from by rw [mt_other ⟨pm, ps, pa, pp, (some ⟨r, 0, none⟩, n1, gc), PB⟩ ⟨pm, ps, pa, pp, (yb, n1, yc), PB⟩ P l a ⟨fn, fv, fnv⟩ ⟨fn, FV, NV⟩ rfl rfl HNE.out, HN.out]; rfl]
        have hIWx : Below w12.heap.size w12 Wx := hIW.trans (bX.mono hIW.size)
        go_wp2_with fail
        refine hK.out _ _ (HC.out _ hIWx) (fun hHeld => ?_)
        clear hK K bX hIW
        try simp only [Act.put, List.setIfInBounds_toArray, List.set_cons_zero, List.set_cons_succ]
        refine wpAnyH_ready (rs := [7]) (by kernel_rfl) (by simp) ?_
        refine AllReadyH.cons (o := { dst := some 99, op := Op.call { callee := Callee.value (Operand.func 10), args := #[Operand.tmp 96, Operand.tmp 98], argTypes := #[25, 9] }, type := 4, pos := "outright.go:65", after := #[{ on := 4, ground := Ground.data }, { on := 6, ground := Ground.data }, { on := 3, ground := Ground.chain }], guard := none }) rfl (fun K hK => ?_) AllReadyH.nil
        go_simp
        refine (named_any (tb, tl, tc) l fn _ (HTI.out _ (DW.out.trans (hIWx.mono DW.out.size)))).mono ?_
        rintro e' Wxx ⟨rfl, bX⟩
        rw [HN.out]
        have hIWxx : Below w12.heap.size w12 Wxx := hIWx.trans (bX.mono hIWx.size)
        go_wp2_with fail
        refine hK.out _ _ (HC.out _ hIWxx) (fun hHeld => ?_)
        clear hK K bX hIWx
        try simp only [Act.put, List.setIfInBounds_toArray, List.set_cons_zero, List.set_cons_succ]
        refine wpAnyH_take (i := 8) (oi := { dst := some 100, op := Op.binOp BinOp.eql 4 (Operand.tmp 95) (Operand.tmp 99) 4, type := 4, pos := "outright.go:65", after := #[{ on := 3, ground := Ground.data }, { on := 7, ground := Ground.data }], guard := none }) (v := ?vv51) rfl (by kernel_rfl) (by kernel_rfl) (by kernel_rfl) (fun _ _ _ h => h) (Or.inl ⟨by rfl, ?hy51⟩) (by assumption) ?_
        case hy51 => (intro w hSw; (try dsimp only at hSw); go_simp; all_goals with_reducible rfl)
        try simp only [Act.put, List.setIfInBounds_toArray, List.set_cons_zero, List.set_cons_succ]
        refine wpAnyH_done (by kernel_rfl) ?_ _
        go_wp2_with fail
        go_meet
        exact ⟨by first | rfl | simp, hIWxx⟩
    · as_aux_lemma =>
        have hIW : Below w12.heap.size w12 (w12.drew) := (Below.refl _ _).drew
        refine wp_region_held_drew (S := (fun W => W.cell? ⟨w9.heap.size, 0, none⟩ = some (.string pm) ∧ W.cell? ⟨w9.heap.size, 1, none⟩ = some (.string ps) ∧ W.cell? ⟨w9.heap.size, 2, none⟩ = some (.string pa) ∧ W.cell? ⟨w9.heap.size, 3, none⟩ = some (.string pp) ∧ W.cell? ⟨w9.heap.size, 4, none⟩ = some (.slice (some ⟨r, 0, none⟩) n1 gc) ∧ W.cell? ⟨w9.heap.size, 5, none⟩ = some (.string PB) ∧ W.cell? ⟨w3.heap.size, 0, none⟩ = some (.string pm) ∧ W.cell? ⟨w3.heap.size, 1, none⟩ = some (.string ps) ∧ W.cell? ⟨w3.heap.size, 2, none⟩ = some (.string pa) ∧ W.cell? ⟨w3.heap.size, 3, none⟩ = some (.string pp) ∧ W.cell? ⟨w3.heap.size, 4, none⟩ = some (.slice yb n1 yc) ∧ W.cell? ⟨w3.heap.size, 5, none⟩ = some (.string PB) ∧ W.cell? ⟨w.heap.size + 1, 0, none⟩ = some (.string fn))) (by kernel_rfl) (HC.out _ hIW) (fun hHeld => ?_)
        generalize hWg : World.drew _ = W at hIW hHeld ⊢
        clear hWg
        refine wpAnyH_take (i := 0) (oi := { dst := some 92, op := Op.load 24 (Operand.tmp 10), type := 24, pos := "outright.go:65", after := #[], guard := none }) (v := ?vv52) rfl (by kernel_rfl) (by kernel_rfl) (by kernel_rfl) (fun _ _ _ h => h) (Or.inl ⟨by rfl, ?hy52⟩) (by assumption) ?_
        case hy52 => (intro w hSw; (try dsimp only at hSw); go_simp; all_goals with_reducible rfl)
        try simp only [Act.put, List.setIfInBounds_toArray, List.set_cons_zero, List.set_cons_succ]
        refine wpAnyH_take (i := 1) (oi := { dst := some 93, op := Op.load 24 (Operand.tmp 9), type := 24, pos := "outright.go:65", after := #[], guard := none }) (v := ?vv53) rfl (by kernel_rfl) (by kernel_rfl) (by kernel_rfl) (fun _ _ _ h => h) (Or.inl ⟨by rfl, ?hy53⟩) (by assumption) ?_
        case hy53 => (intro w hSw; (try dsimp only at hSw); go_simp; all_goals with_reducible rfl)
        try simp only [Act.put, List.setIfInBounds_toArray, List.set_cons_zero, List.set_cons_succ]
        refine wpAnyH_take (i := 2) (oi := { dst := some 94, op := Op.move (Operand.tmp 1), type := 25, pos := "outright.go:65", after := #[], guard := none }) (v := ?vv54) rfl (by kernel_rfl) (by kernel_rfl) (by kernel_rfl) (fun _ _ _ h => h) (Or.inl ⟨by rfl, ?hy54⟩) (by assumption) ?_
        case hy54 => (intro w hSw; (try dsimp only at hSw); go_simp; all_goals with_reducible rfl)
        try simp only [Act.put, List.setIfInBounds_toArray, List.set_cons_zero, List.set_cons_succ]
        refine wpAnyH_take (i := 4) (oi := { dst := some 96, op := Op.move (Operand.tmp 1), type := 25, pos := "outright.go:65", after := #[], guard := none }) (v := ?vv55) rfl (by kernel_rfl) (by kernel_rfl) (by kernel_rfl) (fun _ _ _ h => h) (Or.inl ⟨by rfl, ?hy55⟩) (by assumption) ?_
        case hy55 => (intro w hSw; (try dsimp only at hSw); go_simp; all_goals with_reducible rfl)
        try simp only [Act.put, List.setIfInBounds_toArray, List.set_cons_zero, List.set_cons_succ]
        refine wpAnyH_take (i := 5) (oi := { dst := some 97, op := Op.fieldAddr 30 (Operand.tmp 6) 0, type := 0, pos := "outright.go:65", after := #[], guard := none }) (v := ?vv56) rfl (by kernel_rfl) (by kernel_rfl) (by kernel_rfl) (fun _ _ _ h => h) (Or.inl ⟨by rfl, ?hy56⟩) (by assumption) ?_
        case hy56 => (intro w hSw; (try dsimp only at hSw); go_simp; all_goals with_reducible rfl)
        try simp only [Act.put, List.setIfInBounds_toArray, List.set_cons_zero, List.set_cons_succ]
        refine wpAnyH_take (i := 6) (oi := { dst := some 98, op := Op.load 9 (Operand.tmp 97), type := 9, pos := "outright.go:65", after := #[{ on := 5, ground := Ground.data }], guard := none }) (v := ?vv57) rfl (by kernel_rfl) (by kernel_rfl) (by kernel_rfl) (fun _ _ _ h => h) (Or.inl ⟨by rfl, ?hy57⟩) (by assumption) ?_
        case hy57 => (intro w hSw; (try dsimp only at hSw); go_simp; all_goals with_reducible rfl)
        try simp only [Act.put, List.setIfInBounds_toArray, List.set_cons_zero, List.set_cons_succ]
        refine wpAnyH_ready (rs := [3]) (by kernel_rfl) (by simp) ?_
        refine AllReadyH.cons (o := { dst := some 95, op := Op.call { callee := Callee.value (Operand.func 9), args := #[Operand.tmp 92, Operand.tmp 93, Operand.tmp 94], argTypes := #[24, 24, 25] }, type := 4, pos := "outright.go:65", after := #[{ on := 0, ground := Ground.data }, { on := 1, ground := Ground.data }, { on := 2, ground := Ground.data }], guard := none }) rfl (fun K hK => ?_) AllReadyH.nil
        go_simp
        refine (match_any ⟨pm, ps, pa, pp, (some ⟨r, 0, none⟩, n1, gc), PB⟩ ⟨pm, ps, pa, pp, (yb, n1, yc), PB⟩ (tb, tl, tc) (inL P a ⟨fn, FV, NV⟩) (inL P a ⟨fn, fv, fnv⟩) l _ (HOI.out _ hIW) (HQI.out _ hIW) (HTI.out _ (DW.out.trans (hIW.mono DW.out.size))) (HZ3.out _) HZ2.out).mono ?_
        rintro e' Wx ⟨rfl, bX⟩
        rw [show mtB ⟨pm, ps, pa, pp, (some ⟨r, 0, none⟩, n1, gc), PB⟩ ⟨pm, ps, pa, pp, (yb, n1, yc), PB⟩ (inL P a ⟨fn, FV, NV⟩) (inL P a ⟨fn, fv, fnv⟩) l = false from by rw [mt_other ⟨pm, ps, pa, pp, (some ⟨r, 0, none⟩, n1, gc), PB⟩ ⟨pm, ps, pa, pp, (yb, n1, yc), PB⟩ P l a ⟨fn, fv, fnv⟩ ⟨fn, FV, NV⟩ rfl rfl HNE.out, HN.out]; rfl]
        have hIWx : Below w12.heap.size w12 Wx := hIW.trans (bX.mono hIW.size)
        go_wp2_with fail
        refine hK.out _ _ (HC.out _ hIWx) (fun hHeld => ?_)
        clear hK K bX hIW
        try simp only [Act.put, List.setIfInBounds_toArray, List.set_cons_zero, List.set_cons_succ]
        refine wpAnyH_ready (rs := [7]) (by kernel_rfl) (by simp) ?_
        refine AllReadyH.cons (o := { dst := some 99, op := Op.call { callee := Callee.value (Operand.func 10), args := #[Operand.tmp 96, Operand.tmp 98], argTypes := #[25, 9] }, type := 4, pos := "outright.go:65", after := #[{ on := 4, ground := Ground.data }, { on := 6, ground := Ground.data }, { on := 3, ground := Ground.chain }], guard := none }) rfl (fun K hK => ?_) AllReadyH.nil
        go_simp
        refine (named_any (tb, tl, tc) l fn _ (HTI.out _ (DW.out.trans (hIWx.mono DW.out.size)))).mono ?_
        rintro e' Wxx ⟨rfl, bX⟩
        rw [HN.out]
        have hIWxx : Below w12.heap.size w12 Wxx := hIWx.trans (bX.mono hIWx.size)
        go_wp2_with fail
        refine hK.out _ _ (HC.out _ hIWxx) (fun hHeld => ?_)
        clear hK K bX hIWx
        try simp only [Act.put, List.setIfInBounds_toArray, List.set_cons_zero, List.set_cons_succ]
        refine wpAnyH_take (i := 8) (oi := { dst := some 100, op := Op.binOp BinOp.eql 4 (Operand.tmp 95) (Operand.tmp 99) 4, type := 4, pos := "outright.go:65", after := #[{ on := 3, ground := Ground.data }, { on := 7, ground := Ground.data }], guard := none }) (v := ?vv58) rfl (by kernel_rfl) (by kernel_rfl) (by kernel_rfl) (fun _ _ _ h => h) (Or.inl ⟨by rfl, ?hy58⟩) (by assumption) ?_
        case hy58 => (intro w hSw; (try dsimp only at hSw); go_simp; all_goals with_reducible rfl)
        try simp only [Act.put, List.setIfInBounds_toArray, List.set_cons_zero, List.set_cons_succ]
        refine wpAnyH_done (by kernel_rfl) ?_ _
        go_wp2_with fail
        go_meet
        exact ⟨by first | rfl | simp, hIWxx⟩
  obtain ⟨hx, hD2⟩ := hcut
  subst hx
  obtain ⟨w13, hw13⟩ : ∃ x, wc = x := ⟨_, rfl⟩
  rw [hw13] at hD2 ⊢
  clear hw13 HOI
  have O5 : Hid (Qs w9 w9.heap.size ⟨pm, ps, pa, pp, (some ⟨r, 0, none⟩, n1, gc), PB⟩ (inL P a ⟨fn, FV, NV⟩) w13) := O4.out.drew hD2.out
  obtain ⟨r', oc', q1, _, q3, q4, q5, q6, q7, q8, _, q10, _⟩ := O5.out.field haP.out
  simp only [Prod.mk.injEq, Option.some.injEq, Addr.mk.injEq, and_true] at q1
  obtain ⟨rfl, hq1, rfl⟩ := q1
  have o4 := cell_blk O5.out.bx 4
  have ol := heap_lt O5.out.bx
  simp only [rqv, sv, List.getElem?_toArray, List.getElem?_cons_succ, List.getElem?_cons_zero] at o4
  obtain ⟨_, _, b3⟩ := HBX.out _ (FB.out _ O5.out.bel)
  obtain ⟨f0, f1, f2⟩ := b3.cells
  have fl := heap_lt b3
  have O6 : Hid (Qs w9 w9.heap.size ⟨pm, ps, pa, pp, (some ⟨r, 0, none⟩, n1, gc), PB⟩ (inL P a ⟨fn, fv, NV⟩) (w13.setCell ⟨r, a * 3 + 1, none⟩ (.string fv))) := q10 fv
  clear hq1 q10 b3 q7
  go_upto_region 19 with fail
  obtain ⟨w14, hw14⟩ : ∃ x, w13.setCell ⟨r, a * 3 + 1, none⟩ (.string fv) = x := ⟨_, rfl⟩
  rw [hw14] at O6 ⊢
  clear hw14 q3 q4 q5 q6 q8 o4 ol f0 f1 f2 fl O5
  have h14 := FB.out _ O6.out.bel
  obtain ⟨o0, o1, o2, o3, o4, o5, o6⟩ := O6.out.bx.cells
  obtain ⟨_, b2, _⟩ := HBX.out _ h14
  obtain ⟨y0, y1, y2, y3, y4, y5, y6⟩ := b2.cells
  have I1 : Hid (In EFd w14 (.slice (some ⟨r, 0, none⟩) n1 gc) (inL P a ⟨fn, fv, NV⟩)) := R.isIn O6.out.row
  have I2 : Hid (In EFd w14 (.slice yb n1 yc) (inL P a ⟨fn, fv, fnv⟩)) := (R.isIn Q4.out.row).below h14
  have h2 : Below w2.heap.size w2 w14 := by
    have h8 := H2.out _ Q4.out.bel
    exact h8.trans (h14.mono h8.size)
  have I3 : Hid (In ES w14 (.slice tb tl tc) l) := HTI.out _ h2
  have BF : Hid (Below w.heap.size w w14) := BW.out.trans (h2.mono BW.out.size)
  clear b2 h14 h2
  go_wp2_with fail
  go_at_call 9
  refine (match_any ⟨pm, ps, pa, pp, (some ⟨r, 0, none⟩, n1, gc), PB⟩ ⟨pm, ps, pa, pp, (yb, n1, yc), PB⟩ (tb, tl, tc) (inL P a ⟨fn, fv, NV⟩) (inL P a ⟨fn, fv, fnv⟩) l _ I1.out I2.out I3.out (HZ3.out _) HZ2.out).mono ?_
  rintro e' w15 ⟨rfl, bX⟩
  rw [show mtB ⟨pm, ps, pa, pp, (some ⟨r, 0, none⟩, n1, gc), PB⟩ ⟨pm, ps, pa, pp, (yb, n1, yc), PB⟩ (inL P a ⟨fn, fv, NV⟩) (inL P a ⟨fn, fv, fnv⟩) l = true from mt_same _ _ P l a ⟨fn, fv, fnv⟩ ⟨fn, fv, NV⟩ rfl rfl rfl]
  have BE : Hid (Below w.heap.size w w15) := BF.out.trans (bX.mono BF.out.size)
  clear bX o0 o1 o2 o3 o4 o5 o6 y0 y1 y2 y3 y4 y5 y6
  go_wp2_with fail
  go_ret
  exact ⟨rfl, BE.out⟩
end Go.Proofs.YtckdldbheejmhaaDoor
