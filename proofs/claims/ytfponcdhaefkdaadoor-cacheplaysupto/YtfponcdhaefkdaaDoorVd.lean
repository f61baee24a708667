import Derived.Test.YtfponcdhaefkdaaDoorCe
import Derived.BigQuiet
import Derived.Deep.QuietTactic
/- The law's sameInts, sameFields, same, of what is alike. -/
namespace Go.Proofs.YtfponcdhaefkdaaDoor
open Go.RowKit
set_option linter.unusedVariables false
set_option linter.unusedSimpArgs false
theorem beq_l8 (a : List UInt8) : (a == a) = true := by simp
set_option maxHeartbeats 4000000 in
set_option maxRecDepth 100000 in
theorem sameInts_eq (s t : SV) (l : List Int) (w : World) (hI : In EI w (sv s) l) (hJ : In EI w (sv t) l) :
    Calls Tryd.prog 16 #[sv s, sv t] w fun e w' => e = .returned (.bool true) ∧ Below w.heap.size w w' := by
  have HI : Hid (In EI w (sv s) l) := hI
  have HJ : Hid (In EI w (sv t) l) := hJ
  obtain ⟨sb, sl, sc⟩ := s
  obtain ⟨tb, tl, tc⟩ := t
  obtain ⟨e1, e2, e3⟩ := slice_len hI
  obtain ⟨f1, f2, f3⟩ := slice_len hJ
  subst e1 f1
  simp only [sv] at HI HJ ⊢
  clear hI hJ
  go_enter Tryd.func16, Tryd.ntmps16
  go_wp2_with fail
  go_loopw [5] (fun iv wr => ∃ k : Nat, iv = .int .i64 (k : Int) ∧ k ≤ l.length ∧ Hid (Below w.heap.size w wr)) (fun iv _ => l.length - (intOf iv).toNat)
  case atStart => exact ⟨0, rfl, by omega, Below.refl _ _⟩
  case round =>
    obtain ⟨k, rfl, hk, hb⟩ := hrel
    by_cases hlt : k < l.length
    · obtain ⟨Bk, off, cap, e, hc⟩ := HI.out.int k hlt
      injection e with e1 e2 e3
      clear e2 e3
      subst e1
      obtain ⟨Bj, off', cap', e, hc'⟩ := HJ.out.int k hlt
      injection e with e1 e2 e3
      clear e2 e3
      subst e1
      have l1 : (k : Int) < (l.length : Int) := by omega
      have c0 := hc wr hb.out
      have d0 := hc' wr hb.out
      obtain ⟨x, hx⟩ : ∃ x, l[k] = x := ⟨_, rfl⟩
      rw [hx] at c0 d0
      clear hc hc' hx
      go_wp2_with fail
      go_region
      all_goals
        go_wp2_with fail
        go_roundw
        case rel => exact ⟨k + 1, by simp, by omega, hb.out.drew⟩
        case measure => simp [intOf]; omega
    · have l1 : ¬ (k : Int) < (l.length : Int) := by omega
      go_wp2_with fail
      go_ret
      exact ⟨rfl, hb.out⟩
set_option maxHeartbeats 4000000 in
set_option maxRecDepth 100000 in
theorem sameFields_eq (s t : SV) (l : List Fd) (w : World) (hI : In EFd w (sv s) l) (hJ : In EFd w (sv t) l) :
    Calls Tryd.prog 42 #[sv s, sv t] w fun e w' => e = .returned (.bool true) ∧ Below w.heap.size w w' := by
  have HI : Hid (In EFd w (sv s) l) := hI
  have HJ : Hid (In EFd w (sv t) l) := hJ
  obtain ⟨sb, sl, sc⟩ := s
  obtain ⟨tb, tl, tc⟩ := t
  obtain ⟨e1, e2, e3⟩ := slice_len hI
  obtain ⟨f1, f2, f3⟩ := slice_len hJ
  subst e1 f1
  simp only [sv] at HI HJ ⊢
  clear hI hJ
  go_enter Tryd.func42, Tryd.ntmps42
  go_wp2_with fail
  go_loopw [5] (fun iv wr => ∃ k : Nat, iv = .int .i64 (k : Int) ∧ k ≤ l.length ∧ Hid (Below w.heap.size w wr)) (fun iv _ => l.length - (intOf iv).toNat)
  case atStart => exact ⟨0, rfl, by omega, Below.refl _ _⟩
  case round =>
    obtain ⟨k, rfl, hk, hb⟩ := hrel
    by_cases hlt : k < l.length
    · obtain ⟨Bk, off, cap, e, hc⟩ := HI.out.fd k hlt
      injection e with e1 e2 e3
      clear e2 e3
      subst e1
      obtain ⟨Bj, off', cap', e, hc'⟩ := HJ.out.fd k hlt
      injection e with e1 e2 e3
      clear e2 e3
      subst e1
      have l1 : (k : Int) < (l.length : Int) := by omega
      obtain ⟨c0, c1, c2⟩ := hc wr hb.out
      obtain ⟨d0, d1, d2⟩ := hc' wr hb.out
      obtain ⟨x, hx⟩ : ∃ x, l[k] = x := ⟨_, rfl⟩
      rw [hx] at c0 c1 c2 d0 d1 d2
      obtain ⟨xn, xv, xb⟩ := x
      simp only at c0 c1 c2 d0 d1 d2
      clear hc hc' hx
      go_wp2_with fail
      go_quiet (fail)
      go_wp2_with fail
      go_roundw
      case rel => exact ⟨k + 1, by simp, by omega, below_drewN hb.out _⟩
      case measure => simp [intOf]; omega
    · have l1 : ¬ (k : Int) < (l.length : Int) := by omega
      go_wp2_with fail
      go_ret
      exact ⟨rfl, hb.out⟩
set_option maxHeartbeats 4000000 in
set_option maxRecDepth 100000 in
theorem same_eq (n : Int) (b : ByteArray) (s t : SV) (l : List Fd) (w : World) (hI : In EFd w (sv s) l) (hJ : In EFd w (sv t) l) :
    Calls Tryd.prog 15 #[.agg (rsv n (sv s) b), .agg (rsv n (sv t) b)] w fun e w' => e = .returned (.bool true) ∧ Below w.heap.size w w' := by
  obtain ⟨W, hW⟩ : ∃ W, (w.alloc (.cells (rsv n (sv s) b) 26)).alloc (.cells (rsv n (sv t) b) 26) = W := ⟨_, rfl⟩
  obtain ⟨n0, hn0⟩ : ∃ k, w.heap.size = k := ⟨_, rfl⟩
  obtain ⟨n1, hn1⟩ : ∃ k, n0 + 1 = k := ⟨_, rfl⟩
  have hb : Below w.heap.size w W := by rw [← hW]; exact bel2 _ _ _
  have HB : Hid (Below w.heap.size w W) := hb
  have h0 : W.heap[n0]? = some (.cells (rsv n (sv s) b) 26 (0, 0)) := by rw [← hW, ← hn0, heap_al, if_neg (by simp), heap_al, if_pos rfl]
  have h1 : W.heap[n1]? = some (.cells (rsv n (sv t) b) 26 (0, 0)) := by rw [← hW, ← hn1, ← hn0]; exact fresh2 _ _ _
  have HF : Hid (Calls Tryd.prog 42 #[sv s, sv t] W fun e w' => e = .returned (.bool true) ∧ Below W.heap.size W w') := sameFields_eq s t l W (hI.below hb) (hJ.below hb)
  have a0 := cell_blk h0 0
  have a1 := cell_blk h0 1
  have a2 := cell_blk h0 2
  have b0 := cell_blk h1 0
  have b1 := cell_blk h1 1
  have b2 := cell_blk h1 2
  have lg := heap_lt h0
  have lh := heap_lt h1
  obtain ⟨sb, sl, sc⟩ := s
  obtain ⟨tb, tl, tc⟩ := t
  simp only [rsv, List.getElem?_toArray, List.getElem?_cons_succ, List.getElem?_cons_zero, sv] at a0 a1 a2 b0 b1 b2 hW HF ⊢
  have hbb := beq_l8 b.toList
  clear hI hJ hb h0 h1
  go_enter Tryd.func15, Tryd.ntmps15
  go_wp2_with fail
  try rw [hW]
  try rw [hn0]
  try rw [hn1]
  go_at_call 42
  refine HF.out.mono ?_
  rintro e V ⟨rfl, hbV⟩
  have HBV : Hid (Below w.heap.size w V) := HB.out.trans (hbV.mono HB.out.size)
  clear hbV HF a0 a1 a2 b0 b1 b2 hW hn0 hn1
  go_wp2_with fail
  go_ret
  exact ⟨rfl, HBV.out⟩
end Go.Proofs.YtfponcdhaefkdaaDoor
/- first. -/
namespace Go.Proofs.YtfponcdhaefkdaaDoor
open Go.RowKit
set_option linter.unusedVariables false
set_option linter.unusedSimpArgs false
theorem in_nil {α : Type} {E : El α} {w W : World} {v : Value} (h : In E w v []) : In E W v [] := by
  rcases h with ⟨h, h'⟩ | ⟨a, cap, e, h1, h2, h3⟩
  · exact .inl ⟨h, h'⟩
  · exact .inr ⟨a, cap, e, h1, h2, fun j u hu => by simp [El.cs] at hu⟩
/-- blocks of other types are none of the cache's own -/
theorem Cx.offb {w : World} {g : Nat} {c : Ca} {y : SV} {L : List En} (h : Cx w g c y L) {k : Nat} {cc : Array Value} {t : TypeId} {fz : Nat × Nat} (hk : w.heap[k]? = some (.cells cc t fz)) (h1 : t ≠ 83) (h2 : t ≠ 87) : ¬ Ow g y k := by
  rintro (rfl | ho)
  · rw [h.blk] at hk
    injection hk with hk; injection hk with _ hk; exact h1 hk.symm
  · obtain ⟨cr, hr⟩ := h.row.ty k ho
    rw [hr] at hk
    injection hk with hk; injection hk with _ hk; exact h2 hk.symm
/-- a cache that is new -/
theorem Cx.new {w : World} {g : Nat} {a b c : Int} (h : w.heap[g]? = some (.cells #[.int .i64 a, .int .i64 b, .int .i64 c, .int .i64 0, .slice none 0 0] 83 (0, 0))) (ha : 0 ≤ a ∧ a ≤ 64) (hb : 0 ≤ b ∧ b ≤ 1152921504606846976) (hc : 0 ≤ c ∧ c ≤ 1152921504606846976) : Cx w g ⟨a, b, c, 0⟩ (none, 0, 0) [] :=
  ⟨h, R.nil _ _, fun e he => by simp at he, List.Pairwise.nil, ⟨ha, hb, hc, ⟨by simp, by simp⟩, by simpa using ha.1, by simpa [totL] using hb.1, fun e he => by simp at he, fun e he => by simp at he, List.Pairwise.nil⟩⟩
def bodyS : ByteArray := ⟨#[98, 111, 100, 121]⟩
def qF : Rq := ⟨⟨#[71, 69, 84]⟩, ⟨#[104, 116, 116, 112, 115]⟩, ⟨#[97]⟩, ⟨#[47, 120]⟩, (none, 0, 0), ⟨#[]⟩⟩
/-- an entry that first makes -/
structure Fe (e : En) (st ar : Int) : Prop where
  st : e.st = st
  ar : e.ar = ar
  sz : e.sz = 4
  rn : e.rn = 200
  rb : e.rb = bodyS
  fr : e.fr = []
  fq : e.fq = []
  nm : e.nm = []
  hd : hdL e.q = hdL qF
theorem Fe.an {e : En} {st ar : Int} (h : Fe e st ar) (c : Ca) : anB c qF [] e = !decide (c.lf < c.ck - ar) := by
  unfold anB exB mtB mtL eqB
  rw [h.fq, h.nm, h.hd, h.ar]
  simp [qF]
/-- within first -/
structure Fi (w0 W : World) (g : Nat) (c : Ca) (y : SV) (L : List En) (q0 r0 : Nat) (X : List (Nat × Array Value × TypeId)) : Prop where
  cx : Cx W g c y L
  bel : Below w0.heap.size w0 W
  hg : w0.heap.size ≤ g
  hy : ∀ k, (sv y).ownBlock = some k → w0.heap.size ≤ k
  bq : RqB W q0 qF
  br : W.heap[r0]? = some (.cells (rsv 200 (.slice none 0 0) bodyS) 26 (0, 0))
  xs : ∀ p ∈ X, p.2.2 ≠ 83 ∧ p.2.2 ≠ 87 ∧ W.heap[p.1]? = some (.cells p.2.1 p.2.2 (0, 0))
theorem Fi.below {w0 W W' : World} {g : Nat} {c : Ca} {y : SV} {L : List En} {q0 r0 : Nat} {X : List (Nat × Array Value × TypeId)} (h : Fi w0 W g c y L q0 r0 X) (hb : Below W.heap.size W W') : Fi w0 W' g c y L q0 r0 X :=
  ⟨h.cx.below hb, h.bel.trans (hb.mono h.bel.size), h.hg, h.hy, h.bq.below hb, (hb.block _ (heap_lt h.br)).trans h.br, fun p hp => ⟨(h.xs p hp).1, (h.xs p hp).2.1, (hb.block _ (heap_lt (h.xs p hp).2.2)).trans (h.xs p hp).2.2⟩⟩
theorem Fi.ks {w0 W W' : World} {g : Nat} {c c' : Ca} {y y' : SV} {L L' : List En} {q0 r0 : Nat} {X : List (Nat × Array Value × TypeId)} (h : Fi w0 W g c y L q0 r0 X) (hk : Ks (Ow g y) W W') (hx : Cx W' g c' y' L') (ho : ∀ k, (sv y').ownBlock = some k → (sv y).ownBlock = some k ∨ W.heap.size ≤ k) : Fi w0 W' g c' y' L' q0 r0 X := by
  have hb : Below w0.heap.size W W' := hk.below h.bel.size fun i hi ho => by
    rcases ho with rfl | ho
    · have := h.hg; omega
    · have := h.hy i ho; omega
  refine ⟨hx, h.bel.trans hb, h.hg, fun k hk' => ?_, (hk.block _ (heap_lt h.bq) (h.cx.offb h.bq (by decide) (by decide))).trans h.bq, (hk.block _ (heap_lt h.br) (h.cx.offb h.br (by decide) (by decide))).trans h.br, fun p hp => ⟨(h.xs p hp).1, (h.xs p hp).2.1, (hk.block _ (heap_lt (h.xs p hp).2.2) (h.cx.offb (h.xs p hp).2.2 (h.xs p hp).1 (h.xs p hp).2.1)).trans (h.xs p hp).2.2⟩⟩
  rcases ho k hk' with e | e
  · exact h.hy k e
  · exact Nat.le_trans h.bel.size e
theorem Fi.cells {w0 W : World} {g : Nat} {c : Ca} {y : SV} {L : List En} {q0 r0 : Nat} {X : List (Nat × Array Value × TypeId)} (h : Fi w0 W g c y L q0 r0 X) : (W.cell? ⟨q0, 0, none⟩ = some (.string ⟨#[71, 69, 84]⟩) ∧ W.cell? ⟨q0, 1, none⟩ = some (.string ⟨#[104, 116, 116, 112, 115]⟩) ∧ W.cell? ⟨q0, 2, none⟩ = some (.string ⟨#[97]⟩) ∧ W.cell? ⟨q0, 3, none⟩ = some (.string ⟨#[47, 120]⟩) ∧ W.cell? ⟨q0, 4, none⟩ = some (.slice none 0 0) ∧ W.cell? ⟨q0, 5, none⟩ = some (.string ⟨#[]⟩)) ∧ (W.cell? ⟨r0, 0, none⟩ = some (.int .i64 200) ∧ W.cell? ⟨r0, 1, none⟩ = some (.slice none 0 0) ∧ W.cell? ⟨r0, 2, none⟩ = some (.string ⟨#[98, 111, 100, 121]⟩)) :=
  ⟨⟨cell_blk h.bq 0, cell_blk h.bq 1, cell_blk h.bq 2, cell_blk h.bq 3, cell_blk h.bq 4, cell_blk h.bq 5⟩, cell_blk h.br 0, cell_blk h.br 1, cell_blk h.br 2⟩
theorem Fi.add {w0 W : World} {g : Nat} {c : Ca} {y : SV} {L : List En} {q0 r0 : Nat} {X : List (Nat × Array Value × TypeId)} (h : Fi w0 W g c y L q0 r0 X) (p : Nat × Array Value × TypeId) (h1 : p.2.2 ≠ 83) (h2 : p.2.2 ≠ 87) (h3 : W.heap[p.1]? = some (.cells p.2.1 p.2.2 (0, 0))) : Fi w0 W g c y L q0 r0 (p :: X) :=
  ⟨h.cx, h.bel, h.hg, h.hy, h.bq, h.br, fun q hq => by
    rcases List.mem_cons.1 hq with rfl | hq
    · exact ⟨h1, h2, h3⟩
    · exact h.xs q hq⟩
theorem nmF_nil : nmF [] = [] := rfl
theorem Fi.store {w0 W : World} {g : Nat} {c : Ca} {y : SV} {q0 r0 : Nat} {X : List (Nat × Array Value × TypeId)} (h : Fi w0 W g c y [] q0 r0 X) (st t : Int) (ht : t ≤ 9223372036854775807) (hme : 1 ≤ c.me) (hmb : 4 ≤ c.mb) :
    Calls Tryd.prog 11 #[.pointer (some ⟨g, 0, none⟩), .agg (rqv qF), .agg (rsv 200 (.slice none 0 0) bodyS), .int .i64 st, .int .i64 t] W fun r w' => ∃ (gs z : SV) (e : En), r = .returned (.tuple #[.bool true, sv gs]) ∧ R EI w' (sv gs) [] ∧ Fi w0 w' g (hr c t) z [e] q0 r0 X ∧ Fe e st (hr c t).ck := by
  refine (store_any W g c y [] h.cx qF [] 200 (none, 0, 0) bodyS [] st t ht (fun V _ => (R.nil _ _).isIn) (fun V _ => (R.nil _ _).isIn) ⟨by decide, by decide, by decide, by decide⟩ (by simp) (by simp) (by decide) (by simp) (by simp) (by decide) (by simp [vsL, allP])).mono ?_
  rintro r w' (⟨h1, _⟩ | ⟨_, gs, y1, y2, y3, z, rfl, hx, hz, hk, hgs, _, _⟩)
  · exfalso
    unfold noB starB at h1
    have e1 : cnt (allP (vsL [] varyS)) starS = 0 := rfl
    have e2 : decide ((hr c t).mb < ((bodyS.size + szL [] : Nat) : Int)) = false := decide_eq_false (by show ¬ c.mb < 4; omega)
    have e3 : decide ((hr c t).me = 0) = false := decide_eq_false (by show ¬ c.me = 0; omega)
    rw [e1, e2, e3] at h1
    cases h1
  · refine ⟨gs, z, _, rfl, hgs, h.ks hk hx hz, ⟨rfl, rfl, rfl, rfl, rfl, rfl, rfl, rfl, rfl⟩⟩
theorem Fi.tick {w0 W : World} {g : Nat} {c : Ca} {y : SV} {e : En} {st ar : Int} {q0 r0 : Nat} {X : List (Nat × Array Value × TypeId)} (h : Fi w0 W g c y [e] q0 r0 X) (hf : Fe e st ar) (t : Int) (ht : t ≤ 9223372036854775807) (hx : c.lf < max c.ck t - ar) :
    Calls Tryd.prog 10 #[.pointer (some ⟨g, 0, none⟩), .int .i64 t] W fun r w' => ∃ gs z : SV, r = .returned (sv gs) ∧ R EI w' (sv gs) [st] ∧ Fi w0 w' g (hr c t) z [] q0 r0 X := by
  refine (tick_any W g c y [e] h.cx t ht).mono ?_
  rintro r w' ⟨gs, rfl, hT⟩
  have hb : exB (hr c t) e = true := by unfold exB; rw [hf.ar]; exact decide_eq_true hx
  simp only [List.dropWhile_cons, List.takeWhile_cons, hb, if_true, List.dropWhile_nil, List.takeWhile_nil, List.map_cons, List.map_nil] at hT
  obtain ⟨z, h1, h2⟩ := hT.cx
  rw [hf.st] at hT
  exact ⟨gs, z, rfl, hT.gone, h.ks hT.ks h1 (fun k hk => .inl (by rw [← h2]; exact hk))⟩
theorem Fi.holds {w0 W : World} {g : Nat} {c : Ca} {y : SV} {e : En} {st ar : Int} {q0 r0 : Nat} {X : List (Nat × Array Value × TypeId)} (h : Fi w0 W g c y [e] q0 r0 X) (hf : Fe e st ar) (t : Int) (ht : t ≤ 9223372036854775807) (hx : ¬ c.lf < max c.ck t - ar) :
    Calls Tryd.prog 14 #[.pointer (some ⟨g, 0, none⟩), .agg (rqv qF), .int .i64 t] W fun r w' => r = .returned (.bool true) ∧ Fi w0 w' g (hr c t) y [e] q0 r0 X := by
  refine (holds_any W g c y [e] h.cx qF [] (R.nil _ _).isIn (by simp) (fun V _ => (R.nil _ _).isIn) t ht).mono ?_
  rintro r w' ⟨rfl, h1, h2⟩
  have hb : anB (hr c t) qF [] e = true := by rw [hf.an]; show (!decide (c.lf < max c.ck t - ar)) = true; rw [decide_eq_false hx]; rfl
  have hp : plI (hr c t) qF [] [e] = ((0 : Nat) : Int) := plI_some (by simp) hb (fun j _ hj => absurd hj (by omega))
  rw [hp]
  exact ⟨rfl, h.ks (h2.mono fun i _ hi => .inl hi) h1 (fun k hk => .inl hk)⟩
theorem Fi.claim {w0 W : World} {g : Nat} {c : Ca} {y : SV} {e : En} {st ar : Int} {q0 r0 : Nat} {X : List (Nat × Array Value × TypeId)} (h : Fi w0 W g c y [e] q0 r0 X) (hf : Fe e st ar) (t : Int) (ht : t ≤ 9223372036854775807) (hx : ¬ c.lf < max c.ck t - ar) :
    Calls Tryd.prog 13 #[.pointer (some ⟨g, 0, none⟩), .agg (rqv qF), .int .i64 t] W fun r w' => ∃ v z : SV, r = .returned (.tuple #[.agg (rsv 200 (sv v) bodyS), .int .i64 st, .bool true]) ∧ In EFd w' (sv v) [] ∧ Fi w0 w' g (hr c t) z [] q0 r0 X := by
  refine (claim_any W g c y [e] h.cx qF [] (by simp) (fun V _ => (R.nil _ _).isIn) t ht).mono ?_
  have hb : anB (hr c t) qF [] e = true := by rw [hf.an]; show (!decide (c.lf < max c.ck t - ar)) = true; rw [decide_eq_false hx]; rfl
  have hi : [e].findIdx? (anB (hr c t) qF []) = some 0 := by simp [hb]
  rw [hi]
  rintro r w' (⟨h1, _⟩ | ⟨i, hil, h1, rfl, z, h2, h3, h4, h5⟩)
  · cases h1
  · injection h1 with h1
    subst h1
    simp only [List.getElem_cons_zero] at h5 ⊢
    rw [hf.rn, hf.rb, hf.st]
    have := h5.r
    rw [hf.fr] at this
    exact ⟨e.ry, z, rfl, this.isIn, h.ks h4 h2 (fun k hk => .inl (by rw [← h3]; exact hk))⟩
theorem Fi.claimNone {w0 W : World} {g : Nat} {c : Ca} {y : SV} {q0 r0 : Nat} {X : List (Nat × Array Value × TypeId)} (h : Fi w0 W g c y [] q0 r0 X) (t : Int) (ht : t ≤ 9223372036854775807) :
    Calls Tryd.prog 13 #[.pointer (some ⟨g, 0, none⟩), .agg (rqv qF), .int .i64 t] W fun r w' => r = .returned (.tuple #[.agg z3, .int .i64 0, .bool false]) ∧ Fi w0 w' g (hr c t) y [] q0 r0 X := by
  refine (claim_any W g c y [] h.cx qF [] (by simp) (fun V _ => (R.nil _ _).isIn) t ht).mono ?_
  rintro r w' (⟨h1, rfl, h2, h3⟩ | ⟨i, hil, _⟩)
  · exact ⟨rfl, h.ks h3 h2 (fun k hk => .inl hk)⟩
  · simp at hil
set_option maxHeartbeats 8000000 in
set_option maxRecDepth 100000 in
theorem first_any (w : World) : Calls Tryd.prog 9 #[] w fun e w' => e = .returned (.bool true) ∧ Below w.heap.size w w' := by
  have HN : Hid (Calls Tryd.prog 8 #[.agg #[.int .i64 2, .int .i64 200, .int .i64 10, .int .i64 0]] w fun e w' => Below w.heap.size w w' ∧ ∃ g, w.heap.size ≤ g ∧ e = .returned (.tuple #[.pointer (some ⟨g, 0, none⟩), .int .i64 0]) ∧ w'.heap[g]? = some (.cells #[.int .i64 2, .int .i64 200, .int .i64 10, .int .i64 0, .slice none 0 0] 83 (0, 0))) := (new_any 2 200 10 0 w).mono (by
    rintro e w' ⟨hb, h | h⟩
    · have : cfB 2 200 10 0 = true := by kernel_rfl
      rw [this] at h
      cases h.1
    · exact ⟨hb, h.2⟩)
  go_enter Tryd.func9, Tryd.ntmps9
  go_wp2_with fail
  go_at_call 8
  refine HN.out.mono ?_
  rintro e w1 ⟨b1, g, hg, rfl, hblk⟩
  obtain ⟨q0, hq0⟩ : ∃ k, w1.heap.size = k := ⟨_, rfl⟩
  obtain ⟨r0, hr0⟩ : ∃ k, q0 + 1 = k := ⟨_, rfl⟩
  obtain ⟨W2, hW2⟩ : ∃ W, (w1.alloc (.cells #[.string ⟨#[71, 69, 84]⟩, .string ⟨#[104, 116, 116, 112, 115]⟩, .string ⟨#[97]⟩, .string ⟨#[47, 120]⟩, .slice none 0 0, .string ⟨#[]⟩] 24)).alloc (.cells #[.int .i64 200, .slice none 0 0, .string ⟨#[98, 111, 100, 121]⟩] 26) = W := ⟨_, rfl⟩
  have b2 : Below w1.heap.size w1 W2 := by rw [← hW2]; exact bel2 _ _ _
  have HF2 : Hid (Fi w W2 g ⟨2, 200, 10, 0⟩ (none, 0, 0) [] q0 r0 []) := ⟨Cx.new ((b2.block g (heap_lt hblk)).trans hblk) ⟨by decide, by decide⟩ ⟨by decide, by decide⟩ ⟨by decide, by decide⟩, b1.trans (b2.mono b1.size), hg, fun k hk => by simp [sv, Value.ownBlock] at hk, by unfold RqB; rw [← hW2, ← hq0, heap_al, if_neg (by simp), heap_al, if_pos rfl]; rfl, by rw [← hW2, ← hr0, ← hq0]; exact fresh2 _ _ _, fun p hp => by simp at hp⟩
  clear b1 b2 hblk HN hg
  go_upto_region 6 with fail
  try rw [hW2]
  try rw [hq0]
  try rw [hr0]
  clear hW2 hq0 hr0
  obtain ⟨⟨x0, x1, x2, x3, x4, x5⟩, y0, y1, y2⟩ := HF2.out.cells
  go_wp2_with fail
  go_at_call 11
  refine (HF2.out.store 2 5 (by decide) (by decide) (by decide)).mono ?_
  rintro e w3 ⟨⟨ga, gl, gc⟩, z3', e3, rfl, hg3, hF3, hE3⟩
  obtain rfl : gl = 0 := (slice_len hg3.isIn).1
  have HF3 : Hid (Fi w w3 g ⟨2, 200, 10, 5⟩ z3' [e3] q0 r0 []) := hF3
  have HE3 : Hid (Fe e3 2 5) := hE3
  clear hg3 hF3 hE3 HF2 x0 x1 x2 x3 x4 x5 y0 y1 y2
  simp only [sv]
  go_wp2_with fail
  go_at_call 12
  refine (len_any w3 g _ z3' [e3] HF3.out.cx).mono ?_
  rintro e wq ⟨rfl, hw⟩
  rw [hw]
  clear hw wq
  have HBy : Hid (Calls Tryd.prog 22 #[.pointer (some ⟨g, 0, none⟩)] w3 fun e w' => e = .returned (.int .i64 4) ∧ Below w3.heap.size w3 w') := by
    have := bytes_any w3 g _ z3' [e3] HF3.out.cx
    have e : totL [e3] = 4 := by simp [totL, HE3.out.sz]
    rw [e] at this
    exact this
  go_wp2_with fail
  go_at_call 22
  refine HBy.out.mono ?_
  rintro e w4 ⟨rfl, b4⟩
  have HF4 : Hid (Fi w w4 g ⟨2, 200, 10, 5⟩ z3' [e3] q0 r0 []) := HF3.out.below b4
  clear b4 HBy HF3
  obtain ⟨⟨x0, x1, x2, x3, x4, x5⟩, y0, y1, y2⟩ := HF4.out.cells
  go_wp2_with fail
  go_at_call 14
  refine (HF4.out.holds HE3.out 5 (by decide) (by decide)).mono ?_
  rintro e w5 ⟨rfl, hF5⟩
  have HF5 : Hid (Fi w w5 g ⟨2, 200, 10, 5⟩ z3' [e3] q0 r0 []) := hF5
  clear hF5 HF4 x0 x1 x2 x3 x4 x5 y0 y1 y2
  obtain ⟨⟨x0, x1, x2, x3, x4, x5⟩, y0, y1, y2⟩ := HF5.out.cells
  go_wp2_with fail
  go_at_call 13
  refine (HF5.out.claim HE3.out 15 (by decide) (by decide)).mono ?_
  rintro e w6 ⟨⟨v1, v2, v3⟩, z6, rfl, hv, hF6⟩
  have HF6 : Hid (Fi w w6 g ⟨2, 200, 10, 15⟩ z6 [] q0 r0 []) := hF6
  have HV6 : Hid (In EFd w6 (.slice v1 v2 v3) []) := hv
  obtain ⟨s0, hs0⟩ : ∃ k, w6.heap.size = k := ⟨_, rfl⟩
  obtain ⟨W7, hW7⟩ : ∃ W, w6.alloc (.cells #[.int .i64 200, .slice v1 v2 v3, .string ⟨#[98, 111, 100, 121]⟩] 26) = W := ⟨_, rfl⟩
  have b7 : Below w6.heap.size w6 W7 := by rw [← hW7]; exact bel1 _ _
  have HS7 : Hid (W7.heap[s0]? = some (.cells #[.int .i64 200, .slice v1 v2 v3, .string ⟨#[98, 111, 100, 121]⟩] 26 (0, 0))) := by show _ = _; rw [← hW7, ← hs0, heap_al, if_pos rfl]
  have HF7 : Hid (Fi w W7 g ⟨2, 200, 10, 15⟩ z6 [] q0 r0 [(s0, #[.int .i64 200, .slice v1 v2 v3, .string ⟨#[98, 111, 100, 121]⟩], 26)]) := (HF6.out.below b7).add _ (show (26 : TypeId) ≠ 83 by decide) (show (26 : TypeId) ≠ 87 by decide) HS7.out
  clear hv hF6 HF5 b7 HF6 x0 x1 x2 x3 x4 x5 y0 y1 y2
  unfold rsv bodyS
  simp only [sv]
  go_upto_region 10 with fail
  try rw [hW7]
  try rw [hs0]
  clear hW7 hs0
  obtain ⟨⟨x0, x1, x2, x3, x4, x5⟩, y0, y1, y2⟩ := HF7.out.cells
  clear HS7
  go_wp2_with fail
  go_at_call 13
  refine (HF7.out.claimNone 15 (by decide)).mono ?_
  rintro e w8 ⟨rfl, hF8⟩
  have HF8 : Hid (Fi w w8 g ⟨2, 200, 10, 15⟩ z6 [] q0 r0 [(s0, #[.int .i64 200, .slice v1 v2 v3, .string ⟨#[98, 111, 100, 121]⟩], 26)]) := hF8
  clear hF8 HF7 x0 x1 x2 x3 x4 x5 y0 y1 y2
  unfold z3
  go_upto_region 11 with fail
  obtain ⟨W9, hW9⟩ : ∃ W, w8.alloc (.cells #[.int .i64 0, .slice none 0 0, .string ⟨#[]⟩] 26) = W := ⟨_, rfl⟩
  have b9 : Below w8.heap.size w8 W9 := by rw [← hW9]; exact bel1 _ _
  have HF9 : Hid (Fi w W9 g ⟨2, 200, 10, 15⟩ z6 [] q0 r0 [(s0, #[.int .i64 200, .slice v1 v2 v3, .string ⟨#[98, 111, 100, 121]⟩], 26)]) := HF8.out.below b9
  clear HF8 b9
  rw [hW9]
  clear hW9
  obtain ⟨⟨x0, x1, x2, x3, x4, x5⟩, y0, y1, y2⟩ := HF9.out.cells
  go_wp2_with fail
  go_at_call 11
  refine (HF9.out.store 4 15 (by decide) (by decide) (by decide)).mono ?_
  rintro e w10 ⟨gt, z10, e10, rfl, hg10, hF10, hE10⟩
  have HF10 : Hid (Fi w w10 g ⟨2, 200, 10, 15⟩ z10 [e10] q0 r0 [(s0, #[.int .i64 200, .slice v1 v2 v3, .string ⟨#[98, 111, 100, 121]⟩], 26)]) := hF10
  have HE10 : Hid (Fe e10 4 15) := hE10
  clear hg10 hF10 hE10 HF9 x0 x1 x2 x3 x4 x5 y0 y1 y2
  obtain ⟨t1, t2, t3⟩ := gt
  simp only [sv]
  go_wp2_with fail
  go_at_call 10
  refine (HF10.out.tick HE10.out 26 (by decide) (by decide)).mono ?_
  rintro e w11 ⟨⟨u1, u2, u3⟩, z11, rfl, hg11, hF11⟩
  have HF11 : Hid (Fi w w11 g ⟨2, 200, 10, 26⟩ z11 [] q0 r0 [(s0, #[.int .i64 200, .slice v1 v2 v3, .string ⟨#[98, 111, 100, 121]⟩], 26)]) := hF11
  have HG11 : Hid (R EI w11 (.slice u1 u2 u3) [4]) := hg11
  have HS11 : Hid (w11.heap[s0]? = some (.cells #[.int .i64 200, .slice v1 v2 v3, .string ⟨#[98, 111, 100, 121]⟩] 26 (0, 0))) := (hF11.xs (s0, #[.int .i64 200, .slice v1 v2 v3, .string ⟨#[98, 111, 100, 121]⟩], 26) (List.mem_singleton.2 rfl)).2.2
  clear hg11 hF11 HF10
  simp only [sv]
  obtain ⟨⟨x0, x1, x2, x3, x4, x5⟩, y0, y1, y2⟩ := HF11.out.cells
  have s0' := cell_blk HS11.out 0
  have s1' := cell_blk HS11.out 1
  have s2' := cell_blk HS11.out 2
  simp only [List.getElem?_toArray, List.getElem?_cons_succ, List.getElem?_cons_zero] at s0' s1' s2'
  have HSm : Hid (Calls Tryd.prog 15 #[.agg #[.int .i64 200, .slice v1 v2 v3, .string ⟨#[98, 111, 100, 121]⟩], .agg #[.int .i64 200, .slice none 0 0, .string ⟨#[98, 111, 100, 121]⟩]] w11 fun e w' => e = .returned (.bool true) ∧ Below w11.heap.size w11 w') := same_eq 200 ⟨#[98, 111, 100, 121]⟩ (v1, v2, v3) (none, 0, 0) [] w11 (in_nil HV6.out) (R.nil _ _).isIn
  go_wp2_with fail
  go_at_call 15
  refine HSm.out.mono ?_
  rintro e w12 ⟨rfl, b12⟩
  have HF12 : Hid (Fi w w12 g ⟨2, 200, 10, 26⟩ z11 [] q0 r0 [(s0, #[.int .i64 200, .slice v1 v2 v3, .string ⟨#[98, 111, 100, 121]⟩], 26)]) := HF11.out.below b12
  have HG12 : Hid (R EI w12 (.slice u1 u2 u3) [4]) := HG11.out.below b12
  clear b12 HSm HF11 HG11 HS11 x0 x1 x2 x3 x4 x5 y0 y1 y2 s0' s1' s2'
  obtain ⟨W13, hW13⟩ : ∃ W, w12.alloc (.cells #[.int .i64 4] 2) = W := ⟨_, rfl⟩
  obtain ⟨k13, hk13⟩ : ∃ k, w12.heap.size = k := ⟨_, rfl⟩
  have b13 : Below w12.heap.size w12 W13 := by rw [← hW13]; exact bel1 _ _
  have HSi : Hid (Calls Tryd.prog 16 #[.slice u1 u2 u3, .slice (some ⟨k13, 0, none⟩) 1 1] W13 fun e w' => e = .returned (.bool true) ∧ Below W13.heap.size W13 w') := sameInts_eq (u1, u2, u3) (some ⟨k13, 0, none⟩, 1, 1) [4] W13 (HG12.out.below b13).isIn (by rw [← hW13, ← hk13]; exact in_one (E := EI) _ _ 4 #[.int .i64 4] 2 (0, 0) (by rw [heap_al, if_pos rfl]) rfl)
  have HF13 : Hid (Fi w W13 g ⟨2, 200, 10, 26⟩ z11 [] q0 r0 [(s0, #[.int .i64 200, .slice v1 v2 v3, .string ⟨#[98, 111, 100, 121]⟩], 26)]) := HF12.out.below b13
  clear b13 HF12 HG12
  go_wp2_with fail
  try rw [hW13]
  try rw [hk13]
  go_at_call 16
  refine HSi.out.mono ?_
  rintro e w14 ⟨rfl, b14⟩
  have HF14 : Hid (Fi w w14 g ⟨2, 200, 10, 26⟩ z11 [] q0 r0 [(s0, #[.int .i64 200, .slice v1 v2 v3, .string ⟨#[98, 111, 100, 121]⟩], 26)]) := HF13.out.below b14
  clear b14 HSi HF13 hW13 hk13
  go_wp2_with fail
  go_at_call 12
  refine (len_any w14 g _ z11 [] HF14.out.cx).mono ?_
  rintro e wq ⟨rfl, hw⟩
  rw [hw]
  clear hw wq
  obtain ⟨W15, hW15⟩ : ∃ W, w14.alloc (.cells #[.string ⟨#[118, 97, 114, 121]⟩, .string ⟨#[97, 99, 99, 101, 112, 116]⟩, .bool false] 51) = W := ⟨_, rfl⟩
  obtain ⟨k15, hk15⟩ : ∃ k, w14.heap.size = k := ⟨_, rfl⟩
  have b15 : Below w14.heap.size w14 W15 := by rw [← hW15]; exact bel1 _ _
  have HSz : Hid (Calls Tryd.prog 25 #[.agg #[.int .i64 0, .slice (some ⟨k15, 0, none⟩) 1 1, .string ⟨#[98, 111, 100, 121]⟩]] W15 fun e w' => e = .returned (.int .i64 46) ∧ Below W15.heap.size W15 w') := size_any 0 (some ⟨k15, 0, none⟩, 1, 1) ⟨#[98, 111, 100, 121]⟩ [⟨⟨#[118, 97, 114, 121]⟩, ⟨#[97, 99, 99, 101, 112, 116]⟩, false⟩] W15 (by rw [← hW15, ← hk15]; exact in_one (E := EFd) _ _ ⟨⟨#[118, 97, 114, 121]⟩, ⟨#[97, 99, 99, 101, 112, 116]⟩, false⟩ #[.string ⟨#[118, 97, 114, 121]⟩, .string ⟨#[97, 99, 99, 101, 112, 116]⟩, .bool false] 51 (0, 0) (by rw [heap_al, if_pos rfl]) rfl) (by decide)
  have HB15 : Hid (Below w.heap.size w W15) := HF14.out.bel.trans (b15.mono HF14.out.bel.size)
  clear b15 HF14
  go_wp2_with fail
  try rw [hW15]
  try rw [hk15]
  go_at_call 25
  refine HSz.out.mono ?_
  rintro e w16 ⟨rfl, b16⟩
  have HB16 : Hid (Below w.heap.size w w16) := HB15.out.trans (b16.mono HB15.out.size)
  clear b16 HSz HB15 hW15 hk15
  go_wp2_with fail
  go_ret
  exact ⟨rfl, HB16.out⟩
end Go.Proofs.YtfponcdhaefkdaaDoor
/- CacheEnds: what lies in memory. -/
namespace Go.Proofs.YtfponcdhaefkdaaDoor
open Go.RowKit
set_option linter.unusedVariables false
set_option linter.unusedSimpArgs false
theorem wraps_i64_63 (n : Int) (h₀ : 0 ≤ n) (h₁ : n < 2 ^ 63) : IntKind.i64.wrap n = n := by rw [IntKind.wrap_i64]; omega
/-- of any number: its lower bits -/
theorem and_any (n : Int) (p : Nat) (hp : p ≤ 62) : bits .and .i64 n ((2 ^ p - 1 : Nat) : Int) = n % ((2 ^ p : Nat) : Int) := by
  have hpp : 2 ^ p < 2 ^ 63 := Nat.pow_lt_pow_right (by decide) (by omega)
  have hpos : 0 < 2 ^ p := Nat.two_pow_pos p
  have hd : 2 ^ p ∣ 2 ^ 64 := Nat.pow_dvd_pow 2 (by omega)
  have hb : (BitVec.ofInt 64 ((2 ^ p - 1 : Nat) : Int)).toNat = 2 ^ p - 1 := by
    rw [BitVec.ofInt_natCast, BitVec.toNat_ofNat]; exact Nat.mod_eq_of_lt (by omega)
  have ha : (BitVec.ofInt 64 n).toNat = (n % ((2 ^ 64 : Nat) : Int)).toNat := BitVec.toNat_ofInt n
  have key : (n % ((2 ^ 64 : Nat) : Int)).toNat % 2 ^ p = (n % ((2 ^ p : Nat) : Int)).toNat := by
    have h1 : 0 ≤ n % ((2 ^ 64 : Nat) : Int) := Int.emod_nonneg _ (by decide)
    have h2 : 0 ≤ n % ((2 ^ p : Nat) : Int) := Int.emod_nonneg _ (by omega)
    apply Int.ofNat.inj
    show (((n % ((2 ^ 64 : Nat) : Int)).toNat % 2 ^ p : Nat) : Int) = (((n % ((2 ^ p : Nat) : Int)).toNat : Nat) : Int)
    rw [Int.natCast_emod, Int.toNat_of_nonneg h1, Int.toNat_of_nonneg h2]
    exact Int.emod_emod_of_dvd n (Int.natCast_dvd_natCast.2 hd)
  have h2 : 0 ≤ n % ((2 ^ p : Nat) : Int) := Int.emod_nonneg _ (by omega)
  have h3 : n % ((2 ^ p : Nat) : Int) < ((2 ^ p : Nat) : Int) := Int.emod_lt_of_pos _ (by omega)
  show IntKind.i64.wrap (((BitVec.ofInt 64 n) &&& (BitVec.ofInt 64 ((2 ^ p - 1 : Nat) : Int))).toNat : Int) = _
  rw [BitVec.toNat_and, ha, hb, Nat.and_two_pow_sub_one_eq_mod, key, Int.toNat_of_nonneg h2]
  exact wraps_i64_63 _ h2 (by omega)
theorem and59 (n : Int) : bits .and .i64 n 576460752303423487 = n % 576460752303423488 := and_any n 59 (by decide)
/-- a cache that was made since wr -/
structure Rn (wr W : World) (g : Nat) (c : Ca) (y : SV) (L : List En) : Prop where
  cx : Cx W g c y L
  bel : Below wr.heap.size wr W
  lo : ∀ k, Cb g y L k → wr.heap.size ≤ k
theorem Rn.below {wr W W' : World} {g : Nat} {c : Ca} {y : SV} {L : List En} (h : Rn wr W g c y L) (hb : Below W.heap.size W W') : Rn wr W' g c y L := ⟨h.cx.below hb, h.bel.trans (hb.mono h.bel.size), h.lo⟩
theorem Rn.ks {wr W W' : World} {g : Nat} {c c' : Ca} {y y' : SV} {L L' : List En} (h : Rn wr W g c y L) (hk : Ks (Ow g y) W W') (hx : Cx W' g c' y' L') (hl : ∀ k, Cb g y' L' k → Cb g y L k ∨ wr.heap.size ≤ k) : Rn wr W' g c' y' L' :=
  ⟨hx, h.bel.trans (hk.below h.bel.size fun i hi ho => by have := h.lo i (.inl ho); omega), fun k hk' => (hl k hk').elim (h.lo k) id⟩
theorem Rn.tick0 {wr W : World} {g : Nat} {c : Ca} {y : SV} (h : Rn wr W g c y []) (t : Int) (ht : t ≤ 9223372036854775807) :
    Calls Tryd.prog 10 #[.pointer (some ⟨g, 0, none⟩), .int .i64 t] W fun r w' => ∃ gs z : SV, r = .returned (sv gs) ∧ Rn wr w' g (hr c t) z [] := by
  refine (tick_any W g c y [] h.cx t ht).mono ?_
  rintro r w' ⟨gs, rfl, hT⟩
  obtain ⟨z, h1, h2⟩ := hT.cx
  refine ⟨gs, z, rfl, h.ks hT.ks h1 fun k hk => .inl ?_⟩
  rcases hk with hk | ⟨e, he, _⟩
  · exact .inl (by rw [← ow_eq h2]; exact hk)
  · simp at he
/-- what is handed in -/
structure Ar (W : World) (q : Rq) (Q : List Fd) (n : Int) (ry : SV) (b : ByteArray) (fr : List Fd) : Prop where
  iq : In EFd W (sv q.y) Q
  ir : In EFd W (sv ry) fr
theorem Ar.below {W W' : World} {q : Rq} {Q : List Fd} {n : Int} {ry : SV} {b : ByteArray} {fr : List Fd} (h : Ar W q Q n ry b fr) (hb : Below W.heap.size W W') : Ar W' q Q n ry b fr := ⟨h.iq.below hb, h.ir.below hb⟩
/-- its sizes -/
structure Az (q : Rq) (Q : List Fd) (b : ByteArray) (fr : List Fd) : Prop where
  zq : q.m.size ≤ 281474976710656 ∧ q.s.size ≤ 281474976710656 ∧ q.a.size ≤ 281474976710656 ∧ q.p.size ≤ 281474976710656
  zQ : Q.length ≤ 1099511627776
  zQf : ∀ f ∈ Q, fz f
  zb : b.size ≤ 281474976710656
  zR : fr.length ≤ 1099511627776
  zRf : ∀ f ∈ fr, f.n.size ≤ 140737488355328 ∧ f.v.size ≤ 140737488355328
  zS : b.size + szL fr ≤ 1152921504606846976
  zN : (allP (vsL fr varyS)).length ≤ 4398046511104
/-- an entry of what is handed in -/
structure Ee (e : En) (q : Rq) (Q : List Fd) (n : Int) (b : ByteArray) (fr : List Fd) (st ar : Int) : Prop where
  st : e.st = st
  ar : e.ar = ar
  rn : e.rn = n
  rb : e.rb = b
  rf : e.fr = fr
  sz : e.sz = b.size + szL fr
  hd : hdL e.q = hdL q
  fq : e.fq = Q.filter (fun f => inS (nmF fr) f.n)
  nm : e.nm = nmF fr
theorem vsL_filter (Q : List Fd) (nm : List ByteArray) (x : ByteArray) (hx : x ∈ nm) : vsL (Q.filter fun f => inS nm f.n) x = vsL Q x := by
  induction Q with
  | nil => rfl
  | cons f Q ih =>
    by_cases h : inS nm f.n = true
    · rw [List.filter_cons_of_pos (by simpa using h)]
      unfold vsL at ih ⊢
      rw [List.filterMap_cons, List.filterMap_cons, ih]
    · rw [List.filter_cons_of_neg (by simpa using h), ih]
      unfold vsL
      rw [List.filterMap_cons]
      have hne : ¬ f.n = x := fun e => h (by unfold inS; exact List.any_eq_true.2 ⟨x, hx, by simp [e]⟩)
      simp [hne]
/-- an entry answers just the requests that its whole request would -/
theorem Ee.mt {e : En} {q : Rq} {Q : List Fd} {n : Int} {b : ByteArray} {fr : List Fd} {st ar : Int} (h : Ee e q Q n b fr st ar) (q2 : Rq) (Q2 : List Fd) : mtB e.q q2 e.fq Q2 e.nm = mtB q q2 Q Q2 (nmF fr) := by
  unfold mtB mtL
  rw [h.hd, h.fq, h.nm]
  congr 1
  have : ∀ l : List ByteArray, (∀ x ∈ l, x ∈ nmF fr) → (l.all fun x => eqB (vsL (Q.filter fun f => inS (nmF fr) f.n) x) (vsL Q2 x)) = l.all fun x => eqB (vsL Q x) (vsL Q2 x) := fun l hl => by
    induction l with
    | nil => rfl
    | cons x l ih =>
      rw [List.all_cons, List.all_cons, ih (fun y hy => hl y (by simp [hy])), vsL_filter _ _ _ (hl x (by simp))]
  exact this _ (fun x hx => hx)
theorem Ee.self {e : En} {q : Rq} {Q : List Fd} {n : Int} {b : ByteArray} {fr : List Fd} {st ar : Int} (h : Ee e q Q n b fr st ar) (hb : q.b = ⟨#[]⟩) (c : Ca) : anB c q Q e = !decide (c.lf < c.ck - ar) := by
  unfold anB exB
  rw [h.mt, hb, h.ar]
  have : mtB q q Q Q (nmF fr) = true := by unfold mtB mtL eqB; simp
  rw [this]
  simp
/-- Store into an empty one -/
theorem Rn.store0 {wr W : World} {g : Nat} {c : Ca} {y : SV} {q : Rq} {Q : List Fd} {n : Int} {ry : SV} {b : ByteArray} {fr : List Fd} (h : Rn wr W g c y []) (ha : Ar wr q Q n ry b fr) (hz : Az q Q b fr) (st t : Int) (ht : t ≤ 9223372036854775807) (hme : 1 ≤ c.me) (hmb : c.mb = 1152921504606846976) :
    Calls Tryd.prog 11 #[.pointer (some ⟨g, 0, none⟩), .agg (rqv q), .agg (rsv n (sv ry) b), .int .i64 st, .int .i64 t] W fun r w' => ∃ (gs z : SV) (L : List En), r = .returned (.tuple #[.bool (!starB fr), sv gs]) ∧ R EI w' (sv gs) [] ∧ Rn wr w' g (hr c t) z L ∧ (starB fr = true → L = []) ∧ (starB fr = false → ∃ e, L = [e] ∧ Ee e q Q n b fr st (hr c t).ck) := by
  have hbw : ∀ V, Ks (Ow g y) W V → Below wr.heap.size wr V := fun V hV => h.bel.trans (hV.below h.bel.size fun i hi ho => by have := h.lo i (.inl ho); omega)
  refine (store_any W g c y [] h.cx q Q n ry b fr st t ht (fun V hV => ha.iq.below (hbw V hV)) (fun V hV => ha.ir.below (hbw V hV)) hz.zq hz.zQ hz.zQf hz.zb hz.zR hz.zRf (by have := hz.zS; omega) hz.zN).mono ?_
  have e2 : decide ((hr c t).mb < ((b.size + szL fr : Nat) : Int)) = false := decide_eq_false (by show ¬ c.mb < _; have := hz.zS; omega)
  have e3 : decide ((hr c t).me = 0) = false := decide_eq_false (by show ¬ c.me = 0; omega)
  have e1 : noB (hr c t) b fr = starB fr := by unfold noB; rw [e2, e3]; simp
  intro r w' hS
  unfold stP at hS
  rw [e1] at hS
  rcases hS with ⟨h1, gs, rfl, hT⟩ | ⟨h1, gs, y1, y2, y3, z, rfl, hx, hz', hk, hgs, _, hn⟩
  · obtain ⟨z, q1, q2⟩ := hT.cx
    refine ⟨gs, z, [], by rw [h1]; rfl, hT.gone, h.ks hT.ks q1 fun k hk => .inl ?_, fun _ => rfl, fun e => by rw [h1] at e; cases e⟩
    rcases hk with hk | ⟨e, he, _⟩
    · exact .inl (by rw [← ow_eq q2]; exact hk)
    · simp at he
  · refine ⟨gs, z, _, by rw [h1]; rfl, hgs, h.ks hk hx fun k hk' => ?_, fun e => (by rw [h1] at e; cases e), fun _ => ⟨_, rfl, ⟨rfl, rfl, rfl, rfl, rfl, rfl, rfl, rfl, rfl⟩⟩⟩
    rcases hk' with (rfl | hk') | ⟨e, he, hk'⟩
    · exact .inl (.inl (.inl rfl))
    · rcases hz' k hk' with e | e
      · exact .inl (.inl (.inr e))
      · exact .inr (Nat.le_trans h.bel.size e)
    · have : e = stE (hr c t) q Q n b fr st y1 y2 y3 := by simpa [evL] using he
      rw [this] at hk'
      exact .inr (Nat.le_trans h.bel.size (hn k hk'))
/-- four caches side by side -/
structure C4 (w0 W : World) (a0 a1 a2 a3 a4 : Nat) (g0 : Nat) (c0 : Ca) (y0 : SV) (L0 : List En) (g1 : Nat) (c1 : Ca) (y1 : SV) (L1 : List En) (g2 : Nat) (c2 : Ca) (y2 : SV) (L2 : List En) (g3 : Nat) (c3 : Ca) (y3 : SV) (L3 : List En) : Prop where
  x0 : Cx W g0 c0 y0 L0
  x1 : Cx W g1 c1 y1 L1
  x2 : Cx W g2 c2 y2 L2
  x3 : Cx W g3 c3 y3 L3
  i0 : ∀ k, Cb g0 y0 L0 k → a0 ≤ k ∧ k < a1
  i1 : ∀ k, Cb g1 y1 L1 k → a1 ≤ k ∧ k < a2
  i2 : ∀ k, Cb g2 y2 L2 k → a2 ≤ k ∧ k < a3
  i3 : ∀ k, Cb g3 y3 L3 k → a3 ≤ k ∧ k < a4
  bel : Below w0.heap.size w0 W
  lo : w0.heap.size ≤ a0
  mo : a0 ≤ a1 ∧ a1 ≤ a2 ∧ a2 ≤ a3 ∧ a3 ≤ a4
theorem cb_sub {g : Nat} {y z : SV} {L M : List En} (ho : (sv z).ownBlock = (sv y).ownBlock) (hl : ∀ e ∈ M, e ∈ L) {k : Nat} (h : Cb g z M k) : Cb g y L k := by
  rcases h with h | ⟨e, he, h⟩
  · exact .inl (by rw [← ow_eq ho]; exact h)
  · exact .inr ⟨e, hl e he, h⟩
theorem C4.below {w0 W W' : World} {a0 a1 a2 a3 a4 g0 g1 g2 g3 : Nat} {c0 c1 c2 c3 : Ca} {y0 y1 y2 y3 : SV} {L0 L1 L2 L3 : List En} (h : C4 w0 W a0 a1 a2 a3 a4 g0 c0 y0 L0 g1 c1 y1 L1 g2 c2 y2 L2 g3 c3 y3 L3) (hb : Below W.heap.size W W') : C4 w0 W' a0 a1 a2 a3 a4 g0 c0 y0 L0 g1 c1 y1 L1 g2 c2 y2 L2 g3 c3 y3 L3 := ⟨h.x0.below hb, h.x1.below hb, h.x2.below hb, h.x3.below hb, h.i0, h.i1, h.i2, h.i3, h.bel.trans (hb.mono h.bel.size), h.lo, h.mo⟩
theorem C4.op0 {w0 W W' : World} {a0 a1 a2 a3 a4 g0 g1 g2 g3 : Nat} {c0 c1 c2 c3 : Ca} {y0 y1 y2 y3 : SV} {L0 L1 L2 L3 : List En} {c : Ca} {z : SV} {M : List En} (h : C4 w0 W a0 a1 a2 a3 a4 g0 c0 y0 L0 g1 c1 y1 L1 g2 c2 y2 L2 g3 c3 y3 L3) (hk' : Ks (Ow g0 y0) W W') (hx : Cx W' g0 c z M) (ho : (sv z).ownBlock = (sv y0).ownBlock) (hl : ∀ e ∈ M, e ∈ L0) : C4 w0 W' a0 a1 a2 a3 a4 g0 c z M g1 c1 y1 L1 g2 c2 y2 L2 g3 c3 y3 L3 :=
  ⟨hx, h.x1.keep fun k hk hl => hk'.block k hl fun ho => by have := h.i1 k hk; have := h.i0 k (.inl ho); have := h.mo; omega, h.x2.keep fun k hk hl => hk'.block k hl fun ho => by have := h.i2 k hk; have := h.i0 k (.inl ho); have := h.mo; omega, h.x3.keep fun k hk hl => hk'.block k hl fun ho => by have := h.i3 k hk; have := h.i0 k (.inl ho); have := h.mo; omega, fun k hk => h.i0 k (cb_sub ho hl hk), h.i1, h.i2, h.i3, h.bel.trans (hk'.below h.bel.size fun i hi ho => by have := h.i0 i (.inl ho); have := h.mo; have := h.lo; omega), h.lo, h.mo⟩
theorem C4.op1 {w0 W W' : World} {a0 a1 a2 a3 a4 g0 g1 g2 g3 : Nat} {c0 c1 c2 c3 : Ca} {y0 y1 y2 y3 : SV} {L0 L1 L2 L3 : List En} {c : Ca} {z : SV} {M : List En} (h : C4 w0 W a0 a1 a2 a3 a4 g0 c0 y0 L0 g1 c1 y1 L1 g2 c2 y2 L2 g3 c3 y3 L3) (hk' : Ks (Ow g1 y1) W W') (hx : Cx W' g1 c z M) (ho : (sv z).ownBlock = (sv y1).ownBlock) (hl : ∀ e ∈ M, e ∈ L1) : C4 w0 W' a0 a1 a2 a3 a4 g0 c0 y0 L0 g1 c z M g2 c2 y2 L2 g3 c3 y3 L3 :=
  ⟨h.x0.keep fun k hk hl => hk'.block k hl fun ho => by have := h.i0 k hk; have := h.i1 k (.inl ho); have := h.mo; omega, hx, h.x2.keep fun k hk hl => hk'.block k hl fun ho => by have := h.i2 k hk; have := h.i1 k (.inl ho); have := h.mo; omega, h.x3.keep fun k hk hl => hk'.block k hl fun ho => by have := h.i3 k hk; have := h.i1 k (.inl ho); have := h.mo; omega, h.i0, fun k hk => h.i1 k (cb_sub ho hl hk), h.i2, h.i3, h.bel.trans (hk'.below h.bel.size fun i hi ho => by have := h.i1 i (.inl ho); have := h.mo; have := h.lo; omega), h.lo, h.mo⟩
theorem C4.op2 {w0 W W' : World} {a0 a1 a2 a3 a4 g0 g1 g2 g3 : Nat} {c0 c1 c2 c3 : Ca} {y0 y1 y2 y3 : SV} {L0 L1 L2 L3 : List En} {c : Ca} {z : SV} {M : List En} (h : C4 w0 W a0 a1 a2 a3 a4 g0 c0 y0 L0 g1 c1 y1 L1 g2 c2 y2 L2 g3 c3 y3 L3) (hk' : Ks (Ow g2 y2) W W') (hx : Cx W' g2 c z M) (ho : (sv z).ownBlock = (sv y2).ownBlock) (hl : ∀ e ∈ M, e ∈ L2) : C4 w0 W' a0 a1 a2 a3 a4 g0 c0 y0 L0 g1 c1 y1 L1 g2 c z M g3 c3 y3 L3 :=
  ⟨h.x0.keep fun k hk hl => hk'.block k hl fun ho => by have := h.i0 k hk; have := h.i2 k (.inl ho); have := h.mo; omega, h.x1.keep fun k hk hl => hk'.block k hl fun ho => by have := h.i1 k hk; have := h.i2 k (.inl ho); have := h.mo; omega, hx, h.x3.keep fun k hk hl => hk'.block k hl fun ho => by have := h.i3 k hk; have := h.i2 k (.inl ho); have := h.mo; omega, h.i0, h.i1, fun k hk => h.i2 k (cb_sub ho hl hk), h.i3, h.bel.trans (hk'.below h.bel.size fun i hi ho => by have := h.i2 i (.inl ho); have := h.mo; have := h.lo; omega), h.lo, h.mo⟩
theorem C4.op3 {w0 W W' : World} {a0 a1 a2 a3 a4 g0 g1 g2 g3 : Nat} {c0 c1 c2 c3 : Ca} {y0 y1 y2 y3 : SV} {L0 L1 L2 L3 : List En} {c : Ca} {z : SV} {M : List En} (h : C4 w0 W a0 a1 a2 a3 a4 g0 c0 y0 L0 g1 c1 y1 L1 g2 c2 y2 L2 g3 c3 y3 L3) (hk' : Ks (Ow g3 y3) W W') (hx : Cx W' g3 c z M) (ho : (sv z).ownBlock = (sv y3).ownBlock) (hl : ∀ e ∈ M, e ∈ L3) : C4 w0 W' a0 a1 a2 a3 a4 g0 c0 y0 L0 g1 c1 y1 L1 g2 c2 y2 L2 g3 c z M :=
  ⟨h.x0.keep fun k hk hl => hk'.block k hl fun ho => by have := h.i0 k hk; have := h.i3 k (.inl ho); have := h.mo; omega, h.x1.keep fun k hk hl => hk'.block k hl fun ho => by have := h.i1 k hk; have := h.i3 k (.inl ho); have := h.mo; omega, h.x2.keep fun k hk hl => hk'.block k hl fun ho => by have := h.i2 k hk; have := h.i3 k (.inl ho); have := h.mo; omega, hx, h.i0, h.i1, h.i2, fun k hk => h.i3 k (cb_sub ho hl hk), h.bel.trans (hk'.below h.bel.size fun i hi ho => by have := h.i3 i (.inl ho); have := h.mo; have := h.lo; omega), h.lo, h.mo⟩
end Go.Proofs.YtfponcdhaefkdaaDoor
