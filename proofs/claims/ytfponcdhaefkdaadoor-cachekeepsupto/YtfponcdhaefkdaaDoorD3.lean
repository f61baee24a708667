/- CacheEnds: what lies in memory. -/
import Derived.Test.YtfponcdhaefkdaaDoorD2
namespace Go.Proofs.YtfponcdhaefkdaaDoor
open Go.RowKit
set_option linter.unusedVariables false
set_option linter.unusedSimpArgs false
theorem wraps_i64_63 (n : Int) (h₀ : 0 ≤ n) (h₁ : n < 2 ^ 63) : IntKind.i64.wrap n = n := by rw [IntKind.wrap_i64]; omega
/-- of any number: its lower bits -/
theorem and_any (n : Int) (p : Nat) (hp : p ≤ 62) : bits .and .i64 n ((2 ^ p - 1 : Nat) : Int) = n % ((2 ^ p : Nat) : Int) := by
  have hpp : 2 ^ p < 2 ^ 63 := Nat.pow_lt_pow_right (by decide) (by omega)
  have hpos : 0 < 2 ^ p := Nat.two_pow_pos p
  have hd : 2 ^ p ∣ 2 ^ 64 := Nat.pow_dvd_pow 2 (by omega)
  have hb : (BitVec.ofInt 64 ((2 ^ p - 1 : Nat) : Int)).toNat = 2 ^ p - 1 := by
    rw [BitVec.ofInt_natCast, BitVec.toNat_ofNat]; exact Nat.mod_eq_of_lt (by omega)
  have ha : (BitVec.ofInt 64 n).toNat = (n % ((2 ^ 64 : Nat) : Int)).toNat := BitVec.toNat_ofInt n
  have key : (n % ((2 ^ 64 : Nat) : Int)).toNat % 2 ^ p = (n % ((2 ^ p : Nat) : Int)).toNat := by
    have h1 : 0 ≤ n % ((2 ^ 64 : Nat) : Int) := Int.emod_nonneg _ (by decide)
    have h2 : 0 ≤ n % ((2 ^ p : Nat) : Int) := Int.emod_nonneg _ (by omega)
    apply Int.ofNat.inj
    show (((n % ((2 ^ 64 : Nat) : Int)).toNat % 2 ^ p : Nat) : Int) = (((n % ((2 ^ p : Nat) : Int)).toNat : Nat) : Int)
    rw [Int.natCast_emod, Int.toNat_of_nonneg h1, Int.toNat_of_nonneg h2]
    exact Int.emod_emod_of_dvd n (Int.natCast_dvd_natCast.2 hd)
  have h2 : 0 ≤ n % ((2 ^ p : Nat) : Int) := Int.emod_nonneg _ (by omega)
  have h3 : n % ((2 ^ p : Nat) : Int) < ((2 ^ p : Nat) : Int) := Int.emod_lt_of_pos _ (by omega)
  show IntKind.i64.wrap (((BitVec.ofInt 64 n) &&& (BitVec.ofInt 64 ((2 ^ p - 1 : Nat) : Int))).toNat : Int) = _
  rw [BitVec.toNat_and, ha, hb, Nat.and_two_pow_sub_one_eq_mod, key, Int.toNat_of_nonneg h2]
  exact wraps_i64_63 _ h2 (by omega)
theorem and59 (n : Int) : bits .and .i64 n 576460752303423487 = n % 576460752303423488 := and_any n 59 (by decide)
/-- a cache that was made since wr -/
structure Rn (wr W : World) (g : Nat) (c : Ca) (y : SV) (L : List En) : Prop where
  cx : Cx W g c y L
  bel : Below wr.heap.size wr W
  lo : ∀ k, Cb g y L k → wr.heap.size ≤ k
theorem Rn.below {wr W W' : World} {g : Nat} {c : Ca} {y : SV} {L : List En} (h : Rn wr W g c y L) (hb : Below W.heap.size W W') : Rn wr W' g c y L := ⟨h.cx.below hb, h.bel.trans (hb.mono h.bel.size), h.lo⟩
theorem Rn.ks {wr W W' : World} {g : Nat} {c c' : Ca} {y y' : SV} {L L' : List En} (h : Rn wr W g c y L) (hk : Ks (Ow g y) W W') (hx : Cx W' g c' y' L') (hl : ∀ k, Cb g y' L' k → Cb g y L k ∨ wr.heap.size ≤ k) : Rn wr W' g c' y' L' :=
  ⟨hx, h.bel.trans (hk.below h.bel.size fun i hi ho => by have := h.lo i (.inl ho); omega), fun k hk' => (hl k hk').elim (h.lo k) id⟩
theorem Rn.tick0 {wr W : World} {g : Nat} {c : Ca} {y : SV} (h : Rn wr W g c y []) (t : Int) (ht : t ≤ 9223372036854775807) :
    Calls Tryd.prog 10 #[.pointer (some ⟨g, 0, none⟩), .int .i64 t] W fun r w' => ∃ gs z : SV, r = .returned (sv gs) ∧ Rn wr w' g (hr c t) z [] := by
  refine (tick_any W g c y [] h.cx t ht).mono ?_
  rintro r w' ⟨gs, rfl, hT⟩
  obtain ⟨z, h1, h2⟩ := hT.cx
  refine ⟨gs, z, rfl, h.ks hT.ks h1 fun k hk => .inl ?_⟩
  rcases hk with hk | ⟨e, he, _⟩
  · exact .inl (by rw [← ow_eq h2]; exact hk)
  · simp at he
/-- what is handed in -/
structure Ar (W : World) (q : Rq) (Q : List Fd) (n : Int) (ry : SV) (b : ByteArray) (fr : List Fd) : Prop where
  iq : In EFd W (sv q.y) Q
  ir : In EFd W (sv ry) fr
theorem Ar.below {W W' : World} {q : Rq} {Q : List Fd} {n : Int} {ry : SV} {b : ByteArray} {fr : List Fd} (h : Ar W q Q n ry b fr) (hb : Below W.heap.size W W') : Ar W' q Q n ry b fr := ⟨h.iq.below hb, h.ir.below hb⟩
/-- its sizes -/
structure Az (q : Rq) (Q : List Fd) (b : ByteArray) (fr : List Fd) : Prop where
  zq : q.m.size ≤ 281474976710656 ∧ q.s.size ≤ 281474976710656 ∧ q.a.size ≤ 281474976710656 ∧ q.p.size ≤ 281474976710656
  zQ : Q.length ≤ 1099511627776
  zQf : ∀ f ∈ Q, fz f
  zb : b.size ≤ 281474976710656
  zR : fr.length ≤ 1099511627776
  zRf : ∀ f ∈ fr, f.n.size ≤ 140737488355328 ∧ f.v.size ≤ 140737488355328
  zS : b.size + szL fr ≤ 1152921504606846976
  zN : (allP (vsL fr varyS)).length ≤ 4398046511104
/-- an entry of what is handed in -/
structure Ee (e : En) (q : Rq) (Q : List Fd) (n : Int) (b : ByteArray) (fr : List Fd) (st ar : Int) : Prop where
  st : e.st = st
  ar : e.ar = ar
  rn : e.rn = n
  rb : e.rb = b
  rf : e.fr = fr
  sz : e.sz = b.size + szL fr
  hd : hdL e.q = hdL q
  fq : e.fq = Q.filter (fun f => inS (nmF fr) f.n)
  nm : e.nm = nmF fr
theorem vsL_filter (Q : List Fd) (nm : List ByteArray) (x : ByteArray) (hx : x ∈ nm) : vsL (Q.filter fun f => inS nm f.n) x = vsL Q x := by
  induction Q with
  | nil => rfl
  | cons f Q ih =>
    by_cases h : inS nm f.n = true
    · rw [List.filter_cons_of_pos (by simpa using h)]
      unfold vsL at ih ⊢
      rw [List.filterMap_cons, List.filterMap_cons, ih]
    · rw [List.filter_cons_of_neg (by simpa using h), ih]
      unfold vsL
      rw [List.filterMap_cons]
      have hne : ¬ f.n = x := fun e => h (by unfold inS; exact List.any_eq_true.2 ⟨x, hx, by simp [e]⟩)
      simp [hne]
/-- an entry answers just the requests that its whole request would -/
theorem Ee.mt {e : En} {q : Rq} {Q : List Fd} {n : Int} {b : ByteArray} {fr : List Fd} {st ar : Int} (h : Ee e q Q n b fr st ar) (q2 : Rq) (Q2 : List Fd) : mtB e.q q2 e.fq Q2 e.nm = mtB q q2 Q Q2 (nmF fr) := by
  unfold mtB mtL
  rw [h.hd, h.fq, h.nm]
  congr 1
  have : ∀ l : List ByteArray, (∀ x ∈ l, x ∈ nmF fr) → (l.all fun x => eqB (vsL (Q.filter fun f => inS (nmF fr) f.n) x) (vsL Q2 x)) = l.all fun x => eqB (vsL Q x) (vsL Q2 x) := fun l hl => by
    induction l with
    | nil => rfl
    | cons x l ih =>
      rw [List.all_cons, List.all_cons, ih (fun y hy => hl y (by simp [hy])), vsL_filter _ _ _ (hl x (by simp))]
  exact this _ (fun x hx => hx)
theorem Ee.self {e : En} {q : Rq} {Q : List Fd} {n : Int} {b : ByteArray} {fr : List Fd} {st ar : Int} (h : Ee e q Q n b fr st ar) (hb : q.b = ⟨#[]⟩) (c : Ca) : anB c q Q e = !decide (c.lf < c.ck - ar) := by
  unfold anB exB
  rw [h.mt, hb, h.ar]
  have : mtB q q Q Q (nmF fr) = true := by unfold mtB mtL eqB; simp
  rw [this]
  simp
/-- Store into an empty one -/
theorem Rn.store0 {wr W : World} {g : Nat} {c : Ca} {y : SV} {q : Rq} {Q : List Fd} {n : Int} {ry : SV} {b : ByteArray} {fr : List Fd} (h : Rn wr W g c y []) (ha : Ar wr q Q n ry b fr) (hz : Az q Q b fr) (st t : Int) (ht : t ≤ 9223372036854775807) (hme : 1 ≤ c.me) (hmb : c.mb = 1152921504606846976) :
    Calls Tryd.prog 11 #[.pointer (some ⟨g, 0, none⟩), .agg (rqv q), .agg (rsv n (sv ry) b), .int .i64 st, .int .i64 t] W fun r w' => ∃ (gs z : SV) (L : List En), r = .returned (.tuple #[.bool (!starB fr), sv gs]) ∧ R EI w' (sv gs) [] ∧ Rn wr w' g (hr c t) z L ∧ (starB fr = true → L = []) ∧ (starB fr = false → ∃ e, L = [e] ∧ Ee e q Q n b fr st (hr c t).ck) := by
  have hbw : ∀ V, Ks (Ow g y) W V → Below wr.heap.size wr V := fun V hV => h.bel.trans (hV.below h.bel.size fun i hi ho => by have := h.lo i (.inl ho); omega)
  refine (store_any W g c y [] h.cx q Q n ry b fr st t ht (fun V hV => ha.iq.below (hbw V hV)) (fun V hV => ha.ir.below (hbw V hV)) hz.zq hz.zQ hz.zQf hz.zb hz.zR hz.zRf (by have := hz.zS; omega) hz.zN).mono ?_
  have e2 : decide ((hr c t).mb < ((b.size + szL fr : Nat) : Int)) = false := decide_eq_false (by show ¬ c.mb < _; have := hz.zS; omega)
  have e3 : decide ((hr c t).me = 0) = false := decide_eq_false (by show ¬ c.me = 0; omega)
  have e1 : noB (hr c t) b fr = starB fr := by unfold noB; rw [e2, e3]; simp
  intro r w' hS
  unfold stP at hS
  rw [e1] at hS
  rcases hS with ⟨h1, gs, rfl, hT⟩ | ⟨h1, gs, y1, y2, y3, z, rfl, hx, hz', hk, hgs, _, hn⟩
  · obtain ⟨z, q1, q2⟩ := hT.cx
    refine ⟨gs, z, [], by rw [h1]; rfl, hT.gone, h.ks hT.ks q1 fun k hk => .inl ?_, fun _ => rfl, fun e => by rw [h1] at e; cases e⟩
    rcases hk with hk | ⟨e, he, _⟩
    · exact .inl (by rw [← ow_eq q2]; exact hk)
    · simp at he
  · refine ⟨gs, z, _, by rw [h1]; rfl, hgs, h.ks hk hx fun k hk' => ?_, fun e => (by rw [h1] at e; cases e), fun _ => ⟨_, rfl, ⟨rfl, rfl, rfl, rfl, rfl, rfl, rfl, rfl, rfl⟩⟩⟩
    rcases hk' with (rfl | hk') | ⟨e, he, hk'⟩
    · exact .inl (.inl (.inl rfl))
    · rcases hz' k hk' with e | e
      · exact .inl (.inl (.inr e))
      · exact .inr (Nat.le_trans h.bel.size e)
    · have : e = stE (hr c t) q Q n b fr st y1 y2 y3 := by simpa [evL] using he
      rw [this] at hk'
      exact .inr (Nat.le_trans h.bel.size (hn k hk'))
/-- four caches side by side -/
structure C4 (w0 W : World) (a0 a1 a2 a3 a4 : Nat) (g0 : Nat) (c0 : Ca) (y0 : SV) (L0 : List En) (g1 : Nat) (c1 : Ca) (y1 : SV) (L1 : List En) (g2 : Nat) (c2 : Ca) (y2 : SV) (L2 : List En) (g3 : Nat) (c3 : Ca) (y3 : SV) (L3 : List En) : Prop where
  x0 : Cx W g0 c0 y0 L0
  x1 : Cx W g1 c1 y1 L1
  x2 : Cx W g2 c2 y2 L2
  x3 : Cx W g3 c3 y3 L3
  i0 : ∀ k, Cb g0 y0 L0 k → a0 ≤ k ∧ k < a1
  i1 : ∀ k, Cb g1 y1 L1 k → a1 ≤ k ∧ k < a2
  i2 : ∀ k, Cb g2 y2 L2 k → a2 ≤ k ∧ k < a3
  i3 : ∀ k, Cb g3 y3 L3 k → a3 ≤ k ∧ k < a4
  bel : Below w0.heap.size w0 W
  lo : w0.heap.size ≤ a0
  mo : a0 ≤ a1 ∧ a1 ≤ a2 ∧ a2 ≤ a3 ∧ a3 ≤ a4
theorem cb_sub {g : Nat} {y z : SV} {L M : List En} (ho : (sv z).ownBlock = (sv y).ownBlock) (hl : ∀ e ∈ M, e ∈ L) {k : Nat} (h : Cb g z M k) : Cb g y L k := by
  rcases h with h | ⟨e, he, h⟩
  · exact .inl (by rw [← ow_eq ho]; exact h)
  · exact .inr ⟨e, hl e he, h⟩
theorem C4.below {w0 W W' : World} {a0 a1 a2 a3 a4 g0 g1 g2 g3 : Nat} {c0 c1 c2 c3 : Ca} {y0 y1 y2 y3 : SV} {L0 L1 L2 L3 : List En} (h : C4 w0 W a0 a1 a2 a3 a4 g0 c0 y0 L0 g1 c1 y1 L1 g2 c2 y2 L2 g3 c3 y3 L3) (hb : Below W.heap.size W W') : C4 w0 W' a0 a1 a2 a3 a4 g0 c0 y0 L0 g1 c1 y1 L1 g2 c2 y2 L2 g3 c3 y3 L3 := ⟨h.x0.below hb, h.x1.below hb, h.x2.below hb, h.x3.below hb, h.i0, h.i1, h.i2, h.i3, h.bel.trans (hb.mono h.bel.size), h.lo, h.mo⟩
theorem C4.op0 {w0 W W' : World} {a0 a1 a2 a3 a4 g0 g1 g2 g3 : Nat} {c0 c1 c2 c3 : Ca} {y0 y1 y2 y3 : SV} {L0 L1 L2 L3 : List En} {c : Ca} {z : SV} {M : List En} (h : C4 w0 W a0 a1 a2 a3 a4 g0 c0 y0 L0 g1 c1 y1 L1 g2 c2 y2 L2 g3 c3 y3 L3) (hk' : Ks (Ow g0 y0) W W') (hx : Cx W' g0 c z M) (ho : (sv z).ownBlock = (sv y0).ownBlock) (hl : ∀ e ∈ M, e ∈ L0) : C4 w0 W' a0 a1 a2 a3 a4 g0 c z M g1 c1 y1 L1 g2 c2 y2 L2 g3 c3 y3 L3 :=
  ⟨hx, h.x1.keep fun k hk hl => hk'.block k hl fun ho => by have := h.i1 k hk; have := h.i0 k (.inl ho); have := h.mo; omega, h.x2.keep fun k hk hl => hk'.block k hl fun ho => by have := h.i2 k hk; have := h.i0 k (.inl ho); have := h.mo; omega, h.x3.keep fun k hk hl => hk'.block k hl fun ho => by have := h.i3 k hk; have := h.i0 k (.inl ho); have := h.mo; omega, fun k hk => h.i0 k (cb_sub ho hl hk), h.i1, h.i2, h.i3, h.bel.trans (hk'.below h.bel.size fun i hi ho => by have := h.i0 i (.inl ho); have := h.mo; have := h.lo; omega), h.lo, h.mo⟩
theorem C4.op1 {w0 W W' : World} {a0 a1 a2 a3 a4 g0 g1 g2 g3 : Nat} {c0 c1 c2 c3 : Ca} {y0 y1 y2 y3 : SV} {L0 L1 L2 L3 : List En} {c : Ca} {z : SV} {M : List En} (h : C4 w0 W a0 a1 a2 a3 a4 g0 c0 y0 L0 g1 c1 y1 L1 g2 c2 y2 L2 g3 c3 y3 L3) (hk' : Ks (Ow g1 y1) W W') (hx : Cx W' g1 c z M) (ho : (sv z).ownBlock = (sv y1).ownBlock) (hl : ∀ e ∈ M, e ∈ L1) : C4 w0 W' a0 a1 a2 a3 a4 g0 c0 y0 L0 g1 c z M g2 c2 y2 L2 g3 c3 y3 L3 :=
  ⟨h.x0.keep fun k hk hl => hk'.block k hl fun ho => by have := h.i0 k hk; have := h.i1 k (.inl ho); have := h.mo; omega, hx, h.x2.keep fun k hk hl => hk'.block k hl fun ho => by have := h.i2 k hk; have := h.i1 k (.inl ho); have := h.mo; omega, h.x3.keep fun k hk hl => hk'.block k hl fun ho => by have := h.i3 k hk; have := h.i1 k (.inl ho); have := h.mo; omega, h.i0, fun k hk => h.i1 k (cb_sub ho hl hk), h.i2, h.i3, h.bel.trans (hk'.below h.bel.size fun i hi ho => by have := h.i1 i (.inl ho); have := h.mo; have := h.lo; omega), h.lo, h.mo⟩
theorem C4.op2 {w0 W W' : World} {a0 a1 a2 a3 a4 g0 g1 g2 g3 : Nat} {c0 c1 c2 c3 : Ca} {y0 y1 y2 y3 : SV} {L0 L1 L2 L3 : List En} {c : Ca} {z : SV} {M : List En} (h : C4 w0 W a0 a1 a2 a3 a4 g0 c0 y0 L0 g1 c1 y1 L1 g2 c2 y2 L2 g3 c3 y3 L3) (hk' : Ks (Ow g2 y2) W W') (hx : Cx W' g2 c z M) (ho : (sv z).ownBlock = (sv y2).ownBlock) (hl : ∀ e ∈ M, e ∈ L2) : C4 w0 W' a0 a1 a2 a3 a4 g0 c0 y0 L0 g1 c1 y1 L1 g2 c z M g3 c3 y3 L3 :=
  ⟨h.x0.keep fun k hk hl => hk'.block k hl fun ho => by have := h.i0 k hk; have := h.i2 k (.inl ho); have := h.mo; omega, h.x1.keep fun k hk hl => hk'.block k hl fun ho => by have := h.i1 k hk; have := h.i2 k (.inl ho); have := h.mo; omega, hx, h.x3.keep fun k hk hl => hk'.block k hl fun ho => by have := h.i3 k hk; have := h.i2 k (.inl ho); have := h.mo; omega, h.i0, h.i1, fun k hk => h.i2 k (cb_sub ho hl hk), h.i3, h.bel.trans (hk'.below h.bel.size fun i hi ho => by have := h.i2 i (.inl ho); have := h.mo; have := h.lo; omega), h.lo, h.mo⟩
theorem C4.op3 {w0 W W' : World} {a0 a1 a2 a3 a4 g0 g1 g2 g3 : Nat} {c0 c1 c2 c3 : Ca} {y0 y1 y2 y3 : SV} {L0 L1 L2 L3 : List En} {c : Ca} {z : SV} {M : List En} (h : C4 w0 W a0 a1 a2 a3 a4 g0 c0 y0 L0 g1 c1 y1 L1 g2 c2 y2 L2 g3 c3 y3 L3) (hk' : Ks (Ow g3 y3) W W') (hx : Cx W' g3 c z M) (ho : (sv z).ownBlock = (sv y3).ownBlock) (hl : ∀ e ∈ M, e ∈ L3) : C4 w0 W' a0 a1 a2 a3 a4 g0 c0 y0 L0 g1 c1 y1 L1 g2 c2 y2 L2 g3 c z M :=
  ⟨h.x0.keep fun k hk hl => hk'.block k hl fun ho => by have := h.i0 k hk; have := h.i3 k (.inl ho); have := h.mo; omega, h.x1.keep fun k hk hl => hk'.block k hl fun ho => by have := h.i1 k hk; have := h.i3 k (.inl ho); have := h.mo; omega, h.x2.keep fun k hk hl => hk'.block k hl fun ho => by have := h.i2 k hk; have := h.i3 k (.inl ho); have := h.mo; omega, hx, h.i0, h.i1, h.i2, fun k hk => h.i3 k (cb_sub ho hl hk), h.bel.trans (hk'.below h.bel.size fun i hi ho => by have := h.i3 i (.inl ho); have := h.mo; have := h.lo; omega), h.lo, h.mo⟩
end Go.Proofs.YtfponcdhaefkdaaDoor
