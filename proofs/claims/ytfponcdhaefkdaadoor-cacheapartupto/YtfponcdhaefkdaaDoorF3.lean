/- CacheApart: what its calls do. -/
import Derived.Test.YtfponcdhaefkdaaDoorF2
namespace Go.Proofs.YtfponcdhaefkdaaDoor
open Go.RowKit
set_option linter.unusedVariables false
set_option linter.unusedSimpArgs false
theorem drop_none {α : Type} {p : α → Bool} {l : List α} (h : ∀ e ∈ l, p e = false) : l.dropWhile p = l ∧ l.takeWhile p = [] := by
  cases l with
  | nil => exact ⟨rfl, rfl⟩
  | cons x r =>
    have := h x (by simp)
    exact ⟨by rw [List.dropWhile_cons_of_neg (by rw [this]; simp)], by rw [List.takeWhile_cons_of_neg (by rw [this]; simp)]⟩
theorem ev_none {c : Ca} {z : Nat} {L : List En} (h : lkB c L z = false) : evL c z L = L := by
  cases L with
  | nil => rfl
  | cons x r => unfold evL; rw [h]; rfl
theorem Aw.storex {w W : World} {gx gy : Nat} {cx cy : Ca} {yx yy : SV} {Lx Ly : List En} {X : List (Nat × Array Value × TypeId)} {F : List (SV × List Fd)} (h : Aw w W gx cx yx Lx gy cy yy Ly X F) {q : Rq} {Q : List Fd} {n : Int} {ry : SV} {b : ByteArray} {fr : List Fd} (hQ : ∀ V, Ks (Ow gx yx) W V → In EFd V (sv q.y) Q) (hR : ∀ V, Ks (Ow gx yx) W V → In EFd V (sv ry) fr) (hz : Az q Q b fr) (hs : starB fr = false) (st t : Int) (ht : t ≤ 9223372036854775807) (hl : (Lx.length : Int) < cx.me) (hm : ((totL Lx + (b.size + szL fr) : Nat) : Int) ≤ cx.mb) (hx : ∀ e ∈ Lx, exB (hr cx t) e = false) :
    Calls Tryd.prog 11 #[.pointer (some ⟨gx, 0, none⟩), .agg (rqv q), .agg (rsv n (sv ry) b), .int .i64 st, .int .i64 t] W fun r w' => ∃ (u : Value) (z : SV) (e : En), r = .returned u ∧ Aw w w' gx (hr cx t) z (Lx ++ [e]) gy cy yy Ly X F ∧ Ee e q Q n b fr st (hr cx t).ck := by
  refine (store_any W gx cx yx Lx h.x q Q n ry b fr st t ht hQ hR hz.zq hz.zQ hz.zQf hz.zb hz.zR hz.zRf (by have := hz.zS; omega) hz.zN).mono ?_
  have e2 : decide ((hr cx t).mb < ((b.size + szL fr : Nat) : Int)) = false := decide_eq_false (by show ¬ cx.mb < _; omega)
  have e3 : decide ((hr cx t).me = 0) = false := decide_eq_false (by show ¬ cx.me = 0; omega)
  have e1 : noB (hr cx t) b fr = false := by unfold noB; rw [e2, e3, hs]; rfl
  have el : lkB (hr cx t) Lx (b.size + szL fr) = false := by
    unfold lkB
    rw [decide_eq_false (show ¬ (hr cx t).me ≤ (Lx.length : Int) by show ¬ cx.me ≤ _; omega), decide_eq_false (show ¬ (hr cx t).mb < _ by show ¬ cx.mb < _; omega)]
    rfl
  intro r w' hS
  unfold stP at hS
  rw [e1, (drop_none hx).1, (drop_none hx).2, ev_none el] at hS
  rcases hS with ⟨h1, _⟩ | ⟨_, gs, y1, y2, y3, z, rfl, hx', hz', hk, _, _, hn⟩
  · cases h1
  · refine ⟨_, z, _, rfl, h.opx hk hx' fun k hk' => ?_, ⟨rfl, rfl, rfl, rfl, rfl, rfl, rfl, rfl, rfl⟩⟩
    rcases hk' with (rfl | hk') | ⟨e, he, hk'⟩
    · exact .inl (.inl (.inl rfl))
    · rcases hz' k hk' with e | e
      · exact .inl (.inl (.inr e))
      · exact .inr e
    · rcases List.mem_append.1 he with he | he
      · exact .inl (.inr ⟨e, he, hk'⟩)
      · rw [List.mem_singleton.1 he] at hk'
        exact .inr (hn k hk')
theorem Aw.claimx {w W : World} {gx gy : Nat} {cx cy : Ca} {yx yy : SV} {e : En} {M Ly : List En} {X : List (Nat × Array Value × TypeId)} {F : List (SV × List Fd)} (h : Aw w W gx cx yx (e :: M) gy cy yy Ly X F) {q0 q : Rq} {Q : List Fd} {n : Int} {b : ByteArray} {fr : List Fd} {st ar : Int} (he : Ee e q0 Q n b fr st ar) (hq : hdL q = hdL q0) (hb : q.b = ⟨#[]⟩) (zQ : Q.length ≤ 1099511627776) (hQg : ∀ V, Ks (fun k => k = gx) W V → In EFd V (sv q.y) Q) (t : Int) (ht : t ≤ 9223372036854775807) (hx : ¬ cx.lf < max cx.ck t - ar) :
    Calls Tryd.prog 13 #[.pointer (some ⟨gx, 0, none⟩), .agg (rqv q), .int .i64 t] W fun r w' => ∃ v z : SV, r = .returned (.tuple #[.agg (rsv n (sv v) b), .int .i64 st, .bool true]) ∧ Aw w w' gx (hr cx t) z M gy cy yy Ly X ((v, fr) :: F) := by
  refine (claim_any W gx cx yx (e :: M) h.x q Q zQ hQg t ht).mono ?_
  have ha : anB (hr cx t) q Q e = true := by
    unfold anB exB
    rw [he.mt, hb, he.ar]
    have h1 : mtB q0 q Q Q (nmF fr) = true := by unfold mtB mtL eqB; rw [hq]; simp
    have h2 : decide ((hr cx t).lf < (hr cx t).ck - ar) = false := decide_eq_false hx
    rw [h1, h2]
    simp
  have hi : (e :: M).findIdx? (anB (hr cx t) q Q) = some 0 := by simp [List.findIdx?_cons, ha]
  rw [hi]
  rintro r w' (⟨h1, _⟩ | ⟨i, hil, h1, rfl, z, h2, h3, h4, h5⟩)
  · cases h1
  · injection h1 with h1
    subst h1
    simp only [List.getElem_cons_zero, List.eraseIdx_cons_zero] at h2 h5 ⊢
    rw [he.rn, he.rb, he.st]
    have hr5 := h5.r
    rw [he.rf] at hr5
    have hap := List.pairwise_cons.1 h.x.ap
    have hEr := h.x.er e (by simp)
    have hA := h.opx h4 h2 fun k hk => .inl (cb_sub h3 (fun e' he' => by simp [he']) hk)
    refine ⟨e.ry, z, rfl, hA.put e.ry fr hr5 (fun k hk => ?_) (fun p hp k hk hk' => ((h.fs p hp).2 k hk').2.1 (.inr ⟨e, by simp, .inr (.inr hk)⟩))⟩
    have hCb : Cb gx yx (e :: M) k := .inr ⟨e, by simp, .inr (.inr hk)⟩
    refine ⟨h.lx k hCb, fun hc => ?_, h.xy k hCb⟩
    rcases hc with hc | ⟨e', he', hc⟩
    · exact h.x.off hEr (.inr (.inr hk)) (by rw [← ow_eq h3]; exact hc)
    · exact hap.1 e' he' k (.inr (.inr hk)) hc
theorem Aw.tickx {w W : World} {gx gy : Nat} {cx cy : Ca} {yx yy : SV} {e : En} {Ly : List En} {X : List (Nat × Array Value × TypeId)} {F : List (SV × List Fd)} (h : Aw w W gx cx yx [e] gy cy yy Ly X F) (t : Int) (ht : t ≤ 9223372036854775807) (hx : cx.lf < max cx.ck t - e.ar) :
    Calls Tryd.prog 10 #[.pointer (some ⟨gx, 0, none⟩), .int .i64 t] W fun r w' => ∃ gs z : SV, r = .returned (sv gs) ∧ R EI w' (sv gs) [e.st] ∧ (∀ k, ownB gs k → W.heap.size ≤ k) ∧ Aw w w' gx (hr cx t) z [] gy cy yy Ly X F ∧ Ks (Ow gx yx) W w' := by
  refine (tick_any W gx cx yx [e] h.x t ht).mono ?_
  rintro r w' ⟨gs, rfl, hT⟩
  have hb : exB (hr cx t) e = true := decide_eq_true hx
  simp only [List.dropWhile_cons, List.takeWhile_cons, hb, if_true, List.dropWhile_nil, List.takeWhile_nil, List.map_cons, List.map_nil] at hT
  obtain ⟨z, h1, h2⟩ := hT.cx
  exact ⟨gs, z, rfl, hT.gone, hT.new, h.opx hT.ks h1 (fun k hk => .inl (cb_sub h2 (by simp) hk)), hT.ks⟩
theorem R.front {α : Type} {E : El α} (ok : E.Ok) {w : World} {base : Option Addr} {cap : Nat} {l r : List α} (h : R E w (.slice base (l.length + r.length) cap) (l ++ r)) (h0 : 0 < (l ++ r).length) : R E w (.slice base l.length cap) l := by
  rcases h.2 with ⟨_, h1⟩ | ⟨g, cap', cur, hv, hb, hg, hn, hm, hs, ht⟩
  · omega
  · injection hv with e1 e2 e3
    subst e1 e3
    rw [List.length_append] at hn
    refine ⟨by rw [ok.length], .inr ⟨g, cap, cur, rfl, hb, hg, by omega, hm, hs, ?_⟩⟩
    have e : cur.toList.take (l.length * E.sz) = (cur.toList.take ((l ++ r).length * E.sz)).take (l.length * E.sz) := by
      rw [List.take_take, Nat.min_eq_left (by rw [List.length_append]; exact Nat.mul_le_mul_right _ (by omega))]
    rw [e, ht, El.cs_append, ← ok.length l, List.take_left']
    rfl
/-- two fields more, behind a row that stays as it was -/
theorem app_both {W : World} {o : Value} {l : List Fd} (hR : R EFd W o l) (B : Nat) (x1 x2 : Fd) (hB : W.heap[B]? = some (.cells #[.string x1.n, .string x1.v, .bool x1.nv, .string x2.n, .string x2.v, .bool x2.nv] 51 (0, 0))) (hl : l.length ≤ 1099511627776) :
    ∃ base cap w', (Builtin.append_ #[22, 22] 22 #[o, .slice (some ⟨B, 0, none⟩) 2 2]).run Tryd.prog W = .ok (.slice base (l.length + 2) cap) w' ∧ R EFd w' (.slice base (l.length + 2) cap) (l ++ [x1, x2]) ∧ R EFd w' o l ∧ Gr W w' o (.slice base (l.length + 2) cap) := by
  have hin : R EFd W (.slice (some ⟨B, 0, none⟩) 2 2) [x1, x2] := R.whole okFd (c := #[.string x1.n, .string x1.v, .bool x1.nv, .string x2.n, .string x2.v, .bool x2.nv]) [x1, x2] (by simp) hB rfl
  obtain ⟨base, cap, w', hrun, hP, hG⟩ := app okFd W o l hR (.slice (some ⟨B, 0, none⟩) 2 2) [x1, x2] hin.isIn (by simp only [EFd, List.length_cons, List.length_nil]; omega)
  have el : l.length + [x1, x2].length = l.length + 2 := rfl
  rw [el] at hrun hP hG
  replace hrun : (Builtin.append_ #[22, 22] 22 #[o, .slice (some ⟨B, 0, none⟩) 2 2]).run Tryd.prog W = .ok (.slice base (l.length + 2) cap) w' := hrun
  refine ⟨base, cap, w', hrun, hP, ?_, hG⟩
  rcases hR.2 with ⟨rfl, h0⟩ | ⟨g, cap0, cur, rfl, _, hgg, hnc, _, hcs, _⟩
  · obtain rfl := List.eq_nil_of_length_eq_zero h0
    exact R.nil EFd _
  · obtain ⟨i0, z, hi0, hz0, hz1, hz2, hz3⟩ := info_z okFd
    have hcell : ∀ j u, (EFd.cs [x1, x2])[j]? = some u → W.cell? ((⟨B, 0, none⟩ : Addr).add j) = some u := by
      intro j u hj
      rw [Addr.add_lit, cell_blk hB, Nat.zero_add]
      have e : (#[.string x1.n, .string x1.v, .bool x1.nv, .string x2.n, .string x2.v, .bool x2.nv] : Array Value).toList = EFd.cs [x1, x2] := rfl
      rw [← Array.getElem?_toList, e]
      exact hj
    by_cases hroom : l.length + 2 ≤ cap0
    · have hr := run_append_room (P := Tryd.prog) W 22 22 51 i0 Tryd.underlying22 hi0 g l.length cap0 cur hgg ⟨B, 0, none⟩ 2 2 (EFd.cs [x1, x2]) (by rw [hz1]; rfl) hcell (okFd.ones _) hroom (by rw [hcs, hz1, okFd.length]; simp [EFd]; omega)
      rw [hrun] at hr
      injection hr with hr _
      injection hr with e1 e2 e3
      subst e1
      subst e3
      exact R.front okFd (r := [x1, x2]) hP (by simp)
    · have hr := run_append_grow (P := Tryd.prog) W 22 22 51 i0 z Tryd.underlying22 hi0 hz0 ⟨g, 0, none⟩ l.length cap0 (EFd.cs l) (by rw [okFd.length, hz1]) (World.ownsRow.cells hR (g := g) rfl) ⟨B, 0, none⟩ 2 2 (EFd.cs [x1, x2]) (by rw [hz1]; rfl) hcell (by omega) (by omega) (growslice_fits (by omega) (by rw [hz2]; simp [EFd]; omega))
      rw [hrun] at hr
      injection hr with hr hw
      subst hw
      refine hR.stays fun k hk hlt => ?_
      rw [heap_al, if_neg (by rw [size_dr]; omega), heap_dr]
theorem Aw.rowKeep {w W W' : World} {gx gy : Nat} {cx cy : Ca} {yx yy : SV} {Lx Ly : List En} {X : List (Nat × Array Value × TypeId)} {v : SV} {l : List Fd} {F : List (SV × List Fd)} (h : Aw w W gx cx yx Lx gy cy yy Ly X ((v, l) :: F)) (hk : Ks (ownB v) W W') (l' : List Fd) (hR : R EFd W' (sv v) l') : Aw w W' gx cx yx Lx gy cy yy Ly X ((v, l') :: F) :=
  (h.row hk).put v l' hR (fun k hk' => (h.fs (v, l) (by simp)).2 k hk') (fun p hp k hk' => (List.pairwise_cons.1 h.fa).1 p hp k hk')
theorem tick_nil {W : World} {g : Nat} {c : Ca} {y : SV} (h : Cx W g c y []) (t : Int) (ht : t ≤ 9223372036854775807) : Calls Tryd.prog 10 #[.pointer (some ⟨g, 0, none⟩), .int .i64 t] W fun r w' => ∃ u1 u3, r = .returned (.slice u1 0 u3) ∧ Ks (Ow g y) W w' := by
  refine (tick_any W g c y [] h t ht).mono ?_
  rintro r w' ⟨⟨u1, u2, u3⟩, rfl, hT⟩
  have h2 := (slice_len hT.gone.isIn).1
  simp only [List.takeWhile_nil, List.map_nil, List.length_nil] at h2
  rw [h2]
  exact ⟨u1, u3, rfl, hT.ks⟩
theorem R.zero {w : World} {u1 : Option Addr} {u2 u3 : Nat} {n : Int} {l : List Int} (h : R EI w (.slice u1 u2 u3) (n :: l)) : ∃ g, u1 = some ⟨g, 0, none⟩ ∧ w.cell? ⟨g, 0, none⟩ = some (.int .i64 n) ∧ w.frozen? ⟨g, 0, none⟩ = false ∧ (∃ cc, w.heap[g]? = some (.cells cc 2 (0, 0))) ∧ ∀ m : Int, R EI (w.setCell ⟨g, 0, none⟩ (.int .i64 m)) (.slice (some ⟨g, 0, none⟩) u2 u3) (m :: l) := by
  obtain ⟨g, cap, e, _, _, _, _, g3, g4, g5⟩ := h.setc okI 0 0 (by simp) (by decide)
  injection e with e1 e2 e3
  subst e1
  exact ⟨g, rfl, g3 0 _ rfl, g4 0, h.ty g rfl, fun m => g5 (.int .i64 m) m rfl⟩
end Go.Proofs.YtfponcdhaefkdaaDoor
