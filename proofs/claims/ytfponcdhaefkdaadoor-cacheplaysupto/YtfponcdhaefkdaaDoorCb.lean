/- placeOf, Holds. -/
import Derived.Test.YtfponcdhaefkdaaDoorCa
namespace Go.Proofs.YtfponcdhaefkdaaDoor
open Go.RowKit
set_option linter.unusedVariables false
set_option linter.unusedSimpArgs false
/-- does an entry answer? -/
def anB (c : Ca) (q : Rq) (Q : List Fd) (e : En) : Bool := decide (q.b = ⟨#[]⟩) && (!exB c e && mtB e.q q e.fq Q e.nm)
theorem st_empty {b : ByteArray} (h : ¬ b = ⟨#[]⟩) : b.toList.isEmpty = false := by
  cases e : b.toList.isEmpty
  · rfl
  · exfalso
    apply h
    rw [List.isEmpty_iff, ByteArray.toList_eq] at e
    exact ba_eq e
set_option maxHeartbeats 8000000 in
set_option maxRecDepth 100000 in
theorem place69_any (c : Ca) (y : SV) (g ga gc : Nat) (q : Rq) (Q : List Fd) (e : En) (w : World) (hb : w.heap[g]? = some (.cells (cav c y) 83 (0, 0))) (hga : RqB w ga q) (hgc : w.heap[gc]? = some (.cells #[.pointer (some ⟨g, 0, none⟩)] 30 (0, 0))) (hE : Er w e) (hQ : In EFd w (sv q.y) Q) (hck : 0 ≤ c.ck ∧ c.ck ≤ 9223372036854775807) (har : 0 ≤ e.ar ∧ e.ar ≤ c.ck) (zP : e.fq.length ≤ 1099511627776) (zQ : Q.length ≤ 1099511627776) :
    Calls Tryd.prog 69 #[.agg (env e), .pointer (some ⟨ga, 0, none⟩), .pointer (some ⟨gc, 0, none⟩)] w fun r w' => r = .returned (.bool (anB c q Q e)) ∧ Below w.heap.size w w' := by
  obtain ⟨W, hW⟩ : ∃ W, w.alloc (.cells (env e) 87) = W := ⟨_, rfl⟩
  obtain ⟨ge, hge⟩ : ∃ q, w.heap.size = q := ⟨_, rfl⟩
  have hbW : Below w.heap.size w W := by rw [← hW]; exact bel1 _ _
  have heW : W.heap[ge]? = some (.cells (env e) 87 (0, 0)) := by rw [← hW, ← hge, heap_al, if_pos rfl]
  have HBW : Hid (Below w.heap.size w W) := hbW
  have hgaW := hga.below hbW
  have hgcW := (hbW.block gc (heap_lt hgc)).trans hgc
  have hbg := (hbW.block g (heap_lt hb)).trans hb
  have HX : Hid (Calls Tryd.prog 35 #[.pointer (some ⟨g, 0, none⟩), .agg (env e)] W fun r w' => r = .returned (.bool (exB c e)) ∧ Below W.heap.size W w') := isExpired_any W g c y e hbg hck har
  have HM : Hid (∀ V, Below W.heap.size W V → Calls Tryd.prog 70 #[.agg (rqv e.q), .agg (rqv q), sv e.ns] V fun r w' => r = .returned (.bool (mtB e.q q e.fq Q e.nm)) ∧ Below V.heap.size V w') := fun V hV => match_any e.q q e.ns e.fq Q e.nm V ((hE.keep fun k _ hl => hbW.block k hl).q.isIn.below hV) ((hQ.below hbW).below hV) ((hE.keep fun k _ hl => hbW.block k hl).n.isIn.below hV) (by omega) (by omega)
  have HEc : Hid (∀ V, Below W.heap.size W V → Cells13 V ge 0 e ∧ RqB V ga q) := fun V hV => by
    have h := (hV.block ge (heap_lt heW)).trans heW
    exact ⟨⟨cell_blk h 0, cell_blk h 1, cell_blk h 2, cell_blk h 3, cell_blk h 4, cell_blk h 5, cell_blk h 6, cell_blk h 7, cell_blk h 8, cell_blk h 9, cell_blk h 10, cell_blk h 11, cell_blk h 12⟩, hgaW.below hV⟩
  obtain ⟨⟨d0, d1, d2, d3, d4, d5, d6, d7, d8, d9, d10, d11, d12⟩, hrq⟩ := HEc.out W (Below.refl _ _)
  obtain ⟨a0, a1, a2, a3, a4, a5, a6⟩ := hrq.cells
  have g0 := cell_blk hgcW 0
  simp only [List.getElem?_toArray, List.getElem?_cons_zero] at g0
  have lg := heap_lt hgcW
  have le := heap_lt heW
  obtain ⟨X, hX⟩ : ∃ X, exB c e = X := ⟨_, rfl⟩
  obtain ⟨M, hM⟩ : ∃ M, mtB e.q q e.fq Q e.nm = M := ⟨_, rfl⟩
  have HR : Hid (anB c q Q e = (decide (q.b = ⟨#[]⟩) && (!X && M))) := by show _ = _; unfold anB; rw [hX, hM]
  rw [hX] at HX
  rw [hM] at HM
  clear hb hga hgc hE hQ hck har zP zQ hbW heW hgaW hgcW hbg hrq hX hM
  obtain ⟨AN, hAN⟩ : ∃ A, anB c q Q e = A := ⟨_, rfl⟩
  rw [hAN] at HR ⊢
  clear hAN
  by_cases hqb : q.b = ⟨#[]⟩
  · rw [hqb, decide_eq_true rfl, Bool.true_and] at HR
    rw [hqb] at a5
    cases X
    · simp only [Bool.not_false, Bool.true_and] at HR
      have HRM : Hid (AN = M) := HR.out
      obtain ⟨⟨qm, qs, qa, qp, ⟨qb1, qb2, qb3⟩, qb⟩, ⟨n1, n2, n3⟩, rn, ⟨r1, r2, r3⟩, rb, sz, st, ar, fq, nm, fr⟩ := e
      obtain ⟨m, s, a, p, ⟨y1, y2, y3⟩, b⟩ := q
      simp only [sv, env, rqv] at d0 d1 d2 d3 d4 d5 d6 d7 d8 d9 d10 d11 d12 a0 a1 a2 a3 a4 a5 HX HM HEc hW hqb ⊢
      subst hqb
      clear HR
      go_enter Tryd.func69, Tryd.ntmps69
      go_wp2_with fail
      go_at_call 35
      refine HX.out.mono ?_
      rintro r V ⟨rfl, hbV⟩
      obtain ⟨⟨e0, e1, e2, e3, e4, e5, e6, e7, e8, e9, e10, e11, e12⟩, hrq2⟩ := HEc.out V hbV
      obtain ⟨f0, f1, f2, f3, f4, f5, f6⟩ := hrq2.cells
      simp only [sv] at e0 e1 e2 e3 e4 e5 e6 f0 f1 f2 f3 f4 f5
      have HbV : Hid (Below W.heap.size W V) := hbV
      have HBV : Hid (Below w.heap.size w V) := HBW.out.trans (hbV.mono HBW.out.size)
      clear d0 d1 d2 d3 d4 d5 d6 d7 d8 d9 d10 d11 d12 a0 a1 a2 a3 a4 a5 a6 g0 HX HEc hbV hrq2 e7 e8 e9 e10 e11 e12 hW hge
      go_wp2_with fail
      go_at_call 70
      refine (HM.out V HbV.out).mono ?_
      rintro r V2 ⟨rfl, hbV2⟩
      have HB2 : Hid (Below w.heap.size w V2) := HBV.out.trans (hbV2.mono HBV.out.size)
      clear hbV2 HM HbV HBV
      go_wp2_with fail
      go_ret
      refine ⟨?_, HB2.out⟩
      rw [HRM.out]
      rfl
    · simp only [Bool.not_true, Bool.false_and] at HR
      have HRM : Hid (AN = false) := HR.out
      obtain ⟨⟨qm, qs, qa, qp, ⟨qb1, qb2, qb3⟩, qb⟩, ⟨n1, n2, n3⟩, rn, ⟨r1, r2, r3⟩, rb, sz, st, ar, fq, nm, fr⟩ := e
      obtain ⟨m, s, a, p, ⟨y1, y2, y3⟩, b⟩ := q
      simp only [sv, env, rqv] at d0 d1 d2 d3 d4 d5 d6 d7 d8 d9 d10 d11 d12 a0 a1 a2 a3 a4 a5 HX hW hqb ⊢
      subst hqb
      clear HR HM HEc
      go_enter Tryd.func69, Tryd.ntmps69
      go_wp2_with fail
      go_at_call 35
      refine HX.out.mono ?_
      rintro r V ⟨rfl, hbV⟩
      have HBV : Hid (Below w.heap.size w V) := HBW.out.trans (hbV.mono HBW.out.size)
      clear d0 d1 d2 d3 d4 d5 d6 d7 d8 d9 d10 d11 d12 a0 a1 a2 a3 a4 a5 a6 g0 HX hbV hW hge
      go_wp2_with fail
      go_ret
      refine ⟨?_, HBV.out⟩
      rw [HRM.out]
      rfl
  · rw [decide_eq_false hqb, Bool.false_and] at HR
    have hqe := st_empty hqb
    have HRM : Hid (AN = false) := HR.out
    obtain ⟨⟨qm, qs, qa, qp, ⟨qb1, qb2, qb3⟩, qb⟩, ⟨n1, n2, n3⟩, rn, ⟨r1, r2, r3⟩, rb, sz, st, ar, fq, nm, fr⟩ := e
    obtain ⟨m, s, a, p, ⟨y1, y2, y3⟩, b⟩ := q
    simp only [sv, env, rqv] at d0 d1 d2 d3 d4 d5 d6 d7 d8 d9 d10 d11 d12 a0 a1 a2 a3 a4 a5 hW hqe ⊢
    clear HR HM HEc HX hqb
    go_enter Tryd.func69, Tryd.ntmps69
    go_wp2_with fail
    go_ret
    refine ⟨?_, HBW.out⟩
    rw [HRM.out]
    rfl
/-- where the first stands that answers -/
def plI (c : Ca) (q : Rq) (Q : List Fd) (L : List En) : Int := match L.findIdx? (anB c q Q) with | some k => (k : Int) | none => -1
theorem plI_some {c : Ca} {q : Rq} {Q : List Fd} {L : List En} {k : Nat} (h : k < L.length) (h1 : anB c q Q L[k] = true) (h2 : ∀ j (hj : j < L.length), j < k → anB c q Q L[j] = false) : plI c q Q L = (k : Int) := by
  have : L.findIdx? (anB c q Q) = some k := List.findIdx?_eq_some_iff_getElem.2 ⟨h, h1, fun j hj => by rw [h2 j (by omega) hj]; simp⟩
  unfold plI
  rw [this]
theorem plI_none {c : Ca} {q : Rq} {Q : List Fd} {L : List En} (h2 : ∀ j (hj : j < L.length), anB c q Q L[j] = false) : plI c q Q L = -1 := by
  have : L.findIdx? (anB c q Q) = none := List.findIdx?_eq_none_iff.2 fun x hx => by
    obtain ⟨j, hj, e⟩ := List.getElem_of_mem hx
    rw [← e]
    exact h2 j hj
  unfold plI
  rw [this]
theorem en69 : ∀ args W, (callFunc 69 args).run Tryd.prog W = .ok (.enter 69 args) W := enters_of Tryd.func69 (by kernel_rfl) rfl
set_option maxHeartbeats 8000000 in
set_option maxRecDepth 100000 in
theorem index68_any (c : Ca) (q : Rq) (Q : List Fd) (x : SV) (L : List En) (ga gc : Nat) (w : World) (hI : In EE w (sv x) L)
    (hF : ∀ e ∈ L, ∀ W, Below w.heap.size w W → Calls Tryd.prog 69 #[.agg (env e), .pointer (some ⟨ga, 0, none⟩), .pointer (some ⟨gc, 0, none⟩)] W fun r w' => r = .returned (.bool (anB c q Q e)) ∧ Below W.heap.size W w') :
    Calls Tryd.prog 68 #[sv x, .func (.func 69) #[] #[.pointer (some ⟨ga, 0, none⟩), .pointer (some ⟨gc, 0, none⟩)]] w fun r w' => r = .returned (.int .i64 (plI c q Q L)) ∧ Below w.heap.size w w' := by
  have HI : Hid (In EE w (sv x) L) := hI
  have HF : Hid (∀ e ∈ L, ∀ W, Below w.heap.size w W → Calls Tryd.prog 69 #[.agg (env e), .pointer (some ⟨ga, 0, none⟩), .pointer (some ⟨gc, 0, none⟩)] W fun r w' => r = .returned (.bool (anB c q Q e)) ∧ Below W.heap.size W w') := hF
  have hen := en69
  obtain ⟨b, cc, e, m1, m2⟩ := hI.slice
  obtain ⟨sb, sl, sc⟩ := x
  simp only [sv] at e HI ⊢
  injection e with e1 e2 e3
  subst e1 e2 e3
  obtain ⟨N, hN⟩ : ∃ N, L.length = N := ⟨_, rfl⟩
  rw [hN] at HI m1 ⊢
  have HN : Hid (L.length = N) := hN
  clear hI hF hN
  go_enter Tryd.func68, Tryd.ntmps68
  go_wp2_with fail
  go_loopw [5, 8] (fun _ kv wr => ∃ k : Nat, kv = .int .i64 (k : Int) ∧ k ≤ N ∧ Hid (∀ j (h : j < L.length), j < k → anB c q Q L[j] = false) ∧ Hid (Below w.heap.size w wr)) (fun _ kv _ => N - (intOf kv).toNat)
  case atStart => exact ⟨0, rfl, by omega, fun j _ h => absurd h (by omega), Below.refl _ _⟩
  case round =>
    obtain ⟨k, rfl, hk, hno, hb⟩ := hrel
    by_cases hlt : k < N
    · have hkl : k < L.length := by rw [HN.out]; exact hlt
      obtain ⟨Bk, off, cap, e, hc⟩ := HI.out.en k hkl
      injection e with e1 e2 e3
      clear e2 e3
      subst e1
      obtain ⟨d0, d1, d2, d3, d4, d5, d6, d7, d8, d9, d10, d11, d12⟩ := hc wr hb.out
      obtain ⟨x, hx⟩ : ∃ x, L[k] = x := ⟨_, rfl⟩
      rw [hx] at d0 d1 d2 d3 d4 d5 d6 d7 d8 d9 d10 d11 d12
      have l1 : (k : Int) < (N : Int) := by omega
      have Hx : Hid (L[k]'hkl = x) := hx
      have hC : Hid (Calls Tryd.prog 69 #[.agg (env x), .pointer (some ⟨ga, 0, none⟩), .pointer (some ⟨gc, 0, none⟩)] wr fun r w' => r = .returned (.bool (anB c q Q x)) ∧ Below wr.heap.size wr w') := HF.out x (by rw [← hx]; exact List.getElem_mem hkl) wr hb.out
      clear hc hx
      obtain ⟨A, hA⟩ : ∃ A, anB c q Q x = A := ⟨_, rfl⟩
      have HA : Hid (anB c q Q x = A) := hA
      rw [hA] at hC
      clear hA
      obtain ⟨⟨qm, qs, qa, qp, ⟨qb1, qb2, qb3⟩, qb⟩, ⟨n1, n2, n3⟩, rn, ⟨r1, r2, r3⟩, rb, sz, st, ar, fq, nm, fr⟩ := x
      simp only [sv, env] at d0 d1 d2 d3 d4 d5 d6 d7 d8 d9 d10 d11 d12 hC
      cases A
      · go_wp2_with fail
        refine hC.out.mono ?_
        rintro e w1 ⟨rfl, hb1⟩
        have hb2 : Hid (Below w.heap.size w w1) := hb.out.trans (hb1.mono hb.out.size)
        clear hb1 d0 d1 d2 d3 d4 d5 d6 d7 d8 d9 d10 d11 d12
        go_wp2_with fail
        go_roundw
        case rel =>
          refine ⟨k + 1, by simp, by omega, fun j hj h => ?_, hb2.out⟩
          by_cases hjk : j = k
          · subst hjk
            rw [Hx.out]
            exact HA.out
          · exact hno.out j hj (by omega)
        case measure => simp [intOf]; omega
      · go_wp2_with fail
        refine hC.out.mono ?_
        rintro e w1 ⟨rfl, hb1⟩
        have hb2 : Hid (Below w.heap.size w w1) := hb.out.trans (hb1.mono hb.out.size)
        clear hb1 d0 d1 d2 d3 d4 d5 d6 d7 d8 d9 d10 d11 d12
        go_wp2_with fail
        go_ret
        exact ⟨by rw [plI_some hkl (by rw [Hx.out]; exact HA.out) hno.out]; rfl, hb2.out⟩
    · have hlt' : ¬ (k : Int) < (N : Int) := by omega
      go_wp2_with fail
      go_ret
      exact ⟨by rw [plI_none fun j hj => hno.out j hj (by rw [HN.out] at hj; omega)]; rfl, hb.out⟩
set_option maxHeartbeats 4000000 in
set_option maxRecDepth 100000 in
theorem placeOf_any (w : World) (g : Nat) (c : Ca) (y : SV) (L : List En) (h : Cx w g c y L) (q : Rq) (Q : List Fd) (hQ : In EFd w (sv q.y) Q) (zQ : Q.length ≤ 1099511627776) :
    Calls Tryd.prog 40 #[.pointer (some ⟨g, 0, none⟩), .agg (rqv q)] w fun r w' => r = .returned (.int .i64 (plI c q Q L)) ∧ Below w.heap.size w w' := by
  obtain ⟨W, hW⟩ : ∃ W, (w.alloc (.cells #[.pointer (some ⟨g, 0, none⟩)] 30)).alloc (.cells (rqv q) 24) = W := ⟨_, rfl⟩
  obtain ⟨gc, hgc⟩ : ∃ k, w.heap.size = k := ⟨_, rfl⟩
  obtain ⟨ga, hga⟩ : ∃ k, gc + 1 = k := ⟨_, rfl⟩
  have hbW : Below w.heap.size w W := by rw [← hW]; exact bel2 _ _ _
  have hcW : W.heap[gc]? = some (.cells #[.pointer (some ⟨g, 0, none⟩)] 30 (0, 0)) := by rw [← hW, ← hgc, heap_al, if_neg (by simp), heap_al, if_pos rfl]
  have haW : RqB W ga q := by unfold RqB; rw [← hW, ← hga, ← hgc]; exact fresh2 _ _ _
  have hX := h.below hbW
  have HI : Hid (Calls Tryd.prog 68 #[sv y, .func (.func 69) #[] #[.pointer (some ⟨ga, 0, none⟩), .pointer (some ⟨gc, 0, none⟩)]] W fun r w' => r = .returned (.int .i64 (plI c q Q L)) ∧ Below W.heap.size W w') := index68_any c q Q y L ga gc W hX.row.isIn fun e he V hV => place69_any c y g ga gc q Q e V ((hV.block g (heap_lt hX.blk)).trans hX.blk) (haW.below hV) ((hV.block gc (heap_lt hcW)).trans hcW) ((hX.er e he).keep fun k _ hl => hV.block k hl) ((hQ.below hbW).below hV) hX.ok.ck (hX.ok.ar e he) (hX.ok.fq e he) zQ
  have HB : Hid (Below w.heap.size w W) := hbW
  obtain ⟨c0, c1, c2, c3, c4, cf⟩ := hX.cells
  have lg := heap_lt hX.blk
  have p0 := cell_blk hcW 0
  simp only [List.getElem?_toArray, List.getElem?_cons_zero] at p0
  obtain ⟨yb, yl, yc⟩ := y
  obtain ⟨m, s, a, p, ⟨y1, y2, y3⟩, b⟩ := q
  simp only [sv, rqv] at c4 HI hW ⊢
  clear h hQ hbW hcW haW hX c0 c1 c2 c3 cf
  go_enter Tryd.func40, Tryd.ntmps40
  go_wp2_with fail
  try rw [hW]
  try rw [hgc]
  try rw [hga]
  go_at_call 68
  refine HI.out.mono ?_
  rintro r V ⟨rfl, hbV⟩
  have HBV : Hid (Below w.heap.size w V) := HB.out.trans (hbV.mono HB.out.size)
  clear hbV HI c4 p0 hW hgc hga
  go_wp2_with fail
  go_ret
  exact ⟨rfl, HBV.out⟩
end Go.Proofs.YtfponcdhaefkdaaDoor
