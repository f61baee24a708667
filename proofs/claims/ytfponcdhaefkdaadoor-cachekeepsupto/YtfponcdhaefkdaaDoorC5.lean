/- Tick. -/
import Derived.Test.YtfponcdhaefkdaaDoorC4
namespace Go.Proofs.YtfponcdhaefkdaaDoor
open Go.RowKit
set_option linter.unusedVariables false
set_option linter.unusedSimpArgs false
def lenAt (g : Nat) (w : World) : Nat := match w.cell? ⟨g, 4, none⟩ with | some (.slice _ n _) => n | _ => 0
theorem Cx.lenAt {w : World} {g : Nat} {c : Ca} {y : SV} {L : List En} (h : Cx w g c y L) : lenAt g w = L.length := by
  obtain ⟨_, _, e, _, _⟩ := h.row.slice
  have := h.cells.2.2.2.2.1
  rw [e] at this
  unfold YtfponcdhaefkdaaDoor.lenAt
  rw [this]
/-- entries go out at the front: D went, M stays -/
structure Tk (w wr : World) (g : Nat) (y : SV) (c : Ca) (M : List En) (gs : SV) (D : List Int) : Prop where
  cx : ∃ z, Cx wr g c z M ∧ (sv z).ownBlock = (sv y).ownBlock
  ks : Ks (Ow g y) w wr
  gone : R EI wr (sv gs) D
  new : ∀ k, (sv gs).ownBlock = some k → w.heap.size ≤ k
  lt : ∀ k, (Ow g y k ∨ ∃ e ∈ M, eblk e k) → k < w.heap.size
theorem ow_eq {g : Nat} {y z : SV} (h : (sv z).ownBlock = (sv y).ownBlock) : Ow g z = Ow g y := by unfold Ow; rw [h]
theorem Tk.below {w wr w' : World} {g : Nat} {y : SV} {c : Ca} {M : List En} {gs : SV} {D : List Int} (h : Tk w wr g y c M gs D) (hb : Below wr.heap.size wr w') : Tk w w' g y c M gs D := by
  obtain ⟨z, h1, h2⟩ := h.cx
  exact ⟨⟨z, h1.below hb, h2⟩, h.ks.trans (Ks.of_below hb (A := fun _ => False)) (fun i _ hi => hi) (fun i _ hi => hi.elim), h.gone.below hb, h.new, h.lt⟩
/-- one goes -/
theorem Tk.oldest {w wr : World} {g : Nat} {y : SV} {c : Ca} {x : En} {M : List En} {gs : SV} {D : List Int} (h : Tk w wr g y c (x :: M) gs D) :
    Calls Tryd.prog 36 #[.pointer (some ⟨g, 0, none⟩)] wr fun e w' => e = .returned (.int .i64 x.st) ∧ Tk w w' g y c M gs D := by
  obtain ⟨z, h1, h2⟩ := h.cx
  refine (dropOldest_any wr g c z x M h1).mono ?_
  rintro e w' ⟨rfl, z', q1, q2, q3⟩
  rw [ow_eq h2] at q3
  refine ⟨rfl, ⟨z', q1, q2.trans h2⟩, h.ks.trans q3 (fun i _ hi => hi) (fun i _ hi => hi), h.gone.stays fun k hk hl => q3.block k hl fun ho => ?_, h.new, fun k hk => h.lt k (hk.imp id fun ⟨e, he, hb⟩ => ⟨e, List.mem_cons_of_mem _ he, hb⟩)⟩
  have := h.new k hk
  have := h.lt k (.inl ho)
  omega
/-- and is told -/
theorem Tk.app {w W : World} {g : Nat} {y : SV} {c : Ca} {M : List En} {gb : Option Addr} {gl gc : Nat} {D : List Int} (h : Tk w W g y c M (gb, gl, gc) D) (n : Int) (hl : D.length ≤ 1000) :
    ∃ b2 c2 w2, (Builtin.append_ #[38, 38] 38 #[.slice gb gl gc, .slice (some ⟨W.heap.size, 0, none⟩) 1 1]).run Tryd.prog (W.alloc (.cells #[.int .i64 n] 2)) = .ok (.slice b2 (gl + 1) c2) w2 ∧ Tk w w2 g y c M (b2, gl + 1, c2) (D ++ [n]) := by
  have ba := bel1 W (.cells #[.int .i64 n] 2)
  have h2 := h.below ba
  obtain ⟨b2, c2, w2, e1, e2, e3⟩ := Go.Proofs.YtfponcdhaefkdaaDoor.app okI (W.alloc (.cells #[.int .i64 n] 2)) (.slice gb gl gc) D h2.gone (.slice (some ⟨W.heap.size, 0, none⟩) 1 1) [n] (in_one (E := EI) _ _ n #[.int .i64 n] 2 (0, 0) (by rw [heap_al, if_pos rfl]) rfl) (by simp only [EI, List.length_singleton]; omega)
  have hg : gl = D.length := by
    obtain ⟨_, _, e, _, _⟩ := h.gone.slice
    simp only [sv] at e
    injection e
  have el : D.length + [n].length = gl + 1 := by rw [hg]; rfl
  rw [el] at e1 e2 e3
  obtain ⟨z, z1, z2⟩ := h2.cx
  refine ⟨b2, c2, w2, e1, ⟨z, z1.keep fun k hk hl => e3.block k hl fun e => ?_, z2⟩, h2.ks.trans (Ks.of_gr e3) (fun i _ hi => hi) (fun i hi he => ?_), e2, fun k hk => ?_, h2.lt⟩
  · have := h2.new k e
    have := h2.lt k (hk.imp (fun ho => by rw [← ow_eq z2]; exact ho) id)
    omega
  · have := h2.new i he
    omega
  · rcases e3.own k hk with e | e
    · exact h2.new k e
    · exact Nat.le_trans h2.ks.size e
/-- what Tick tells, and what it leaves -/
def tkP (w : World) (g : Nat) (c : Ca) (y : SV) (L : List En) (r : Ending) (w' : World) : Prop :=
  ∃ gs : SV, r = .returned (sv gs) ∧ Tk w w' g y c (L.dropWhile (exB c)) gs ((L.takeWhile (exB c)).map (·.st))
set_option maxHeartbeats 8000000 in
set_option maxRecDepth 100000 in
theorem tick_any (w : World) (g : Nat) (c : Ca) (y : SV) (L : List En) (h : Cx w g c y L) (t : Int) (ht : t ≤ 9223372036854775807) :
    Calls Tryd.prog 10 #[.pointer (some ⟨g, 0, none⟩), .int .i64 t] w fun r w' => tkP w g (hr c t) y L r w' := by
  have HH : Hid (Calls Tryd.prog 34 #[.pointer (some ⟨g, 0, none⟩), .int .i64 t] w fun e w' => e = .returned (.tuple #[]) ∧ Cx w' g (hr c t) y L ∧ Ks (fun k => k = g) w w') := hear_any w g c y L h t ht
  have HLt : Hid (∀ k, Cb g y L k → k < w.heap.size) := fun k hk => h.lt hk
  have HLn : Hid (L.length ≤ 64) := by have := h.ok.len; have := h.ok.me; show _ ≤ _; omega
  obtain ⟨c', hc'⟩ : ∃ c', hr c t = c' := ⟨_, rfl⟩
  rw [hc'] at HH ⊢
  clear h hc' ht
  go_enter Tryd.func10, Tryd.ntmps10
  go_wp2_with fail
  go_at_call 34
  refine HH.out.mono ?_
  rintro e w1 ⟨rfl, h1, h2⟩
  have HT0 : Hid (Tk w w1 g y c' L (none, 0, 0) []) := ⟨⟨y, h1, rfl⟩, h2.mono (fun i _ hi => .inl hi), R.nil _ _, fun k hk => by simp [sv, Value.ownBlock] at hk, fun k hk => HLt.out k hk⟩
  clear h1 h2 HH
  go_wp2_with fail
  go_loopw [5] (fun gv wr => ∃ (gb : Option Addr) (gl gc : Nat) (D M : List En), gv = .slice gb gl gc ∧ Hid (D ++ M = L ∧ (∀ e ∈ D, exB c' e = true) ∧ Tk w wr g y c' M (gb, gl, gc) (D.map (·.st)))) (fun _ wr => lenAt g wr)
  case atStart => exact ⟨none, 0, 0, [], L, rfl, rfl, fun e he => by simp at he, HT0.out⟩
  case round =>
    obtain ⟨gb, gl, gc, D, M, rfl, hJ⟩ := hrel
    obtain ⟨z, z1, z2⟩ := hJ.out.2.2.cx
    obtain ⟨c0, c1, c2, c3, c4, cf⟩ := z1.cells
    have hl := heap_lt z1.blk
    rcases M with _ | ⟨x, M⟩
    · obtain ⟨_, _, e, _, _⟩ := z1.row.slice
      rw [e] at c4
      simp only [List.length_nil] at c4
      have HE : Hid (tkP w g c' y L (.returned (.slice gb gl gc)) wr) := by
        refine ⟨(gb, gl, gc), rfl, ?_⟩
        have e2 : L.takeWhile (exB c') = D := by rw [← hJ.out.1, List.takeWhile_append_of_pos hJ.out.2.1]; simp
        have e3 : L.dropWhile (exB c') = [] := by rw [← hJ.out.1, List.dropWhile_append_of_pos hJ.out.2.1]; rfl
        rw [e2, e3]
        exact hJ.out.2.2
      clear z1 z2 e hJ c0 c1 c2 c3 cf HT0
      go_wp2_with fail
      go_ret
      exact HE.out
    · obtain ⟨Bk, off, cap, e, hc⟩ := z1.row.isIn.en 0 (by simp)
      obtain ⟨d0, d1, d2, d3, d4, d5, d6, d7, d8, d9, d10, d11, d12⟩ := hc wr (Below.refl _ _)
      rw [e] at c4
      simp only [List.getElem_cons_zero, Nat.zero_mul, Nat.add_zero] at d0 d1 d2 d3 d4 d5 d6 d7 d8 d9 d10 d11 d12
      obtain ⟨n, hn⟩ : ∃ n, (x :: M).length = n := ⟨_, rfl⟩
      have hn2 : (0 : Int) < (n : Int) := by rw [← hn]; simp
      rw [hn] at c4
      have HX : Hid (Calls Tryd.prog 35 #[.pointer (some ⟨g, 0, none⟩), .agg (env x)] wr fun r w' => r = .returned (.bool (exB c' x)) ∧ Below wr.heap.size wr w') := isExpired_any wr g c' z x z1.blk z1.ok.ck (z1.ok.ar x (by simp))
      have HM : Hid (lenAt g wr = M.length + 1) := by show _ = _; rw [z1.lenAt]; rfl
      have HD : Hid (D.length ≤ 1000) := by have h1 := congrArg List.length hJ.out.1; rw [List.length_append] at h1; have := HLn.out; show _ ≤ _; omega
      have HJ : Hid (D ++ x :: M = L ∧ (∀ e ∈ D, exB c' e = true) ∧ Tk w wr g y c' (x :: M) (gb, gl, gc) (D.map (·.st))) := hJ.out
      cases hB : exB c' x
      · have HE : Hid (∀ w', Below wr.heap.size wr w' → tkP w g c' y L (.returned (.slice gb gl gc)) w') := fun w' hb => by
          refine ⟨(gb, gl, gc), rfl, ?_⟩
          have e1 : L.takeWhile (exB c') = D ∧ L.dropWhile (exB c') = x :: M := by
            rw [← hJ.out.1]
            refine ⟨?_, ?_⟩
            · rw [List.takeWhile_append_of_pos hJ.out.2.1, List.takeWhile_cons_of_neg (by rw [hB]; simp), List.append_nil]
            · rw [List.dropWhile_append_of_pos hJ.out.2.1, List.dropWhile_cons_of_neg (by rw [hB]; simp)]
          rw [e1.1, e1.2]
          exact hJ.out.2.2.below hb
        rw [hB] at HX
        clear z1 z2 e hJ HJ c0 c1 c2 c3 cf hc HT0 HD HM hB hn
        obtain ⟨⟨qm, qs, qa, qp, ⟨qb1, qb2, qb3⟩, qb⟩, ⟨n1, n2, n3⟩, rn, ⟨r1, r2, r3⟩, rb, sz, st, ar, fq, nm, fr⟩ := x
        simp only [sv, env] at d0 d1 d2 d3 d4 d5 d6 d7 d8 d9 d10 d11 d12 HX
        go_wp2_with fail
        go_at_call 35
        refine HX.out.mono ?_
        rintro e w2 ⟨rfl, hb2⟩
        have HE2 := HE.out w2 hb2
        replace HE2 : Hid _ := HE2
        clear hb2 HE HX
        go_wp2_with fail
        go_ret
        exact HE2.out
      · have HA : Hid (∀ e ∈ D ++ [x], exB c' e = true) := fun e he => by
          rcases List.mem_append.1 he with he | he
          · exact hJ.out.2.1 e he
          · rw [List.mem_singleton.1 he]; exact hB
        rw [hB] at HX
        clear z1 z2 e hJ c0 c1 c2 c3 cf hc HT0 hB hn
        have HXst : Hid (x.st = x.st) := rfl
        obtain ⟨st, hst⟩ : ∃ st, x.st = st := ⟨_, rfl⟩
        have HST : Hid (x.st = st) := hst
        have HXv : Hid (Calls Tryd.prog 35 #[.pointer (some ⟨g, 0, none⟩), .agg #[.string x.q.m, .string x.q.s, .string x.q.a, .string x.q.p, sv x.q.y, .string x.q.b, sv x.ns, .int .i64 x.rn, sv x.ry, .string x.rb, .int .i64 (x.sz : Int), .int .i64 x.st, .int .i64 x.ar]] wr fun r w' => r = .returned (.bool true) ∧ Below wr.heap.size wr w') := HX.out
        clear hst HX HXst
        go_wp2_with fail
        go_at_call 35
        refine HXv.out.mono ?_
        rintro e w2 ⟨rfl, hb2⟩
        have HT2 : Hid (Tk w w2 g y c' (x :: M) (gb, gl, gc) (D.map (·.st))) := HJ.out.2.2.below hb2
        have HO : Hid (Calls Tryd.prog 36 #[.pointer (some ⟨g, 0, none⟩)] w2 fun e w' => e = .returned (.int .i64 st) ∧ Tk w w' g y c' M (gb, gl, gc) (D.map (·.st))) := by
          have := HT2.out.oldest
          rw [HST.out] at this
          exact this
        clear hb2 HXv d0 d1 d2 d3 d4 d5 d6 d7 d8 d9 d10 d11 d12 c4
        go_wp2_with fail
        go_at_call 36
        refine HO.out.mono ?_
        rintro e w3 ⟨rfl, hT3⟩
        obtain ⟨b2, c2, w4, hrun, hT4⟩ := hT3.app st (by rw [List.length_map]; exact HD.out)
        have HT4 : Hid (Tk w w4 g y c' M (b2, gl + 1, c2) ((D ++ [x]).map (·.st)) ∧ (D ++ [x]) ++ M = L ∧ lenAt g w4 = M.length) := by
          refine ⟨?_, by rw [← HJ.out.1]; simp, ?_⟩
          · rw [List.map_append, List.map_cons, List.map_nil, HST.out]; exact hT4
          · obtain ⟨_, q, _⟩ := hT4.cx; exact q.lenAt
        replace hrun : Hid _ := hrun
        clear hT3 hT4 HO HT2 HJ
        go_wp2_with (at_builtin; refine Lib.wpList_append_run _ rfl _ _ _ _ rfl _ _ rfl rfl _ _ hrun.out ?_)
        go_roundw
        case rel => exact ⟨b2, gl + 1, c2, D ++ [x], M, by first | rfl | simp, HT4.out.2.1, HA.out, HT4.out.1⟩
        case measure => rw [HT4.out.2.2, HM.out]; omega
end Go.Proofs.YtfponcdhaefkdaaDoor
