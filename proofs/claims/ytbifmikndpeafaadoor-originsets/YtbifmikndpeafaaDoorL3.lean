/- OriginSets. -/
import Derived.Test.YtbifmikndpeafaaDoorH3
import Derived.Test.YtbifmikndpeafaaDoorL2
import Derived.Test.YtbifmikndpeafaaDoorP1
namespace Go.Proofs.YtbifmikndpeafaaDoor
open Go.RowKit Go.Maps
set_option linter.unusedVariables false
set_option linter.unusedSimpArgs false
theorem cut_rest {P G : Prop} (h1 : Hid P → G) (h2 : P) : G := h1 h2
/-- a row made since V -/
def Rm (V wr : World) (v : Value) (L : List Og) : Prop := R EO wr v L ∧ Below V.heap.size V wr ∧ ∀ j, v.ownBlock = some j → V.heap.size ≤ j
theorem In.ea {w : World} {v : Value} {l : List (ByteArray × ByteArray)} (h : In EA w v l) (k : Nat) (hk : k < l.length) : ∃ B off cap, v = .slice (some ⟨B, off, none⟩) l.length cap ∧ B < w.heap.size ∧ ∀ W, Below w.heap.size w W → W.cell? ⟨B, off + k * 2, none⟩ = some (.string l[k].1) ∧ W.cell? ⟨B, off + k * 2 + 1, none⟩ = some (.string l[k].2) := by
  obtain ⟨B, off, cap, e, hB, hc⟩ := h.get okA k hk
  refine ⟨B, off, cap, e, hB, fun W hW => ?_⟩
  have c0 := hc 0 (.string l[k].1) rfl
  have c1 := hc 1 (.string l[k].2) rfl
  exact ⟨(hW.cell hB).trans c0, (hW.cell hB).trans c1⟩
theorem Se.keep2 {w w' : World} {lo p b : Nat} {L : List Og} (h : Se w lo p b L) (hk : ∀ k, k = p ∨ k = b → w'.heap[k]? = w.heap[k]?) : Se w' lo p b L := by
  obtain ⟨n, h1, h2⟩ := h.own
  exact ⟨(hk p (.inl rfl)).trans h.hp, ⟨n, h1, ownsMap_keep h2 (hk b (.inr rfl))⟩, h.rt, h.nd, h.len, h.lp, h.lb⟩
theorem setR_other (w : World) (g i k : Nat) (f : Og) (h : k ≠ g) : (setR w g i f).heap[k]? = w.heap[k]? := by
  unfold setR
  rw [setCell_other _ _ _ _ _ h, setCell_other _ _ _ _ _ h, setCell_other _ _ _ _ _ h]
theorem setR_below {w W : World} {g i : Nat} {f : Og} {B : Nat} (h : Below B w W) (hg : B ≤ g) : Below B w (setR W g i f) :=
  ((h.setCell (p := ⟨g, i * 3, none⟩) hg _).setCell (p := ⟨g, i * 3 + 1, none⟩) hg _).setCell (p := ⟨g, i * 3 + 2, none⟩) hg _
theorem own_in {w : World} {B n c : Nat} {l : List Og} {x : Og} (hn : l.length = n) (h : R EO w (.slice (some ⟨B, 0, none⟩) (n + 1) c) (l ++ [x])) : In EO w (.slice (some ⟨B, 0, none⟩) n c) l := by
  have h1 := In.take' h.isIn n (by rw [List.length_append, hn]; simp)
  rw [List.take_left' hn] at h1
  exact h1
theorem mk_at {w : World} {B n c : Nat} {l : List Og} {x : Og} (hn : l.length = n) (h : R EO w (.slice (some ⟨B, 0, none⟩) (n + 1) c) (l ++ [x])) : w.cell? ⟨B, n * 3, none⟩ = some (.string x.s) ∧ w.cell? ⟨B, n * 3 + 1, none⟩ = some (.string x.h) ∧ w.cell? ⟨B, n * 3 + 2, none⟩ = some (.int .i64 x.p) := by
  subst hn
  obtain ⟨h0, h1, h2, _, _, _⟩ := h.cellsR l.length (by simp)
  have e : (l ++ [x])[l.length]'(by simp) = x := by simp
  rw [e] at h0 h1 h2
  exact ⟨h0, h1, h2⟩
set_option maxHeartbeats 40000000 in
set_option maxRecDepth 100000 in
theorem originSets_any (x : SV) (l : List Og) (y : SV) (aS : List (ByteArray × ByteArray)) (w : World) (he : Env w) (hI : In EO w (sv x) l) (hz : ∀ o ∈ l, ow o) (hl : l.length * 40 ≤ 140737488351232) (hA : In EA w (sv y) aS) (hza : ∀ e ∈ aS, e.1.size ≤ 140737488351232 ∧ e.2.size ≤ 140737488351232) : Calls Tryd.prog 8 #[sv x, sv y] w fun e w' => e = .returned (.bool true) ∧ Below w.heap.size w w' := by
  have HE : Hid (Env w) := he
  have HI : Hid (In EO w (sv x) l) := hI
  have HA : Hid (In EA w (sv y) aS) := hA
  have HZ : Hid (∀ o ∈ l, ow o) := hz
  have HZA : Hid (∀ e ∈ aS, e.2.size ≤ 140737488351232) := fun e h => (hza e h).2
  obtain ⟨b, c, e, m1, m2⟩ := hI.slice
  obtain ⟨b', c', e', m1', m2'⟩ := hA.slice
  obtain ⟨x1, x2, x3⟩ := x
  obtain ⟨y1, y2, y3⟩ := y
  simp only [sv] at e e' HI HA ⊢
  injection e with e1 e2 e3
  subst e1 e2 e3
  injection e' with e1 e2 e3
  subst e1 e2 e3
  obtain ⟨n, hn⟩ : ∃ n, l.length = n := ⟨_, rfl⟩
  obtain ⟨na, hna⟩ : ∃ n, aS.length = n := ⟨_, rfl⟩
  have HN : Hid (l.length = n) := hn
  have HNA : Hid (aS.length = na) := hna
  have hA2 := m1'
  rw [hn] at HI m1 hl ⊢
  rw [hna] at HA hA2 m1' ⊢
  have HL : Hid (n * 40 ≤ 140737488351232) := hl
  clear he hI hA hz hza hn hna
  go_enter Tryd.func8, Tryd.ntmps8
  go_wp2_with fail
  go_at_call 9
  refine (first_any _ HE.out).mono ?_
  rintro e A1 ⟨rfl, b1⟩
  have HB1 : Hid (Below w.heap.size w A1) := b1
  clear b1
  go_wp2_with fail
  obtain ⟨mk, hmk⟩ : ∃ mk : Og, mk = ⟨⟨#[109, 97, 114, 107]⟩, ⟨#[]⟩, -7⟩ := ⟨_, rfl⟩
  obtain ⟨gm, hgm⟩ : ∃ g, A1.heap.size = g := ⟨_, rfl⟩
  obtain ⟨G0, hG0⟩ : ∃ V, A1.alloc (.cells #[.string ⟨#[109, 97, 114, 107]⟩, .string ⟨#[]⟩, .int .i64 (-7)] 23) = V := ⟨_, rfl⟩
  have HGm : Hid (OB G0 gm mk) := by show OB _ _ _; rw [← hG0, ← hgm, hmk]; unfold OB; rw [heap_al, if_pos rfl]; rfl
  have HBG : Hid (Below w.heap.size w G0) := by rw [← hG0]; exact HB1.out.trans ((bel1 _ _).mono HB1.out.size)
  have HgmW : Hid (w.heap.size ≤ gm) := by rw [← hgm]; exact HB1.out.size
  rw [hG0, hgm]
  clear hG0 hgm hmk HB1
  have HIb : Hid (∀ V, Below G0.heap.size G0 V → In EO V (.slice x1 n x3) l) := fun V hV => (HI.out.below HBG.out).below hV
  have hS4 : Hid (∀ V, Below G0.heap.size G0 V → V.cell? ⟨gm, 0, none⟩ = some (.string mk.s) ∧ V.cell? ⟨gm, 1, none⟩ = some (.string mk.h) ∧ V.cell? ⟨gm, 2, none⟩ = some (.int .i64 mk.p)) := fun V hV => ⟨(HGm.out.below hV).cells.c0, (HGm.out.below hV).cells.c1, (HGm.out.below hV).cells.c2⟩
  apply cut_rest
  · intro hrest
    have hIW : Below G0.heap.size G0 G0.drew := (Below.refl _ _).drew
    refine wp_region_held_drew (S := (fun V => V.cell? ⟨gm, 0, none⟩ = some (.string mk.s) ∧ V.cell? ⟨gm, 1, none⟩ = some (.string mk.h) ∧ V.cell? ⟨gm, 2, none⟩ = some (.int .i64 mk.p))) (by kernel_rfl) (hS4.out _ hIW) (fun hHeld => ?_)
    generalize hWg : World.drew _ = W at hIW hHeld ⊢
    clear hWg
    refine wpAnyH_take (i := 1) (oi := { dst := some 22, op := Op.move (Operand.tmp 0), type := 35, pos := "law.go:60", after := #[], guard := none }) (v := ?vv1) rfl (by kernel_rfl) (by kernel_rfl) (by kernel_rfl) (fun _ _ _ h => h) (Or.inl ⟨by rfl, ?hy1⟩) (by assumption) ?_
    case hy1 => (intro w hSw; (try dsimp only at hSw); go_simp; all_goals with_reducible rfl)
    try simp only [Act.put, List.setIfInBounds_toArray, List.set_cons_zero, List.set_cons_succ]
    refine wpAnyH_take (i := 3) (oi := { dst := some 24, op := Op.load 23 (Operand.tmp 5), type := 23, pos := "law.go:60", after := #[], guard := none }) (v := ?vv2) rfl (by kernel_rfl) (by kernel_rfl) (by kernel_rfl) (fun _ _ _ h => h) (Or.inl ⟨by rfl, ?hy2⟩) (by assumption) ?_
    case hy2 => (intro w hSw; (try dsimp only at hSw); go_simp; all_goals with_reducible rfl)
    try simp only [Act.put, List.setIfInBounds_toArray, List.set_cons_zero, List.set_cons_succ]
    refine wpAnyH_ready (rs := [0, 4]) (by kernel_rfl) (by simp) ?_
    refine AllReadyH.cons (o := { dst := some 21, op := Op.buildSlice 35 0 #[], type := 35, pos := "law.go:60", after := #[], guard := none }) rfl (fun K hK => ?_) ?_
    · obtain ⟨Wx, hV0⟩ : ∃ V, W.alloc (.cells #[] 23) = V := ⟨_, rfl⟩
      have hWx : Below G0.heap.size G0 Wx := by rw [← hV0]; exact hIW.trans ((bel1 _ _).mono hIW.size)
      have eWx : R EO Wx (.slice (some ⟨W.heap.size, 0, none⟩) 0 0) [] := by rw [← hV0]; exact R.whole okO (c := #[]) [] (by simp) (by rw [heap_al, if_pos rfl]; rfl) rfl
      go_simp
      go_wp2_with fail
      refine hK.out _ _ (hS4.out _ hWx) (fun hHeld => ?_)
      clear hK K hV0
      try simp only [Act.put, List.setIfInBounds_toArray, List.set_cons_zero, List.set_cons_succ]
      refine wpAnyH_ready (rs := [2, 4]) (by kernel_rfl) (by simp) ?_
      refine AllReadyH.cons (o := { dst := some 23, op := Op.call { callee := Callee.builtin Builtin.append, args := #[Operand.tmp 21, Operand.tmp 22], argTypes := #[35, 35] }, type := 35, pos := "law.go:60", after := #[{ on := 0, ground := Ground.data }, { on := 1, ground := Ground.data }], guard := none }) rfl (fun K hK => ?_) ?_
      · obtain ⟨b2, c2, w2, hrun, e2, e3⟩ := app okO Wx (.slice (some ⟨W.heap.size, 0, none⟩) 0 0) [] eWx (.slice x1 n x3) l (HIb.out _ hWx) (by have := HL.out; have := HN.out; simp only [EO, List.length_nil]; omega)
        have el : ([] : List Og).length + l.length = n := by have := HN.out; simp only [List.length_nil]; omega
        rw [el] at hrun e2 e3
        rw [List.nil_append] at e2
        have hWxx : Below G0.heap.size G0 w2 := hWx.trans (e3.belowB hWx.size (fun j hj => by simp only [Value.ownBlock, Option.some.injEq] at hj; have := hIW.size; omega))
        have hown2 : ∀ j, (Value.slice b2 n c2).ownBlock = some j → G0.heap.size ≤ j := fun j hj => by
          rcases e3.own j hj with e | e
          · simp only [Value.ownBlock, Option.some.injEq] at e
            have := hIW.size
            omega
          · exact Nat.le_trans hWx.size e
        refine step_append_run rfl (.tmp 21) (.tmp 22) 35 35 rfl hrun (by first | rfl | simp [Act.eval, Act.put]) (by first | rfl | simp [Act.eval, Act.put]) ?_
        refine hK.out _ _ (hS4.out _ hWxx) (fun hHeld => ?_)
        clear hK K hrun el e3
        try simp only [Act.put, List.setIfInBounds_toArray, List.set_cons_zero, List.set_cons_succ]
        refine wpAnyH_ready (rs := [4]) (by kernel_rfl) (by simp) ?_
        refine AllReadyH.cons (o := { dst := some 25, op := Op.buildSlice 35 1 #[(0, Operand.tmp 24)], type := 35, pos := "law.go:60", after := #[{ on := 3, ground := Ground.data }], guard := none }) rfl (fun K hK => ?_) AllReadyH.nil
        obtain ⟨Wxxx, hV4⟩ : ∃ V, w2.alloc (.cells #[.string mk.s, .string mk.h, .int .i64 mk.p] 23) = V := ⟨_, rfl⟩
        have hWxxx : Below G0.heap.size G0 Wxxx := by rw [← hV4]; exact hWxx.trans ((bel1 _ _).mono hWxx.size)
        have bWxxx : Wxxx.heap[w2.heap.size]? = some (.cells #[.string mk.s, .string mk.h, .int .i64 mk.p] 23 (0, 0)) := by rw [← hV4, heap_al, if_pos rfl]
        have rWxxx : R EO Wxxx (.slice b2 n c2) l := by rw [← hV4]; exact e2.below (bel1 _ _)
        go_simp
        go_wp2_with fail
        refine hK.out _ _ (hS4.out _ hWxxx) (fun hHeld => ?_)
        clear hK K hV4
        try simp only [Act.put, List.setIfInBounds_toArray, List.set_cons_zero, List.set_cons_succ]
        refine wpAnyH_ready (rs := [5]) (by kernel_rfl) (by simp) ?_
        refine AllReadyH.cons (o := { dst := some 26, op := Op.call { callee := Callee.builtin Builtin.append, args := #[Operand.tmp 23, Operand.tmp 25], argTypes := #[35, 35] }, type := 35, pos := "law.go:60", after := #[{ on := 2, ground := Ground.data }, { on := 4, ground := Ground.data }, { on := 2, ground := Ground.chain }], guard := none }) rfl (fun K hK => ?_) AllReadyH.nil
        obtain ⟨b5, c5, w5, hrun, e5, e3⟩ := app okO Wxxx (.slice b2 n c2) l rWxxx (.slice (some ⟨w2.heap.size, 0, none⟩) 1 1) [mk] (in_one (x := mk) _ _ #[.string mk.s, .string mk.h, .int .i64 mk.p] 23 (0, 0) bWxxx rfl) (by have := HL.out; have := HN.out; simp only [EO, List.length_singleton]; omega)
        have el : l.length + [mk].length = n + 1 := by rw [HN.out]; rfl
        rw [el] at hrun e5 e3
        have h5 : Below G0.heap.size G0 w5 := hWxxx.trans (e3.belowB hWxxx.size hown2)
        have HX5 : Hid (Rm G0 w5 (.slice b5 (n + 1) c5) (l ++ [mk])) := ⟨e5, h5, fun j hj => by
          rcases e3.own j hj with e | e
          · exact hown2 j e
          · exact Nat.le_trans hWxxx.size e⟩
        refine step_append_run rfl (.tmp 23) (.tmp 25) 35 35 rfl hrun (by first | rfl | simp [Act.eval, Act.put]) (by first | rfl | simp [Act.eval, Act.put]) ?_
        refine hK.out _ _ (hS4.out _ h5) (fun hHeld => ?_)
        clear hK K hrun el e3 e5
        try simp only [Act.put, List.setIfInBounds_toArray, List.set_cons_zero, List.set_cons_succ]
        refine wpAnyH_take (i := 6) (oi := { dst := some 6, op := Op.assign (Operand.tmp 26), type := 35, pos := "law.go:60", after := #[{ on := 5, ground := Ground.data }, { on := 5, ground := Ground.chain }, { on := 0, ground := Ground.phase }, { on := 1, ground := Ground.phase }, { on := 2, ground := Ground.phase }, { on := 3, ground := Ground.phase }, { on := 4, ground := Ground.phase }, { on := 5, ground := Ground.phase }], guard := none }) (v := ?vv3) rfl (by kernel_rfl) (by kernel_rfl) (by kernel_rfl) (fun _ _ _ h => h) (Or.inl ⟨by rfl, ?hy3⟩) (by assumption) ?_
        case hy3 => (intro w hSw; (try dsimp only at hSw); go_simp; all_goals with_reducible rfl)
        try simp only [Act.put, List.setIfInBounds_toArray, List.set_cons_zero, List.set_cons_succ]
        refine wpAnyH_done (by kernel_rfl) ?_ _
        generalize (Value.slice (some ⟨W.heap.size, 0, none⟩) 0 0) = v21
        generalize (Value.slice (some ⟨w2.heap.size, 0, none⟩) 1 1) = v25
        generalize (Value.slice b2 n c2) = v23
        clear hHeld h5
        revert v21 v25 v23 w5 b5 c5
        exact hrest.out
      refine AllReadyH.cons (o := { dst := some 25, op := Op.buildSlice 35 1 #[(0, Operand.tmp 24)], type := 35, pos := "law.go:60", after := #[{ on := 3, ground := Ground.data }], guard := none }) rfl (fun K hK => ?_) AllReadyH.nil
      obtain ⟨Wxx, hV4⟩ : ∃ V, Wx.alloc (.cells #[.string mk.s, .string mk.h, .int .i64 mk.p] 23) = V := ⟨_, rfl⟩
      have hWxx : Below G0.heap.size G0 Wxx := by rw [← hV4]; exact hWx.trans ((bel1 _ _).mono hWx.size)
      have bWxx : Wxx.heap[Wx.heap.size]? = some (.cells #[.string mk.s, .string mk.h, .int .i64 mk.p] 23 (0, 0)) := by rw [← hV4, heap_al, if_pos rfl]
      have hne : Wx.heap.size ≠ W.heap.size := by have q : W.heap.size < Wx.heap.size := eWx.lt _ rfl; omega
      have eWxx : R EO Wxx (.slice (some ⟨W.heap.size, 0, none⟩) 0 0) [] := by rw [← hV4]; exact eWx.below (bel1 _ _)
      go_simp
      go_wp2_with fail
      refine hK.out _ _ (hS4.out _ hWxx) (fun hHeld => ?_)
      clear hK K hV4
      try simp only [Act.put, List.setIfInBounds_toArray, List.set_cons_zero, List.set_cons_succ]
      refine wpAnyH_ready (rs := [2]) (by kernel_rfl) (by simp) ?_
      refine AllReadyH.cons (o := { dst := some 23, op := Op.call { callee := Callee.builtin Builtin.append, args := #[Operand.tmp 21, Operand.tmp 22], argTypes := #[35, 35] }, type := 35, pos := "law.go:60", after := #[{ on := 0, ground := Ground.data }, { on := 1, ground := Ground.data }], guard := none }) rfl (fun K hK => ?_) AllReadyH.nil
      obtain ⟨b2, c2, w2, hrun, e2, e3⟩ := app okO Wxx (.slice (some ⟨W.heap.size, 0, none⟩) 0 0) [] eWxx (.slice x1 n x3) l (HIb.out _ hWxx) (by have := HL.out; have := HN.out; simp only [EO, List.length_nil]; omega)
      have el : ([] : List Og).length + l.length = n := by have := HN.out; simp only [List.length_nil]; omega
      rw [el] at hrun e2 e3
      rw [List.nil_append] at e2
      have hWxxx : Below G0.heap.size G0 w2 := hWxx.trans (e3.belowB hWxx.size (fun j hj => by simp only [Value.ownBlock, Option.some.injEq] at hj; have := hIW.size; omega))
      have hown2 : ∀ j, (Value.slice b2 n c2).ownBlock = some j → G0.heap.size ≤ j := fun j hj => by
        rcases e3.own j hj with e | e
        · simp only [Value.ownBlock, Option.some.injEq] at e
          have := hIW.size
          omega
        · exact Nat.le_trans hWxx.size e
      have bWxxx : w2.heap[Wx.heap.size]? = some (.cells #[.string mk.s, .string mk.h, .int .i64 mk.p] 23 (0, 0)) := by
        rw [e3.block _ (heap_lt bWxx) (fun e => by simp only [Value.ownBlock, Option.some.injEq] at e; exact hne e.symm)]
        exact bWxx
      refine step_append_run rfl (.tmp 21) (.tmp 22) 35 35 rfl hrun (by first | rfl | simp [Act.eval, Act.put]) (by first | rfl | simp [Act.eval, Act.put]) ?_
      refine hK.out _ _ (hS4.out _ hWxxx) (fun hHeld => ?_)
      clear hK K hrun el e3
      try simp only [Act.put, List.setIfInBounds_toArray, List.set_cons_zero, List.set_cons_succ]
      refine wpAnyH_ready (rs := [5]) (by kernel_rfl) (by simp) ?_
      refine AllReadyH.cons (o := { dst := some 26, op := Op.call { callee := Callee.builtin Builtin.append, args := #[Operand.tmp 23, Operand.tmp 25], argTypes := #[35, 35] }, type := 35, pos := "law.go:60", after := #[{ on := 2, ground := Ground.data }, { on := 4, ground := Ground.data }, { on := 2, ground := Ground.chain }], guard := none }) rfl (fun K hK => ?_) AllReadyH.nil
      obtain ⟨b5, c5, w5, hrun, e5, e3⟩ := app okO w2 (.slice b2 n c2) l e2 (.slice (some ⟨Wx.heap.size, 0, none⟩) 1 1) [mk] (in_one (x := mk) _ _ #[.string mk.s, .string mk.h, .int .i64 mk.p] 23 (0, 0) bWxxx rfl) (by have := HL.out; have := HN.out; simp only [EO, List.length_singleton]; omega)
      have el : l.length + [mk].length = n + 1 := by rw [HN.out]; rfl
      rw [el] at hrun e5 e3
      have h5 : Below G0.heap.size G0 w5 := hWxxx.trans (e3.belowB hWxxx.size hown2)
      have HX5 : Hid (Rm G0 w5 (.slice b5 (n + 1) c5) (l ++ [mk])) := ⟨e5, h5, fun j hj => by
        rcases e3.own j hj with e | e
        · exact hown2 j e
        · exact Nat.le_trans hWxxx.size e⟩
      refine step_append_run rfl (.tmp 23) (.tmp 25) 35 35 rfl hrun (by first | rfl | simp [Act.eval, Act.put]) (by first | rfl | simp [Act.eval, Act.put]) ?_
      refine hK.out _ _ (hS4.out _ h5) (fun hHeld => ?_)
      clear hK K hrun el e3 e5
      try simp only [Act.put, List.setIfInBounds_toArray, List.set_cons_zero, List.set_cons_succ]
      refine wpAnyH_take (i := 6) (oi := { dst := some 6, op := Op.assign (Operand.tmp 26), type := 35, pos := "law.go:60", after := #[{ on := 5, ground := Ground.data }, { on := 5, ground := Ground.chain }, { on := 0, ground := Ground.phase }, { on := 1, ground := Ground.phase }, { on := 2, ground := Ground.phase }, { on := 3, ground := Ground.phase }, { on := 4, ground := Ground.phase }, { on := 5, ground := Ground.phase }], guard := none }) (v := ?vv4) rfl (by kernel_rfl) (by kernel_rfl) (by kernel_rfl) (fun _ _ _ h => h) (Or.inl ⟨by rfl, ?hy4⟩) (by assumption) ?_
      case hy4 => (intro w hSw; (try dsimp only at hSw); go_simp; all_goals with_reducible rfl)
      try simp only [Act.put, List.setIfInBounds_toArray, List.set_cons_zero, List.set_cons_succ]
      refine wpAnyH_done (by kernel_rfl) ?_ _
      generalize (Value.slice (some ⟨W.heap.size, 0, none⟩) 0 0) = v21
      generalize (Value.slice (some ⟨Wx.heap.size, 0, none⟩) 1 1) = v25
      generalize (Value.slice b2 n c2) = v23
      clear hHeld h5
      revert v21 v25 v23 w5 b5 c5
      exact hrest.out
    refine AllReadyH.cons (o := { dst := some 25, op := Op.buildSlice 35 1 #[(0, Operand.tmp 24)], type := 35, pos := "law.go:60", after := #[{ on := 3, ground := Ground.data }], guard := none }) rfl (fun K hK => ?_) AllReadyH.nil
    obtain ⟨Wx, hV4⟩ : ∃ V, W.alloc (.cells #[.string mk.s, .string mk.h, .int .i64 mk.p] 23) = V := ⟨_, rfl⟩
    have hWx : Below G0.heap.size G0 Wx := by rw [← hV4]; exact hIW.trans ((bel1 _ _).mono hIW.size)
    have bWx : Wx.heap[W.heap.size]? = some (.cells #[.string mk.s, .string mk.h, .int .i64 mk.p] 23 (0, 0)) := by rw [← hV4, heap_al, if_pos rfl]
    go_simp
    go_wp2_with fail
    refine hK.out _ _ (hS4.out _ hWx) (fun hHeld => ?_)
    clear hK K hV4
    try simp only [Act.put, List.setIfInBounds_toArray, List.set_cons_zero, List.set_cons_succ]
    refine wpAnyH_ready (rs := [0]) (by kernel_rfl) (by simp) ?_
    refine AllReadyH.cons (o := { dst := some 21, op := Op.buildSlice 35 0 #[], type := 35, pos := "law.go:60", after := #[], guard := none }) rfl (fun K hK => ?_) AllReadyH.nil
    obtain ⟨Wxx, hV0⟩ : ∃ V, Wx.alloc (.cells #[] 23) = V := ⟨_, rfl⟩
    have hWxx : Below G0.heap.size G0 Wxx := by rw [← hV0]; exact hWx.trans ((bel1 _ _).mono hWx.size)
    have eWxx : R EO Wxx (.slice (some ⟨Wx.heap.size, 0, none⟩) 0 0) [] := by rw [← hV0]; exact R.whole okO (c := #[]) [] (by simp) (by rw [heap_al, if_pos rfl]; rfl) rfl
    have bWxx : Wxx.heap[W.heap.size]? = some (.cells #[.string mk.s, .string mk.h, .int .i64 mk.p] 23 (0, 0)) := by rw [← hV0, heap_al, if_neg (by have := heap_lt bWx; omega)]; exact bWx
    have hne : W.heap.size ≠ Wx.heap.size := by have := heap_lt bWx; omega
    go_simp
    go_wp2_with fail
    refine hK.out _ _ (hS4.out _ hWxx) (fun hHeld => ?_)
    clear hK K hV0
    try simp only [Act.put, List.setIfInBounds_toArray, List.set_cons_zero, List.set_cons_succ]
    refine wpAnyH_ready (rs := [2]) (by kernel_rfl) (by simp) ?_
    refine AllReadyH.cons (o := { dst := some 23, op := Op.call { callee := Callee.builtin Builtin.append, args := #[Operand.tmp 21, Operand.tmp 22], argTypes := #[35, 35] }, type := 35, pos := "law.go:60", after := #[{ on := 0, ground := Ground.data }, { on := 1, ground := Ground.data }], guard := none }) rfl (fun K hK => ?_) AllReadyH.nil
    obtain ⟨b2, c2, w2, hrun, e2, e3⟩ := app okO Wxx (.slice (some ⟨Wx.heap.size, 0, none⟩) 0 0) [] eWxx (.slice x1 n x3) l (HIb.out _ hWxx) (by have := HL.out; have := HN.out; simp only [EO, List.length_nil]; omega)
    have el : ([] : List Og).length + l.length = n := by have := HN.out; simp only [List.length_nil]; omega
    rw [el] at hrun e2 e3
    rw [List.nil_append] at e2
    have hWxxx : Below G0.heap.size G0 w2 := hWxx.trans (e3.belowB hWxx.size (fun j hj => by simp only [Value.ownBlock, Option.some.injEq] at hj; have := hWx.size; omega))
    have hown2 : ∀ j, (Value.slice b2 n c2).ownBlock = some j → G0.heap.size ≤ j := fun j hj => by
      rcases e3.own j hj with e | e
      · simp only [Value.ownBlock, Option.some.injEq] at e
        have := hWx.size
        omega
      · exact Nat.le_trans hWxx.size e
    have bWxxx : w2.heap[W.heap.size]? = some (.cells #[.string mk.s, .string mk.h, .int .i64 mk.p] 23 (0, 0)) := by
      rw [e3.block _ (heap_lt bWxx) (fun e => by simp only [Value.ownBlock, Option.some.injEq] at e; exact hne e.symm)]
      exact bWxx
    refine step_append_run rfl (.tmp 21) (.tmp 22) 35 35 rfl hrun (by first | rfl | simp [Act.eval, Act.put]) (by first | rfl | simp [Act.eval, Act.put]) ?_
    refine hK.out _ _ (hS4.out _ hWxxx) (fun hHeld => ?_)
    clear hK K hrun el e3
    try simp only [Act.put, List.setIfInBounds_toArray, List.set_cons_zero, List.set_cons_succ]
    refine wpAnyH_ready (rs := [5]) (by kernel_rfl) (by simp) ?_
    refine AllReadyH.cons (o := { dst := some 26, op := Op.call { callee := Callee.builtin Builtin.append, args := #[Operand.tmp 23, Operand.tmp 25], argTypes := #[35, 35] }, type := 35, pos := "law.go:60", after := #[{ on := 2, ground := Ground.data }, { on := 4, ground := Ground.data }, { on := 2, ground := Ground.chain }], guard := none }) rfl (fun K hK => ?_) AllReadyH.nil
    obtain ⟨b5, c5, w5, hrun, e5, e3⟩ := app okO w2 (.slice b2 n c2) l e2 (.slice (some ⟨W.heap.size, 0, none⟩) 1 1) [mk] (in_one (x := mk) _ _ #[.string mk.s, .string mk.h, .int .i64 mk.p] 23 (0, 0) bWxxx rfl) (by have := HL.out; have := HN.out; simp only [EO, List.length_singleton]; omega)
    have el : l.length + [mk].length = n + 1 := by rw [HN.out]; rfl
    rw [el] at hrun e5 e3
    have h5 : Below G0.heap.size G0 w5 := hWxxx.trans (e3.belowB hWxxx.size hown2)
    have HX5 : Hid (Rm G0 w5 (.slice b5 (n + 1) c5) (l ++ [mk])) := ⟨e5, h5, fun j hj => by
      rcases e3.own j hj with e | e
      · exact hown2 j e
      · exact Nat.le_trans hWxxx.size e⟩
    refine step_append_run rfl (.tmp 23) (.tmp 25) 35 35 rfl hrun (by first | rfl | simp [Act.eval, Act.put]) (by first | rfl | simp [Act.eval, Act.put]) ?_
    refine hK.out _ _ (hS4.out _ h5) (fun hHeld => ?_)
    clear hK K hrun el e3 e5
    try simp only [Act.put, List.setIfInBounds_toArray, List.set_cons_zero, List.set_cons_succ]
    refine wpAnyH_take (i := 6) (oi := { dst := some 6, op := Op.assign (Operand.tmp 26), type := 35, pos := "law.go:60", after := #[{ on := 5, ground := Ground.data }, { on := 5, ground := Ground.chain }, { on := 0, ground := Ground.phase }, { on := 1, ground := Ground.phase }, { on := 2, ground := Ground.phase }, { on := 3, ground := Ground.phase }, { on := 4, ground := Ground.phase }, { on := 5, ground := Ground.phase }], guard := none }) (v := ?vv5) rfl (by kernel_rfl) (by kernel_rfl) (by kernel_rfl) (fun _ _ _ h => h) (Or.inl ⟨by rfl, ?hy5⟩) (by assumption) ?_
    case hy5 => (intro w hSw; (try dsimp only at hSw); go_simp; all_goals with_reducible rfl)
    try simp only [Act.put, List.setIfInBounds_toArray, List.set_cons_zero, List.set_cons_succ]
    refine wpAnyH_done (by kernel_rfl) ?_ _
    generalize (Value.slice (some ⟨Wx.heap.size, 0, none⟩) 0 0) = v21
    generalize (Value.slice (some ⟨W.heap.size, 0, none⟩) 1 1) = v25
    generalize (Value.slice b2 n c2) = v23
    clear hHeld h5
    revert v21 v25 v23 w5 b5 c5
    exact hrest.out
  · intro b5 c5 w5 HX5 v21 v25 v23
    have HXB : Hid (∃ B, b5 = some ⟨B, 0, none⟩) := by
      rcases HX5.out.1.2 with ⟨hv, h0⟩ | ⟨B, cap, cur, hv, _⟩
      · rw [List.length_append] at h0
        simp at h0
      · injection hv with hv1 _ _
        exact ⟨B, hv1⟩
    obtain ⟨B, rfl⟩ := HXB.out
    have HR5 : Hid (R EO w5 (.slice (some ⟨B, 0, none⟩) (n + 1) c5) (l ++ [mk])) := HX5.out.1
    have HGB : Hid (G0.heap.size ≤ B) := HX5.out.2.2 B rfl
    have HB5 : Hid (Below w.heap.size w w5) := HBG.out.trans (HX5.out.2.1.mono HBG.out.size)
    have HO5 : Hid (OB w5 gm mk) := HGm.out.below HX5.out.2.1
    have HgB : Hid (gm < B) := Nat.lt_of_lt_of_le HGm.out.lt HGB.out
    have HwB : Hid (w.heap.size ≤ B) := Nat.le_trans HBG.out.size HGB.out
    have hc5 : n + 1 ≤ c5 ∧ c5 ≤ 9223372036854775807 := by
      obtain ⟨_, _, e, h1, h2⟩ := HR5.out.slice
      injection e with _ _ e3
      rw [List.length_append, HN.out] at h1
      simp at h1
      omega
    obtain ⟨hc51, hc52⟩ := hc5
    have hc53 : (n : Int) ≤ (c5 : Int) := by omega
    have HOf : Hid (Calls Tryd.prog 14 #[.slice (some ⟨B, 0, none⟩) n c5] w5 (OfPost l w5)) := of_any (some ⟨B, 0, none⟩, n, c5) l w5 (own_in HN.out HR5.out) HZ.out (by have := HL.out; have := HN.out; omega)
    have HBl : Hid (B < w5.heap.size) := HR5.out.lt B rfl
    clear HX5 HXB hS4 HIb
    go_wp2_with fail
    go_at_call 14
    refine HOf.out.mono ?_
    rintro e X1 ⟨b1, h5⟩
    have HB1 : Hid (Below w.heap.size w X1) := HB5.out.trans (b1.mono HB5.out.size)
    have HR1 : Hid (R EO X1 (.slice (some ⟨B, 0, none⟩) (n + 1) c5) (l ++ [mk])) := HR5.out.below b1
    have HO1 : Hid (OB X1 gm mk) := HO5.out.below b1
    have HRo : Hid (Calls Tryd.prog 19 #[.slice x1 n x3] X1 (RoPost l X1)) := rof_any (x1, n, x3) l X1 (HI.out.below HB1.out) (by rw [HN.out]; exact HL.out)
    have HBX : Hid (B < X1.heap.size) := Nat.lt_of_lt_of_le HBl.out b1.size
    have HY5 : Hid ((ofE l = 0 ∧ ∃ p b, e = .returned (.tuple #[.pointer (some ⟨p, 0, none⟩), .int .i64 0]) ∧ Se X1 w5.heap.size p b l) ∨ (ofE l ≠ 0 ∧ e = .returned (.tuple #[.pointer none, .int .i64 (ofE l)]))) := h5
    generalize w5.heap.size = lo at HY5 HBl
    clear h5 b1 HOf HR5 HO5 HB5
    rcases HY5.out with ⟨hz0, P1, Q1, rfl, hS⟩ | ⟨hz0, rfl⟩
    · have HZ0 : Hid (ofE l = 0) := hz0
      have HS1 : Hid (Se X1 lo P1 Q1 l) := hS
      have hn16 : n ≤ 16 := by have := hS.len; have := HN.out; omega
      clear hz0 hS HY5
      go_wp2_with fail
      go_at_call 19
      refine HRo.out.mono ?_
      rintro e X2 ⟨b2, h6⟩
      rcases h6 with ⟨_, pd, vd, rfl, hSd, hpd, hvd⟩ | ⟨h6, _⟩
      · have HB2 : Hid (Below w.heap.size w X2) := HB1.out.trans (b2.mono HB1.out.size)
        have HR2 : Hid (R EO X2 (.slice (some ⟨B, 0, none⟩) (n + 1) c5) (l ++ [mk])) := HR1.out.below b2
        have HO2 : Hid (OB X2 gm mk) := HO1.out.below b2
        have HI2 : Hid (In EO X2 (.slice x1 n x3) l) := HI.out.below HB2.out
        have HS2 : Hid (Se X2 lo P1 Q1 l) := HS1.out.below b2
        have HD2 : Hid (Sd X2 pd vd l) := hSd
        have HpB : Hid (B < pd ∧ ∀ j, (sv vd).ownBlock = some j → B < j) := ⟨Nat.lt_of_lt_of_le HBX.out hpd, fun j hj => Nat.lt_of_lt_of_le HBX.out (hvd j hj)⟩
        clear b2 hSd hpd hvd HR1 HO1 HB1 HS1 HRo HBX
        go_wp2_with fail
        have hnq := neq_og mk mk
        rw [ogD_self] at hnq
        simp only [Bool.not_true] at hnq
        have hnl : (n : Int) < (n : Int) + 1 := by omega
        have hS8 : Hid (∀ V, Below X2.heap.size X2 V → V.cell? ⟨gm, 0, none⟩ = some (.string mk.s) ∧ V.cell? ⟨gm, 1, none⟩ = some (.string mk.h) ∧ V.cell? ⟨gm, 2, none⟩ = some (.int .i64 mk.p) ∧ V.cell? ⟨B, n * 3, none⟩ = some (.string mk.s) ∧ V.cell? ⟨B, n * 3 + 1, none⟩ = some (.string mk.h) ∧ V.cell? ⟨B, n * 3 + 2, none⟩ = some (.int .i64 mk.p)) := fun V hV => ⟨(HO2.out.below hV).cells.c0, (HO2.out.below hV).cells.c1, (HO2.out.below hV).cells.c2, (mk_at HN.out (HR2.out.below hV)).1, (mk_at HN.out (HR2.out.below hV)).2.1, (mk_at HN.out (HR2.out.below hV)).2.2⟩
        have hIW : Below X2.heap.size X2 X2.drew := (Below.refl _ _).drew
        refine wp_region_held_drew (S := fun V => V.cell? ⟨gm, 0, none⟩ = some (.string mk.s) ∧ V.cell? ⟨gm, 1, none⟩ = some (.string mk.h) ∧ V.cell? ⟨gm, 2, none⟩ = some (.int .i64 mk.p) ∧ V.cell? ⟨B, n * 3, none⟩ = some (.string mk.s) ∧ V.cell? ⟨B, n * 3 + 1, none⟩ = some (.string mk.h) ∧ V.cell? ⟨B, n * 3 + 2, none⟩ = some (.int .i64 mk.p)) (by kernel_rfl) (hS8.out _ hIW) (fun hHeld => ?_)
        generalize hWg : World.drew _ = W at hIW hHeld ⊢
        clear hWg
        refine wpAnyH_take (i := 0) (oi := { dst := some 41, op := Op.move (Operand.tmp 9), type := 27, pos := "law.go:64", after := #[], guard := none }) (v := ?vv6) rfl (by kernel_rfl) (by kernel_rfl) (by kernel_rfl) (fun _ _ _ h => h) (Or.inl ⟨by rfl, ?hy6⟩) (by assumption) ?_
        case hy6 => (intro w hSw; (try dsimp only at hSw); go_simp; all_goals with_reducible rfl)
        try simp only [Act.put, List.setIfInBounds_toArray, List.set_cons_zero, List.set_cons_succ]
        refine wpAnyH_take (i := 1) (oi := { dst := some 42, op := Op.move (Operand.tmp 11), type := 27, pos := "law.go:64", after := #[], guard := none }) (v := ?vv7) rfl (by kernel_rfl) (by kernel_rfl) (by kernel_rfl) (fun _ _ _ h => h) (Or.inl ⟨by rfl, ?hy7⟩) (by assumption) ?_
        case hy7 => (intro w hSw; (try dsimp only at hSw); go_simp; all_goals with_reducible rfl)
        try simp only [Act.put, List.setIfInBounds_toArray, List.set_cons_zero, List.set_cons_succ]
        refine wpAnyH_take (i := 2) (oi := { dst := some 43, op := Op.binOp BinOp.neq 27 (Operand.tmp 41) (Operand.tmp 42) 27, type := 4, pos := "law.go:64", after := #[{ on := 0, ground := Ground.data }, { on := 1, ground := Ground.data }], guard := none }) (v := ?vv8) rfl (by kernel_rfl) (by kernel_rfl) (by kernel_rfl) (fun _ _ _ h => h) (Or.inl ⟨by rfl, ?hy8⟩) (by assumption) ?_
        case hy8 => (intro w hSw; (try dsimp only at hSw); go_simp; all_goals with_reducible rfl)
        try simp only [Act.put, List.setIfInBounds_toArray, List.set_cons_zero, List.set_cons_succ]
        refine wpAnyH_take (i := 3) (oi := { dst := some 44, op := Op.move (Operand.tmp 43), type := 4, pos := "law.go:64", after := #[{ on := 2, ground := Ground.data }], guard := none }) (v := ?vv9) rfl (by kernel_rfl) (by kernel_rfl) (by kernel_rfl) (fun _ _ _ h => h) (Or.inl ⟨by rfl, ?hy9⟩) (by assumption) ?_
        case hy9 => (intro w hSw; (try dsimp only at hSw); go_simp; all_goals with_reducible rfl)
        try simp only [Act.put, List.setIfInBounds_toArray, List.set_cons_zero, List.set_cons_succ]
        refine wpAnyH_take (i := 4) (oi := { dst := some 45, op := Op.move (Operand.tmp 8), type := 36, pos := "law.go:64", after := #[{ on := 3, ground := Ground.guard }], guard := some (3, false) }) (v := ?vv10) rfl (by kernel_rfl) (by kernel_rfl) (by kernel_rfl) (fun _ _ _ h => h) (Or.inl ⟨by rfl, ?hy10⟩) (by assumption) ?_
        case hy10 => (intro w hSw; (try dsimp only at hSw); go_simp; all_goals with_reducible rfl)
        try simp only [Act.put, List.setIfInBounds_toArray, List.set_cons_zero, List.set_cons_succ]
        refine wpAnyH_take (i := 5) (oi := { dst := some 46, op := Op.binOp BinOp.eql 36 (Operand.tmp 45) (Operand.const (Value.pointer none)) 36, type := 4, pos := "law.go:64", after := #[{ on := 4, ground := Ground.data }, { on := 3, ground := Ground.guard }], guard := some (3, false) }) (v := ?vv11) rfl (by kernel_rfl) (by kernel_rfl) (by kernel_rfl) (fun _ _ _ h => h) (Or.inl ⟨by rfl, ?hy11⟩) (by assumption) ?_
        case hy11 => (intro w hSw; (try dsimp only at hSw); go_simp; all_goals with_reducible rfl)
        try simp only [Act.put, List.setIfInBounds_toArray, List.set_cons_zero, List.set_cons_succ]
        refine wpAnyH_take (i := 6) (oi := { dst := some 47, op := Op.move (Operand.tmp 10), type := 46, pos := "law.go:64", after := #[{ on := 3, ground := Ground.guard }], guard := some (3, false) }) (v := ?vv12) rfl (by kernel_rfl) (by kernel_rfl) (by kernel_rfl) (fun _ _ _ h => h) (Or.inl ⟨by rfl, ?hy12⟩) (by assumption) ?_
        case hy12 => (intro w hSw; (try dsimp only at hSw); go_simp; all_goals with_reducible rfl)
        try simp only [Act.put, List.setIfInBounds_toArray, List.set_cons_zero, List.set_cons_succ]
        refine wpAnyH_take (i := 7) (oi := { dst := some 48, op := Op.binOp BinOp.eql 46 (Operand.tmp 47) (Operand.const (Value.pointer none)) 46, type := 4, pos := "law.go:64", after := #[{ on := 6, ground := Ground.data }, { on := 3, ground := Ground.guard }], guard := some (3, false) }) (v := ?vv13) rfl (by kernel_rfl) (by kernel_rfl) (by kernel_rfl) (fun _ _ _ h => h) (Or.inl ⟨by rfl, ?hy13⟩) (by assumption) ?_
        case hy13 => (intro w hSw; (try dsimp only at hSw); go_simp; all_goals with_reducible rfl)
        try simp only [Act.put, List.setIfInBounds_toArray, List.set_cons_zero, List.set_cons_succ]
        refine wpAnyH_take (i := 8) (oi := { dst := some 49, op := Op.binOp BinOp.neq 4 (Operand.tmp 46) (Operand.tmp 48) 4, type := 4, pos := "law.go:64", after := #[{ on := 5, ground := Ground.data }, { on := 7, ground := Ground.data }, { on := 3, ground := Ground.guard }], guard := some (3, false) }) (v := ?vv14) rfl (by kernel_rfl) (by kernel_rfl) (by kernel_rfl) (fun _ _ _ h => h) (Or.inl ⟨by rfl, ?hy14⟩) (by assumption) ?_
        case hy14 => (intro w hSw; (try dsimp only at hSw); go_simp; all_goals with_reducible rfl)
        try simp only [Act.put, List.setIfInBounds_toArray, List.set_cons_zero, List.set_cons_succ]
        refine wpAnyH_take (i := 9) (oi := { dst := some 50, op := Op.pick (Operand.tmp 44) (Operand.const (Value.bool true)) (Operand.tmp 49), type := 4, pos := "law.go:64", after := #[{ on := 3, ground := Ground.data }, { on := 8, ground := Ground.data }], guard := none }) (v := ?vv15) rfl (by kernel_rfl) (by kernel_rfl) (by kernel_rfl) (fun _ _ _ h => h) (Or.inl ⟨by rfl, ?hy15⟩) (by assumption) ?_
        case hy15 => (intro w hSw; (try dsimp only at hSw); go_simp; all_goals with_reducible rfl)
        try simp only [Act.put, List.setIfInBounds_toArray, List.set_cons_zero, List.set_cons_succ]
        refine wpAnyH_take (i := 10) (oi := { dst := some 51, op := Op.move (Operand.tmp 50), type := 4, pos := "law.go:64", after := #[{ on := 9, ground := Ground.data }, { on := 3, ground := Ground.chain }], guard := none }) (v := ?vv16) rfl (by kernel_rfl) (by kernel_rfl) (by kernel_rfl) (fun _ _ _ h => h) (Or.inl ⟨by rfl, ?hy16⟩) (by assumption) ?_
        case hy16 => (intro w hSw; (try dsimp only at hSw); go_simp; all_goals with_reducible rfl)
        try simp only [Act.put, List.setIfInBounds_toArray, List.set_cons_zero, List.set_cons_succ]
        refine wpAnyH_take (i := 11) (oi := { dst := some 52, op := Op.move (Operand.tmp 7), type := 35, pos := "law.go:64", after := #[{ on := 10, ground := Ground.guard }], guard := some (10, false) }) (v := ?vv17) rfl (by kernel_rfl) (by kernel_rfl) (by kernel_rfl) (fun _ _ _ h => h) (Or.inl ⟨by rfl, ?hy17⟩) (by assumption) ?_
        case hy17 => (intro w hSw; (try dsimp only at hSw); go_simp; all_goals with_reducible rfl)
        try simp only [Act.put, List.setIfInBounds_toArray, List.set_cons_zero, List.set_cons_succ]
        refine wpAnyH_take (i := 12) (oi := { dst := some 53, op := Op.move (Operand.tmp 0), type := 35, pos := "law.go:64", after := #[{ on := 10, ground := Ground.guard }], guard := some (10, false) }) (v := ?vv18) rfl (by kernel_rfl) (by kernel_rfl) (by kernel_rfl) (fun _ _ _ h => h) (Or.inl ⟨by rfl, ?hy18⟩) (by assumption) ?_
        case hy18 => (intro w hSw; (try dsimp only at hSw); go_simp; all_goals with_reducible rfl)
        try simp only [Act.put, List.setIfInBounds_toArray, List.set_cons_zero, List.set_cons_succ]
        refine wpAnyH_ready (rs := [13]) (by kernel_rfl) (by simp) ?_
        refine AllReadyH.cons (o := { dst := some 54, op := Op.call { callee := Callee.value (Operand.func 20), args := #[Operand.tmp 52, Operand.tmp 53], argTypes := #[35, 35] }, type := 4, pos := "law.go:64", after := #[{ on := 11, ground := Ground.data }, { on := 12, ground := Ground.data }, { on := 10, ground := Ground.chain }, { on := 10, ground := Ground.guard }], guard := some (10, false) }) rfl (fun K hK => ?_) AllReadyH.nil
        go_simp
        refine (same_eq (some ⟨B, 0, none⟩, n, c5) (x1, n, x3) l _ (own_in HN.out (HR2.out.below hIW)) (HI2.out.below hIW)).mono ?_
        rintro e' Wx ⟨rfl, bX⟩
        have hWx : Below X2.heap.size X2 Wx := hIW.trans (bX.mono hIW.size)
        clear bX
        go_wp2_with fail
        refine hK.out _ _ (hS8.out _ hWx) (fun hHeld => ?_)
        clear hK K
        try simp only [Act.put, List.setIfInBounds_toArray, List.set_cons_zero, List.set_cons_succ]
        refine wpAnyH_take (i := 14) (oi := { dst := some 55, op := Op.unOp UnOp.not 4 (Operand.tmp 54), type := 4, pos := "law.go:64", after := #[{ on := 13, ground := Ground.data }, { on := 10, ground := Ground.guard }], guard := some (10, false) }) (v := ?vv19) rfl (by kernel_rfl) (by kernel_rfl) (by kernel_rfl) (fun _ _ _ h => h) (Or.inl ⟨by rfl, ?hy19⟩) (by assumption) ?_
        case hy19 => (intro w hSw; (try dsimp only at hSw); go_simp; all_goals with_reducible rfl)
        try simp only [Act.put, List.setIfInBounds_toArray, List.set_cons_zero, List.set_cons_succ]
        refine wpAnyH_take (i := 15) (oi := { dst := some 56, op := Op.pick (Operand.tmp 51) (Operand.const (Value.bool true)) (Operand.tmp 55), type := 4, pos := "law.go:64", after := #[{ on := 10, ground := Ground.data }, { on := 14, ground := Ground.data }], guard := none }) (v := ?vv20) rfl (by kernel_rfl) (by kernel_rfl) (by kernel_rfl) (fun _ _ _ h => h) (Or.inl ⟨by rfl, ?hy20⟩) (by assumption) ?_
        case hy20 => (intro w hSw; (try dsimp only at hSw); go_simp; all_goals with_reducible rfl)
        try simp only [Act.put, List.setIfInBounds_toArray, List.set_cons_zero, List.set_cons_succ]
        refine wpAnyH_take (i := 16) (oi := { dst := some 57, op := Op.move (Operand.tmp 56), type := 4, pos := "law.go:64", after := #[{ on := 15, ground := Ground.data }, { on := 13, ground := Ground.chain }], guard := none }) (v := ?vv21) rfl (by kernel_rfl) (by kernel_rfl) (by kernel_rfl) (fun _ _ _ h => h) (Or.inl ⟨by rfl, ?hy21⟩) (by assumption) ?_
        case hy21 => (intro w hSw; (try dsimp only at hSw); go_simp; all_goals with_reducible rfl)
        try simp only [Act.put, List.setIfInBounds_toArray, List.set_cons_zero, List.set_cons_succ]
        refine wpAnyH_take (i := 17) (oi := { dst := some 58, op := Op.move (Operand.tmp 6), type := 35, pos := "law.go:64", after := #[{ on := 16, ground := Ground.guard }], guard := some (16, false) }) (v := ?vv22) rfl (by kernel_rfl) (by kernel_rfl) (by kernel_rfl) (fun _ _ _ h => h) (Or.inl ⟨by rfl, ?hy22⟩) (by assumption) ?_
        case hy22 => (intro w hSw; (try dsimp only at hSw); go_simp; all_goals with_reducible rfl)
        try simp only [Act.put, List.setIfInBounds_toArray, List.set_cons_zero, List.set_cons_succ]
        refine wpAnyH_take (i := 18) (oi := { dst := some 59, op := Op.move (Operand.tmp 0), type := 35, pos := "law.go:64", after := #[{ on := 16, ground := Ground.guard }], guard := some (16, false) }) (v := ?vv23) rfl (by kernel_rfl) (by kernel_rfl) (by kernel_rfl) (fun _ _ _ h => h) (Or.inl ⟨by rfl, ?hy23⟩) (by assumption) ?_
        case hy23 => (intro w hSw; (try dsimp only at hSw); go_simp; all_goals with_reducible rfl)
        try simp only [Act.put, List.setIfInBounds_toArray, List.set_cons_zero, List.set_cons_succ]
        refine wpAnyH_take (i := 19) (oi := { dst := some 60, op := Op.call { callee := Callee.builtin Builtin.len, args := #[Operand.tmp 59], argTypes := #[35] }, type := 3, pos := "law.go:64", after := #[{ on := 18, ground := Ground.data }, { on := 16, ground := Ground.guard }], guard := some (16, false) }) (v := ?vv24) rfl (by kernel_rfl) (by kernel_rfl) (by kernel_rfl) (fun _ _ _ h => h) (Or.inl ⟨by rfl, ?hy24⟩) (by assumption) ?_
        case hy24 => (intro w hSw; (try dsimp only at hSw); go_simp; all_goals with_reducible rfl)
        try simp only [Act.put, List.setIfInBounds_toArray, List.set_cons_zero, List.set_cons_succ]
        refine wpAnyH_take (i := 20) (oi := { dst := some 61, op := Op.indexAddr 35 (Operand.tmp 58) (Operand.tmp 60), type := 0, pos := "law.go:64", after := #[{ on := 17, ground := Ground.data }, { on := 19, ground := Ground.data }, { on := 16, ground := Ground.guard }], guard := some (16, false) }) (v := ?vv25) rfl (by kernel_rfl) (by kernel_rfl) (by kernel_rfl) (fun _ _ _ h => h) (Or.inl ⟨by rfl, ?hy25⟩) (by assumption) ?_
        case hy25 => (intro w hSw; (try dsimp only at hSw); go_simp; all_goals with_reducible rfl)
        try simp only [Act.put, List.setIfInBounds_toArray, List.set_cons_zero, List.set_cons_succ]
        refine wpAnyH_take (i := 21) (oi := { dst := some 62, op := Op.load 23 (Operand.tmp 61), type := 23, pos := "law.go:64", after := #[{ on := 20, ground := Ground.data }, { on := 16, ground := Ground.guard }], guard := some (16, false) }) (v := ?vv26) rfl (by kernel_rfl) (by kernel_rfl) (by kernel_rfl) (fun _ _ _ h => h) (Or.inl ⟨by rfl, ?hy26⟩) (by assumption) ?_
        case hy26 => (intro w hSw; (try dsimp only at hSw); go_simp; all_goals with_reducible rfl)
        try simp only [Act.put, List.setIfInBounds_toArray, List.set_cons_zero, List.set_cons_succ]
        refine wpAnyH_take (i := 22) (oi := { dst := some 63, op := Op.load 23 (Operand.tmp 5), type := 23, pos := "law.go:64", after := #[{ on := 16, ground := Ground.guard }], guard := some (16, false) }) (v := ?vv27) rfl (by kernel_rfl) (by kernel_rfl) (by kernel_rfl) (fun _ _ _ h => h) (Or.inl ⟨by rfl, ?hy27⟩) (by assumption) ?_
        case hy27 => (intro w hSw; (try dsimp only at hSw); go_simp; all_goals with_reducible rfl)
        try simp only [Act.put, List.setIfInBounds_toArray, List.set_cons_zero, List.set_cons_succ]
        refine wpAnyH_take (i := 23) (oi := { dst := some 64, op := Op.binOp BinOp.neq 23 (Operand.tmp 62) (Operand.tmp 63) 23, type := 4, pos := "law.go:64", after := #[{ on := 21, ground := Ground.data }, { on := 22, ground := Ground.data }, { on := 16, ground := Ground.guard }], guard := some (16, false) }) (v := ?vv28) rfl (by kernel_rfl) (by kernel_rfl) (by kernel_rfl) (fun _ _ _ h => h) (Or.inl ⟨by rfl, ?hy28⟩) (by assumption) ?_
        case hy28 => (intro w hSw; (try dsimp only at hSw); go_simp; all_goals with_reducible rfl)
        try simp only [Act.put, List.setIfInBounds_toArray, List.set_cons_zero, List.set_cons_succ]
        refine wpAnyH_take (i := 24) (oi := { dst := some 65, op := Op.pick (Operand.tmp 57) (Operand.const (Value.bool true)) (Operand.tmp 64), type := 4, pos := "law.go:64", after := #[{ on := 16, ground := Ground.data }, { on := 23, ground := Ground.data }], guard := none }) (v := ?vv29) rfl (by kernel_rfl) (by kernel_rfl) (by kernel_rfl) (fun _ _ _ h => h) (Or.inl ⟨by rfl, ?hy29⟩) (by assumption) ?_
        case hy29 => (intro w hSw; (try dsimp only at hSw); go_simp; all_goals with_reducible rfl)
        try simp only [Act.put, List.setIfInBounds_toArray, List.set_cons_zero, List.set_cons_succ]
        refine wpAnyH_done (by kernel_rfl) ?_ _
        have HB3 : Hid (Below w.heap.size w Wx) := HB2.out.trans (hWx.mono HB2.out.size)
        have HR3 : Hid (R EO Wx (.slice (some ⟨B, 0, none⟩) (n + 1) c5) (l ++ [mk])) := HR2.out.below hWx
        have HO3 : Hid (OB Wx gm mk) := HO2.out.below hWx
        have HS3 : Hid (Se Wx lo P1 Q1 l) := HS2.out.below hWx
        have HD3 : Hid (Sd Wx pd vd l) := HD2.out.below hWx
        clear hHeld hS8 hWx hIW HR2 HO2 HS2 HD2 HI2
        go_wp2_with fail
        go_loopw [12] (fun iv wr => ∃ i : Nat, iv = .int .i64 (i : Int) ∧ i ≤ n ∧ Hid (∃ M : List Og, M.length = n + 1 ∧ R EO wr (.slice (some ⟨B, 0, none⟩) (n + 1) c5) M ∧ Se wr lo P1 Q1 l ∧ Sd wr pd vd l ∧ OB wr gm mk ∧ Below w.heap.size w wr)) (fun iv _ => n - (intOf iv).toNat)
        case atStart => exact ⟨0, rfl, by omega, l ++ [mk], by rw [List.length_append, HN.out]; rfl, HR3.out, HS3.out, HD3.out, HO3.out, HB3.out⟩
        case round =>
          obtain ⟨i, rfl, hi, hJ⟩ := hrel
          obtain ⟨M, hM, hR, hS, hD, hO, hB⟩ := hJ.out
          have HM : Hid (M.length = n + 1) := hM
          have HR : Hid (R EO wr (.slice (some ⟨B, 0, none⟩) (n + 1) c5) M) := hR
          have HS : Hid (Se wr lo P1 Q1 l) := hS
          have HD : Hid (Sd wr pd vd l) := hD
          have HO : Hid (OB wr gm mk) := hO
          have HB : Hid (Below w.heap.size w wr) := hB
          clear hJ hM hR hS hD hO hB
          by_cases hlt : i < n
          · have a1 : (i : Int) < (n : Int) := by omega
            obtain ⟨c0, c1, c2, f0, f1, f2⟩ := HR.out.cellsR i (by rw [HM.out]; omega)
            obtain ⟨X, hX⟩ : ∃ X, M[i]'(by rw [HM.out]; omega) = X := ⟨_, rfl⟩
            rw [hX] at c0 c1 c2
            obtain ⟨d0, d1, d2, _, _, _⟩ := HO.out.cells
            have HRn : Hid (R EO (setR wr B i mk) (.slice (some ⟨B, 0, none⟩) (n + 1) c5) (M.set i mk)) := HR.out.setR i (by rw [HM.out]; omega) mk
            have HMn : Hid ((M.set i mk).length = n + 1) := by show _ = _; rw [List.length_set]; exact HM.out
            have HSn : Hid (Se (setR wr B i mk) lo P1 Q1 l) := HS.out.keep fun k h1 h2 => setR_other _ _ _ _ _ (by have := HBl.out; omega)
            have HDn : Hid (Sd (setR wr B i mk) pd vd l) := HD.out.keep fun k h1 h2 => setR_other _ _ _ _ _ (by
              rcases h1 with h1 | h1
              · have := HpB.out.1
                omega
              · have := HpB.out.2 k h1
                omega)
            have HOn : Hid (OB (setR wr B i mk) gm mk) := HO.out.keep (setR_other _ _ _ _ _ (by have := HgB.out; omega))
            have HBn : Hid (Below w.heap.size w (setR wr B i mk)) := setR_below HB.out HwB.out
            unfold setR at HRn HSn HDn HOn HBn
            clear hX
            go_wp2_with fail
            go_roundw
            case rel => exact ⟨i + 1, by simp, by omega, M.set i mk, HMn.out, HRn.out, HSn.out, HDn.out, HOn.out, HBn.out⟩
            case measure => first | (simp [intOf]; done) | (simp [intOf]; omega)
          · obtain rfl : i = n := by omega
            have a1 : ¬ (i : Int) < (i : Int) := by omega
            clear hlt hi HM HR
            go_wp2_with fail
            go_at_call 16
            refine (list_any _ _ _ _ _ HS.out).mono ?_
            rintro e X4 ⟨N1, rfl, hr1, hN1, b4⟩
            rw [HN.out] at hr1 ⊢
            have HA4 : Hid (R EO X4 (.slice (some ⟨N1, 0, none⟩) i i) l) := hr1
            have HS4 : Hid (Se X4 lo P1 Q1 l) := HS.out.below b4
            have HD4 : Hid (Sd X4 pd vd l) := HD.out.below b4
            have HO4 : Hid (OB X4 gm mk) := HO.out.below b4
            have HB4 : Hid (Below w.heap.size w X4) := HB.out.trans (b4.mono HB.out.size)
            have HLt : Hid (w.heap.size ≤ N1 ∧ P1 < N1 ∧ Q1 < N1 ∧ pd < N1 ∧ gm < N1 ∧ ∀ j, (sv vd).ownBlock = some j → j < N1) := ⟨Nat.le_trans HB.out.size hN1, Nat.lt_of_lt_of_le HS.out.lt.1 hN1, Nat.lt_of_lt_of_le HS.out.lt.2 hN1, Nat.lt_of_lt_of_le (heap_lt HD.out.hp) hN1, Nat.lt_of_lt_of_le HO.out.lt hN1, fun j hj => Nat.lt_of_lt_of_le (HD.out.row.lt j hj) hN1⟩
            clear hr1 hN1 b4 HS HD HO HB HR3 HO3 HS3 HD3 HB3
            go_wp2_with fail
            go_at_call 16
            refine (list_any _ _ _ _ _ HS4.out).mono ?_
            rintro e X5 ⟨N2, rfl, hr2, hN2, b5⟩
            rw [HN.out] at hr2 ⊢
            have HA5 : Hid (R EO X5 (.slice (some ⟨N1, 0, none⟩) i i) l) := HA4.out.below b5
            have HC5 : Hid (R EO X5 (.slice (some ⟨N2, 0, none⟩) i i) l) := hr2
            have HNN : Hid (N1 < N2) := Nat.lt_of_lt_of_le (HA4.out.lt N1 rfl) hN2
            have HS5 : Hid (Se X5 lo P1 Q1 l) := HS4.out.below b5
            have HD5 : Hid (Sd X5 pd vd l) := HD4.out.below b5
            have HO5 : Hid (OB X5 gm mk) := HO4.out.below b5
            have HB5 : Hid (Below w.heap.size w X5) := HB4.out.trans (b5.mono HB4.out.size)
            have HI5 : Hid (In EO X5 (.slice x1 i x3) l) := HI.out.below HB5.out
            clear hr2 hN2 b5 HS4 HD4 HO4 HB4 HA4
            go_wp2_with fail
            go_at_call 20
            refine (same_eq (some ⟨N1, 0, none⟩, i, i) (x1, i, x3) l _ HA5.out.isIn HI5.out).mono ?_
            rintro e X6 ⟨rfl, b6⟩
            have HA6 : Hid (R EO X6 (.slice (some ⟨N1, 0, none⟩) i i) l) := HA5.out.below b6
            have HC6 : Hid (R EO X6 (.slice (some ⟨N2, 0, none⟩) i i) l) := HC5.out.below b6
            have HS6 : Hid (Se X6 lo P1 Q1 l) := HS5.out.below b6
            have HD6 : Hid (Sd X6 pd vd l) := HD5.out.below b6
            have HO6 : Hid (OB X6 gm mk) := HO5.out.below b6
            have HB6 : Hid (Below w.heap.size w X6) := HB5.out.trans (b6.mono HB5.out.size)
            have HI6 : Hid (In EO X6 (.slice x1 i x3) l) := HI5.out.below b6
            clear b6 HA5 HC5 HS5 HD5 HO5 HB5 HI5
            go_wp2_with fail
            go_at_call 20
            refine (same_eq (some ⟨N2, 0, none⟩, i, i) (x1, i, x3) l _ HC6.out.isIn HI6.out).mono ?_
            rintro e X7 ⟨rfl, b7⟩
            have HA7 : Hid (R EO X7 (.slice (some ⟨N1, 0, none⟩) i i) l) := HA6.out.below b7
            have HC7 : Hid (R EO X7 (.slice (some ⟨N2, 0, none⟩) i i) l) := HC6.out.below b7
            have HS7 : Hid (Se X7 lo P1 Q1 l) := HS6.out.below b7
            have HD7 : Hid (Sd X7 pd vd l) := HD6.out.below b7
            have HO7 : Hid (OB X7 gm mk) := HO6.out.below b7
            have HB7 : Hid (Below w.heap.size w X7) := HB6.out.trans (b7.mono HB6.out.size)
            clear b7 HA6 HC6 HS6 HD6 HO6 HB6 HI6
            go_wp2_with fail
            go_loopw [15] (fun iv wr => ∃ q : Nat, iv = .int .i64 (q : Int) ∧ q ≤ i ∧ Hid (∃ M : List Og, M.length = i ∧ R EO wr (.slice (some ⟨N1, 0, none⟩) i i) M ∧ R EO wr (.slice (some ⟨N2, 0, none⟩) i i) l ∧ Se wr lo P1 Q1 l ∧ Sd wr pd vd l ∧ OB wr gm mk ∧ Below w.heap.size w wr)) (fun iv _ => i - (intOf iv).toNat)
            case atStart => exact ⟨0, rfl, by omega, l, HN.out, HA7.out, HC7.out, HS7.out, HD7.out, HO7.out, HB7.out⟩
            case round =>
              obtain ⟨q, rfl, hq, hJ⟩ := hrel
              obtain ⟨M, hM, hR, hC, hS, hD, hO, hB⟩ := hJ.out
              have HM : Hid (M.length = i) := hM
              have HR : Hid (R EO wr (.slice (some ⟨N1, 0, none⟩) i i) M) := hR
              have HC : Hid (R EO wr (.slice (some ⟨N2, 0, none⟩) i i) l) := hC
              have HS : Hid (Se wr lo P1 Q1 l) := hS
              have HD : Hid (Sd wr pd vd l) := hD
              have HO : Hid (OB wr gm mk) := hO
              have HB : Hid (Below w.heap.size w wr) := hB
              clear hJ hM hR hC hS hD hO hB
              obtain ⟨d0, d1, d2, _, _, _⟩ := HO.out.cells
              by_cases hlt : q < i
              · have a2 : (q : Int) < (i : Int) := by omega
                obtain ⟨c0, c1, c2, f0, f1, f2⟩ := HR.out.cellsR q (by rw [HM.out]; omega)
                obtain ⟨X, hX⟩ : ∃ X, M[q]'(by rw [HM.out]; omega) = X := ⟨_, rfl⟩
                rw [hX] at c0 c1 c2
                have HRn : Hid (R EO (setR wr N1 q mk) (.slice (some ⟨N1, 0, none⟩) i i) (M.set q mk)) := HR.out.setR q (by rw [HM.out]; omega) mk
                have HCn : Hid (R EO (setR wr N1 q mk) (.slice (some ⟨N2, 0, none⟩) i i) l) := HC.out.stays fun k h1 h2 => setR_other _ _ _ _ _ (by
                  simp only [Value.ownBlock, Option.some.injEq] at h1
                  have := HNN.out
                  omega)
                have HMn : Hid ((M.set q mk).length = i) := by show _ = _; rw [List.length_set]; exact HM.out
                have HSn : Hid (Se (setR wr N1 q mk) lo P1 Q1 l) := HS.out.keep2 fun k h1 => setR_other _ _ _ _ _ (by
                  have := HLt.out.2.1
                  have := HLt.out.2.2.1
                  omega)
                have HDn : Hid (Sd (setR wr N1 q mk) pd vd l) := HD.out.keep fun k h1 h2 => setR_other _ _ _ _ _ (by
                  rcases h1 with h1 | h1
                  · have := HLt.out.2.2.2.1
                    omega
                  · have := HLt.out.2.2.2.2.2 k h1
                    omega)
                have HOn : Hid (OB (setR wr N1 q mk) gm mk) := HO.out.keep (setR_other _ _ _ _ _ (by have := HLt.out.2.2.2.2.1; omega))
                have HBn : Hid (Below w.heap.size w (setR wr N1 q mk)) := setR_below HB.out HLt.out.1
                unfold setR at HRn HCn HSn HDn HOn HBn
                clear hX
                go_wp2_with fail
                go_roundw
                case rel => exact ⟨q + 1, by simp, by omega, M.set q mk, HMn.out, HRn.out, HCn.out, HSn.out, HDn.out, HOn.out, HBn.out⟩
                case measure => first | (simp [intOf]; done) | (simp [intOf]; omega)
              · obtain rfl : i = q := by omega
                have a2 : ¬ (i : Int) < (i : Int) := by omega
                obtain ⟨b9, c9, w9, e9, _, g9⟩ := app okO (wr.alloc (.cells #[.string mk.s, .string mk.h, .int .i64 mk.p] 23)) (.slice (some ⟨N1, 0, none⟩) i i) M (R.below HR.out (bel1 _ _)) (.slice (some ⟨wr.heap.size, 0, none⟩) 1 1) [mk] (in_one (x := mk) _ _ #[.string mk.s, .string mk.h, .int .i64 mk.p] 23 (0, 0) (by rw [heap_al, if_pos rfl]) rfl) (by have := HM.out; simp only [EO, List.length_singleton]; omega)
                have el : M.length + [mk].length = i + 1 := by rw [HM.out]; rfl
                rw [el] at e9 g9
                have HKp : Hid (∀ k, k < wr.heap.size → k ≠ N1 → w9.heap[k]? = wr.heap[k]?) := fun k hk hne => (g9.block k (by rw [size_al]; omega) (fun e => by simp only [Value.ownBlock, Option.some.injEq] at e; exact hne e.symm)).trans ((bel1 _ _).block k hk)
                have HC9 : Hid (R EO w9 (.slice (some ⟨N2, 0, none⟩) i i) l) := HC.out.stays fun k h1 h2 => HKp.out k h2 (by
                  simp only [Value.ownBlock, Option.some.injEq] at h1
                  have := HNN.out
                  omega)
                have HS9 : Hid (Se w9 lo P1 Q1 l) := HS.out.keep2 fun k h1 => HKp.out k (by
                  have := HS.out.lt.1
                  have := HS.out.lt.2
                  omega) (by
                  have := HLt.out.2.1
                  have := HLt.out.2.2.1
                  omega)
                have HD9 : Hid (Sd w9 pd vd l) := HD.out.keep fun k h1 h2 => HKp.out k h2 (by
                  rcases h1 with h1 | h1
                  · have := HLt.out.2.2.2.1
                    omega
                  · have := HLt.out.2.2.2.2.2 k h1
                    omega)
                have HB9 : Hid (Below w.heap.size w w9) := HB.out.trans (((bel1 _ _).mono HB.out.size).trans (g9.belowB (by rw [size_al]; have := HB.out.size; omega) (fun k hk => by simp only [Value.ownBlock, Option.some.injEq] at hk; have := HLt.out.1; omega)))
                have HI9 : Hid (In EO w9 (.slice x1 i x3) l) := HI.out.below HB9.out
                replace e9 : Hid _ := e9
                clear g9 el HKp HM HR HC HS HD HO HB hlt hq
                go_wp2_with (at_builtin; refine Lib.wpList_append_run _ rfl _ _ _ _ rfl _ _ rfl rfl _ _ e9.out ?_)
                clear e9 d0 d1 d2
                go_at_call 20
                refine (same_eq (some ⟨N2, 0, none⟩, i, i) (x1, i, x3) l _ HC9.out.isIn HI9.out).mono ?_
                rintro e Y1 ⟨rfl, b1⟩
                have HSy : Hid (Se Y1 lo P1 Q1 l) := HS9.out.below b1
                have HDy : Hid (Sd Y1 pd vd l) := HD9.out.below b1
                have HBy : Hid (Below w.heap.size w Y1) := HB9.out.trans (b1.mono HB9.out.size)
                clear b1 HS9 HD9 HB9 HC9 HI9
                go_wp2_with fail
                go_at_call 16
                refine (list_any _ _ _ _ _ HSy.out).mono ?_
                rintro e Y2 ⟨N3, rfl, hr3, hN3, b2⟩
                rw [HN.out] at hr3 ⊢
                have HC2 : Hid (R EO Y2 (.slice (some ⟨N3, 0, none⟩) i i) l) := hr3
                have HS2 : Hid (Se Y2 lo P1 Q1 l) := HSy.out.below b2
                have HD2 : Hid (Sd Y2 pd vd l) := HDy.out.below b2
                have HB2' : Hid (Below w.heap.size w Y2) := HBy.out.trans (b2.mono HBy.out.size)
                have HI2 : Hid (In EO Y2 (.slice x1 i x3) l) := HI.out.below HB2'.out
                clear b2 hr3 hN3 HSy HDy HBy
                go_wp2_with fail
                go_at_call 20
                refine (same_eq (some ⟨N3, 0, none⟩, i, i) (x1, i, x3) l _ HC2.out.isIn HI2.out).mono ?_
                rintro e Y3 ⟨rfl, b3⟩
                have HSz : Hid (Se Y3 lo P1 Q1 l) := HS2.out.below b3
                have HDz : Hid (Sd Y3 pd vd l) := HD2.out.below b3
                have HBz : Hid (Below w.heap.size w Y3) := HB2'.out.trans (b3.mono HB2'.out.size)
                clear b3 HS2 HD2 HB2' HC2 HI2
                go_wp2_with fail
                go_loopw [17] (fun iv wr => ∃ q : Nat, iv = .int .i64 (q : Int) ∧ q ≤ na ∧ Hid (Se wr lo P1 Q1 l ∧ Sd wr pd vd l ∧ Below w.heap.size w wr)) (fun iv _ => na - (intOf iv).toNat)
                case atStart => exact ⟨0, rfl, by omega, HSz.out, HDz.out, HBz.out⟩
                case round =>
                  obtain ⟨q, rfl, hq, hJ⟩ := hrel
                  by_cases hlt : q < na
                  · have a3 : (q : Int) < (na : Int) := by omega
                    have HqL : Hid (q < aS.length) := by rw [HNA.out]; exact hlt
                    obtain ⟨Ba, off, cap, e, hBa, hc⟩ := HA.out.ea q HqL.out
                    injection e with e1 e2 e3
                    clear e2 e3
                    subst e1
                    obtain ⟨a, ha⟩ : ∃ a, aS[q]'HqL.out = a := ⟨_, rfl⟩
                    rw [ha] at hc
                    obtain ⟨sc, au⟩ := a
                    simp only at hc
                    have HC : Hid (∀ W, Below w.heap.size w W → W.cell? ⟨Ba, off + q * 2, none⟩ = some (.string sc) ∧ W.cell? ⟨Ba, off + q * 2 + 1, none⟩ = some (.string au)) := hc
                    have HAu : Hid (au.size ≤ 140737488351232) := HZA.out (sc, au) (by rw [← ha]; exact List.getElem_mem _)
                    have HJB : Hid (Below w.heap.size w wr) := hJ.out.2.2
                    obtain ⟨β, hβ⟩ : ∃ β, hsB l sc au = β := ⟨_, rfl⟩
                    have HH1 : Hid (∀ V, Below wr.heap.size wr V → Calls Tryd.prog 15 #[.pointer (some ⟨P1, 0, none⟩), .string sc, .string au] V fun e w' => e = .returned (.bool β) ∧ Below V.heap.size V w') := fun V hV => by
                      rw [← hβ]
                      exact has_any lo P1 Q1 l sc au V (HE.out.below (HJB.out.trans (hV.mono HJB.out.size))) (hJ.out.1.below hV) (by have := HAu.out; omega)
                    have HH2 : Hid (∀ V, Below wr.heap.size wr V → Calls Tryd.prog 21 #[.pointer (some ⟨pd, 0, none⟩), .string sc, .string au] V fun e w' => e = .returned (.bool β) ∧ Below V.heap.size V w') := fun V hV => by
                      rw [← hβ]
                      exact rhas_any pd vd l sc au V (hJ.out.2.1.below hV) (by rw [HN.out]; exact hn16) HAu.out
                    have HJ : Hid (Se wr lo P1 Q1 l ∧ Sd wr pd vd l) := ⟨hJ.out.1, hJ.out.2.1⟩
                    clear hc ha hβ hJ
                    go_wp2_with fail
                    have hS30 : Hid (∀ V, Below wr.heap.size wr V → V.cell? ⟨Ba, off + q * 2, none⟩ = some (.string sc) ∧ V.cell? ⟨Ba, off + q * 2 + 1, none⟩ = some (.string au)) := fun V hV => HC.out V (HJB.out.trans (hV.mono HJB.out.size))
                    have hIW : Below wr.heap.size wr wr.drew := (Below.refl _ _).drew
                    refine wp_region_held_drew (S := fun V => V.cell? ⟨Ba, off + q * 2, none⟩ = some (.string sc) ∧ V.cell? ⟨Ba, off + q * 2 + 1, none⟩ = some (.string au)) (by kernel_rfl) (hS30.out _ hIW) (fun hHeld => ?_)
                    generalize hWg : World.drew _ = W at hIW hHeld ⊢
                    clear hWg
                    refine wpAnyH_take (i := 0) (oi := { dst := some 131, op := Op.move (Operand.tmp 8), type := 36, pos := "law.go:86", after := #[], guard := none }) (v := ?vv30) rfl (by kernel_rfl) (by kernel_rfl) (by kernel_rfl) (fun _ _ _ h => h) (Or.inl ⟨by rfl, ?hy30⟩) (by assumption) ?_
                    case hy30 => (intro w hSw; (try dsimp only at hSw); go_simp; all_goals with_reducible rfl)
                    try simp only [Act.put, List.setIfInBounds_toArray, List.set_cons_zero, List.set_cons_succ]
                    refine wpAnyH_take (i := 1) (oi := { dst := some 132, op := Op.move (Operand.tmp 1), type := 45, pos := "law.go:86", after := #[], guard := none }) (v := ?vv31) rfl (by kernel_rfl) (by kernel_rfl) (by kernel_rfl) (fun _ _ _ h => h) (Or.inl ⟨by rfl, ?hy31⟩) (by assumption) ?_
                    case hy31 => (intro w hSw; (try dsimp only at hSw); go_simp; all_goals with_reducible rfl)
                    try simp only [Act.put, List.setIfInBounds_toArray, List.set_cons_zero, List.set_cons_succ]
                    refine wpAnyH_take (i := 2) (oi := { dst := some 133, op := Op.move (Operand.tmp 17), type := 3, pos := "law.go:86", after := #[], guard := none }) (v := ?vv32) rfl (by kernel_rfl) (by kernel_rfl) (by kernel_rfl) (fun _ _ _ h => h) (Or.inl ⟨by rfl, ?hy32⟩) (by assumption) ?_
                    case hy32 => (intro w hSw; (try dsimp only at hSw); go_simp; all_goals with_reducible rfl)
                    try simp only [Act.put, List.setIfInBounds_toArray, List.set_cons_zero, List.set_cons_succ]
                    refine wpAnyH_take (i := 3) (oi := { dst := some 134, op := Op.indexAddr 45 (Operand.tmp 132) (Operand.tmp 133), type := 0, pos := "law.go:86", after := #[{ on := 1, ground := Ground.data }, { on := 2, ground := Ground.data }], guard := none }) (v := ?vv33) rfl (by kernel_rfl) (by kernel_rfl) (by kernel_rfl) (fun _ _ _ h => h) (Or.inl ⟨by rfl, ?hy33⟩) (by assumption) ?_
                    case hy33 => (intro w hSw; (try dsimp only at hSw); go_simp; all_goals with_reducible rfl)
                    try simp only [Act.put, List.setIfInBounds_toArray, List.set_cons_zero, List.set_cons_succ]
                    refine wpAnyH_take (i := 4) (oi := { dst := some 135, op := Op.fieldAddr 51 (Operand.tmp 134) 0, type := 0, pos := "law.go:86", after := #[{ on := 3, ground := Ground.data }], guard := none }) (v := ?vv34) rfl (by kernel_rfl) (by kernel_rfl) (by kernel_rfl) (fun _ _ _ h => h) (Or.inl ⟨by rfl, ?hy34⟩) (by assumption) ?_
                    case hy34 => (intro w hSw; (try dsimp only at hSw); go_simp; all_goals with_reducible rfl)
                    try simp only [Act.put, List.setIfInBounds_toArray, List.set_cons_zero, List.set_cons_succ]
                    refine wpAnyH_take (i := 5) (oi := { dst := some 136, op := Op.load 9 (Operand.tmp 135), type := 9, pos := "law.go:86", after := #[{ on := 4, ground := Ground.data }], guard := none }) (v := ?vv35) rfl (by kernel_rfl) (by kernel_rfl) (by kernel_rfl) (fun _ _ _ h => h) (Or.inl ⟨by rfl, ?hy35⟩) (by assumption) ?_
                    case hy35 => (intro w hSw; (try dsimp only at hSw); go_simp; all_goals with_reducible rfl)
                    try simp only [Act.put, List.setIfInBounds_toArray, List.set_cons_zero, List.set_cons_succ]
                    refine wpAnyH_take (i := 6) (oi := { dst := some 137, op := Op.move (Operand.tmp 1), type := 45, pos := "law.go:86", after := #[], guard := none }) (v := ?vv36) rfl (by kernel_rfl) (by kernel_rfl) (by kernel_rfl) (fun _ _ _ h => h) (Or.inl ⟨by rfl, ?hy36⟩) (by assumption) ?_
                    case hy36 => (intro w hSw; (try dsimp only at hSw); go_simp; all_goals with_reducible rfl)
                    try simp only [Act.put, List.setIfInBounds_toArray, List.set_cons_zero, List.set_cons_succ]
                    refine wpAnyH_take (i := 7) (oi := { dst := some 138, op := Op.move (Operand.tmp 17), type := 3, pos := "law.go:86", after := #[], guard := none }) (v := ?vv37) rfl (by kernel_rfl) (by kernel_rfl) (by kernel_rfl) (fun _ _ _ h => h) (Or.inl ⟨by rfl, ?hy37⟩) (by assumption) ?_
                    case hy37 => (intro w hSw; (try dsimp only at hSw); go_simp; all_goals with_reducible rfl)
                    try simp only [Act.put, List.setIfInBounds_toArray, List.set_cons_zero, List.set_cons_succ]
                    refine wpAnyH_take (i := 8) (oi := { dst := some 139, op := Op.indexAddr 45 (Operand.tmp 137) (Operand.tmp 138), type := 0, pos := "law.go:86", after := #[{ on := 6, ground := Ground.data }, { on := 7, ground := Ground.data }], guard := none }) (v := ?vv38) rfl (by kernel_rfl) (by kernel_rfl) (by kernel_rfl) (fun _ _ _ h => h) (Or.inl ⟨by rfl, ?hy38⟩) (by assumption) ?_
                    case hy38 => (intro w hSw; (try dsimp only at hSw); go_simp; all_goals with_reducible rfl)
                    try simp only [Act.put, List.setIfInBounds_toArray, List.set_cons_zero, List.set_cons_succ]
                    refine wpAnyH_take (i := 9) (oi := { dst := some 140, op := Op.fieldAddr 51 (Operand.tmp 139) 1, type := 0, pos := "law.go:86", after := #[{ on := 8, ground := Ground.data }], guard := none }) (v := ?vv39) rfl (by kernel_rfl) (by kernel_rfl) (by kernel_rfl) (fun _ _ _ h => h) (Or.inl ⟨by rfl, ?hy39⟩) (by assumption) ?_
                    case hy39 => (intro w hSw; (try dsimp only at hSw); go_simp; all_goals with_reducible rfl)
                    try simp only [Act.put, List.setIfInBounds_toArray, List.set_cons_zero, List.set_cons_succ]
                    refine wpAnyH_take (i := 10) (oi := { dst := some 141, op := Op.load 9 (Operand.tmp 140), type := 9, pos := "law.go:86", after := #[{ on := 9, ground := Ground.data }], guard := none }) (v := ?vv40) rfl (by kernel_rfl) (by kernel_rfl) (by kernel_rfl) (fun _ _ _ h => h) (Or.inl ⟨by rfl, ?hy40⟩) (by assumption) ?_
                    case hy40 => (intro w hSw; (try dsimp only at hSw); go_simp; all_goals with_reducible rfl)
                    try simp only [Act.put, List.setIfInBounds_toArray, List.set_cons_zero, List.set_cons_succ]
                    refine wpAnyH_take (i := 12) (oi := { dst := some 143, op := Op.move (Operand.tmp 10), type := 46, pos := "law.go:86", after := #[], guard := none }) (v := ?vv41) rfl (by kernel_rfl) (by kernel_rfl) (by kernel_rfl) (fun _ _ _ h => h) (Or.inl ⟨by rfl, ?hy41⟩) (by assumption) ?_
                    case hy41 => (intro w hSw; (try dsimp only at hSw); go_simp; all_goals with_reducible rfl)
                    try simp only [Act.put, List.setIfInBounds_toArray, List.set_cons_zero, List.set_cons_succ]
                    refine wpAnyH_take (i := 13) (oi := { dst := some 144, op := Op.move (Operand.tmp 1), type := 45, pos := "law.go:86", after := #[], guard := none }) (v := ?vv42) rfl (by kernel_rfl) (by kernel_rfl) (by kernel_rfl) (fun _ _ _ h => h) (Or.inl ⟨by rfl, ?hy42⟩) (by assumption) ?_
                    case hy42 => (intro w hSw; (try dsimp only at hSw); go_simp; all_goals with_reducible rfl)
                    try simp only [Act.put, List.setIfInBounds_toArray, List.set_cons_zero, List.set_cons_succ]
                    refine wpAnyH_take (i := 14) (oi := { dst := some 145, op := Op.move (Operand.tmp 17), type := 3, pos := "law.go:86", after := #[], guard := none }) (v := ?vv43) rfl (by kernel_rfl) (by kernel_rfl) (by kernel_rfl) (fun _ _ _ h => h) (Or.inl ⟨by rfl, ?hy43⟩) (by assumption) ?_
                    case hy43 => (intro w hSw; (try dsimp only at hSw); go_simp; all_goals with_reducible rfl)
                    try simp only [Act.put, List.setIfInBounds_toArray, List.set_cons_zero, List.set_cons_succ]
                    refine wpAnyH_take (i := 15) (oi := { dst := some 146, op := Op.indexAddr 45 (Operand.tmp 144) (Operand.tmp 145), type := 0, pos := "law.go:86", after := #[{ on := 13, ground := Ground.data }, { on := 14, ground := Ground.data }], guard := none }) (v := ?vv44) rfl (by kernel_rfl) (by kernel_rfl) (by kernel_rfl) (fun _ _ _ h => h) (Or.inl ⟨by rfl, ?hy44⟩) (by assumption) ?_
                    case hy44 => (intro w hSw; (try dsimp only at hSw); go_simp; all_goals with_reducible rfl)
                    try simp only [Act.put, List.setIfInBounds_toArray, List.set_cons_zero, List.set_cons_succ]
                    refine wpAnyH_take (i := 16) (oi := { dst := some 147, op := Op.fieldAddr 51 (Operand.tmp 146) 0, type := 0, pos := "law.go:86", after := #[{ on := 15, ground := Ground.data }], guard := none }) (v := ?vv45) rfl (by kernel_rfl) (by kernel_rfl) (by kernel_rfl) (fun _ _ _ h => h) (Or.inl ⟨by rfl, ?hy45⟩) (by assumption) ?_
                    case hy45 => (intro w hSw; (try dsimp only at hSw); go_simp; all_goals with_reducible rfl)
                    try simp only [Act.put, List.setIfInBounds_toArray, List.set_cons_zero, List.set_cons_succ]
                    refine wpAnyH_take (i := 17) (oi := { dst := some 148, op := Op.load 9 (Operand.tmp 147), type := 9, pos := "law.go:86", after := #[{ on := 16, ground := Ground.data }], guard := none }) (v := ?vv46) rfl (by kernel_rfl) (by kernel_rfl) (by kernel_rfl) (fun _ _ _ h => h) (Or.inl ⟨by rfl, ?hy46⟩) (by assumption) ?_
                    case hy46 => (intro w hSw; (try dsimp only at hSw); go_simp; all_goals with_reducible rfl)
                    try simp only [Act.put, List.setIfInBounds_toArray, List.set_cons_zero, List.set_cons_succ]
                    refine wpAnyH_take (i := 18) (oi := { dst := some 149, op := Op.move (Operand.tmp 1), type := 45, pos := "law.go:86", after := #[], guard := none }) (v := ?vv47) rfl (by kernel_rfl) (by kernel_rfl) (by kernel_rfl) (fun _ _ _ h => h) (Or.inl ⟨by rfl, ?hy47⟩) (by assumption) ?_
                    case hy47 => (intro w hSw; (try dsimp only at hSw); go_simp; all_goals with_reducible rfl)
                    try simp only [Act.put, List.setIfInBounds_toArray, List.set_cons_zero, List.set_cons_succ]
                    refine wpAnyH_take (i := 19) (oi := { dst := some 150, op := Op.move (Operand.tmp 17), type := 3, pos := "law.go:86", after := #[], guard := none }) (v := ?vv48) rfl (by kernel_rfl) (by kernel_rfl) (by kernel_rfl) (fun _ _ _ h => h) (Or.inl ⟨by rfl, ?hy48⟩) (by assumption) ?_
                    case hy48 => (intro w hSw; (try dsimp only at hSw); go_simp; all_goals with_reducible rfl)
                    try simp only [Act.put, List.setIfInBounds_toArray, List.set_cons_zero, List.set_cons_succ]
                    refine wpAnyH_take (i := 20) (oi := { dst := some 151, op := Op.indexAddr 45 (Operand.tmp 149) (Operand.tmp 150), type := 0, pos := "law.go:86", after := #[{ on := 18, ground := Ground.data }, { on := 19, ground := Ground.data }], guard := none }) (v := ?vv49) rfl (by kernel_rfl) (by kernel_rfl) (by kernel_rfl) (fun _ _ _ h => h) (Or.inl ⟨by rfl, ?hy49⟩) (by assumption) ?_
                    case hy49 => (intro w hSw; (try dsimp only at hSw); go_simp; all_goals with_reducible rfl)
                    try simp only [Act.put, List.setIfInBounds_toArray, List.set_cons_zero, List.set_cons_succ]
                    refine wpAnyH_take (i := 21) (oi := { dst := some 152, op := Op.fieldAddr 51 (Operand.tmp 151) 1, type := 0, pos := "law.go:86", after := #[{ on := 20, ground := Ground.data }], guard := none }) (v := ?vv50) rfl (by kernel_rfl) (by kernel_rfl) (by kernel_rfl) (fun _ _ _ h => h) (Or.inl ⟨by rfl, ?hy50⟩) (by assumption) ?_
                    case hy50 => (intro w hSw; (try dsimp only at hSw); go_simp; all_goals with_reducible rfl)
                    try simp only [Act.put, List.setIfInBounds_toArray, List.set_cons_zero, List.set_cons_succ]
                    refine wpAnyH_take (i := 22) (oi := { dst := some 153, op := Op.load 9 (Operand.tmp 152), type := 9, pos := "law.go:86", after := #[{ on := 21, ground := Ground.data }], guard := none }) (v := ?vv51) rfl (by kernel_rfl) (by kernel_rfl) (by kernel_rfl) (fun _ _ _ h => h) (Or.inl ⟨by rfl, ?hy51⟩) (by assumption) ?_
                    case hy51 => (intro w hSw; (try dsimp only at hSw); go_simp; all_goals with_reducible rfl)
                    try simp only [Act.put, List.setIfInBounds_toArray, List.set_cons_zero, List.set_cons_succ]
                    refine wpAnyH_ready (rs := [11]) (by kernel_rfl) (by simp) ?_
                    refine AllReadyH.cons (o := { dst := some 142, op := Op.call { callee := Callee.value (Operand.func 15), args := #[Operand.tmp 131, Operand.tmp 136, Operand.tmp 141], argTypes := #[36, 9, 9] }, type := 4, pos := "law.go:86", after := #[{ on := 0, ground := Ground.data }, { on := 5, ground := Ground.data }, { on := 10, ground := Ground.data }], guard := none }) rfl (fun K hK => ?_) AllReadyH.nil
                    go_simp
                    refine (HH1.out _ hIW).mono ?_
                    rintro e' Wx ⟨rfl, bX⟩
                    have hWx : Below wr.heap.size wr Wx := hIW.trans (bX.mono hIW.size)
                    clear bX
                    go_wp2_with fail
                    refine hK.out _ _ (hS30.out _ hWx) (fun hHeld => ?_)
                    clear hK K
                    try simp only [Act.put, List.setIfInBounds_toArray, List.set_cons_zero, List.set_cons_succ]
                    refine wpAnyH_ready (rs := [23]) (by kernel_rfl) (by simp) ?_
                    refine AllReadyH.cons (o := { dst := some 154, op := Op.call { callee := Callee.value (Operand.func 21), args := #[Operand.tmp 143, Operand.tmp 148, Operand.tmp 153], argTypes := #[46, 9, 9] }, type := 4, pos := "law.go:86", after := #[{ on := 12, ground := Ground.data }, { on := 17, ground := Ground.data }, { on := 22, ground := Ground.data }, { on := 11, ground := Ground.chain }], guard := none }) rfl (fun K hK => ?_) AllReadyH.nil
                    go_simp
                    refine (HH2.out _ hWx).mono ?_
                    rintro e' Wxx ⟨rfl, bX⟩
                    have hWxx : Below wr.heap.size wr Wxx := hWx.trans (bX.mono hWx.size)
                    clear bX
                    go_wp2_with fail
                    refine hK.out _ _ (hS30.out _ hWxx) (fun hHeld => ?_)
                    clear hK K
                    try simp only [Act.put, List.setIfInBounds_toArray, List.set_cons_zero, List.set_cons_succ]
                    refine wpAnyH_take (i := 24) (oi := { dst := some 155, op := Op.binOp BinOp.neq 4 (Operand.tmp 142) (Operand.tmp 154) 4, type := 4, pos := "law.go:86", after := #[{ on := 11, ground := Ground.data }, { on := 23, ground := Ground.data }], guard := none }) (v := ?vv52) rfl (by kernel_rfl) (by kernel_rfl) (by kernel_rfl) (fun _ _ _ h => h) (Or.inl ⟨by rfl, ?hy52⟩) (by assumption) ?_
                    case hy52 => (intro w hSw; (try dsimp only at hSw); go_simp; all_goals with_reducible rfl)
                    try simp only [Act.put, List.setIfInBounds_toArray, List.set_cons_zero, List.set_cons_succ]
                    refine wpAnyH_done (by kernel_rfl) ?_ _
                    have HJn : Hid (Se Wxx lo P1 Q1 l ∧ Sd Wxx pd vd l ∧ Below w.heap.size w Wxx) := ⟨HJ.out.1.below hWxx, HJ.out.2.below hWxx, HJB.out.trans (hWxx.mono HJB.out.size)⟩
                    clear hHeld hS30 hWxx hIW
                    go_wp2_with fail
                    go_roundw
                    case rel => exact ⟨q + 1, by simp, by omega, HJn.out⟩
                    case measure => first | (simp [intOf]; done) | (simp [intOf]; omega)
                  · obtain rfl : na = q := by omega
                    have a3 : ¬ (na : Int) < (na : Int) := by omega
                    have HJB : Hid (Below w.heap.size w wr) := hJ.out.2.2
                    clear hJ
                    go_wp2_with fail
                    go_ret
                    exact ⟨by first | rfl | simp, HJB.out⟩
      · exact absurd HZ0.out h6
    · have HZ0 : Hid (ofE l ≠ 0) := hz0
      clear HY5 hz0
      obtain ⟨ε, hε⟩ : ∃ ε, ofE l = ε := ⟨_, rfl⟩
      rw [hε]
      go_wp2_with fail
      go_at_call 19
      refine HRo.out.mono ?_
      rintro e X2 ⟨b2, h6⟩
      rcases h6 with ⟨h6, _⟩ | ⟨_, rfl⟩
      · exact absurd h6 HZ0.out
      · rw [hε]
        have HB2 : Hid (Below w.heap.size w X2) := HB1.out.trans (b2.mono HB1.out.size)
        have HR2 : Hid (R EO X2 (.slice (some ⟨B, 0, none⟩) (n + 1) c5) (l ++ [mk])) := HR1.out.below b2
        have HO2 : Hid (OB X2 gm mk) := HO1.out.below b2
        have HI2 : Hid (In EO X2 (.slice x1 n x3) l) := HI.out.below HB2.out
        clear b2 hε HR1 HO1 HB1 HRo HBX
        go_wp2_with fail
        have hnq := neq_og mk mk
        rw [ogD_self] at hnq
        simp only [Bool.not_true] at hnq
        have hnl : (n : Int) < (n : Int) + 1 := by omega
        have hS8 : Hid (∀ V, Below X2.heap.size X2 V → V.cell? ⟨gm, 0, none⟩ = some (.string mk.s) ∧ V.cell? ⟨gm, 1, none⟩ = some (.string mk.h) ∧ V.cell? ⟨gm, 2, none⟩ = some (.int .i64 mk.p) ∧ V.cell? ⟨B, n * 3, none⟩ = some (.string mk.s) ∧ V.cell? ⟨B, n * 3 + 1, none⟩ = some (.string mk.h) ∧ V.cell? ⟨B, n * 3 + 2, none⟩ = some (.int .i64 mk.p)) := fun V hV => ⟨(HO2.out.below hV).cells.c0, (HO2.out.below hV).cells.c1, (HO2.out.below hV).cells.c2, (mk_at HN.out (HR2.out.below hV)).1, (mk_at HN.out (HR2.out.below hV)).2.1, (mk_at HN.out (HR2.out.below hV)).2.2⟩
        have hIW : Below X2.heap.size X2 X2.drew := (Below.refl _ _).drew
        refine wp_region_held_drew (S := fun V => V.cell? ⟨gm, 0, none⟩ = some (.string mk.s) ∧ V.cell? ⟨gm, 1, none⟩ = some (.string mk.h) ∧ V.cell? ⟨gm, 2, none⟩ = some (.int .i64 mk.p) ∧ V.cell? ⟨B, n * 3, none⟩ = some (.string mk.s) ∧ V.cell? ⟨B, n * 3 + 1, none⟩ = some (.string mk.h) ∧ V.cell? ⟨B, n * 3 + 2, none⟩ = some (.int .i64 mk.p)) (by kernel_rfl) (hS8.out _ hIW) (fun hHeld => ?_)
        generalize hWg : World.drew _ = W at hIW hHeld ⊢
        clear hWg
        refine wpAnyH_take (i := 0) (oi := { dst := some 41, op := Op.move (Operand.tmp 9), type := 27, pos := "law.go:64", after := #[], guard := none }) (v := ?vv53) rfl (by kernel_rfl) (by kernel_rfl) (by kernel_rfl) (fun _ _ _ h => h) (Or.inl ⟨by rfl, ?hy53⟩) (by assumption) ?_
        case hy53 => (intro w hSw; (try dsimp only at hSw); go_simp; all_goals with_reducible rfl)
        try simp only [Act.put, List.setIfInBounds_toArray, List.set_cons_zero, List.set_cons_succ]
        refine wpAnyH_take (i := 1) (oi := { dst := some 42, op := Op.move (Operand.tmp 11), type := 27, pos := "law.go:64", after := #[], guard := none }) (v := ?vv54) rfl (by kernel_rfl) (by kernel_rfl) (by kernel_rfl) (fun _ _ _ h => h) (Or.inl ⟨by rfl, ?hy54⟩) (by assumption) ?_
        case hy54 => (intro w hSw; (try dsimp only at hSw); go_simp; all_goals with_reducible rfl)
        try simp only [Act.put, List.setIfInBounds_toArray, List.set_cons_zero, List.set_cons_succ]
        refine wpAnyH_take (i := 2) (oi := { dst := some 43, op := Op.binOp BinOp.neq 27 (Operand.tmp 41) (Operand.tmp 42) 27, type := 4, pos := "law.go:64", after := #[{ on := 0, ground := Ground.data }, { on := 1, ground := Ground.data }], guard := none }) (v := ?vv55) rfl (by kernel_rfl) (by kernel_rfl) (by kernel_rfl) (fun _ _ _ h => h) (Or.inl ⟨by rfl, ?hy55⟩) (by assumption) ?_
        case hy55 => (intro w hSw; (try dsimp only at hSw); go_simp; all_goals with_reducible rfl)
        try simp only [Act.put, List.setIfInBounds_toArray, List.set_cons_zero, List.set_cons_succ]
        refine wpAnyH_take (i := 3) (oi := { dst := some 44, op := Op.move (Operand.tmp 43), type := 4, pos := "law.go:64", after := #[{ on := 2, ground := Ground.data }], guard := none }) (v := ?vv56) rfl (by kernel_rfl) (by kernel_rfl) (by kernel_rfl) (fun _ _ _ h => h) (Or.inl ⟨by rfl, ?hy56⟩) (by assumption) ?_
        case hy56 => (intro w hSw; (try dsimp only at hSw); go_simp; all_goals with_reducible rfl)
        try simp only [Act.put, List.setIfInBounds_toArray, List.set_cons_zero, List.set_cons_succ]
        refine wpAnyH_take (i := 4) (oi := { dst := some 45, op := Op.move (Operand.tmp 8), type := 36, pos := "law.go:64", after := #[{ on := 3, ground := Ground.guard }], guard := some (3, false) }) (v := ?vv57) rfl (by kernel_rfl) (by kernel_rfl) (by kernel_rfl) (fun _ _ _ h => h) (Or.inl ⟨by rfl, ?hy57⟩) (by assumption) ?_
        case hy57 => (intro w hSw; (try dsimp only at hSw); go_simp; all_goals with_reducible rfl)
        try simp only [Act.put, List.setIfInBounds_toArray, List.set_cons_zero, List.set_cons_succ]
        refine wpAnyH_take (i := 5) (oi := { dst := some 46, op := Op.binOp BinOp.eql 36 (Operand.tmp 45) (Operand.const (Value.pointer none)) 36, type := 4, pos := "law.go:64", after := #[{ on := 4, ground := Ground.data }, { on := 3, ground := Ground.guard }], guard := some (3, false) }) (v := ?vv58) rfl (by kernel_rfl) (by kernel_rfl) (by kernel_rfl) (fun _ _ _ h => h) (Or.inl ⟨by rfl, ?hy58⟩) (by assumption) ?_
        case hy58 => (intro w hSw; (try dsimp only at hSw); go_simp; all_goals with_reducible rfl)
        try simp only [Act.put, List.setIfInBounds_toArray, List.set_cons_zero, List.set_cons_succ]
        refine wpAnyH_take (i := 6) (oi := { dst := some 47, op := Op.move (Operand.tmp 10), type := 46, pos := "law.go:64", after := #[{ on := 3, ground := Ground.guard }], guard := some (3, false) }) (v := ?vv59) rfl (by kernel_rfl) (by kernel_rfl) (by kernel_rfl) (fun _ _ _ h => h) (Or.inl ⟨by rfl, ?hy59⟩) (by assumption) ?_
        case hy59 => (intro w hSw; (try dsimp only at hSw); go_simp; all_goals with_reducible rfl)
        try simp only [Act.put, List.setIfInBounds_toArray, List.set_cons_zero, List.set_cons_succ]
        refine wpAnyH_take (i := 7) (oi := { dst := some 48, op := Op.binOp BinOp.eql 46 (Operand.tmp 47) (Operand.const (Value.pointer none)) 46, type := 4, pos := "law.go:64", after := #[{ on := 6, ground := Ground.data }, { on := 3, ground := Ground.guard }], guard := some (3, false) }) (v := ?vv60) rfl (by kernel_rfl) (by kernel_rfl) (by kernel_rfl) (fun _ _ _ h => h) (Or.inl ⟨by rfl, ?hy60⟩) (by assumption) ?_
        case hy60 => (intro w hSw; (try dsimp only at hSw); go_simp; all_goals with_reducible rfl)
        try simp only [Act.put, List.setIfInBounds_toArray, List.set_cons_zero, List.set_cons_succ]
        refine wpAnyH_take (i := 8) (oi := { dst := some 49, op := Op.binOp BinOp.neq 4 (Operand.tmp 46) (Operand.tmp 48) 4, type := 4, pos := "law.go:64", after := #[{ on := 5, ground := Ground.data }, { on := 7, ground := Ground.data }, { on := 3, ground := Ground.guard }], guard := some (3, false) }) (v := ?vv61) rfl (by kernel_rfl) (by kernel_rfl) (by kernel_rfl) (fun _ _ _ h => h) (Or.inl ⟨by rfl, ?hy61⟩) (by assumption) ?_
        case hy61 => (intro w hSw; (try dsimp only at hSw); go_simp; all_goals with_reducible rfl)
        try simp only [Act.put, List.setIfInBounds_toArray, List.set_cons_zero, List.set_cons_succ]
        refine wpAnyH_take (i := 9) (oi := { dst := some 50, op := Op.pick (Operand.tmp 44) (Operand.const (Value.bool true)) (Operand.tmp 49), type := 4, pos := "law.go:64", after := #[{ on := 3, ground := Ground.data }, { on := 8, ground := Ground.data }], guard := none }) (v := ?vv62) rfl (by kernel_rfl) (by kernel_rfl) (by kernel_rfl) (fun _ _ _ h => h) (Or.inl ⟨by rfl, ?hy62⟩) (by assumption) ?_
        case hy62 => (intro w hSw; (try dsimp only at hSw); go_simp; all_goals with_reducible rfl)
        try simp only [Act.put, List.setIfInBounds_toArray, List.set_cons_zero, List.set_cons_succ]
        refine wpAnyH_take (i := 10) (oi := { dst := some 51, op := Op.move (Operand.tmp 50), type := 4, pos := "law.go:64", after := #[{ on := 9, ground := Ground.data }, { on := 3, ground := Ground.chain }], guard := none }) (v := ?vv63) rfl (by kernel_rfl) (by kernel_rfl) (by kernel_rfl) (fun _ _ _ h => h) (Or.inl ⟨by rfl, ?hy63⟩) (by assumption) ?_
        case hy63 => (intro w hSw; (try dsimp only at hSw); go_simp; all_goals with_reducible rfl)
        try simp only [Act.put, List.setIfInBounds_toArray, List.set_cons_zero, List.set_cons_succ]
        refine wpAnyH_take (i := 11) (oi := { dst := some 52, op := Op.move (Operand.tmp 7), type := 35, pos := "law.go:64", after := #[{ on := 10, ground := Ground.guard }], guard := some (10, false) }) (v := ?vv64) rfl (by kernel_rfl) (by kernel_rfl) (by kernel_rfl) (fun _ _ _ h => h) (Or.inl ⟨by rfl, ?hy64⟩) (by assumption) ?_
        case hy64 => (intro w hSw; (try dsimp only at hSw); go_simp; all_goals with_reducible rfl)
        try simp only [Act.put, List.setIfInBounds_toArray, List.set_cons_zero, List.set_cons_succ]
        refine wpAnyH_take (i := 12) (oi := { dst := some 53, op := Op.move (Operand.tmp 0), type := 35, pos := "law.go:64", after := #[{ on := 10, ground := Ground.guard }], guard := some (10, false) }) (v := ?vv65) rfl (by kernel_rfl) (by kernel_rfl) (by kernel_rfl) (fun _ _ _ h => h) (Or.inl ⟨by rfl, ?hy65⟩) (by assumption) ?_
        case hy65 => (intro w hSw; (try dsimp only at hSw); go_simp; all_goals with_reducible rfl)
        try simp only [Act.put, List.setIfInBounds_toArray, List.set_cons_zero, List.set_cons_succ]
        refine wpAnyH_ready (rs := [13]) (by kernel_rfl) (by simp) ?_
        refine AllReadyH.cons (o := { dst := some 54, op := Op.call { callee := Callee.value (Operand.func 20), args := #[Operand.tmp 52, Operand.tmp 53], argTypes := #[35, 35] }, type := 4, pos := "law.go:64", after := #[{ on := 11, ground := Ground.data }, { on := 12, ground := Ground.data }, { on := 10, ground := Ground.chain }, { on := 10, ground := Ground.guard }], guard := some (10, false) }) rfl (fun K hK => ?_) AllReadyH.nil
        go_simp
        refine (same_eq (some ⟨B, 0, none⟩, n, c5) (x1, n, x3) l _ (own_in HN.out (HR2.out.below hIW)) (HI2.out.below hIW)).mono ?_
        rintro e' Wx ⟨rfl, bX⟩
        have hWx : Below X2.heap.size X2 Wx := hIW.trans (bX.mono hIW.size)
        clear bX
        go_wp2_with fail
        refine hK.out _ _ (hS8.out _ hWx) (fun hHeld => ?_)
        clear hK K
        try simp only [Act.put, List.setIfInBounds_toArray, List.set_cons_zero, List.set_cons_succ]
        refine wpAnyH_take (i := 14) (oi := { dst := some 55, op := Op.unOp UnOp.not 4 (Operand.tmp 54), type := 4, pos := "law.go:64", after := #[{ on := 13, ground := Ground.data }, { on := 10, ground := Ground.guard }], guard := some (10, false) }) (v := ?vv66) rfl (by kernel_rfl) (by kernel_rfl) (by kernel_rfl) (fun _ _ _ h => h) (Or.inl ⟨by rfl, ?hy66⟩) (by assumption) ?_
        case hy66 => (intro w hSw; (try dsimp only at hSw); go_simp; all_goals with_reducible rfl)
        try simp only [Act.put, List.setIfInBounds_toArray, List.set_cons_zero, List.set_cons_succ]
        refine wpAnyH_take (i := 15) (oi := { dst := some 56, op := Op.pick (Operand.tmp 51) (Operand.const (Value.bool true)) (Operand.tmp 55), type := 4, pos := "law.go:64", after := #[{ on := 10, ground := Ground.data }, { on := 14, ground := Ground.data }], guard := none }) (v := ?vv67) rfl (by kernel_rfl) (by kernel_rfl) (by kernel_rfl) (fun _ _ _ h => h) (Or.inl ⟨by rfl, ?hy67⟩) (by assumption) ?_
        case hy67 => (intro w hSw; (try dsimp only at hSw); go_simp; all_goals with_reducible rfl)
        try simp only [Act.put, List.setIfInBounds_toArray, List.set_cons_zero, List.set_cons_succ]
        refine wpAnyH_take (i := 16) (oi := { dst := some 57, op := Op.move (Operand.tmp 56), type := 4, pos := "law.go:64", after := #[{ on := 15, ground := Ground.data }, { on := 13, ground := Ground.chain }], guard := none }) (v := ?vv68) rfl (by kernel_rfl) (by kernel_rfl) (by kernel_rfl) (fun _ _ _ h => h) (Or.inl ⟨by rfl, ?hy68⟩) (by assumption) ?_
        case hy68 => (intro w hSw; (try dsimp only at hSw); go_simp; all_goals with_reducible rfl)
        try simp only [Act.put, List.setIfInBounds_toArray, List.set_cons_zero, List.set_cons_succ]
        refine wpAnyH_take (i := 17) (oi := { dst := some 58, op := Op.move (Operand.tmp 6), type := 35, pos := "law.go:64", after := #[{ on := 16, ground := Ground.guard }], guard := some (16, false) }) (v := ?vv69) rfl (by kernel_rfl) (by kernel_rfl) (by kernel_rfl) (fun _ _ _ h => h) (Or.inl ⟨by rfl, ?hy69⟩) (by assumption) ?_
        case hy69 => (intro w hSw; (try dsimp only at hSw); go_simp; all_goals with_reducible rfl)
        try simp only [Act.put, List.setIfInBounds_toArray, List.set_cons_zero, List.set_cons_succ]
        refine wpAnyH_take (i := 18) (oi := { dst := some 59, op := Op.move (Operand.tmp 0), type := 35, pos := "law.go:64", after := #[{ on := 16, ground := Ground.guard }], guard := some (16, false) }) (v := ?vv70) rfl (by kernel_rfl) (by kernel_rfl) (by kernel_rfl) (fun _ _ _ h => h) (Or.inl ⟨by rfl, ?hy70⟩) (by assumption) ?_
        case hy70 => (intro w hSw; (try dsimp only at hSw); go_simp; all_goals with_reducible rfl)
        try simp only [Act.put, List.setIfInBounds_toArray, List.set_cons_zero, List.set_cons_succ]
        refine wpAnyH_take (i := 19) (oi := { dst := some 60, op := Op.call { callee := Callee.builtin Builtin.len, args := #[Operand.tmp 59], argTypes := #[35] }, type := 3, pos := "law.go:64", after := #[{ on := 18, ground := Ground.data }, { on := 16, ground := Ground.guard }], guard := some (16, false) }) (v := ?vv71) rfl (by kernel_rfl) (by kernel_rfl) (by kernel_rfl) (fun _ _ _ h => h) (Or.inl ⟨by rfl, ?hy71⟩) (by assumption) ?_
        case hy71 => (intro w hSw; (try dsimp only at hSw); go_simp; all_goals with_reducible rfl)
        try simp only [Act.put, List.setIfInBounds_toArray, List.set_cons_zero, List.set_cons_succ]
        refine wpAnyH_take (i := 20) (oi := { dst := some 61, op := Op.indexAddr 35 (Operand.tmp 58) (Operand.tmp 60), type := 0, pos := "law.go:64", after := #[{ on := 17, ground := Ground.data }, { on := 19, ground := Ground.data }, { on := 16, ground := Ground.guard }], guard := some (16, false) }) (v := ?vv72) rfl (by kernel_rfl) (by kernel_rfl) (by kernel_rfl) (fun _ _ _ h => h) (Or.inl ⟨by rfl, ?hy72⟩) (by assumption) ?_
        case hy72 => (intro w hSw; (try dsimp only at hSw); go_simp; all_goals with_reducible rfl)
        try simp only [Act.put, List.setIfInBounds_toArray, List.set_cons_zero, List.set_cons_succ]
        refine wpAnyH_take (i := 21) (oi := { dst := some 62, op := Op.load 23 (Operand.tmp 61), type := 23, pos := "law.go:64", after := #[{ on := 20, ground := Ground.data }, { on := 16, ground := Ground.guard }], guard := some (16, false) }) (v := ?vv73) rfl (by kernel_rfl) (by kernel_rfl) (by kernel_rfl) (fun _ _ _ h => h) (Or.inl ⟨by rfl, ?hy73⟩) (by assumption) ?_
        case hy73 => (intro w hSw; (try dsimp only at hSw); go_simp; all_goals with_reducible rfl)
        try simp only [Act.put, List.setIfInBounds_toArray, List.set_cons_zero, List.set_cons_succ]
        refine wpAnyH_take (i := 22) (oi := { dst := some 63, op := Op.load 23 (Operand.tmp 5), type := 23, pos := "law.go:64", after := #[{ on := 16, ground := Ground.guard }], guard := some (16, false) }) (v := ?vv74) rfl (by kernel_rfl) (by kernel_rfl) (by kernel_rfl) (fun _ _ _ h => h) (Or.inl ⟨by rfl, ?hy74⟩) (by assumption) ?_
        case hy74 => (intro w hSw; (try dsimp only at hSw); go_simp; all_goals with_reducible rfl)
        try simp only [Act.put, List.setIfInBounds_toArray, List.set_cons_zero, List.set_cons_succ]
        refine wpAnyH_take (i := 23) (oi := { dst := some 64, op := Op.binOp BinOp.neq 23 (Operand.tmp 62) (Operand.tmp 63) 23, type := 4, pos := "law.go:64", after := #[{ on := 21, ground := Ground.data }, { on := 22, ground := Ground.data }, { on := 16, ground := Ground.guard }], guard := some (16, false) }) (v := ?vv75) rfl (by kernel_rfl) (by kernel_rfl) (by kernel_rfl) (fun _ _ _ h => h) (Or.inl ⟨by rfl, ?hy75⟩) (by assumption) ?_
        case hy75 => (intro w hSw; (try dsimp only at hSw); go_simp; all_goals with_reducible rfl)
        try simp only [Act.put, List.setIfInBounds_toArray, List.set_cons_zero, List.set_cons_succ]
        refine wpAnyH_take (i := 24) (oi := { dst := some 65, op := Op.pick (Operand.tmp 57) (Operand.const (Value.bool true)) (Operand.tmp 64), type := 4, pos := "law.go:64", after := #[{ on := 16, ground := Ground.data }, { on := 23, ground := Ground.data }], guard := none }) (v := ?vv76) rfl (by kernel_rfl) (by kernel_rfl) (by kernel_rfl) (fun _ _ _ h => h) (Or.inl ⟨by rfl, ?hy76⟩) (by assumption) ?_
        case hy76 => (intro w hSw; (try dsimp only at hSw); go_simp; all_goals with_reducible rfl)
        try simp only [Act.put, List.setIfInBounds_toArray, List.set_cons_zero, List.set_cons_succ]
        refine wpAnyH_done (by kernel_rfl) ?_ _
        have HB3 : Hid (Below w.heap.size w Wx) := HB2.out.trans (hWx.mono HB2.out.size)
        go_wp2_with fail
        go_ret
        exact ⟨by first | rfl | simp, HB3.out⟩
end Go.Proofs.YtbifmikndpeafaaDoor
