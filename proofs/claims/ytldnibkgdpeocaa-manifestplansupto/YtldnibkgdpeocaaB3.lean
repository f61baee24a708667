/- walk, Plan. -/
import Derived.Test.YtldnibkgdpeocaaB2
import Derived.Test.YtldnibkgdpeocaaS
import Derived.Lib.MinMax
namespace Go.Proofs.Ytldnibkgdpeocaa
open Go.RowKit Go.Maps
open Go.Shelf
set_option linter.unusedVariables false
set_option linter.unusedSimpArgs false

theorem Mf.gr {w w' : World} {lo hi g b : Nat} {L : List Ru} {u v : Value} (h : Mf w lo hi g b L) (hg : Gr w w' u v) (hu : ∀ k, u.ownBlock = some k → hi ≤ k) : Mf w' lo hi g b L :=
  h.keep hg.size fun k _ hk => hg.block k (Nat.lt_of_lt_of_le hk h.lh) fun e => by have := hu k e; omega
theorem gr_cell {w w' : World} {u v : Value} (h : Gr w w' u v) {k o : Nat} {x : Value} (hc : w.cell? ⟨k, o, none⟩ = some x) (hne : u.ownBlock ≠ some k) : w'.cell? ⟨k, o, none⟩ = some x := by
  have hl := World.block_lt_of_cell? _ _ hc
  have := h.block k hl hne
  unfold World.cell? at hc ⊢
  simp only at hc ⊢
  rw [this]
  exact hc
def WkPost (v : SV) (T : List Tg) (w : World) (e : Ending) (w' : World) : Prop := ∃ y : SV, e = .returned (sv y) ∧ R ET w' (sv y) T ∧ Gr w w' (sv v) (sv y)

set_option maxHeartbeats 16000000 in
set_option maxRecDepth 100000 in
theorem walk_any (L : List Ru) (hn : (L.map Ru.t).Nodup) (lo hi g b : Nat) (of : Tg) (hof : tz of) (most : Int) (hm : most ≤ 8) :
    ∀ (n : Nat) (x : Tg) (hx : tz x) (v : SV) (T : List Tg) (w : World) (hM : Mf w lo hi g b L) (h8 : T.length ≤ 8) (h9 : 9 ≤ T.length + n) (hR : R ET w (sv v) T) (hv : ∀ k, (sv v).ownBlock = some k → hi ≤ k),
    Calls Try.prog 27 #[.pointer (some ⟨g, 0, none⟩), .agg (tgv of), .agg (tgv x), sv v, .int .i64 most] w fun e w' => WkPost v (wk (nmR L) of most n (nmR L x) T) w e w' := by
  intro n
  induction n with
  | zero => intro x hx v T w hM h8 h9; omega
  | succ n ih =>
    intro x hx v T w hM h8 h9 hR hv
    have IH : Hid (∀ (x : Tg) (hx : tz x) (v : SV) (T : List Tg) (w : World) (hM : Mf w lo hi g b L) (h8 : T.length ≤ 8) (h9 : 9 ≤ T.length + n) (hR : R ET w (sv v) T) (hv : ∀ k, (sv v).ownBlock = some k → hi ≤ k),
      Calls Try.prog 27 #[.pointer (some ⟨g, 0, none⟩), .agg (tgv of), .agg (tgv x), sv v, .int .i64 most] w fun e w' => WkPost v (wk (nmR L) of most n (nmR L x) T) w e w') := ih
    clear ih
    have HZL : Hid (RuZ L) := hM.z
    have HTY : Hid (∀ y ∈ nmR L x, tz y) := nmR_tz hM.z x
    have HOF : Hid (tz of) := hof
    have HM8 : Hid (most ≤ 8) := hm
    have H9 : Hid (9 ≤ T.length + (n + 1)) := h9
    have H8 : Hid (T.length ≤ 8) := h8
    obtain ⟨oa, op⟩ := of
    obtain ⟨xa, xp⟩ := x
    obtain ⟨W0, hW0⟩ : ∃ W0, W0 = (w.alloc (.cells #[.string oa, .string op] 26)).alloc (.cells #[.string xa, .string xp] 26) := ⟨_, rfl⟩
    have hB0 : Below w.heap.size w W0 := by rw [hW0]; exact bel2 _ _ _
    have hS0 : Hid (W0.heap.size = w.heap.size + 2) := by show _ = _; rw [hW0, size_al, size_al]
    have hMW : Mf W0.drew lo hi g b L := (hM.below hB0).below (Below.refl _ _).drew
    obtain ⟨hlook, hIn⟩ := hMW.look hn (xa, xp) hx
    obtain ⟨l, hl⟩ : ∃ l, nmR L (xa, xp) = l := ⟨_, rfl⟩
    rw [hl] at hIn HTY
    rw [hl, wk_succ]
    have hcg : W0.cell? ⟨g, 0, none⟩ = some (.map (some b)) := cell_blk (hM.below hB0).hg 0
    have d0 : W0.heap[w.heap.size + 1]? = some (.cells #[.string xa, .string xp] 26 (0, 0)) := by rw [hW0]; exact fresh2 _ _ _
    have d1 : W0.cell? ⟨w.heap.size + 1, 0, none⟩ = some (.string xa) := cell_blk d0 0
    have d2 : W0.cell? ⟨w.heap.size + 1, 1, none⟩ = some (.string xp) := cell_blk d0 1
    have q0 : W0.heap[w.heap.size]? = some (.cells #[.string oa, .string op] 26 (0, 0)) := by rw [hW0, heap_al, if_neg (by simp), heap_al, if_pos rfl]
    have HIn : Hid (∀ W, Mf W lo hi g b L → In ET W (sv (yR L (xa, xp))) l) := fun W h => by have := (h.look hn (xa, xp) hx).2; rw [hl] at this; exact this
    have HMW : Hid (Mf W0.drew lo hi g b L) := hMW
    have hV0 : Hid (∀ k, (sv v).ownBlock = some k → hi ≤ k) := hv
    have hV1 : Hid (∀ k, (sv v).ownBlock = some k → k < w.heap.size) := hR.lt
    have HR0 : Hid (R ET W0.drew (sv v) T) := hR.below (hB0.drew)
    have HBd : Hid (Below w.heap.size w W0.drew) := hB0.drew
    have Hq : Hid (W0.drew.cell? ⟨w.heap.size, 0, none⟩ = some (.string oa) ∧ W0.drew.cell? ⟨w.heap.size, 1, none⟩ = some (.string op)) := ⟨cell_blk q0 0, cell_blk q0 1⟩
    have HSd : Hid (W0.drew.heap.size = w.heap.size + 2) := hS0
    obtain ⟨yb, yc, ey, m1, m2⟩ := hIn.slice
    rw [ey] at hlook HIn
    obtain ⟨vb, vl, vc⟩ := v
    unfold tgv at hlook ⊢
    simp only [sv] at hV0 hV1 HR0 hlook ⊢
    obtain ⟨N0, hN0⟩ : ∃ N0, N0 = w.heap.size := ⟨_, rfl⟩
    have HN0 : Hid (N0 = w.heap.size) := hN0
    clear hM h8 h9 hR hv hl hIn hMW q0 d0 hof hm hx ey
    go_enter Try.func27, Try.ntmps27
    go_wp2_with fail
    try rw [size_al]
    rw [← hW0]
    clear hW0 hB0 hS0
    go_region
    clear hcg d1 d2 hlook
    obtain ⟨W1, hW1⟩ : ∃ W1, W1 = W0.drew := ⟨_, rfl⟩
    rw [← hW1] at HMW HR0 HBd Hq HSd ⊢
    rw [← hN0] at hV1 Hq HSd ⊢
    clear hW1 hN0
    go_wp2_with fail
    go_loopw [3, 20] (fun tv kv wr => ∃ (k : Nat) (vk : SV) (T' : List Tg), kv = .int .i64 (k : Int) ∧ k ≤ l.length ∧ tv = sv vk ∧ Hid (R ET wr (sv vk) T') ∧ Hid (T' = (l.take k).foldl (stp (nmR L) (oa, op) most n) T) ∧ Hid (T.length ≤ T'.length ∧ T'.length ≤ 8) ∧ Hid (Gr W1 wr (.slice vb vl vc) (sv vk))) (fun _ kv _ => l.length - (intOf kv).toNat)
    case atStart => exact ⟨0, (vb, vl, vc), T, rfl, by omega, rfl, HR0.out, rfl, ⟨Nat.le_refl _, H8.out⟩, Gr.refl _ _⟩
    case round =>
      obtain ⟨k, vk, T', rfl, hk, rfl, hR, hT, hL, hG⟩ := hrel
      have HMr : Hid (Mf wr lo hi g b L) := HMW.out.gr hG.out hV0.out
      have HGw : Hid (Gr w wr (.slice vb vl vc) (sv vk)) := (Gr.below HBd.out _).trans hG.out
      obtain ⟨tb, tc, et, n1, n2⟩ := hR.out.slice
      obtain ⟨pb, pl, pc⟩ := vk
      simp only [sv] at et hR hG HGw ⊢
      injection et with et1 et2 et3
      subst et1 et2 et3
      by_cases hlt : k < l.length
      · obtain ⟨Bk, off, cap, e, hBk, hc⟩ := (HIn.out wr HMr.out).tg k hlt
        injection e with e1 e2 e3
        clear e2 e3
        subst e1
        obtain ⟨c0, c1⟩ := hc wr (Below.refl _ _)
        obtain ⟨y, hy⟩ : ∃ y, l[k] = y := ⟨_, rfl⟩
        rw [hy] at c0 c1
        have Hy : Hid (l[k]'hlt = y) := hy
        have HYZ : Hid (tz y) := by rw [← hy]; exact HTY.out _ (List.getElem_mem hlt)
        have HTS : Hid ((l.take (k + 1)).foldl (stp (nmR L) (oa, op) most n) T = stp (nmR L) (oa, op) most n T' y) := by show _ = _; rw [List.take_succ_eq_append_getElem hlt, List.foldl_append, hT.out, hy]; rfl
        clear hc hy
        obtain ⟨ya, yp⟩ := y
        simp only at c0 c1
        have hlt' : (k : Int) < (l.length : Int) := by omega
        have hneV : Hid (∀ o, (Value.slice pb T'.length pc).ownBlock = some o → o ≠ N0 ∧ o < wr.heap.size ∧ hi ≤ o) := fun o ho => by
          have h1 := hR.out.lt o ho
          have h2 := HSd.out
          have h3 := HMW.out.lh
          rcases hG.out.own o ho with h | h
          · have := hV1.out o h
            have := hV0.out o h
            exact ⟨by omega, h1, by omega⟩
          · exact ⟨by omega, h1, by omega⟩
        have hN0l : Hid (N0 < wr.heap.size) := by have h1 := hG.out.size; have h2 := HSd.out; show N0 < wr.heap.size; omega
        have r0 : wr.cell? ⟨N0, 0, none⟩ = some (.string oa) := gr_cell hG.out Hq.out.1 fun e => by have := hV1.out _ e; omega
        have r1 : wr.cell? ⟨N0, 1, none⟩ = some (.string op) := gr_cell hG.out Hq.out.2 fun e => by have := hV1.out _ e; omega
        by_cases hst : most ≤ (T'.length : Int)
        · have HE : Hid (l.foldl (stp (nmR L) (oa, op) most n) T = T') := by
            show _ = _
            rw [← List.take_append_drop k l, List.foldl_append, ← hT.out, fold_stop hst]
          clear HTS
          go_wp2_with fail
          go_ret
          exact ⟨(pb, T'.length, pc), rfl, by rw [HE.out]; exact hR.out.below (bel1 _ _), HGw.out.trans (Gr.below (bel1 _ _) _)⟩
        · obtain ⟨Wq, hWq⟩ : ∃ Wq, Wq = wr.alloc (.cells #[.string ya, .string yp] 26) := ⟨_, rfl⟩
          obtain ⟨q, hq⟩ : ∃ q, q = wr.heap.size := ⟨_, rfl⟩
          have HBq : Hid (Below wr.heap.size wr Wq) := by rw [hWq]; exact bel1 _ _
          have HSq : Hid (Wq.heap.size = wr.heap.size + 1) := by show _ = _; rw [hWq, size_al]
          have HQ : Hid (q = wr.heap.size) := hq
          have s0 : Wq.cell? ⟨q, 0, none⟩ = some (.string ya) := by rw [hWq, hq]; exact cell_blk (c := #[.string ya, .string yp]) (t := 26) (by rw [heap_al, if_pos rfl]) 0
          have s1 : Wq.cell? ⟨q, 1, none⟩ = some (.string yp) := by rw [hWq, hq]; exact cell_blk (c := #[.string ya, .string yp]) (t := 26) (by rw [heap_al, if_pos rfl]) 1
          have s2 : Wq.cell? ⟨N0, 0, none⟩ = some (.string oa) := (HBq.out.cell hN0l.out).trans r0
          have s3 : Wq.cell? ⟨N0, 1, none⟩ = some (.string op) := (HBq.out.cell hN0l.out).trans r1
          have HRq : Hid (R ET Wq (.slice pb T'.length pc) T') := hR.out.below HBq.out
          have hq1 := neq_tg ya yp oa op
          have HGq : Hid (Gr W1 Wq (.slice vb vl vc) (.slice pb T'.length pc)) := hG.out.trans (Gr.below HBq.out _)
          by_cases heq : (ya, yp) = (oa, op)
          · have hd : decide ((ya, yp) = (oa, op)) = true := decide_eq_true heq
            rw [hd] at hq1
            have HE : Hid (stp (nmR L) (oa, op) most n T' (ya, yp) = T') := by show _ = _; rw [heq]; exact stp_of
            clear hd heq
            go_upto_region 6 with fail
            rw [← hWq, ← hq]
            clear hWq hq c0 c1 r0 r1
            go_wp2_with fail
            go_roundw
            case rel => exact ⟨k + 1, (pb, T'.length, pc), T', by simp, by omega, rfl, HRq.out, by show _ = _; rw [HTS.out, HE.out], hL.out, HGq.out⟩
            case measure => simp [intOf]; omega
          · have hd : decide ((ya, yp) = (oa, op)) = false := decide_eq_false heq
            rw [hd] at hq1
            have HNE : Hid ((ya, yp) ≠ (oa, op)) := heq
            clear hd heq
            have HX : Hid (Calls Try.prog 34 #[.slice pb T'.length pc, .agg #[.string ya, .string yp]] Wq fun e w' => e = .returned (.bool (inB T' (ya, yp))) ∧ Below Wq.heap.size Wq w') := contains34_any (pb, T'.length, pc) T' (ya, yp) Wq HRq.out.isIn
            cases hin : inB T' (ya, yp)
            · rw [hin] at HX
              have HST : Hid (stp (nmR L) (oa, op) most n T' (ya, yp) = wk (nmR L) (oa, op) most n (nmR L (ya, yp)) (T' ++ [(ya, yp)])) := stp_go hst HNE.out hin
              have HLT : Hid (T'.length < 8) := by have := HM8.out; show T'.length < 8; omega
              clear hin
              go_upto_region 6 with fail
              rw [← hWq, ← hq]
              clear hWq hq c0 c1 r0 r1
              go_wp2_with fail
              go_at_call 34
              refine HX.out.mono ?_
              rintro e wc ⟨rfl, hbc⟩
              have HBc : Hid (Below Wq.heap.size Wq wc) := hbc
              have t0 : wc.cell? ⟨q, 0, none⟩ = some (.string ya) := (hbc.cell (World.block_lt_of_cell? _ _ s0)).trans s0
              have t1 : wc.cell? ⟨q, 1, none⟩ = some (.string yp) := (hbc.cell (World.block_lt_of_cell? _ _ s1)).trans s1
              have t2 : wc.cell? ⟨N0, 0, none⟩ = some (.string oa) := (hbc.cell (World.block_lt_of_cell? _ _ s2)).trans s2
              have t3 : wc.cell? ⟨N0, 1, none⟩ = some (.string op) := (hbc.cell (World.block_lt_of_cell? _ _ s3)).trans s3
              have HRc : Hid (R ET wc (.slice pb T'.length pc) T') := HRq.out.below hbc
              have HGc : Hid (Gr W1 wc (.slice vb vl vc) (.slice pb T'.length pc)) := HGq.out.trans (Gr.below hbc _)
              have hneC : Hid ((Value.slice pb T'.length pc).ownBlock ≠ some N0 ∧ (Value.slice pb T'.length pc).ownBlock ≠ some q) := ⟨fun e => (hneV.out N0 e).1 rfl, fun e => by have := (hneV.out q e).2.1; have := HQ.out; omega⟩
              have hCell : Hid (∀ V u, Gr wc V (.slice pb T'.length pc) u → V.cell? ⟨N0, 0, none⟩ = some (.string oa) ∧ V.cell? ⟨N0, 1, none⟩ = some (.string op) ∧ V.cell? ⟨q, 0, none⟩ = some (.string ya) ∧ V.cell? ⟨q, 1, none⟩ = some (.string yp)) := fun V u h => ⟨gr_cell h t2 hneC.out.1, gr_cell h t3 hneC.out.1, gr_cell h t0 hneC.out.2, gr_cell h t1 hneC.out.2⟩
              have HMc : Hid (Mf wc lo hi g b L) := HMW.out.gr HGc.out hV0.out
              clear hbc s0 s1 s2 s3 t0 t1 t2 t3 HX
              go_wp2_with fail
              have rbW : Hid (Below wc.heap.size wc wc.drew) := (Below.refl _ _).drew
              have gW : Hid (Gr wc wc.drew (.slice pb T'.length pc) (.slice pb T'.length pc)) := Gr.below rbW.out _
              refine wp_region_held_drew (S := (fun V => V.cell? ⟨N0, 0, none⟩ = some (.string oa) ∧ V.cell? ⟨N0, 1, none⟩ = some (.string op) ∧ V.cell? ⟨q, 0, none⟩ = some (.string ya) ∧ V.cell? ⟨q, 1, none⟩ = some (.string yp))) (by kernel_rfl) (hCell.out _ _ gW.out) (fun hHeld => ?_)
              generalize hWg : World.drew _ = W at rbW gW hHeld ⊢
              clear hWg
              refine wpAnyH_take (i := 0) (oi := { dst := some 40, op := Op.move (Operand.tmp 0), type := 30, pos := "manifest.go:53", after := #[], guard := none }) (v := ?vv1) rfl (by kernel_rfl) (by kernel_rfl) (by kernel_rfl) (fun _ _ _ h => h) (Or.inl ⟨by rfl, ?hy1⟩) (by assumption) ?_
              case hy1 => (intro w hSw; (try dsimp only at hSw); go_simp; all_goals with_reducible rfl)
              try simp only [Act.put, List.setIfInBounds_toArray, List.set_cons_zero, List.set_cons_succ]
              refine wpAnyH_take (i := 1) (oi := { dst := some 41, op := Op.load 26 (Operand.tmp 6), type := 26, pos := "manifest.go:53", after := #[], guard := none }) (v := ?vv2) rfl (by kernel_rfl) (by kernel_rfl) (by kernel_rfl) (fun _ _ _ h => h) (Or.inl ⟨by rfl, ?hy2⟩) (by assumption) ?_
              case hy2 => (intro w hSw; (try dsimp only at hSw); go_simp; all_goals with_reducible rfl)
              try simp only [Act.put, List.setIfInBounds_toArray, List.set_cons_zero, List.set_cons_succ]
              refine wpAnyH_take (i := 2) (oi := { dst := some 42, op := Op.load 26 (Operand.tmp 12), type := 26, pos := "manifest.go:53", after := #[], guard := none }) (v := ?vv3) rfl (by kernel_rfl) (by kernel_rfl) (by kernel_rfl) (fun _ _ _ h => h) (Or.inl ⟨by rfl, ?hy3⟩) (by assumption) ?_
              case hy3 => (intro w hSw; (try dsimp only at hSw); go_simp; all_goals with_reducible rfl)
              try simp only [Act.put, List.setIfInBounds_toArray, List.set_cons_zero, List.set_cons_succ]
              refine wpAnyH_take (i := 3) (oi := { dst := some 43, op := Op.move (Operand.tmp 3), type := 27, pos := "manifest.go:53", after := #[], guard := none }) (v := ?vv4) rfl (by kernel_rfl) (by kernel_rfl) (by kernel_rfl) (fun _ _ _ h => h) (Or.inl ⟨by rfl, ?hy4⟩) (by assumption) ?_
              case hy4 => (intro w hSw; (try dsimp only at hSw); go_simp; all_goals with_reducible rfl)
              try simp only [Act.put, List.setIfInBounds_toArray, List.set_cons_zero, List.set_cons_succ]
              refine wpAnyH_take (i := 4) (oi := { dst := some 44, op := Op.load 26 (Operand.tmp 12), type := 26, pos := "manifest.go:53", after := #[], guard := none }) (v := ?vv5) rfl (by kernel_rfl) (by kernel_rfl) (by kernel_rfl) (fun _ _ _ h => h) (Or.inl ⟨by rfl, ?hy5⟩) (by assumption) ?_
              case hy5 => (intro w hSw; (try dsimp only at hSw); go_simp; all_goals with_reducible rfl)
              try simp only [Act.put, List.setIfInBounds_toArray, List.set_cons_zero, List.set_cons_succ]
              refine wpAnyH_take (i := 8) (oi := { dst := some 48, op := Op.move (Operand.tmp 4), type := 3, pos := "manifest.go:53", after := #[], guard := none }) (v := ?vv6) rfl (by kernel_rfl) (by kernel_rfl) (by kernel_rfl) (fun _ _ _ h => h) (Or.inl ⟨by rfl, ?hy6⟩) (by assumption) ?_
              case hy6 => (intro w hSw; (try dsimp only at hSw); go_simp; all_goals with_reducible rfl)
              try simp only [Act.put, List.setIfInBounds_toArray, List.set_cons_zero, List.set_cons_succ]
              refine wpAnyH_ready (rs := [5]) (by kernel_rfl) (by simp) ?_
              refine AllReadyH.cons (o := { dst := some 45, op := Op.call { callee := Callee.value (Operand.func 26), args := #[Operand.tmp 44], argTypes := #[26] }, type := 26, pos := "manifest.go:53", after := #[{ on := 4, ground := Ground.data }], guard := none }) rfl (fun K hK => ?_) AllReadyH.nil
              go_simp
              refine (copied_any (ya, yp) _ HYZ.out).mono ?_
              rintro e' Wx ⟨rfl, bX⟩
              unfold tgv
              simp only
              have gWx : Hid (Gr wc Wx (.slice pb T'.length pc) (.slice pb T'.length pc)) := gW.out.trans (Gr.below bX _)
              have rbWx : Hid (Below wc.heap.size wc Wx) := rbW.out.trans (bX.mono rbW.out.size)
              clear bX
              go_wp2_with fail
              refine hK.out _ _ (hCell.out _ _ gWx.out) (fun hHeld => ?_)
              clear hK K
              try simp only [Act.put, List.setIfInBounds_toArray, List.set_cons_zero, List.set_cons_succ]
              refine wpAnyH_ready (rs := [6]) (by kernel_rfl) (by simp) ?_
              refine AllReadyH.cons (o := { dst := some 46, op := Op.buildSlice 27 1 #[(0, Operand.tmp 45)], type := 27, pos := "manifest.go:53", after := #[{ on := 5, ground := Ground.data }], guard := none }) rfl (fun K hK => ?_) AllReadyH.nil
              obtain ⟨Wxx, hvWxx⟩ : ∃ Wxx, Wxx = Wx.alloc (.cells #[.string ya, .string yp] 26) := ⟨_, rfl⟩
              have gWxx : Hid (Gr wc Wxx (.slice pb T'.length pc) (.slice pb T'.length pc)) := by rw [hvWxx]; exact gWx.out.trans (Gr.below (bel1 _ _) _)
              have HIn1 : Hid (In ET Wxx (.slice (some ⟨Wx.heap.size, 0, none⟩) 1 1) [(ya, yp)]) := by rw [hvWxx]; exact in_one _ _ (ya, yp) #[.string ya, .string yp] 26 (0, 0) (by rw [heap_al, if_pos rfl]) rfl
              have rbWxx : Hid (Below wc.heap.size wc Wxx) := by rw [hvWxx]; exact rbWx.out.trans ((bel1 _ _).mono rbWx.out.size)
              go_simp
              go_wp2_with fail
              rw [← hvWxx]
              refine hK.out _ _ (hCell.out _ _ gWxx.out) (fun hHeld => ?_)
              clear hK K hvWxx
              try simp only [Act.put, List.setIfInBounds_toArray, List.set_cons_zero, List.set_cons_succ]
              refine wpAnyH_ready (rs := [7]) (by kernel_rfl) (by simp) ?_
              refine AllReadyH.cons (o := { dst := some 47, op := Op.call { callee := Callee.builtin Builtin.append, args := #[Operand.tmp 43, Operand.tmp 46], argTypes := #[27, 27] }, type := 27, pos := "manifest.go:53", after := #[{ on := 3, ground := Ground.data }, { on := 6, ground := Ground.data }, { on := 5, ground := Ground.chain }], guard := none }) rfl (fun K hK => ?_) AllReadyH.nil
              have hR5 : R ET Wxx (.slice pb T'.length pc) T' := HRc.out.below (rbWxx.out)
              obtain ⟨ab, ac, Wxxx, hrun, hRa, hGa⟩ := app okT Wxx (.slice pb T'.length pc) T' hR5 _ [(ya, yp)] HIn1.out (by have := HLT.out; simp [ET]; omega)
              have gWxxx : Hid (Gr wc Wxxx (.slice pb T'.length pc) (.slice ab (T'.length + 1) ac)) := gWxx.out.trans hGa
              have HRa : Hid (R ET Wxxx (.slice ab (T'.length + 1) ac) (T' ++ [(ya, yp)])) := hRa
              have HGa : Hid (Gr Wxx Wxxx (.slice pb T'.length pc) (.slice ab (T'.length + 1) ac)) := hGa
              simp only [List.length_singleton] at hrun
              clear hRa hGa hR5
              refine step_append_run rfl (.tmp 43) (.tmp 46) 27 27 rfl hrun (by first | rfl | simp [Act.eval, Act.put]) (by first | rfl | simp [Act.eval, Act.put]) ?_
              refine hK.out _ _ (hCell.out _ _ gWxxx.out) (fun hHeld => ?_)
              clear hK K hrun
              try simp only [Act.put, List.setIfInBounds_toArray, List.set_cons_zero, List.set_cons_succ]
              refine wpAnyH_ready (rs := [9]) (by kernel_rfl) (by simp) ?_
              refine AllReadyH.cons (o := { dst := some 49, op := Op.call { callee := Callee.value (Operand.func 27), args := #[Operand.tmp 40, Operand.tmp 41, Operand.tmp 42, Operand.tmp 47, Operand.tmp 48], argTypes := #[30, 26, 26, 27, 3] }, type := 27, pos := "manifest.go:53", after := #[{ on := 0, ground := Ground.data }, { on := 1, ground := Ground.data }, { on := 2, ground := Ground.data }, { on := 7, ground := Ground.data }, { on := 8, ground := Ground.data }, { on := 7, ground := Ground.chain }], guard := none }) rfl (fun K hK => ?_) AllReadyH.nil
              have HC9 : Hid (Calls Try.prog 27 #[.pointer (some ⟨g, 0, none⟩), .agg #[.string oa, .string op], .agg #[.string ya, .string yp], .slice ab (T'.length + 1) ac, .int .i64 most] Wxxx fun e w' => WkPost (ab, T'.length + 1, ac) (wk (nmR L) (oa, op) most n (nmR L (ya, yp)) (T' ++ [(ya, yp)])) Wxxx e w') := IH.out (ya, yp) HYZ.out (ab, T'.length + 1, ac) (T' ++ [(ya, yp)]) Wxxx (HMc.out.gr gWxxx.out fun o ho => (hneV.out o ho).2.2) (by have := HLT.out; simp; omega) (by have := H9.out; have := hL.out.1; simp; omega) HRa.out (fun o ho => by
                rcases gWxxx.out.own o ho with h | h
                · exact (hneV.out o h).2.2
                · have := HMc.out.lh
                  omega)
              go_simp
              refine HC9.out.mono ?_
              rintro e' Wxxxx ⟨y9, rfl, hR9, hG9⟩
              have gWxxxx : Hid (Gr wc Wxxxx (.slice pb T'.length pc) (sv y9)) := gWxxx.out.trans hG9
              have HR9 : Hid (R ET Wxxxx (sv y9) (stp (nmR L) (oa, op) most n T' (ya, yp))) := by rw [HST.out]; exact hR9
              clear hR9 hG9 HC9
              obtain ⟨zb, zl, zc⟩ := y9
              simp only [sv] at HR9 gWxxxx ⊢
              go_wp2_with fail
              refine hK.out _ _ (hCell.out _ _ gWxxxx.out) (fun hHeld => ?_)
              clear hK K
              try simp only [Act.put, List.setIfInBounds_toArray, List.set_cons_zero, List.set_cons_succ]
              refine wpAnyH_take (i := 10) (oi := { dst := some 3, op := Op.assign (Operand.tmp 49), type := 27, pos := "manifest.go:53", after := #[{ on := 9, ground := Ground.data }, { on := 9, ground := Ground.chain }, { on := 0, ground := Ground.phase }, { on := 1, ground := Ground.phase }, { on := 2, ground := Ground.phase }, { on := 3, ground := Ground.phase }, { on := 4, ground := Ground.phase }, { on := 5, ground := Ground.phase }, { on := 6, ground := Ground.phase }, { on := 7, ground := Ground.phase }, { on := 8, ground := Ground.phase }, { on := 9, ground := Ground.phase }], guard := none }) (v := ?vv7) rfl (by kernel_rfl) (by kernel_rfl) (by kernel_rfl) (fun _ _ _ h => h) (Or.inl ⟨by rfl, ?hy7⟩) (by assumption) ?_
              case hy7 => (intro w hSw; (try dsimp only at hSw); go_simp; all_goals with_reducible rfl)
              try simp only [Act.put, List.setIfInBounds_toArray, List.set_cons_zero, List.set_cons_succ]
              refine wpAnyH_done (by kernel_rfl) ?_ _
              have HG9 : Hid (Gr W1 Wxxxx (.slice vb vl vc) (.slice zb zl zc)) := HGc.out.trans gWxxxx.out
              have HL9 : Hid (T.length ≤ (stp (nmR L) (oa, op) most n T' (ya, yp)).length ∧ (stp (nmR L) (oa, op) most n T' (ya, yp)).length ≤ 8) := by
                have h1 := wk_len (nm := nmR L) (of := (oa, op)) HM8.out n (nmR L (ya, yp)) (T' ++ [(ya, yp)])
                have h2 := hL.out
                have h3 := HLT.out
                rw [← HST.out] at h1
                simp only [List.length_append, List.length_singleton] at h1
                exact ⟨by omega, h1.2 (by omega)⟩
              go_wp2_with fail
              go_roundw
              case rel => exact ⟨k + 1, (zb, zl, zc), _, by simp, by omega, rfl, HR9.out, by show _ = _; rw [HTS.out], HL9.out, HG9.out⟩
              case measure => simp [intOf]; omega
            · rw [hin] at HX
              have HST : Hid (stp (nmR L) (oa, op) most n T' (ya, yp) = T') := stp_in hin
              clear hin
              go_upto_region 6 with fail
              rw [← hWq, ← hq]
              clear hWq hq c0 c1 r0 r1
              go_wp2_with fail
              go_at_call 34
              refine HX.out.mono ?_
              rintro e wc ⟨rfl, hbc⟩
              have HRc : Hid (R ET wc (.slice pb T'.length pc) T') := HRq.out.below hbc
              have HGc : Hid (Gr W1 wc (.slice vb vl vc) (.slice pb T'.length pc)) := HGq.out.trans (Gr.below hbc _)
              clear hbc
              go_wp2_with fail
              go_roundw
              case rel => exact ⟨k + 1, (pb, T'.length, pc), T', by simp, by omega, rfl, HRc.out, by show _ = _; rw [HTS.out, HST.out], hL.out, HGc.out⟩
              case measure => simp [intOf]; omega
      · obtain rfl : k = l.length := by omega
        have hlt' : ¬ (l.length : Int) < (l.length : Int) := by omega
        have HE : Hid (l.foldl (stp (nmR L) (oa, op) most n) T = T') := by show _ = _; rw [hT.out, List.take_length]
        go_wp2_with fail
        go_ret
        exact ⟨(pb, T'.length, pc), rfl, by rw [HE.out]; exact hR.out, HGw.out⟩
end Go.Proofs.Ytldnibkgdpeocaa
