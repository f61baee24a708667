/- The document's Plan. -/
import Derived.Test.YtldnibkgdpeocaaF2
namespace Go.Proofs.Ytldnibkgdpeocaa
open Go.RowKit Go.Maps
open Go.Shelf
set_option linter.unusedVariables false
set_option linter.unusedSimpArgs false

def lenV : Value → Nat | .slice _ n _ => n | _ => 0
theorem In.tail {w : World} {B off n c : Nat} {x : Tg} {U : List Tg} (h : In ET w (.slice (some ⟨B, off, none⟩) n c) (x :: U)) :
    ∃ a : Addr, (if c = 1 then some (⟨B, off, none⟩ : Addr) else some ⟨B, off + 2, none⟩) = some a ∧ a.block = B ∧ In ET w (.slice (some a) (n - 1) (c - 1)) U := by
  rcases h with ⟨e, _⟩ | ⟨a, cap, e, h1, h2, h3⟩
  · cases e
  · injection e with e1 e2 e3
    injection e1 with e1
    subst e1 e2 e3
    simp only [List.length_cons] at h1 ⊢
    by_cases hc : c = 1
    · subst hc
      have : U = [] := List.eq_nil_of_length_eq_zero (by omega)
      subst this
      exact ⟨⟨B, off, none⟩, by simp, rfl, .inr ⟨⟨B, off, none⟩, 0, rfl, Nat.zero_le _, by omega, fun j u hu => by simp [El.cs] at hu⟩⟩
    · refine ⟨⟨B, off + 2, none⟩, by simp [hc], rfl, .inr ⟨⟨B, off + 2, none⟩, c - 1, by simp, by omega, by omega, fun j u hu => ?_⟩⟩
      have := h3 (j + 2) u (by
        show (ET.cs (x :: U))[j + 2]? = _
        simp only [El.cs, List.flatMap_cons] at hu ⊢
        rw [List.getElem?_append_right (by simp [ET, tgv])]
        simpa [ET, tgv] using hu)
      rw [Addr.add_lit] at this ⊢
      rw [show off + 2 + j = off + (j + 2) by omega]
      exact this
theorem Dm.names {w : World} {lo g : Nat} {v : SV} {ps : List Pu} (h : Dm w lo g v ps) (t : Tg) : Calls Try.prog 30 #[.pointer (some ⟨g, 0, none⟩), .agg (tgv t)] w fun e w' => ∃ y : SV, e = .returned (sv y) ∧ In ET w' (sv y) (nmP ps t) ∧ Below w.heap.size w w' := by
  obtain ⟨h1, h2, h3, rs, h4, h5, h6⟩ := h
  refine (rnames_any g v rs t w (cell_blk h2 0) h4.isIn).mono ?_
  rintro e w' ⟨rfl, hb⟩
  refine ⟨_, rfl, ?_, hb⟩
  rw [← h6, ← nmR_eq]
  exact (names_in (fun r hr => (h5 r hr).1.isIn) t).below hb

set_option maxHeartbeats 16000000 in
set_option maxRecDepth 100000 in
theorem rplan_any (lo g : Nat) (v : SV) (ps : List Pu) (hps : ∀ t, (nmP ps t).length ≤ 8) (t : Tg) (most : Int) (w : World) (hD : Dm w lo g v ps) (hlo : lo ≤ w.heap.size) :
    Calls Try.prog 20 #[.pointer (some ⟨g, 0, none⟩), .agg (tgv t), .int .i64 most] w fun e w' => PlPost (plan (nmP ps) t most) w e w' := by
  obtain ⟨NM, hNM⟩ : ∃ NM, nmP ps = NM := ⟨_, rfl⟩
  rw [plan_D, hNM]
  rw [hNM] at hps
  obtain ⟨mo, hmo⟩ : ∃ mo, min most 8 = mo := ⟨_, rfl⟩
  have HMO : Hid (min most 8 = mo) := hmo
  have HM8 : Hid (mo ≤ 8) := by show mo ≤ 8; omega
  rw [hmo]
  have H8 : Hid (∀ t, (NM t).length ≤ 8) := hps
  have HNA : Hid (∀ W t, Below w.heap.size w W → Calls Try.prog 30 #[.pointer (some ⟨g, 0, none⟩), .agg (tgv t)] W fun e w' => ∃ y : SV, e = .returned (sv y) ∧ In ET w' (sv y) (NM t) ∧ Below W.heap.size W w') := fun W t hW => by rw [← hNM]; exact (hD.below hW).names t
  clear hNM hps hD hlo hmo
  obtain ⟨ta, tp⟩ := t
  obtain ⟨U0, hU0⟩ : ∃ U0, NM (ta, tp) = U0 := ⟨_, rfl⟩
  have HU0 : Hid (NM (ta, tp) = U0) := hU0
  have hu8 : U0.length ≤ 8 := by rw [← hU0]; exact H8.out _
  rw [hU0]
  clear hU0
  obtain ⟨FIN, hFIN⟩ : ∃ FIN, D NM (ta, tp) mo U0 [] = FIN := ⟨_, rfl⟩
  have HF0 : Hid (D NM (ta, tp) mo U0 [] = FIN) := hFIN
  rw [hFIN]
  clear hFIN
  obtain ⟨W0, hW0⟩ : ∃ W0, W0 = w.alloc (.cells #[.string ta, .string tp] 26) := ⟨_, rfl⟩
  obtain ⟨q, hq⟩ : ∃ q, q = w.heap.size := ⟨_, rfl⟩
  have HB0 : Hid (Below w.heap.size w W0) := by rw [hW0]; exact bel1 _ _
  have HQ0 : Hid (W0.heap[q]? = some (.cells #[.string ta, .string tp] 26 (0, 0))) := by show _ = _; rw [hW0, hq, heap_al, if_pos rfl]
  have HSQ : Hid (q = w.heap.size ∧ W0.heap.size = w.heap.size + 1) := ⟨hq, by rw [hW0, size_al]⟩
  have HN0 : Hid (Calls Try.prog 30 #[.pointer (some ⟨g, 0, none⟩), .agg #[.string ta, .string tp]] W0 fun e w' => ∃ y : SV, e = .returned (sv y) ∧ In ET w' (sv y) (NM (ta, tp)) ∧ Below W0.heap.size W0 w') := HNA.out W0 (ta, tp) HB0.out
  unfold tgv
  simp only
  go_enter Try.func20, Try.ntmps20
  go_upto_region 1 with fail
  rw [← hW0, ← hq]
  have s0 := cell_blk HQ0.out 0
  have s1 := cell_blk HQ0.out 1
  simp at s0 s1
  clear hW0 hq
  go_wp2_with fail
  go_at_call 30
  refine HN0.out.mono ?_
  rintro e w1 ⟨⟨nb, nl, nc⟩, rfl, hIn, hb⟩
  rw [HU0.out] at hIn
  obtain ⟨ab, ac, w2, hrun, hRa, hGa⟩ := app okT w1 (.slice none 0 0) [] (R.nil _ _) (sv (nb, nl, nc)) U0 hIn (by simp [ET]; omega)
  simp only [List.length_nil, Nat.zero_add, List.nil_append, sv] at hrun hRa hGa ⊢
  have HRUN : Hid ((Builtin.append_ #[27, 27] 27 #[.slice none 0 0, .slice nb nl nc]).run Try.prog w1 = .ok (.slice ab U0.length ac) w2) := hrun
  have HB2 : Hid (Below W0.heap.size W0 w2) := hb.trans (hGa.fresh.mono hb.size)
  have HI2 : Hid (In ET w2 (.slice ab U0.length ac) U0) := hRa.isIn
  have HBl2 : Hid (Below w.heap.size w w2) := HB0.out.trans (HB2.out.mono HB0.out.size)
  clear hrun hRa hGa hIn hb s0 s1 HN0
  go_wp2_with (at_builtin; refine Lib.wpList_append_run _ rfl _ _ _ _ rfl _ _ rfl rfl _ _ HRUN.out ?_)
  clear HRUN
  go_loopw [7, 8, 9] (fun ov uv _ wr => ∃ (o u : SV) (T U : List Tg), ov = sv o ∧ uv = sv u ∧ Hid (R ET wr (sv o) T) ∧ Hid (In ET wr (sv u) U) ∧ Hid (D NM (ta, tp) mo U T = FIN) ∧ Hid (T.length ≤ 8 ∧ U.length ≤ 8 * (T.length + 1)) ∧ Hid (∀ k, (sv o).ownBlock = some k → W0.heap.size ≤ k ∧ ∀ a, u.1 = some a → a.block ≠ k) ∧ Hid (Below W0.heap.size W0 wr)) (fun ov uv _ _ => (8 - lenV ov) * 100 + lenV uv)
  case atStart => exact ⟨(none, 0, 0), (ab, U0.length, ac), [], U0, rfl, rfl, R.nil _ _, HI2.out, HF0.out, ⟨by simp, by simp; omega⟩, fun k hk => by simp [sv, Value.ownBlock] at hk, HB2.out⟩
  case round =>
    obtain ⟨⟨ob, ol, oc⟩, ⟨ub, ul, uc⟩, T, U, rfl, rfl, hR, hU, hF, hL, hNe, hB⟩ := hrel
    have HBw : Hid (Below w.heap.size w wr) := HB0.out.trans (hB.out.mono HB0.out.size)
    obtain ⟨b0, c0, e0, k1, k2⟩ := hR.out.slice
    obtain ⟨b1, c1, e1, k3, k4⟩ := hU.out.slice
    simp only [sv] at e0 e1 hR hU hNe ⊢
    injection e0 with f1 f2 f3
    injection e1 with f4 f5 f6
    subst f1 f2 f3 f4 f5 f6
    have HPP : Hid (T = FIN → PlPost FIN w (.returned (.slice ob T.length oc)) wr) := fun e => ⟨(ob, T.length, oc), rfl, by rw [← e]; exact hR.out, HBw.out, fun k hk => by have := (hNe.out k hk).1; have := HSQ.out; omega⟩
    cases U with
    | nil =>
      have HT : Hid (T = FIN) := hF.out
      have HZ : Hid (PlPost FIN w (.returned (.slice ob T.length oc)) wr) := HPP.out HT.out
      simp only [List.length_nil] at k3 ⊢
      clear HPP hF
      go_wp2_with fail
      go_ret
      exact HZ.out
    | cons x U =>
      simp only [List.length_cons] at k3 hU hL ⊢
      have hu0 : (0 : Int) < ((U.length + 1 : Nat) : Int) := by omega
      have hu1 : (0 : Int) < (U.length : Int) + 1 := by omega
      by_cases h1 : (T.length : Int) < most
      · by_cases h2 : T.length < 8
        · have g2 : (T.length : Int) < 8 := by omega
          have hns : Hid (¬ mo ≤ (T.length : Int)) := by have := HMO.out; show ¬ mo ≤ _; omega
          obtain ⟨Bu, ou, cu, eu, hBu, hcu⟩ := hU.out.tg 0 (by simp)
          injection eu with e1 e2 e3
          clear e2 e3
          subst e1
          simp only [Nat.zero_mul, Nat.add_zero, List.getElem_cons_zero] at hcu
          obtain ⟨a, ha, hab, hIt⟩ := hU.out.tail
          simp only [Nat.add_sub_cancel] at hIt
          obtain ⟨xa, xp⟩ := x
          obtain ⟨c0, c1⟩ := hcu wr (Below.refl _ _)
          simp only at c0 c1
          obtain ⟨W1, hW1⟩ : ∃ W1, W1 = wr.alloc (.cells #[.string xa, .string xp] 26) := ⟨_, rfl⟩
          obtain ⟨p, hp⟩ : ∃ p, p = wr.heap.size := ⟨_, rfl⟩
          have HP : Hid (p = wr.heap.size) := hp
          have hb1 : Below wr.heap.size wr W1 := by rw [hW1]; exact bel1 _ _
          have d0 : W1.cell? ⟨p, 0, none⟩ = some (.string xa) := by rw [hW1, hp]; exact cell_blk (c := #[.string xa, .string xp]) (t := 26) (by rw [heap_al, if_pos rfl]) 0
          have d1 : W1.cell? ⟨p, 1, none⟩ = some (.string xp) := by rw [hW1, hp]; exact cell_blk (c := #[.string xa, .string xp]) (t := 26) (by rw [heap_al, if_pos rfl]) 1
          have HB1 : Hid (Below W0.heap.size W0 W1) := hB.out.trans (hb1.mono hB.out.size)
          have q0 : W1.cell? ⟨q, 0, none⟩ = some (.string ta) := (HB1.out.cell (heap_lt HQ0.out)).trans (cell_blk HQ0.out 0)
          have q1 : W1.cell? ⟨q, 1, none⟩ = some (.string tp) := (HB1.out.cell (p := ⟨q, 1, none⟩) (heap_lt HQ0.out)).trans (cell_blk HQ0.out 1)
          have HI1 : Hid (In ET W1 (.slice (some a) U.length (uc - 1)) U) := hIt.below hb1
          have HR1 : Hid (R ET W1 (.slice ob T.length oc) T) := hR.out.below hb1
          have HA : Hid (a.block = Bu) := hab
          have HNo : Hid (∀ k, (Value.slice ob T.length oc).ownBlock = some k → W0.heap.size ≤ k ∧ Bu ≠ k) := fun k hk => ⟨(hNe.out k hk).1, (hNe.out k hk).2 _ rfl⟩
          have hle1 : (1 : Int) ≤ ((U.length + 1 : Nat) : Int) := by omega
          have hle2 : U.length + 1 ≤ uc := k3
          clear hcu hIt hb1 hab
          go_upto_region 5 with fail
          rw [← hW1, ← hp]
          clear hW1 hp c0 c1
          go_upto_region 6 with fail
          clear ha
          have hq' := eql_tg xa xp ta tp
          cases hE : decide ((xa, xp) = (ta, tp))
          · rw [hE] at hq'
            have HE : Hid ((xa, xp) ≠ (ta, tp)) := of_decide_eq_false hE
            clear hE
            have HX : Hid (Calls Try.prog 29 #[.slice ob T.length oc, .agg #[.string xa, .string xp]] W1 fun e w' => e = .returned (.bool (inB T (xa, xp))) ∧ Below W1.heap.size W1 w') := rin_any (ob, T.length, oc) T (xa, xp) W1 HR1.out.isIn
            cases hin : inB T (xa, xp)
            · rw [hin] at HX
              have HF1 : Hid (D NM (ta, tp) mo (NM (xa, xp) ++ U) (T ++ [(xa, xp)]) = FIN) := by have := hF.out; rw [D_go HM8.out hns.out HE.out (inB_not.1 hin)] at this; exact this
              clear hin
              go_wp2_with fail
              go_at_call 29
              refine HX.out.mono ?_
              rintro e w3 ⟨rfl, hb3⟩
              have HB3 : Hid (Below W0.heap.size W0 w3) := HB1.out.trans (hb3.mono HB1.out.size)
              have e0 : w3.cell? ⟨p, 0, none⟩ = some (.string xa) := (hb3.cell (World.block_lt_of_cell? _ _ d0)).trans d0
              have e1 : w3.cell? ⟨p, 1, none⟩ = some (.string xp) := (hb3.cell (World.block_lt_of_cell? _ _ d1)).trans d1
              obtain ⟨W4, hW4⟩ : ∃ W4, W4 = w3.alloc (.cells #[.string xa, .string xp] 26) := ⟨_, rfl⟩
              have hb4 : Below w3.heap.size w3 W4 := by rw [hW4]; exact bel1 _ _
              have HB4 : Below W0.heap.size W0 W4 := HB3.out.trans (hb4.mono HB3.out.size)
              have HI4 : In ET W4 (.slice (some a) U.length (uc - 1)) U := (HI1.out.below hb3).below hb4
              obtain ⟨gb, gc, w5, hrun, hRg, hG⟩ := app okT W4 (.slice ob T.length oc) T ((HR1.out.below hb3).below hb4) (.slice (some ⟨w3.heap.size, 0, none⟩) 1 1) [(xa, xp)] (by rw [hW4]; exact in_one (E := ET) _ _ (xa, xp) #[.string xa, .string xp] 26 (0, 0) (by rw [heap_al, if_pos rfl]) rfl) (by simp [ET]; omega)
              simp only [List.length_singleton] at hrun hRg hG
              have hB5 : Below W0.heap.size W0 w5 := HB4.trans (hG.belowB HB4.size fun k hk => (HNo.out k hk).1)
              have HI5 : In ET w5 (.slice (some a) U.length (uc - 1)) U := by
                rcases HI4 with ⟨e, h⟩ | ⟨a', cap, e, h1', h2', h3'⟩
                · cases e
                · injection e with x1 x2 x3
                  injection x1 with x1
                  subst x1
                  refine .inr ⟨a, cap, by rw [x2, x3], h1', h2', fun j u hu => ?_⟩
                  have hc := h3' j u hu
                  have hs := spot_none hc
                  have hl := World.block_lt_of_cell? _ _ hc
                  have hbk : (a.add j).block = Bu := by rw [← HA.out]; simp [Addr.add]; split <;> rfl
                  have := hG.block (a.add j).block hl (fun e => by have := (HNo.out _ e).2; exact this hbk.symm)
                  unfold World.cell? at hc ⊢
                  rw [this]
                  exact hc
              have HRUN : Hid ((Builtin.append_ #[27, 27] 27 #[.slice ob T.length oc, .slice (some ⟨w3.heap.size, 0, none⟩) 1 1]).run Try.prog (w3.alloc (.cells #[.string xa, .string xp] 26)) = .ok (.slice gb (T.length + 1) gc) w5) := by rw [← hW4]; exact hrun
              have HI5' : Hid (In ET w5 (.slice (some a) U.length (uc - 1)) U) := HI5
              have HR5 : Hid (R ET w5 (.slice gb (T.length + 1) gc) (T ++ [(xa, xp)])) := hRg
              have HB5 : Hid (Below W0.heap.size W0 w5) := hB5
              have HNg : Hid (∀ k, (Value.slice gb (T.length + 1) gc).ownBlock = some k → W0.heap.size ≤ k ∧ k < w5.heap.size) := fun k hk => ⟨by
                rcases hG.own k hk with h | h
                · exact (HNo.out k h).1
                · have := HB4.size; omega, hRg.lt k hk⟩
              have hop : (Value.slice ob T.length oc).ownBlock ≠ some p := fun e => by have := hR.out.lt p e; have := HP.out; omega
              have x0 : w5.cell? ⟨p, 0, none⟩ = some (.string xa) := gr_cell hG ((hb4.cell (World.block_lt_of_cell? _ _ e0)).trans e0) hop
              have x1 : w5.cell? ⟨p, 1, none⟩ = some (.string xp) := gr_cell hG ((hb4.cell (World.block_lt_of_cell? _ _ e1)).trans e1) hop
              have HN5 : Hid (Calls Try.prog 30 #[.pointer (some ⟨g, 0, none⟩), .agg #[.string xa, .string xp]] w5 fun e w' => ∃ y : SV, e = .returned (sv y) ∧ In ET w' (sv y) (NM (xa, xp)) ∧ Below w5.heap.size w5 w') := HNA.out w5 (xa, xp) (HB0.out.trans (hB5.mono HB0.out.size))
              have HN8 : Hid ((NM (xa, xp)).length ≤ 8) := H8.out _
              clear hrun hRg hG hB5 HI5 HI4 HB4 hb3 hb4 hW4 hop
              go_wp2_with (at_builtin; refine Lib.wpList_append_run _ rfl _ _ _ _ rfl _ _ rfl rfl _ _ HRUN.out ?_)
              clear HRUN e0 e1 d0 d1 q0 q1
              go_at_call 30
              refine HN5.out.mono ?_
              rintro e w6 ⟨⟨mb, ml, mc⟩, rfl, hIn, hb6⟩
              obtain ⟨X, hX⟩ : ∃ X, NM (xa, xp) = X := ⟨_, rfl⟩
              rw [hX] at hIn HN8 HF1
              obtain ⟨jb, jc, w7, hrun, hRj, hGj⟩ := app okT w6 (.slice none 0 0) [] (R.nil _ _) (sv (mb, ml, mc)) X hIn (by have := HN8.out; simp [ET]; omega)
              simp only [List.length_nil, Nat.zero_add, List.nil_append, sv] at hrun hRj hGj ⊢
              have hbl7 := hGj.fresh
              have HI7 : In ET w7 (.slice (some a) U.length (uc - 1)) U := (HI5'.out.below hb6).below hbl7
              obtain ⟨lb, lc, w8, hrun2, hRl, hGl⟩ := app okT w7 (.slice jb X.length jc) X hRj (.slice (some a) U.length (uc - 1)) U HI7 (by have := HN8.out; have := hL.out; simp [ET]; omega)
              have hnl : ∀ k, (Value.slice lb (X.length + U.length) lc).ownBlock = some k → w6.heap.size ≤ k := fun k hk => by
                rcases hGl.own k hk with h | h
                · exact hGj.new k h
                · have := hbl7.size; omega
              have hb8 : Below w6.heap.size w6 w8 := hbl7.trans (hGl.belowB hbl7.size fun k hk => hGj.new k hk)
              have HRA : Hid ((Builtin.append_ #[27, 27] 27 #[.slice none 0 0, .slice mb ml mc]).run Try.prog w6 = .ok (.slice jb X.length jc) w7) := hrun
              have HRB : Hid ((Builtin.append_ #[27, 27] 27 #[.slice jb X.length jc, .slice (some a) U.length (uc - 1)]).run Try.prog w7 = .ok (.slice lb (X.length + U.length) lc) w8) := hrun2
              have HR8 : Hid (R ET w8 (.slice gb (T.length + 1) gc) (T ++ [(xa, xp)])) := (HR5.out.below hb6).below hb8
              have HI8 : Hid (In ET w8 (.slice lb (X.length + U.length) lc) (X ++ U)) := hRl.isIn
              have HB8 : Hid (Below W0.heap.size W0 w8) := HB5.out.trans ((hb6.trans (hb8.mono hb6.size)).mono HB5.out.size)
              have HNE : Hid (∀ k, (Value.slice gb (T.length + 1) gc).ownBlock = some k → W0.heap.size ≤ k ∧ ∀ a', lb = some a' → a'.block ≠ k) := fun k hk => ⟨(HNg.out k hk).1, fun a' e h => by
                have h1 := (HNg.out k hk).2
                have h2 := hb6.size
                rcases hRl.2 with ⟨h3, _⟩ | ⟨g9, _, _, h3, _⟩
                · rw [e] at h3; cases h3
                · injection h3 with h3
                  rw [e] at h3
                  injection h3 with h3
                  have := hnl g9 (by rw [e, h3]; rfl)
                  rw [h3] at h
                  simp at h
                  omega⟩
              clear hX hIn hb6 hrun hrun2 hRj hGj hbl7 HI7 hRl hGl hnl hb8 x0 x1
              go_wp2_with (at_builtin; first | refine Lib.wpList_append_run _ rfl _ _ _ _ rfl _ _ rfl rfl _ _ HRA.out ?_ | refine Lib.wpList_append_run _ rfl _ _ _ _ rfl _ _ rfl rfl _ _ HRB.out ?_)
              go_roundw
              case rel => exact ⟨(gb, T.length + 1, gc), (lb, X.length + U.length, lc), T ++ [(xa, xp)], X ++ U, rfl, rfl, HR8.out, HI8.out, HF1.out, ⟨by simp; omega, by have := HN8.out; have := hL.out; simp; omega⟩, HNE.out, HB8.out⟩
              case measure => have := HN8.out; simp [lenV]; omega
            · rw [hin] at HX
              have HF1 : Hid (D NM (ta, tp) mo U T = FIN) := by have := hF.out; rw [D_skip (.inr (inB_iff.1 hin))] at this; exact this
              clear hin
              go_wp2_with fail
              go_at_call 29
              refine HX.out.mono ?_
              rintro e w3 ⟨rfl, hb3⟩
              have HI3 : Hid (In ET w3 (.slice (some a) U.length (uc - 1)) U) := HI1.out.below hb3
              have HR3 : Hid (R ET w3 (.slice ob T.length oc) T) := HR1.out.below hb3
              have HB3 : Hid (Below W0.heap.size W0 w3) := HB1.out.trans (hb3.mono HB1.out.size)
              clear hb3
              go_wp2_with fail
              go_roundw
              case rel => exact ⟨(ob, T.length, oc), (some a, U.length, uc - 1), T, U, rfl, rfl, HR3.out, HI3.out, HF1.out, ⟨hL.out.1, by have := hL.out.2; omega⟩, fun k hk => ⟨(HNo.out k hk).1, fun a' e => by injection e with e; rw [← e, HA.out]; exact (HNo.out k hk).2⟩, HB3.out⟩
              case measure => simp [lenV]
          · rw [hE] at hq'
            have HF1 : Hid (D NM (ta, tp) mo U T = FIN) := by have := hF.out; rw [D_skip (.inl (of_decide_eq_true hE))] at this; exact this
            clear hE
            go_wp2_with fail
            go_roundw
            case rel => exact ⟨(ob, T.length, oc), (some a, U.length, uc - 1), T, U, rfl, rfl, HR1.out, HI1.out, HF1.out, ⟨hL.out.1, by have := hL.out.2; omega⟩, fun k hk => ⟨(HNo.out k hk).1, fun a' e => by injection e with e; rw [← e, HA.out]; exact (HNo.out k hk).2⟩, HB1.out⟩
            case measure => simp [lenV]
        · have g2 : ¬ (T.length : Int) < 8 := by omega
          have HT : Hid (T = FIN) := by have := hF.out; rw [D_stop (by have := HMO.out; omega)] at this; exact this
          have HZ : Hid (PlPost FIN w (.returned (.slice ob T.length oc)) wr) := HPP.out HT.out
          clear HPP hF
          go_wp2_with fail
          go_ret
          exact HZ.out
      · have HT : Hid (T = FIN) := by have := hF.out; rw [D_stop (by have := HMO.out; omega)] at this; exact this
        have HZ : Hid (PlPost FIN w (.returned (.slice ob T.length oc)) wr) := HPP.out HT.out
        clear HPP hF
        go_wp2_with fail
        go_ret
        exact HZ.out
end Go.Proofs.Ytldnibkgdpeocaa
