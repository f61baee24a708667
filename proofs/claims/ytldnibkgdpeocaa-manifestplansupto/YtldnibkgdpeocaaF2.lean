/- The document's Of. -/
import Derived.Test.YtldnibkgdpeocaaF1
namespace Go.Proofs.Ytldnibkgdpeocaa
open Go.RowKit Go.Maps
open Go.Shelf
set_option linter.unusedVariables false
set_option linter.unusedSimpArgs false

/-- the document's manifest in memory, its blocks from lo on -/
def Dm (w : World) (lo g : Nat) (v : SV) (ps : List Pu) : Prop := lo ≤ g ∧ w.heap[g]? = some (.cells #[sv v] 62 (0, 0)) ∧ (∀ k, (sv v).ownBlock = some k → lo ≤ k) ∧ ∃ rs : List Ru, R ER w (sv v) rs ∧ (∀ r ∈ rs, R ET w (sv r.y) r.l ∧ ∀ k, (sv r.y).ownBlock = some k → lo ≤ k) ∧ rs.map puR = ps
theorem Dm.keep {w w' : World} {lo g : Nat} {v : SV} {ps : List Pu} (h : Dm w lo g v ps) (hk : ∀ k, lo ≤ k → k < w.heap.size → w'.heap[k]? = w.heap[k]?) : Dm w' lo g v ps := by
  obtain ⟨h1, h2, h3, rs, h4, h5, h6⟩ := h
  exact ⟨h1, (hk g h1 (heap_lt h2)).trans h2, h3, rs, h4.stays fun k hk' hl => hk k (h3 k hk') hl, fun r hr => ⟨(h5 r hr).1.stays fun k hk' hl => hk k ((h5 r hr).2 k hk') hl, (h5 r hr).2⟩, h6⟩
theorem Dm.below {w w' : World} {lo g : Nat} {v : SV} {ps : List Pu} (h : Dm w lo g v ps) (hb : Below w.heap.size w w') : Dm w' lo g v ps := h.keep fun k _ hk => hb.block k hk
theorem Dm.len {w : World} {lo g : Nat} {v : SV} {ps : List Pu} (h : Dm w lo g v ps) : v.2.1 = ps.length := by
  obtain ⟨h1, h2, h3, rs, h4, h5, h6⟩ := h
  obtain ⟨b, c, e, _⟩ := h4.slice
  obtain ⟨vb, vl, vc⟩ := v
  simp only [sv] at e
  injection e with e1 e2 e3
  rw [← h6, List.length_map]
  exact e2
/-- one rule more: the row grows, and is stored -/
theorem Dm.grow {w : World} {lo g : Nat} {v : SV} {ps : List Pu} (h : Dm w lo g v ps) (hlo : lo ≤ w.heap.size) (t : Tg) (y : SV) (l : List Tg) (hR : R ET w (sv y) l) (hy : ∀ k, (sv y).ownBlock = some k → lo ≤ k) (x : Value) (hx : In ER w x [⟨t, y, l⟩]) (hz : (ps.length + 1) * 56 ≤ 140737488355328) :
    ∃ b c W, (Builtin.append_ #[23, 23] 23 #[sv v, x]).run Try.prog w = .ok (.slice b (ps.length + 1) c) W ∧ W.heap[g]? = some (.cells #[sv v] 62 (0, 0)) ∧ Below lo w W ∧ Dm (W.setCell ⟨g, 0, none⟩ (.slice b (ps.length + 1) c)) lo g (b, ps.length + 1, c) (ps ++ [(t, l)]) := by
  obtain ⟨h1, h2, h3, rs, h4, h5, h6⟩ := h
  have hlen : rs.length = ps.length := by rw [← h6, List.length_map]
  obtain ⟨b, c, W, hrun, hR2, hG⟩ := app okR w (sv v) rs h4 x [⟨t, y, l⟩] hx (by rw [hlen]; exact hz)
  rw [hlen] at hrun hR2 hG
  simp only [List.length_singleton] at hrun hR2 hG
  have hvg : (sv v).ownBlock ≠ some g := fun e => by
    obtain ⟨cc, hc⟩ := h4.ty g e
    rw [h2] at hc
    injection hc with hc
    injection hc with _ hc
    simp [ER] at hc
  have hg2 : W.heap[g]? = some (.cells #[sv v] 62 (0, 0)) := (hG.block g (heap_lt h2) hvg).trans h2
  have keepT : ∀ {u : Value} {k : List Tg}, R ET W u k → R ET (W.setCell ⟨g, 0, none⟩ (.slice b (ps.length + 1) c)) u k := fun {u k} h => h.stays fun i hi _ => setCell_other _ _ _ _ _ fun e => by
    subst e
    obtain ⟨cc, hc⟩ := h.ty _ hi
    rw [hg2] at hc
    injection hc with hc
    injection hc with _ hc
    simp [ET] at hc
  refine ⟨b, c, W, hrun, hg2, hG.belowB hlo h3, h1, ?_, fun k hk => ?_, rs ++ [(⟨t, y, l⟩ : Ru)], ?_, fun r hr => ?_, by rw [List.map_append, h6]; rfl⟩
  · rw [setCell_block _ _ _ _ _ _ _ hg2]
    rfl
  · rcases hG.own k hk with h | h
    · exact h3 k h
    · omega
  · refine hR2.stays fun i hi _ => setCell_other _ _ _ _ _ fun e => ?_
    subst e
    obtain ⟨cc, hc⟩ := hR2.ty _ hi
    rw [hg2] at hc
    injection hc with hc
    injection hc with _ hc
    simp [ER] at hc
  · rcases List.mem_append.1 hr with hr | hr
    · exact ⟨keepT ((h5 r hr).1.other h4 (by decide) hG), (h5 r hr).2⟩
    · rw [List.mem_singleton.1 hr]
      exact ⟨keepT (hR.other h4 (by decide) hG), hy⟩
def ROfPost (rs : List Ru) (w : World) (e : Ending) (w' : World) : Prop :=
  Below w.heap.size w w' ∧ ((ofE rs ≠ 0 ∧ e = .returned (.tuple #[.pointer none, .int .i64 (ofE rs)])) ∨ (ofE rs = 0 ∧ ∃ g v, e = .returned (.tuple #[.pointer (some ⟨g, 0, none⟩), .int .i64 0]) ∧ Dm w' w.heap.size g v (rs.map puR)))
theorem of_long {rs : List Ru} {i : Nat} (hi : i < rs.length) (h : longB rs[i] = true) : ofE rs = 3 := by
  have : rs.any longB = true := List.any_eq_true.2 ⟨_, List.getElem_mem hi, h⟩
  unfold ofE
  split
  · rfl
  · first | rfl | rw [if_pos this]
theorem of_wrong {rs : List Ru} {i : Nat} (h64 : ¬ 64 < rs.length) (hl : rs.any longB = false) (hi : i < rs.length) (h : wrongB rs[i] = true) : ofE rs = 180 := by
  have : rs.any wrongB = true := List.any_eq_true.2 ⟨_, List.getElem_mem hi, h⟩
  unfold ofE
  rw [if_neg h64, if_neg (by rw [hl]; simp), if_pos this]
theorem of_seven {rs : List Ru} (h64 : ¬ 64 < rs.length) (hl : rs.any longB = false) (hw : rs.any wrongB = false) (h : rs.any twiceB = true ∨ ndB (rs.map Ru.t) = false) : ofE rs = 7 := by
  unfold ofE
  rw [if_neg h64, if_neg (by rw [hl]; simp), if_neg (by rw [hw]; simp)]
  split
  · rfl
  · rename_i h2
    rcases h with h | h
    · exact absurd h h2
    · rw [h]; rfl
theorem of_zero {rs : List Ru} (h64 : ¬ 64 < rs.length) (hl : rs.any longB = false) (hw : rs.any wrongB = false) (h1 : rs.any twiceB = false) (h2 : ndB (rs.map Ru.t) = true) : ofE rs = 0 := by
  unfold ofE
  rw [if_neg h64, if_neg (by rw [hl]; simp), if_neg (by rw [hw]; simp), if_neg (by rw [h1]; simp), if_pos h2]
theorem any_no {α : Type} {B : α → Bool} {l : List α} (h : ∀ j (hj : j < l.length), B l[j] = false) : l.any B = false := List.any_eq_false.2 fun x hx => by
  obtain ⟨j, hj, e⟩ := List.getElem_of_mem hx
  rw [← e, h j hj]
  simp

set_option maxHeartbeats 32000000 in
set_option maxRecDepth 100000 in
theorem rof_any (x : SV) (rs : List Ru) (w : World) (hI : In ER w (sv x) rs) (hC : PsIn w rs) (hz : ∀ r ∈ rs, tz r.t ∧ ∀ c ∈ r.l, tz c) : Calls Try.prog 17 #[sv x] w fun e w' => ROfPost rs w e w' := by
  have HI : Hid (In ER w (sv x) rs) := hI
  have HC : Hid (PsIn w rs) := hC
  have HZ : Hid (∀ r ∈ rs, tz r.t ∧ ∀ c ∈ r.l, tz c) := hz
  obtain ⟨b, c, e, m1, m2⟩ := hI.slice
  obtain ⟨sb, sl, sc⟩ := x
  simp only [sv] at e HI ⊢
  injection e with e1 e2 e3
  subst e1 e2 e3
  clear hI hC hz
  by_cases h64 : 64 < rs.length
  · have hE : Hid (ofE rs = 3) := by show _ = _; unfold ofE; rw [if_pos h64]
    have l0 : (64 : Int) < (rs.length : Int) := by omega
    clear h64
    go_enter Try.func17, Try.ntmps17
    go_wp2_with fail
    go_ret2
    exact ⟨Below.refl _ _, .inl ⟨by rw [hE.out]; decide, by rw [hE.out]; rfl⟩⟩
  have l0 : ¬ (64 : Int) < (rs.length : Int) := by omega
  have H64 : Hid (¬ 64 < rs.length) := h64
  obtain ⟨n, hn⟩ : ∃ n, n = rs.length := ⟨_, rfl⟩
  have HN : Hid (n = rs.length) := hn
  rw [← hn] at HI m1 l0 ⊢
  clear h64 hn
  go_enter Try.func17, Try.ntmps17
  go_wp2_with fail
  go_loopw [4] (fun iv wr => ∃ i : Nat, iv = .int .i64 (i : Int) ∧ i ≤ n ∧ wr = w ∧ Hid (∀ j (h : j < rs.length), j < i → longB rs[j] = false)) (fun iv _ => n - (intOf iv).toNat)
  case atStart => exact ⟨0, rfl, by omega, rfl, fun j _ h => absurd h (by omega)⟩
  case round =>
    obtain ⟨i, rfl, hi, hwr, hno⟩ := hrel
    subst hwr
    by_cases hlt : i < n
    · have l1 : (i : Int) < (n : Int) := by omega
      have hil : i < rs.length := by have := HN.out; omega
      obtain ⟨Bk, off, cap, e, hBk, hc⟩ := HI.out.ru i hil
      injection e with e1 e2 e3
      clear e2 e3
      subst e1
      obtain ⟨c0, c1, c2⟩ := hc wr (Below.refl _ _)
      have hIn := HC.out _ (List.getElem_mem hil)
      obtain ⟨yb, yc, ey, k1, k2⟩ := hIn.slice
      rw [ey] at c2
      obtain ⟨Y, hY⟩ : ∃ Y, rs[i].l.length = Y := ⟨_, rfl⟩
      rw [hY] at c2 k1
      have HY : Hid (rs[i].l.length = Y) := hY
      clear hc hIn ey hY c0 c1
      by_cases hlong : 8 < Y
      · have l2 : (8 : Int) < (Y : Int) := by omega
        have hE : Hid (ofE rs = 3) := of_long hil (by unfold longB; rw [HY.out]; exact decide_eq_true hlong)
        clear hlong
        go_wp2_with fail
        go_ret2
        exact ⟨Below.refl _ _, .inl ⟨by rw [hE.out]; decide, by rw [hE.out]; rfl⟩⟩
      · have l2 : ¬ (8 : Int) < (Y : Int) := by omega
        have HLB : Hid (longB (rs[i]'hil) = false) := by show _ = _; unfold longB; rw [HY.out]; exact decide_eq_false hlong
        clear hlong
        go_wp2_with fail
        go_roundw
        case rel =>
          refine ⟨i + 1, by simp, by omega, by first | trivial | rfl, fun j hj h => ?_⟩
          by_cases hji : j = i
          · subst hji; exact HLB.out
          · exact hno.out j hj (by omega)
        case measure => simp [intOf] <;> omega
    · have l1 : ¬ (i : Int) < (n : Int) := by omega
      have HLO : Hid (rs.any longB = false) := any_no fun j hj => hno.out j hj (by have := HN.out; omega)
      clear hno
      obtain ⟨w0, hw0⟩ : ∃ w0, w0 = wr := ⟨_, rfl⟩
      subst hw0
      go_wp2_with fail
      go_loopw [5] (fun iv wr => ∃ i : Nat, iv = .int .i64 (i : Int) ∧ i ≤ n ∧ Hid (∀ j (h : j < rs.length), j < i → wrongB rs[j] = false) ∧ Hid (Below w0.heap.size w0 wr)) (fun iv _ => n - (intOf iv).toNat)
      case atStart => exact ⟨0, rfl, by omega, fun j _ h => absurd h (by omega), Below.refl _ _⟩
      case round =>
        obtain ⟨i, rfl, hi, hno, hb⟩ := hrel
        by_cases hlt : i < n
        · have l1 : (i : Int) < (n : Int) := by omega
          have hil : i < rs.length := by have := HN.out; omega
          obtain ⟨Bk, off, cap, e, hBk, hc⟩ := HI.out.ru i hil
          injection e with e1 e2 e3
          clear e2 e3
          subst e1
          have hz := HZ.out _ (List.getElem_mem hil)
          obtain ⟨r, hr⟩ : ∃ r, rs[i] = r := ⟨_, rfl⟩
          rw [hr] at hc hz
          have Hr : Hid (rs[i]'hil = r) := hr
          have HRI : Hid (In ET w0 (sv r.y) r.l) := by rw [← hr]; exact HC.out _ (List.getElem_mem hil)
          have HRZ : Hid (∀ c ∈ r.l, tz c) := hz.2
          have HRT : Hid (tz r.t) := hz.1
          have HCC : Hid (∀ V, Below w0.heap.size w0 V → V.cell? ⟨Bk, off + i * 3, none⟩ = some (.string r.t.1) ∧ V.cell? ⟨Bk, off + i * 3 + 1, none⟩ = some (.string r.t.2) ∧ V.cell? ⟨Bk, off + i * 3 + 2, none⟩ = some (sv r.y)) := hc
          clear hc hz hr
          obtain ⟨⟨ta, tp⟩, ⟨yb, yl, yc⟩, l⟩ := r
          simp only [sv] at HCC HRI HRZ HRT
          obtain ⟨b0, c0, e0, k1, k2⟩ := HRI.out.slice
          injection e0 with e1 e2 e3
          subst e1 e2 e3
          obtain ⟨c0, c1, c2⟩ := HCC.out wr hb.out
          have HX : Hid (∀ W, Calls Try.prog 28 #[.agg #[.string ta, .string tp]] W fun e w' => e = .returned (.bool (tgB (ta, tp))) ∧ Below W.heap.size W w') := fun W => right_any (ta, tp) W HRT.out
          cases hT : tgB (ta, tp)
          · rw [hT] at HX
            have hE : Hid (ofE rs = 180) := of_wrong H64.out HLO.out hil (by rw [Hr.out]; unfold wrongB badT; simp only; rw [hT]; rfl)
            clear hT
            go_wp2_with fail
            go_at_call 28
            refine (HX.out _).mono ?_
            rintro e v1 ⟨rfl, hb1⟩
            have HBx : Hid (Below w0.heap.size w0 v1) := hb.out.trans (hb1.mono hb.out.size)
            clear hb1
            go_wp2_with fail
            go_ret2
            exact ⟨HBx.out, .inl ⟨by rw [hE.out]; decide, by rw [hE.out]; rfl⟩⟩
          · rw [hT] at HX
            have HTT : Hid (tgB (ta, tp) = true) := hT
            clear hT
            go_wp2_with fail
            go_at_call 28
            refine (HX.out _).mono ?_
            rintro e v1 ⟨rfl, hb1⟩
            have HBx : Hid (Below w0.heap.size w0 v1) := hb.out.trans (hb1.mono hb.out.size)
            clear hb1 c0 c1 c2
            go_wp2_with fail
            go_loopw [6] (fun jv wr => ∃ j : Nat, jv = .int .i64 (j : Int) ∧ j ≤ l.length ∧ Hid (∀ k (h : k < l.length), k < j → badT l[k] = false) ∧ Hid (Below w0.heap.size w0 wr)) (fun jv _ => l.length - (intOf jv).toNat)
            case atStart => exact ⟨0, rfl, by omega, fun j _ h => absurd h (by omega), HBx.out⟩
            case round =>
              obtain ⟨j, rfl, hj, hnj, hbj⟩ := hrel
              obtain ⟨c0, c1, c2⟩ := HCC.out wr hbj.out
              by_cases hjl : j < l.length
              · have l2 : (j : Int) < (l.length : Int) := by omega
                obtain ⟨Bn, on, cn, en, hBn, hcn⟩ := HRI.out.tg j hjl
                injection en with e1 e2 e3
                clear e2 e3
                subst e1
                obtain ⟨Z, hZ⟩ : ∃ Z, l[j] = Z := ⟨_, rfl⟩
                rw [hZ] at hcn
                have HZJ : Hid (l[j]'hjl = Z) := hZ
                have HZT : Hid (tz Z) := by rw [← hZ]; exact HRZ.out _ (List.getElem_mem hjl)
                obtain ⟨d0, d1⟩ := hcn wr hbj.out
                clear hcn hZ
                obtain ⟨za, zp⟩ := Z
                simp only at d0 d1
                have HXZ : Hid (∀ W, Calls Try.prog 28 #[.agg #[.string za, .string zp]] W fun e w' => e = .returned (.bool (tgB (za, zp))) ∧ Below W.heap.size W w') := fun W => right_any (za, zp) W HZT.out
                cases hB : tgB (za, zp)
                · rw [hB] at HXZ
                  have hE : Hid (ofE rs = 180) := of_wrong H64.out HLO.out hil (by rw [Hr.out]; unfold wrongB; rw [Bool.or_eq_true]; exact .inr (List.any_eq_true.2 ⟨(za, zp), by rw [← HZJ.out]; exact List.getElem_mem hjl, by unfold badT; rw [hB]; rfl⟩))
                  clear hB
                  go_wp2_with fail
                  go_at_call 28
                  refine (HXZ.out _).mono ?_
                  rintro e v2 ⟨rfl, hb1⟩
                  have HBy : Hid (Below w0.heap.size w0 v2) := hbj.out.trans (hb1.mono hbj.out.size)
                  clear hb1
                  go_wp2_with fail
                  go_ret2
                  exact ⟨HBy.out, .inl ⟨by rw [hE.out]; decide, by rw [hE.out]; rfl⟩⟩
                · rw [hB] at HXZ
                  have HBB : Hid (badT (za, zp) = false) := by show _ = _; unfold badT; rw [hB]; rfl
                  clear hB
                  go_wp2_with fail
                  go_at_call 28
                  refine (HXZ.out _).mono ?_
                  rintro e v2 ⟨rfl, hb1⟩
                  have HBy : Hid (Below w0.heap.size w0 v2) := hbj.out.trans (hb1.mono hbj.out.size)
                  clear hb1
                  go_wp2_with fail
                  go_roundw
                  case rel =>
                    refine ⟨j + 1, by simp, by omega, fun k hk h => ?_, HBy.out⟩
                    by_cases hkj : k = j
                    · subst hkj; rw [HZJ.out]; exact HBB.out
                    · exact hnj.out k hk (by omega)
                  case measure => simp [intOf] <;> omega
              · have l2 : ¬ (j : Int) < (l.length : Int) := by omega
                have HWB : Hid (wrongB (rs[i]'hil) = false) := by
                  show _ = _
                  rw [Hr.out]
                  unfold wrongB
                  simp only
                  rw [any_no fun k hk => hnj.out k hk (by omega)]
                  unfold badT
                  rw [HTT.out]
                  rfl
                go_wp2_with fail
                go_roundw
                case rel =>
                  refine ⟨i + 1, by simp, by omega, fun k hk h => ?_, hbj.out⟩
                  by_cases hki : k = i
                  · subst hki; exact HWB.out
                  · exact hno.out k hk (by omega)
                case measure => simp [intOf] <;> omega
        · have l1 : ¬ (i : Int) < (n : Int) := by omega
          have HWO : Hid (rs.any wrongB = false) := any_no fun j hj => hno.out j hj (by have := HN.out; omega)
          clear hno
          obtain ⟨w4, hw4⟩ : ∃ w4, w4 = wr := ⟨_, rfl⟩
          subst hw4
          obtain ⟨g, hg⟩ : ∃ g, g = w4.heap.size := ⟨_, rfl⟩
          obtain ⟨W5, hW5⟩ : ∃ W5, W5 = w4.alloc (.cells #[.slice none 0 0] 62) := ⟨_, rfl⟩
          have HB5 : Hid (Below w0.heap.size w0 W5) := by rw [hW5]; exact hb.out.trans ((bel1 _ _).mono hb.out.size)
          have HD5 : Hid (Dm W5 w0.heap.size g (none, 0, 0) []) := by
            rw [hW5, hg]
            exact ⟨hb.out.size, by rw [heap_al, if_pos rfl]; rfl, fun k hk => by simp [sv, Value.ownBlock] at hk, [], R.nil _ _, fun r hr => by simp at hr, rfl⟩
          go_upto_region 19 with fail
          rw [← hW5, ← hg]
          clear hW5 hg hb
          go_wp2_with fail
          go_loopw [8] (fun iv wr => ∃ (i : Nat) (v : SV), iv = .int .i64 (i : Int) ∧ i ≤ n ∧ Hid (Dm wr w0.heap.size g v ((rs.take i).map puR)) ∧ Hid (∀ j (h : j < rs.length), j < i → twiceB rs[j] = false ∧ ∀ k (h' : k < rs.length), k < j → rs[k].t ≠ rs[j].t) ∧ Hid (Below w0.heap.size w0 wr)) (fun iv _ => n - (intOf iv).toNat)
          case atStart => exact ⟨0, (none, 0, 0), rfl, by omega, HD5.out, fun j _ h => absurd h (by omega), HB5.out⟩
          case round =>
            obtain ⟨i, v, rfl, hi, hD, hno, hb⟩ := hrel
            by_cases hlt : i < n
            · have l1 : (i : Int) < (n : Int) := by omega
              have hil : i < rs.length := by have := HN.out; omega
              obtain ⟨Bk, off, cap, e, hBk, hc⟩ := HI.out.ru i hil
              injection e with e1 e2 e3
              clear e2 e3
              subst e1
              obtain ⟨r, hr⟩ : ∃ r, rs[i] = r := ⟨_, rfl⟩
              rw [hr] at hc
              have Hr : Hid (rs[i]'hil = r) := hr
              have HRI : Hid (In ET w0 (sv r.y) r.l) := by rw [← hr]; exact HC.out _ (List.getElem_mem hil)
              have HR8 : Hid (r.l.length ≤ 8) := by
                have := List.any_eq_false.1 HLO.out r (by rw [← hr]; exact List.getElem_mem hil)
                unfold longB at this
                simp at this
                exact this
              have HCC : Hid (∀ V, Below w0.heap.size w0 V → V.cell? ⟨Bk, off + i * 3, none⟩ = some (.string r.t.1) ∧ V.cell? ⟨Bk, off + i * 3 + 1, none⟩ = some (.string r.t.2) ∧ V.cell? ⟨Bk, off + i * 3 + 2, none⟩ = some (sv r.y)) := hc
              clear hc hr
              obtain ⟨⟨ta, tp⟩, ⟨yb, yl, yc⟩, l⟩ := r
              simp only [sv] at HCC HRI HR8
              obtain ⟨b0, c0, e0, k1, k2⟩ := HRI.out.slice
              injection e0 with e1 e2 e3
              subst e1 e2 e3
              obtain ⟨wi, hwi⟩ : ∃ wi, wi = wr := ⟨_, rfl⟩
              subst hwi
              go_wp2_with fail
              go_loopw [9] (fun jv wr => ∃ j : Nat, jv = .int .i64 (j : Int) ∧ j ≤ i ∧ Hid (∀ k (h : k < rs.length), k < j → rs[k].t ≠ (ta, tp)) ∧ Hid (Below wi.heap.size wi wr)) (fun jv _ => i - (intOf jv).toNat)
              case atStart => exact ⟨0, rfl, by omega, fun j _ h => absurd h (by omega), Below.refl _ _⟩
              case round =>
                obtain ⟨j, rfl, hj, hnj, hbj⟩ := hrel
                have HBj : Hid (Below w0.heap.size w0 wr) := hb.out.trans (hbj.out.mono hb.out.size)
                obtain ⟨c0, c1, c2⟩ := HCC.out wr HBj.out
                by_cases hji : j < i
                · have l2 : (j : Int) < (i : Int) := by omega
                  have hjl : j < rs.length := by omega
                  have l3 : (j : Int) < (n : Int) := by omega
                  have l4 : j < n := by omega
                  obtain ⟨Bm, om, cm, em, hBm, hcm⟩ := HI.out.ru j hjl
                  injection em with e1 e2 e3
                  injection e1 with e1
                  injection e1 with e1 e4 _
                  clear e2 e3
                  subst e1 e4
                  obtain ⟨Z, hZ⟩ : ∃ Z, rs[j].t = Z := ⟨_, rfl⟩
                  rw [hZ] at hcm
                  have HZJ : Hid ((rs[j]'hjl).t = Z) := hZ
                  obtain ⟨d0, d1, d2⟩ := hcm wr HBj.out
                  clear hcm hZ d2
                  obtain ⟨za, zp⟩ := Z
                  simp only at d0 d1
                  have hq := eql_tg za zp ta tp
                  cases hE : decide ((za, zp) = (ta, tp))
                  · rw [hE] at hq
                    have HE : Hid ((za, zp) ≠ (ta, tp)) := of_decide_eq_false hE
                    clear hE
                    have hb3 : Hid (Below wi.heap.size wi wr.drew) := hbj.out.drew
                    go_wp2_with fail
                    go_region
                    go_wp2_with fail
                    go_roundw
                    case rel =>
                      refine ⟨j + 1, by simp, by omega, fun k hk h => ?_, hb3.out⟩
                      by_cases hkj : k = j
                      · subst hkj; rw [HZJ.out]; exact HE.out
                      · exact hnj.out k hk (by omega)
                    case measure => simp [intOf] <;> omega
                  · rw [hE] at hq
                    have HE7 : Hid (ofE rs = 7) := of_seven H64.out HLO.out HWO.out (.inr (Bool.eq_false_iff.2 fun h => by
                      have h1 := List.pairwise_iff_getElem.1 (List.nodup_iff_pairwise_ne.1 (ndB_iff.1 h)) j i (by simpa using hjl) (by simpa using hil) hji
                      rw [List.getElem_map, List.getElem_map, HZJ.out, Hr.out] at h1
                      exact h1 (of_decide_eq_true hE)))
                    clear hE
                    have hb3 : Hid (Below w0.heap.size w0 wr.drew) := HBj.out.drew
                    go_wp2_with fail
                    go_region
                    go_wp2_with fail
                    go_ret2
                    exact ⟨hb3.out, .inl ⟨by rw [HE7.out]; decide, by rw [HE7.out]; rfl⟩⟩
                · obtain rfl : j = i := by omega
                  have l2 : ¬ (j : Int) < (j : Int) := by omega
                  have HD6 : Hid (Dm wr w0.heap.size g v ((rs.take j).map puR)) := hD.out.below hbj.out
                  clear c0 c1 c2
                  obtain ⟨wk', hwk⟩ : ∃ wk', wk' = wr := ⟨_, rfl⟩
                  subst hwk
                  go_wp2_with fail
                  go_loopw [10] (fun kv wr => ∃ k : Nat, kv = .int .i64 (k : Int) ∧ k ≤ l.length ∧ Hid (∀ k' (h : k' < l.length), k' < k → l[k'] ∉ l.take k') ∧ Hid (Below wk'.heap.size wk' wr)) (fun kv _ => l.length - (intOf kv).toNat)
                  case atStart => exact ⟨0, rfl, by omega, fun j _ h => absurd h (by omega), Below.refl _ _⟩
                  case round =>
                    obtain ⟨k, rfl, hk, hnk, hbk⟩ := hrel
                    have HBk : Hid (Below w0.heap.size w0 wr) := HBj.out.trans (hbk.out.mono HBj.out.size)
                    obtain ⟨c0, c1, c2⟩ := HCC.out wr HBk.out
                    by_cases hkl : k < l.length
                    · have l3 : (k : Int) < (l.length : Int) := by omega
                      obtain ⟨Bn, on, cn, en, hBn, hcn⟩ := HRI.out.tg k hkl
                      injection en with e1 e2 e3
                      clear e2 e3
                      subst e1
                      obtain ⟨Z, hZ⟩ : ∃ Z, l[k] = Z := ⟨_, rfl⟩
                      rw [hZ] at hcn
                      have HZJ : Hid (l[k]'hkl = Z) := hZ
                      obtain ⟨d0, d1⟩ := hcn wr HBk.out
                      clear hcn hZ
                      obtain ⟨za, zp⟩ := Z
                      simp only at d0 d1
                      have l5 : (k : Int) ≤ (yc : Int) := by omega
                      have HX : Hid (∀ V, Below w0.heap.size w0 V → Calls Try.prog 29 #[.slice (some ⟨Bn, on, none⟩) k yc, .agg #[.string za, .string zp]] V fun e w' => e = .returned (.bool (inB (l.take k) (za, zp))) ∧ Below V.heap.size V w') := fun V hV => rin_any (some ⟨Bn, on, none⟩, k, yc) (l.take k) (za, zp) V ((HRI.out.take okT k (by omega)).below hV)
                      cases hE : inB (l.take k) (za, zp)
                      · rw [hE] at HX
                        have HE : Hid ((za, zp) ∉ l.take k) := inB_not.1 hE
                        clear hE
                        go_wp2_with fail
                        go_region_with (go_at_call 29; refine (HX.out _ HBk.out.drew).mono ?_; rintro e v2 ⟨rfl, hb1⟩)
                        all_goals
                          have hb5 : Hid (Below wk'.heap.size wk' v2) := hbk.out.drew.trans (hb1.mono hbk.out.drew.size)
                          clear hb1
                          go_wp2_with fail
                          go_roundw
                          case rel =>
                            refine ⟨k + 1, by simp, by omega, fun k' hk' h => ?_, hb5.out⟩
                            by_cases hkk : k' = k
                            · subst hkk; rw [HZJ.out]; exact HE.out
                            · exact hnk.out k' hk' (by omega)
                          case measure => simp [intOf] <;> omega
                      · rw [hE] at HX
                        have HE7 : Hid (ofE rs = 7) := of_seven H64.out HLO.out HWO.out (.inl (List.any_eq_true.2 ⟨rs[j]'hil, List.getElem_mem hil, by rw [Hr.out]; exact (twB_of l []).2 ⟨k, hkl, by rw [HZJ.out]; simpa using inB_iff.1 hE⟩⟩))
                        clear hE
                        go_wp2_with fail
                        go_region_with (go_at_call 29; refine (HX.out _ HBk.out.drew).mono ?_; rintro e v2 ⟨rfl, hb1⟩)
                        all_goals
                          have hb5 : Hid (Below w0.heap.size w0 v2) := HBk.out.drew.trans (hb1.mono HBk.out.drew.size)
                          clear hb1
                          go_wp2_with fail
                          go_ret2
                          exact ⟨hb5.out, .inl ⟨by rw [HE7.out]; decide, by rw [HE7.out]; rfl⟩⟩
                    · have l3 : ¬ (k : Int) < (l.length : Int) := by omega
                      have HTW : Hid (twiceB (rs[j]'hil) = false) := by
                        show _ = _
                        rw [Hr.out]
                        exact Bool.eq_false_iff.2 fun h => by
                          obtain ⟨k', hk', e⟩ := (twB_of l []).1 h
                          exact hnk.out k' hk' (by omega) (by simpa using e)
                      have HD7 : Hid (Dm wr w0.heap.size g v ((rs.take j).map puR)) := HD6.out.below hbk.out
                      have HTK : Hid ((rs.take (j + 1)).map puR = (rs.take j).map puR ++ [((ta, tp), l)]) := by show _ = _; rw [List.take_succ_eq_append_getElem hil, List.map_append, Hr.out]; rfl
                      have HTL : Hid (((rs.take j).map puR).length = j) := by show _ = _; simp; omega
                      have HNX : Hid (∀ j' (h : j' < rs.length), j' < j + 1 → twiceB rs[j'] = false ∧ ∀ k (h' : k < rs.length), k < j' → rs[k].t ≠ rs[j'].t) := fun j' h hlt' => by
                        by_cases hjj : j' = j
                        · subst hjj; exact ⟨HTW.out, fun k hk hkj => by rw [Hr.out]; exact hnj.out k hk hkj⟩
                        · exact hno.out j' h (by omega)
                      have hvl := HD7.out.len
                      rw [HTL.out] at hvl
                      obtain ⟨vb, vl, vc⟩ := v
                      simp only at hvl
                      subst hvl
                      have HCD : Hid (∀ V, Below w0.heap.size w0 V → V.cell? ⟨Bk, off + vl * 3, none⟩ = some (.string ta) ∧ V.cell? ⟨Bk, off + vl * 3 + 1, none⟩ = some (.string tp) ∧ V.cell? ⟨Bk, off + vl * 3 + 2, none⟩ = some (.slice yb l.length yc)) := HCC.out
                      have HB9 : Hid (Below w0.heap.size w0 wr) := HBk.out
                      have hgb : Hid (w0.heap.size ≤ g) := HD7.out.1
                      go_wp2_with fail
                      clear c0 c1 c2
                      have bW : Hid (Below w0.heap.size w0 wr.drew) := HB9.out.drew
                      have dW : Hid (Dm wr.drew w0.heap.size g (vb, vl, vc) ((rs.take vl).map puR)) := HD7.out.below (Below.refl _ _).drew
                      refine wp_region_held_drew (S := (fun V => V.cell? ⟨Bk, off + vl * 3, none⟩ = some (.string ta) ∧ V.cell? ⟨Bk, off + vl * 3 + 1, none⟩ = some (.string tp) ∧ V.cell? ⟨Bk, off + vl * 3 + 2, none⟩ = some (.slice yb l.length yc))) (by kernel_rfl) (HCD.out _ bW.out) (fun hHeld => ?_)
                      generalize hWg : World.drew _ = W at bW dW hHeld ⊢
                      clear hWg
                      refine wpAnyH_take (i := 0) (oi := { dst := some 110, op := Op.move (Operand.tmp 7), type := 43, pos := "ref.go:80", after := #[], guard := none }) (v := ?vv1) rfl (by kernel_rfl) (by kernel_rfl) (by kernel_rfl) (fun _ _ _ h => h) (Or.inl ⟨by rfl, ?hy1⟩) (by assumption) ?_
                      case hy1 => (intro w hSw; (try dsimp only at hSw); go_simp; all_goals with_reducible rfl)
                      try simp only [Act.put, List.setIfInBounds_toArray, List.set_cons_zero, List.set_cons_succ]
                      refine wpAnyH_take (i := 1) (oi := { dst := some 111, op := Op.move (Operand.tmp 7), type := 43, pos := "ref.go:80", after := #[], guard := none }) (v := ?vv2) rfl (by kernel_rfl) (by kernel_rfl) (by kernel_rfl) (fun _ _ _ h => h) (Or.inl ⟨by rfl, ?hy2⟩) (by assumption) ?_
                      case hy2 => (intro w hSw; (try dsimp only at hSw); go_simp; all_goals with_reducible rfl)
                      try simp only [Act.put, List.setIfInBounds_toArray, List.set_cons_zero, List.set_cons_succ]
                      refine wpAnyH_take (i := 2) (oi := { dst := some 112, op := Op.nilCheck (Operand.tmp 111), type := 0, pos := "ref.go:80", after := #[{ on := 1, ground := Ground.data }], guard := none }) (v := ?vv3) rfl (by kernel_rfl) (by kernel_rfl) (by kernel_rfl) (fun _ _ _ h => h) (Or.inl ⟨by rfl, ?hy3⟩) (by assumption) ?_
                      case hy3 => (intro w hSw; (try dsimp only at hSw); go_simp; all_goals with_reducible rfl)
                      try simp only [Act.put, List.setIfInBounds_toArray, List.set_cons_zero, List.set_cons_succ]
                      refine wpAnyH_take (i := 3) (oi := { dst := some 113, op := Op.fieldAddr 62 (Operand.tmp 112) 0, type := 0, pos := "ref.go:80", after := #[{ on := 2, ground := Ground.data }], guard := none }) (v := ?vv4) rfl (by kernel_rfl) (by kernel_rfl) (by kernel_rfl) (fun _ _ _ h => h) (Or.inl ⟨by rfl, ?hy4⟩) (by assumption) ?_
                      case hy4 => (intro w hSw; (try dsimp only at hSw); go_simp; all_goals with_reducible rfl)
                      try simp only [Act.put, List.setIfInBounds_toArray, List.set_cons_zero, List.set_cons_succ]
                      refine wpAnyH_take (i := 5) (oi := { dst := some 115, op := Op.move (Operand.tmp 0), type := 23, pos := "ref.go:80", after := #[], guard := none }) (v := ?vv5) rfl (by kernel_rfl) (by kernel_rfl) (by kernel_rfl) (fun _ _ _ h => h) (Or.inl ⟨by rfl, ?hy5⟩) (by assumption) ?_
                      case hy5 => (intro w hSw; (try dsimp only at hSw); go_simp; all_goals with_reducible rfl)
                      try simp only [Act.put, List.setIfInBounds_toArray, List.set_cons_zero, List.set_cons_succ]
                      refine wpAnyH_take (i := 6) (oi := { dst := some 116, op := Op.move (Operand.tmp 8), type := 3, pos := "ref.go:80", after := #[], guard := none }) (v := ?vv6) rfl (by kernel_rfl) (by kernel_rfl) (by kernel_rfl) (fun _ _ _ h => h) (Or.inl ⟨by rfl, ?hy6⟩) (by assumption) ?_
                      case hy6 => (intro w hSw; (try dsimp only at hSw); go_simp; all_goals with_reducible rfl)
                      try simp only [Act.put, List.setIfInBounds_toArray, List.set_cons_zero, List.set_cons_succ]
                      refine wpAnyH_take (i := 7) (oi := { dst := some 117, op := Op.indexAddr 23 (Operand.tmp 115) (Operand.tmp 116), type := 0, pos := "ref.go:80", after := #[{ on := 5, ground := Ground.data }, { on := 6, ground := Ground.data }], guard := none }) (v := ?vv7) rfl (by kernel_rfl) (by kernel_rfl) (by kernel_rfl) (fun _ _ _ h => h) (Or.inl ⟨by rfl, ?hy7⟩) (by assumption) ?_
                      case hy7 => (intro w hSw; (try dsimp only at hSw); go_simp; all_goals with_reducible rfl)
                      try simp only [Act.put, List.setIfInBounds_toArray, List.set_cons_zero, List.set_cons_succ]
                      refine wpAnyH_take (i := 8) (oi := { dst := some 118, op := Op.fieldAddr 29 (Operand.tmp 117) 0, type := 0, pos := "ref.go:80", after := #[{ on := 7, ground := Ground.data }], guard := none }) (v := ?vv8) rfl (by kernel_rfl) (by kernel_rfl) (by kernel_rfl) (fun _ _ _ h => h) (Or.inl ⟨by rfl, ?hy8⟩) (by assumption) ?_
                      case hy8 => (intro w hSw; (try dsimp only at hSw); go_simp; all_goals with_reducible rfl)
                      try simp only [Act.put, List.setIfInBounds_toArray, List.set_cons_zero, List.set_cons_succ]
                      refine wpAnyH_take (i := 9) (oi := { dst := some 119, op := Op.load 26 (Operand.tmp 118), type := 26, pos := "ref.go:80", after := #[{ on := 8, ground := Ground.data }], guard := none }) (v := ?vv9) rfl (by kernel_rfl) (by kernel_rfl) (by kernel_rfl) (fun _ _ _ h => h) (Or.inl ⟨by rfl, ?hy9⟩) (by assumption) ?_
                      case hy9 => (intro w hSw; (try dsimp only at hSw); go_simp; all_goals with_reducible rfl)
                      try simp only [Act.put, List.setIfInBounds_toArray, List.set_cons_zero, List.set_cons_succ]
                      refine wpAnyH_take (i := 10) (oi := { dst := some 120, op := Op.move (Operand.tmp 0), type := 23, pos := "ref.go:80", after := #[], guard := none }) (v := ?vv10) rfl (by kernel_rfl) (by kernel_rfl) (by kernel_rfl) (fun _ _ _ h => h) (Or.inl ⟨by rfl, ?hy10⟩) (by assumption) ?_
                      case hy10 => (intro w hSw; (try dsimp only at hSw); go_simp; all_goals with_reducible rfl)
                      try simp only [Act.put, List.setIfInBounds_toArray, List.set_cons_zero, List.set_cons_succ]
                      refine wpAnyH_take (i := 11) (oi := { dst := some 121, op := Op.move (Operand.tmp 8), type := 3, pos := "ref.go:80", after := #[], guard := none }) (v := ?vv11) rfl (by kernel_rfl) (by kernel_rfl) (by kernel_rfl) (fun _ _ _ h => h) (Or.inl ⟨by rfl, ?hy11⟩) (by assumption) ?_
                      case hy11 => (intro w hSw; (try dsimp only at hSw); go_simp; all_goals with_reducible rfl)
                      try simp only [Act.put, List.setIfInBounds_toArray, List.set_cons_zero, List.set_cons_succ]
                      refine wpAnyH_take (i := 12) (oi := { dst := some 122, op := Op.indexAddr 23 (Operand.tmp 120) (Operand.tmp 121), type := 0, pos := "ref.go:80", after := #[{ on := 10, ground := Ground.data }, { on := 11, ground := Ground.data }], guard := none }) (v := ?vv12) rfl (by kernel_rfl) (by kernel_rfl) (by kernel_rfl) (fun _ _ _ h => h) (Or.inl ⟨by rfl, ?hy12⟩) (by assumption) ?_
                      case hy12 => (intro w hSw; (try dsimp only at hSw); go_simp; all_goals with_reducible rfl)
                      try simp only [Act.put, List.setIfInBounds_toArray, List.set_cons_zero, List.set_cons_succ]
                      refine wpAnyH_take (i := 13) (oi := { dst := some 123, op := Op.fieldAddr 29 (Operand.tmp 122) 1, type := 0, pos := "ref.go:80", after := #[{ on := 12, ground := Ground.data }], guard := none }) (v := ?vv13) rfl (by kernel_rfl) (by kernel_rfl) (by kernel_rfl) (fun _ _ _ h => h) (Or.inl ⟨by rfl, ?hy13⟩) (by assumption) ?_
                      case hy13 => (intro w hSw; (try dsimp only at hSw); go_simp; all_goals with_reducible rfl)
                      try simp only [Act.put, List.setIfInBounds_toArray, List.set_cons_zero, List.set_cons_succ]
                      refine wpAnyH_take (i := 14) (oi := { dst := some 124, op := Op.load 27 (Operand.tmp 123), type := 27, pos := "ref.go:80", after := #[{ on := 13, ground := Ground.data }], guard := none }) (v := ?vv14) rfl (by kernel_rfl) (by kernel_rfl) (by kernel_rfl) (fun _ _ _ h => h) (Or.inl ⟨by rfl, ?hy14⟩) (by assumption) ?_
                      case hy14 => (intro w hSw; (try dsimp only at hSw); go_simp; all_goals with_reducible rfl)
                      try simp only [Act.put, List.setIfInBounds_toArray, List.set_cons_zero, List.set_cons_succ]
                      refine wpAnyH_ready (rs := [4, 15]) (by kernel_rfl) (by simp) ?_
                      refine AllReadyH.cons (o := { dst := some 114, op := Op.load 23 (Operand.tmp 113), type := 23, pos := "ref.go:80", after := #[{ on := 3, ground := Ground.data }], guard := none }) rfl (fun K hK => ?_) ?_
                      · have hcgWx : W.cell? ⟨g, 0, none⟩ = some (.slice vb vl vc) := cell_blk dW.out.2.1 0
                        go_simp
                        refine hK.out _ _ (HCD.out _ bW.out) (fun hHeld => ?_)
                        clear hK K hcgWx
                        try simp only [Act.put, List.setIfInBounds_toArray, List.set_cons_zero, List.set_cons_succ]
                        refine wpAnyH_ready (rs := [15]) (by kernel_rfl) (by simp) ?_
                        refine AllReadyH.cons (o := { dst := some 125, op := Op.call { callee := Callee.builtin Builtin.append, args := #[Operand.const (Value.slice none 0 0), Operand.tmp 124], argTypes := #[27, 27] }, type := 27, pos := "ref.go:80", after := #[{ on := 14, ground := Ground.data }], guard := none }) rfl (fun K hK => ?_) AllReadyH.nil
                        obtain ⟨ab, ac, Wx, hrun, hRa, hGa⟩ := app okT W (.slice none 0 0) [] (R.nil _ _) (.slice yb l.length yc) l (HRI.out.below bW.out) (by have := HR8.out; simp [ET]; omega)
                        have hbl := hGa.fresh
                        have dWx : Hid (Dm Wx w0.heap.size g (vb, vl, vc) ((rs.take vl).map puR)) := dW.out.below hbl
                        have bWx : Hid (Below w0.heap.size w0 Wx) := bW.out.trans (hbl.mono bW.out.size)
                        have nWx : Hid (∀ k, (Value.slice ab l.length ac).ownBlock = some k → w0.heap.size ≤ k) := fun k hk => by have := hGa.new k (by simpa using hk); have := bW.out.size; omega
                        simp only [List.length_nil, Nat.zero_add, List.nil_append] at hrun hRa
                        have rWx : Hid (R ET Wx (.slice ab l.length ac) l) := hRa
                        clear hRa hGa hbl
                        refine step_append_run rfl (.const (.slice none 0 0)) (.tmp 124) 27 27 rfl hrun (by first | rfl | simp [Act.eval, Act.put]) (by first | rfl | simp [Act.eval, Act.put]) ?_
                        refine hK.out _ _ (HCD.out _ bWx.out) (fun hHeld => ?_)
                        clear hK K hrun
                        try simp only [Act.put, List.setIfInBounds_toArray, List.set_cons_zero, List.set_cons_succ]
                        refine wpAnyH_take (i := 16) (oi := { dst := some 126, op := Op.build 29 #[(0, Operand.tmp 119), (1, Operand.tmp 125)], type := 29, pos := "ref.go:80", after := #[{ on := 9, ground := Ground.data }, { on := 15, ground := Ground.data }], guard := none }) (v := ?vv15) rfl (by kernel_rfl) (by kernel_rfl) (by kernel_rfl) (fun _ _ _ h => h) (Or.inl ⟨by rfl, ?hy15⟩) (by assumption) ?_
                        case hy15 => (intro w hSw; (try dsimp only at hSw); go_simp; all_goals with_reducible rfl)
                        try simp only [Act.put, List.setIfInBounds_toArray, List.set_cons_zero, List.set_cons_succ]
                        refine wpAnyH_ready (rs := [17]) (by kernel_rfl) (by simp) ?_
                        refine AllReadyH.cons (o := { dst := some 127, op := Op.buildSlice 23 1 #[(0, Operand.tmp 126)], type := 23, pos := "ref.go:80", after := #[{ on := 16, ground := Ground.data }], guard := none }) rfl (fun K hK => ?_) AllReadyH.nil
                        obtain ⟨Wxx, hvWxx⟩ : ∃ Wxx, Wxx = Wx.alloc (.cells #[.string ta, .string tp, .slice ab l.length ac] 29) := ⟨_, rfl⟩
                        have dWxx : Hid (Dm Wxx w0.heap.size g (vb, vl, vc) ((rs.take vl).map puR)) := by rw [hvWxx]; exact dWx.out.below (bel1 _ _)
                        have bWxx : Hid (Below w0.heap.size w0 Wxx) := by rw [hvWxx]; exact bWx.out.trans ((bel1 _ _).mono bWx.out.size)
                        have rWxx : Hid (R ET Wxx (.slice ab l.length ac) l) := by rw [hvWxx]; exact rWx.out.below (bel1 _ _)
                        have HIn1 : Hid (In ER Wxx (.slice (some ⟨Wx.heap.size, 0, none⟩) 1 1) [⟨(ta, tp), (ab, l.length, ac), l⟩]) := by rw [hvWxx]; exact in_one (E := ER) _ _ (⟨(ta, tp), (ab, l.length, ac), l⟩ : Ru) #[.string ta, .string tp, .slice ab l.length ac] 29 (0, 0) (by rw [heap_al, if_pos rfl]) rfl
                        go_simp
                        go_wp2_with fail
                        rw [← hvWxx]
                        refine hK.out _ _ (HCD.out _ bWxx.out) (fun hHeld => ?_)
                        clear hK K hvWxx
                        try simp only [Act.put, List.setIfInBounds_toArray, List.set_cons_zero, List.set_cons_succ]
                        refine wpAnyH_ready (rs := [18]) (by kernel_rfl) (by simp) ?_
                        refine AllReadyH.cons (o := { dst := some 128, op := Op.call { callee := Callee.builtin Builtin.append, args := #[Operand.tmp 114, Operand.tmp 127], argTypes := #[23, 23] }, type := 23, pos := "ref.go:80", after := #[{ on := 4, ground := Ground.data }, { on := 17, ground := Ground.data }, { on := 15, ground := Ground.chain }], guard := none }) rfl (fun K hK => ?_) AllReadyH.nil
                        obtain ⟨eb, ec, Wxxx, hrun, hgc, hbl, hDn⟩ := dWxx.out.grow bWxx.out.size (ta, tp) (ab, l.length, ac) l rWxx.out nWx.out _ HIn1.out (by rw [HTL.out]; have := HN.out; have := H64.out; omega)
                        rw [HTL.out] at hrun hDn
                        simp only [sv] at hrun hgc
                        have bWxxx : Hid (Below w0.heap.size w0 Wxxx) := bWxx.out.trans hbl
                        have HGC : Hid (Wxxx.heap[g]? = some (.cells #[.slice vb vl vc] 62 (0, 0))) := hgc
                        have HDN : Hid (Dm (Wxxx.setCell ⟨g, 0, none⟩ (.slice eb (vl + 1) ec)) w0.heap.size g (eb, vl + 1, ec) ((rs.take (vl + 1)).map puR)) := by rw [HTK.out]; exact hDn
                        clear hgc hbl hDn
                        refine step_append_run rfl (.tmp 114) (.tmp 127) 23 23 rfl hrun (by first | rfl | simp [Act.eval, Act.put]) (by first | rfl | simp [Act.eval, Act.put]) ?_
                        refine hK.out _ _ (HCD.out _ bWxxx.out) (fun hHeld => ?_)
                        clear hK K hrun
                        try simp only [Act.put, List.setIfInBounds_toArray, List.set_cons_zero, List.set_cons_succ]
                        refine wpAnyH_take (i := 19) (oi := { dst := some 129, op := Op.nilCheck (Operand.tmp 110), type := 0, pos := "ref.go:80", after := #[{ on := 0, ground := Ground.data }, { on := 0, ground := Ground.phase }, { on := 1, ground := Ground.phase }, { on := 2, ground := Ground.phase }, { on := 3, ground := Ground.phase }, { on := 4, ground := Ground.phase }, { on := 5, ground := Ground.phase }, { on := 6, ground := Ground.phase }, { on := 7, ground := Ground.phase }, { on := 8, ground := Ground.phase }, { on := 9, ground := Ground.phase }, { on := 10, ground := Ground.phase }, { on := 11, ground := Ground.phase }, { on := 12, ground := Ground.phase }, { on := 13, ground := Ground.phase }, { on := 14, ground := Ground.phase }, { on := 15, ground := Ground.phase }, { on := 16, ground := Ground.phase }, { on := 17, ground := Ground.phase }, { on := 18, ground := Ground.phase }], guard := none }) (v := ?vv16) rfl (by kernel_rfl) (by kernel_rfl) (by kernel_rfl) (fun _ _ _ h => h) (Or.inl ⟨by rfl, ?hy16⟩) (by assumption) ?_
                        case hy16 => (intro w hSw; (try dsimp only at hSw); go_simp; all_goals with_reducible rfl)
                        try simp only [Act.put, List.setIfInBounds_toArray, List.set_cons_zero, List.set_cons_succ]
                        refine wpAnyH_take (i := 20) (oi := { dst := some 130, op := Op.fieldAddr 62 (Operand.tmp 129) 0, type := 0, pos := "ref.go:80", after := #[{ on := 19, ground := Ground.data }, { on := 0, ground := Ground.phase }, { on := 1, ground := Ground.phase }, { on := 2, ground := Ground.phase }, { on := 3, ground := Ground.phase }, { on := 4, ground := Ground.phase }, { on := 5, ground := Ground.phase }, { on := 6, ground := Ground.phase }, { on := 7, ground := Ground.phase }, { on := 8, ground := Ground.phase }, { on := 9, ground := Ground.phase }, { on := 10, ground := Ground.phase }, { on := 11, ground := Ground.phase }, { on := 12, ground := Ground.phase }, { on := 13, ground := Ground.phase }, { on := 14, ground := Ground.phase }, { on := 15, ground := Ground.phase }, { on := 16, ground := Ground.phase }, { on := 17, ground := Ground.phase }, { on := 18, ground := Ground.phase }], guard := none }) (v := ?vv17) rfl (by kernel_rfl) (by kernel_rfl) (by kernel_rfl) (fun _ _ _ h => h) (Or.inl ⟨by rfl, ?hy17⟩) (by assumption) ?_
                        case hy17 => (intro w hSw; (try dsimp only at hSw); go_simp; all_goals with_reducible rfl)
                        try simp only [Act.put, List.setIfInBounds_toArray, List.set_cons_zero, List.set_cons_succ]
                        refine wpAnyH_ready (rs := [21]) (by kernel_rfl) (by simp) ?_
                        refine AllReadyH.cons (o := { dst := none, op := Op.store 23 (Operand.tmp 130) (Operand.tmp 128), type := 0, pos := "ref.go:80", after := #[{ on := 20, ground := Ground.data }, { on := 18, ground := Ground.data }, { on := 18, ground := Ground.chain }, { on := 0, ground := Ground.phase }, { on := 1, ground := Ground.phase }, { on := 2, ground := Ground.phase }, { on := 3, ground := Ground.phase }, { on := 4, ground := Ground.phase }, { on := 5, ground := Ground.phase }, { on := 6, ground := Ground.phase }, { on := 7, ground := Ground.phase }, { on := 8, ground := Ground.phase }, { on := 9, ground := Ground.phase }, { on := 10, ground := Ground.phase }, { on := 11, ground := Ground.phase }, { on := 12, ground := Ground.phase }, { on := 13, ground := Ground.phase }, { on := 14, ground := Ground.phase }, { on := 15, ground := Ground.phase }, { on := 16, ground := Ground.phase }, { on := 17, ground := Ground.phase }, { on := 18, ground := Ground.phase }], guard := none }) rfl (fun K hK => ?_) AllReadyH.nil
                        have f0 := cell_blk HGC.out 0
                        have f1 := frozen_blk HGC.out 0
                        have HBZ : Hid (Below w0.heap.size w0 (Wxxx.setCell ⟨g, 0, none⟩ (.slice eb (vl + 1) ec))) := bWxxx.out.setCell (p := ⟨g, 0, none⟩) hgb.out _
                        have HSZ : Hid ((fun V => V.cell? ⟨Bk, off + vl * 3, none⟩ = some (.string ta) ∧ V.cell? ⟨Bk, off + vl * 3 + 1, none⟩ = some (.string tp) ∧ V.cell? ⟨Bk, off + vl * 3 + 2, none⟩ = some (.slice yb l.length yc)) (Wxxx.setCell ⟨g, 0, none⟩ (.slice eb (vl + 1) ec))) := HCD.out _ HBZ.out
                        simp at f0
                        go_simp
                        go_wp2_with fail
                        refine hK.out _ _ HSZ.out (fun hHeld => ?_)
                        clear hK K f0 f1
                        try simp only [Act.put, List.setIfInBounds_toArray, List.set_cons_zero, List.set_cons_succ]
                        refine wpAnyH_done (by kernel_rfl) ?_ _
                        go_wp2_with fail
                        go_roundw
                        case rel => exact ⟨vl + 1, (eb, vl + 1, ec), by simp, by omega, HDN.out, HNX.out, HBZ.out⟩
                        case measure => simp [intOf] <;> omega
                      refine AllReadyH.cons (o := { dst := some 125, op := Op.call { callee := Callee.builtin Builtin.append, args := #[Operand.const (Value.slice none 0 0), Operand.tmp 124], argTypes := #[27, 27] }, type := 27, pos := "ref.go:80", after := #[{ on := 14, ground := Ground.data }], guard := none }) rfl (fun K hK => ?_) AllReadyH.nil
                      obtain ⟨ab, ac, Wx, hrun, hRa, hGa⟩ := app okT W (.slice none 0 0) [] (R.nil _ _) (.slice yb l.length yc) l (HRI.out.below bW.out) (by have := HR8.out; simp [ET]; omega)
                      have hbl := hGa.fresh
                      have dWx : Hid (Dm Wx w0.heap.size g (vb, vl, vc) ((rs.take vl).map puR)) := dW.out.below hbl
                      have bWx : Hid (Below w0.heap.size w0 Wx) := bW.out.trans (hbl.mono bW.out.size)
                      have nWx : Hid (∀ k, (Value.slice ab l.length ac).ownBlock = some k → w0.heap.size ≤ k) := fun k hk => by have := hGa.new k (by simpa using hk); have := bW.out.size; omega
                      simp only [List.length_nil, Nat.zero_add, List.nil_append] at hrun hRa
                      have rWx : Hid (R ET Wx (.slice ab l.length ac) l) := hRa
                      clear hRa hGa hbl
                      refine step_append_run rfl (.const (.slice none 0 0)) (.tmp 124) 27 27 rfl hrun (by first | rfl | simp [Act.eval, Act.put]) (by first | rfl | simp [Act.eval, Act.put]) ?_
                      refine hK.out _ _ (HCD.out _ bWx.out) (fun hHeld => ?_)
                      clear hK K hrun
                      try simp only [Act.put, List.setIfInBounds_toArray, List.set_cons_zero, List.set_cons_succ]
                      refine wpAnyH_take (i := 16) (oi := { dst := some 126, op := Op.build 29 #[(0, Operand.tmp 119), (1, Operand.tmp 125)], type := 29, pos := "ref.go:80", after := #[{ on := 9, ground := Ground.data }, { on := 15, ground := Ground.data }], guard := none }) (v := ?vv18) rfl (by kernel_rfl) (by kernel_rfl) (by kernel_rfl) (fun _ _ _ h => h) (Or.inl ⟨by rfl, ?hy18⟩) (by assumption) ?_
                      case hy18 => (intro w hSw; (try dsimp only at hSw); go_simp; all_goals with_reducible rfl)
                      try simp only [Act.put, List.setIfInBounds_toArray, List.set_cons_zero, List.set_cons_succ]
                      refine wpAnyH_ready (rs := [4, 17]) (by kernel_rfl) (by simp) ?_
                      refine AllReadyH.cons (o := { dst := some 114, op := Op.load 23 (Operand.tmp 113), type := 23, pos := "ref.go:80", after := #[{ on := 3, ground := Ground.data }], guard := none }) rfl (fun K hK => ?_) ?_
                      · have hcgWxx : Wx.cell? ⟨g, 0, none⟩ = some (.slice vb vl vc) := cell_blk dWx.out.2.1 0
                        go_simp
                        refine hK.out _ _ (HCD.out _ bWx.out) (fun hHeld => ?_)
                        clear hK K hcgWxx
                        try simp only [Act.put, List.setIfInBounds_toArray, List.set_cons_zero, List.set_cons_succ]
                        refine wpAnyH_ready (rs := [17]) (by kernel_rfl) (by simp) ?_
                        refine AllReadyH.cons (o := { dst := some 127, op := Op.buildSlice 23 1 #[(0, Operand.tmp 126)], type := 23, pos := "ref.go:80", after := #[{ on := 16, ground := Ground.data }], guard := none }) rfl (fun K hK => ?_) AllReadyH.nil
                        obtain ⟨Wxx, hvWxx⟩ : ∃ Wxx, Wxx = Wx.alloc (.cells #[.string ta, .string tp, .slice ab l.length ac] 29) := ⟨_, rfl⟩
                        have dWxx : Hid (Dm Wxx w0.heap.size g (vb, vl, vc) ((rs.take vl).map puR)) := by rw [hvWxx]; exact dWx.out.below (bel1 _ _)
                        have bWxx : Hid (Below w0.heap.size w0 Wxx) := by rw [hvWxx]; exact bWx.out.trans ((bel1 _ _).mono bWx.out.size)
                        have rWxx : Hid (R ET Wxx (.slice ab l.length ac) l) := by rw [hvWxx]; exact rWx.out.below (bel1 _ _)
                        have HIn1 : Hid (In ER Wxx (.slice (some ⟨Wx.heap.size, 0, none⟩) 1 1) [⟨(ta, tp), (ab, l.length, ac), l⟩]) := by rw [hvWxx]; exact in_one (E := ER) _ _ (⟨(ta, tp), (ab, l.length, ac), l⟩ : Ru) #[.string ta, .string tp, .slice ab l.length ac] 29 (0, 0) (by rw [heap_al, if_pos rfl]) rfl
                        go_simp
                        go_wp2_with fail
                        rw [← hvWxx]
                        refine hK.out _ _ (HCD.out _ bWxx.out) (fun hHeld => ?_)
                        clear hK K hvWxx
                        try simp only [Act.put, List.setIfInBounds_toArray, List.set_cons_zero, List.set_cons_succ]
                        refine wpAnyH_ready (rs := [18]) (by kernel_rfl) (by simp) ?_
                        refine AllReadyH.cons (o := { dst := some 128, op := Op.call { callee := Callee.builtin Builtin.append, args := #[Operand.tmp 114, Operand.tmp 127], argTypes := #[23, 23] }, type := 23, pos := "ref.go:80", after := #[{ on := 4, ground := Ground.data }, { on := 17, ground := Ground.data }, { on := 15, ground := Ground.chain }], guard := none }) rfl (fun K hK => ?_) AllReadyH.nil
                        obtain ⟨eb, ec, Wxxx, hrun, hgc, hbl, hDn⟩ := dWxx.out.grow bWxx.out.size (ta, tp) (ab, l.length, ac) l rWxx.out nWx.out _ HIn1.out (by rw [HTL.out]; have := HN.out; have := H64.out; omega)
                        rw [HTL.out] at hrun hDn
                        simp only [sv] at hrun hgc
                        have bWxxx : Hid (Below w0.heap.size w0 Wxxx) := bWxx.out.trans hbl
                        have HGC : Hid (Wxxx.heap[g]? = some (.cells #[.slice vb vl vc] 62 (0, 0))) := hgc
                        have HDN : Hid (Dm (Wxxx.setCell ⟨g, 0, none⟩ (.slice eb (vl + 1) ec)) w0.heap.size g (eb, vl + 1, ec) ((rs.take (vl + 1)).map puR)) := by rw [HTK.out]; exact hDn
                        clear hgc hbl hDn
                        refine step_append_run rfl (.tmp 114) (.tmp 127) 23 23 rfl hrun (by first | rfl | simp [Act.eval, Act.put]) (by first | rfl | simp [Act.eval, Act.put]) ?_
                        refine hK.out _ _ (HCD.out _ bWxxx.out) (fun hHeld => ?_)
                        clear hK K hrun
                        try simp only [Act.put, List.setIfInBounds_toArray, List.set_cons_zero, List.set_cons_succ]
                        refine wpAnyH_take (i := 19) (oi := { dst := some 129, op := Op.nilCheck (Operand.tmp 110), type := 0, pos := "ref.go:80", after := #[{ on := 0, ground := Ground.data }, { on := 0, ground := Ground.phase }, { on := 1, ground := Ground.phase }, { on := 2, ground := Ground.phase }, { on := 3, ground := Ground.phase }, { on := 4, ground := Ground.phase }, { on := 5, ground := Ground.phase }, { on := 6, ground := Ground.phase }, { on := 7, ground := Ground.phase }, { on := 8, ground := Ground.phase }, { on := 9, ground := Ground.phase }, { on := 10, ground := Ground.phase }, { on := 11, ground := Ground.phase }, { on := 12, ground := Ground.phase }, { on := 13, ground := Ground.phase }, { on := 14, ground := Ground.phase }, { on := 15, ground := Ground.phase }, { on := 16, ground := Ground.phase }, { on := 17, ground := Ground.phase }, { on := 18, ground := Ground.phase }], guard := none }) (v := ?vv19) rfl (by kernel_rfl) (by kernel_rfl) (by kernel_rfl) (fun _ _ _ h => h) (Or.inl ⟨by rfl, ?hy19⟩) (by assumption) ?_
                        case hy19 => (intro w hSw; (try dsimp only at hSw); go_simp; all_goals with_reducible rfl)
                        try simp only [Act.put, List.setIfInBounds_toArray, List.set_cons_zero, List.set_cons_succ]
                        refine wpAnyH_take (i := 20) (oi := { dst := some 130, op := Op.fieldAddr 62 (Operand.tmp 129) 0, type := 0, pos := "ref.go:80", after := #[{ on := 19, ground := Ground.data }, { on := 0, ground := Ground.phase }, { on := 1, ground := Ground.phase }, { on := 2, ground := Ground.phase }, { on := 3, ground := Ground.phase }, { on := 4, ground := Ground.phase }, { on := 5, ground := Ground.phase }, { on := 6, ground := Ground.phase }, { on := 7, ground := Ground.phase }, { on := 8, ground := Ground.phase }, { on := 9, ground := Ground.phase }, { on := 10, ground := Ground.phase }, { on := 11, ground := Ground.phase }, { on := 12, ground := Ground.phase }, { on := 13, ground := Ground.phase }, { on := 14, ground := Ground.phase }, { on := 15, ground := Ground.phase }, { on := 16, ground := Ground.phase }, { on := 17, ground := Ground.phase }, { on := 18, ground := Ground.phase }], guard := none }) (v := ?vv20) rfl (by kernel_rfl) (by kernel_rfl) (by kernel_rfl) (fun _ _ _ h => h) (Or.inl ⟨by rfl, ?hy20⟩) (by assumption) ?_
                        case hy20 => (intro w hSw; (try dsimp only at hSw); go_simp; all_goals with_reducible rfl)
                        try simp only [Act.put, List.setIfInBounds_toArray, List.set_cons_zero, List.set_cons_succ]
                        refine wpAnyH_ready (rs := [21]) (by kernel_rfl) (by simp) ?_
                        refine AllReadyH.cons (o := { dst := none, op := Op.store 23 (Operand.tmp 130) (Operand.tmp 128), type := 0, pos := "ref.go:80", after := #[{ on := 20, ground := Ground.data }, { on := 18, ground := Ground.data }, { on := 18, ground := Ground.chain }, { on := 0, ground := Ground.phase }, { on := 1, ground := Ground.phase }, { on := 2, ground := Ground.phase }, { on := 3, ground := Ground.phase }, { on := 4, ground := Ground.phase }, { on := 5, ground := Ground.phase }, { on := 6, ground := Ground.phase }, { on := 7, ground := Ground.phase }, { on := 8, ground := Ground.phase }, { on := 9, ground := Ground.phase }, { on := 10, ground := Ground.phase }, { on := 11, ground := Ground.phase }, { on := 12, ground := Ground.phase }, { on := 13, ground := Ground.phase }, { on := 14, ground := Ground.phase }, { on := 15, ground := Ground.phase }, { on := 16, ground := Ground.phase }, { on := 17, ground := Ground.phase }, { on := 18, ground := Ground.phase }], guard := none }) rfl (fun K hK => ?_) AllReadyH.nil
                        have f0 := cell_blk HGC.out 0
                        have f1 := frozen_blk HGC.out 0
                        have HBZ : Hid (Below w0.heap.size w0 (Wxxx.setCell ⟨g, 0, none⟩ (.slice eb (vl + 1) ec))) := bWxxx.out.setCell (p := ⟨g, 0, none⟩) hgb.out _
                        have HSZ : Hid ((fun V => V.cell? ⟨Bk, off + vl * 3, none⟩ = some (.string ta) ∧ V.cell? ⟨Bk, off + vl * 3 + 1, none⟩ = some (.string tp) ∧ V.cell? ⟨Bk, off + vl * 3 + 2, none⟩ = some (.slice yb l.length yc)) (Wxxx.setCell ⟨g, 0, none⟩ (.slice eb (vl + 1) ec))) := HCD.out _ HBZ.out
                        simp at f0
                        go_simp
                        go_wp2_with fail
                        refine hK.out _ _ HSZ.out (fun hHeld => ?_)
                        clear hK K f0 f1
                        try simp only [Act.put, List.setIfInBounds_toArray, List.set_cons_zero, List.set_cons_succ]
                        refine wpAnyH_done (by kernel_rfl) ?_ _
                        go_wp2_with fail
                        go_roundw
                        case rel => exact ⟨vl + 1, (eb, vl + 1, ec), by simp, by omega, HDN.out, HNX.out, HBZ.out⟩
                        case measure => simp [intOf] <;> omega
                      refine AllReadyH.cons (o := { dst := some 127, op := Op.buildSlice 23 1 #[(0, Operand.tmp 126)], type := 23, pos := "ref.go:80", after := #[{ on := 16, ground := Ground.data }], guard := none }) rfl (fun K hK => ?_) AllReadyH.nil
                      obtain ⟨Wxx, hvWxx⟩ : ∃ Wxx, Wxx = Wx.alloc (.cells #[.string ta, .string tp, .slice ab l.length ac] 29) := ⟨_, rfl⟩
                      have dWxx : Hid (Dm Wxx w0.heap.size g (vb, vl, vc) ((rs.take vl).map puR)) := by rw [hvWxx]; exact dWx.out.below (bel1 _ _)
                      have bWxx : Hid (Below w0.heap.size w0 Wxx) := by rw [hvWxx]; exact bWx.out.trans ((bel1 _ _).mono bWx.out.size)
                      have rWxx : Hid (R ET Wxx (.slice ab l.length ac) l) := by rw [hvWxx]; exact rWx.out.below (bel1 _ _)
                      have HIn1 : Hid (In ER Wxx (.slice (some ⟨Wx.heap.size, 0, none⟩) 1 1) [⟨(ta, tp), (ab, l.length, ac), l⟩]) := by rw [hvWxx]; exact in_one (E := ER) _ _ (⟨(ta, tp), (ab, l.length, ac), l⟩ : Ru) #[.string ta, .string tp, .slice ab l.length ac] 29 (0, 0) (by rw [heap_al, if_pos rfl]) rfl
                      go_simp
                      go_wp2_with fail
                      rw [← hvWxx]
                      refine hK.out _ _ (HCD.out _ bWxx.out) (fun hHeld => ?_)
                      clear hK K hvWxx
                      try simp only [Act.put, List.setIfInBounds_toArray, List.set_cons_zero, List.set_cons_succ]
                      refine wpAnyH_ready (rs := [4]) (by kernel_rfl) (by simp) ?_
                      refine AllReadyH.cons (o := { dst := some 114, op := Op.load 23 (Operand.tmp 113), type := 23, pos := "ref.go:80", after := #[{ on := 3, ground := Ground.data }], guard := none }) rfl (fun K hK => ?_) AllReadyH.nil
                      have hcgWxxx : Wxx.cell? ⟨g, 0, none⟩ = some (.slice vb vl vc) := cell_blk dWxx.out.2.1 0
                      go_simp
                      refine hK.out _ _ (HCD.out _ bWxx.out) (fun hHeld => ?_)
                      clear hK K hcgWxxx
                      try simp only [Act.put, List.setIfInBounds_toArray, List.set_cons_zero, List.set_cons_succ]
                      refine wpAnyH_ready (rs := [18]) (by kernel_rfl) (by simp) ?_
                      refine AllReadyH.cons (o := { dst := some 128, op := Op.call { callee := Callee.builtin Builtin.append, args := #[Operand.tmp 114, Operand.tmp 127], argTypes := #[23, 23] }, type := 23, pos := "ref.go:80", after := #[{ on := 4, ground := Ground.data }, { on := 17, ground := Ground.data }, { on := 15, ground := Ground.chain }], guard := none }) rfl (fun K hK => ?_) AllReadyH.nil
                      obtain ⟨eb, ec, Wxxx, hrun, hgc, hbl, hDn⟩ := dWxx.out.grow bWxx.out.size (ta, tp) (ab, l.length, ac) l rWxx.out nWx.out _ HIn1.out (by rw [HTL.out]; have := HN.out; have := H64.out; omega)
                      rw [HTL.out] at hrun hDn
                      simp only [sv] at hrun hgc
                      have bWxxx : Hid (Below w0.heap.size w0 Wxxx) := bWxx.out.trans hbl
                      have HGC : Hid (Wxxx.heap[g]? = some (.cells #[.slice vb vl vc] 62 (0, 0))) := hgc
                      have HDN : Hid (Dm (Wxxx.setCell ⟨g, 0, none⟩ (.slice eb (vl + 1) ec)) w0.heap.size g (eb, vl + 1, ec) ((rs.take (vl + 1)).map puR)) := by rw [HTK.out]; exact hDn
                      clear hgc hbl hDn
                      refine step_append_run rfl (.tmp 114) (.tmp 127) 23 23 rfl hrun (by first | rfl | simp [Act.eval, Act.put]) (by first | rfl | simp [Act.eval, Act.put]) ?_
                      refine hK.out _ _ (HCD.out _ bWxxx.out) (fun hHeld => ?_)
                      clear hK K hrun
                      try simp only [Act.put, List.setIfInBounds_toArray, List.set_cons_zero, List.set_cons_succ]
                      refine wpAnyH_take (i := 19) (oi := { dst := some 129, op := Op.nilCheck (Operand.tmp 110), type := 0, pos := "ref.go:80", after := #[{ on := 0, ground := Ground.data }, { on := 0, ground := Ground.phase }, { on := 1, ground := Ground.phase }, { on := 2, ground := Ground.phase }, { on := 3, ground := Ground.phase }, { on := 4, ground := Ground.phase }, { on := 5, ground := Ground.phase }, { on := 6, ground := Ground.phase }, { on := 7, ground := Ground.phase }, { on := 8, ground := Ground.phase }, { on := 9, ground := Ground.phase }, { on := 10, ground := Ground.phase }, { on := 11, ground := Ground.phase }, { on := 12, ground := Ground.phase }, { on := 13, ground := Ground.phase }, { on := 14, ground := Ground.phase }, { on := 15, ground := Ground.phase }, { on := 16, ground := Ground.phase }, { on := 17, ground := Ground.phase }, { on := 18, ground := Ground.phase }], guard := none }) (v := ?vv21) rfl (by kernel_rfl) (by kernel_rfl) (by kernel_rfl) (fun _ _ _ h => h) (Or.inl ⟨by rfl, ?hy21⟩) (by assumption) ?_
                      case hy21 => (intro w hSw; (try dsimp only at hSw); go_simp; all_goals with_reducible rfl)
                      try simp only [Act.put, List.setIfInBounds_toArray, List.set_cons_zero, List.set_cons_succ]
                      refine wpAnyH_take (i := 20) (oi := { dst := some 130, op := Op.fieldAddr 62 (Operand.tmp 129) 0, type := 0, pos := "ref.go:80", after := #[{ on := 19, ground := Ground.data }, { on := 0, ground := Ground.phase }, { on := 1, ground := Ground.phase }, { on := 2, ground := Ground.phase }, { on := 3, ground := Ground.phase }, { on := 4, ground := Ground.phase }, { on := 5, ground := Ground.phase }, { on := 6, ground := Ground.phase }, { on := 7, ground := Ground.phase }, { on := 8, ground := Ground.phase }, { on := 9, ground := Ground.phase }, { on := 10, ground := Ground.phase }, { on := 11, ground := Ground.phase }, { on := 12, ground := Ground.phase }, { on := 13, ground := Ground.phase }, { on := 14, ground := Ground.phase }, { on := 15, ground := Ground.phase }, { on := 16, ground := Ground.phase }, { on := 17, ground := Ground.phase }, { on := 18, ground := Ground.phase }], guard := none }) (v := ?vv22) rfl (by kernel_rfl) (by kernel_rfl) (by kernel_rfl) (fun _ _ _ h => h) (Or.inl ⟨by rfl, ?hy22⟩) (by assumption) ?_
                      case hy22 => (intro w hSw; (try dsimp only at hSw); go_simp; all_goals with_reducible rfl)
                      try simp only [Act.put, List.setIfInBounds_toArray, List.set_cons_zero, List.set_cons_succ]
                      refine wpAnyH_ready (rs := [21]) (by kernel_rfl) (by simp) ?_
                      refine AllReadyH.cons (o := { dst := none, op := Op.store 23 (Operand.tmp 130) (Operand.tmp 128), type := 0, pos := "ref.go:80", after := #[{ on := 20, ground := Ground.data }, { on := 18, ground := Ground.data }, { on := 18, ground := Ground.chain }, { on := 0, ground := Ground.phase }, { on := 1, ground := Ground.phase }, { on := 2, ground := Ground.phase }, { on := 3, ground := Ground.phase }, { on := 4, ground := Ground.phase }, { on := 5, ground := Ground.phase }, { on := 6, ground := Ground.phase }, { on := 7, ground := Ground.phase }, { on := 8, ground := Ground.phase }, { on := 9, ground := Ground.phase }, { on := 10, ground := Ground.phase }, { on := 11, ground := Ground.phase }, { on := 12, ground := Ground.phase }, { on := 13, ground := Ground.phase }, { on := 14, ground := Ground.phase }, { on := 15, ground := Ground.phase }, { on := 16, ground := Ground.phase }, { on := 17, ground := Ground.phase }, { on := 18, ground := Ground.phase }], guard := none }) rfl (fun K hK => ?_) AllReadyH.nil
                      have f0 := cell_blk HGC.out 0
                      have f1 := frozen_blk HGC.out 0
                      have HBZ : Hid (Below w0.heap.size w0 (Wxxx.setCell ⟨g, 0, none⟩ (.slice eb (vl + 1) ec))) := bWxxx.out.setCell (p := ⟨g, 0, none⟩) hgb.out _
                      have HSZ : Hid ((fun V => V.cell? ⟨Bk, off + vl * 3, none⟩ = some (.string ta) ∧ V.cell? ⟨Bk, off + vl * 3 + 1, none⟩ = some (.string tp) ∧ V.cell? ⟨Bk, off + vl * 3 + 2, none⟩ = some (.slice yb l.length yc)) (Wxxx.setCell ⟨g, 0, none⟩ (.slice eb (vl + 1) ec))) := HCD.out _ HBZ.out
                      simp at f0
                      go_simp
                      go_wp2_with fail
                      refine hK.out _ _ HSZ.out (fun hHeld => ?_)
                      clear hK K f0 f1
                      try simp only [Act.put, List.setIfInBounds_toArray, List.set_cons_zero, List.set_cons_succ]
                      refine wpAnyH_done (by kernel_rfl) ?_ _
                      go_wp2_with fail
                      go_roundw
                      case rel => exact ⟨vl + 1, (eb, vl + 1, ec), by simp, by omega, HDN.out, HNX.out, HBZ.out⟩
                      case measure => simp [intOf] <;> omega
            · have l1 : ¬ (i : Int) < (n : Int) := by omega
              obtain rfl : i = n := by omega
              have hE : Hid (ofE rs = 0) := of_zero H64.out HLO.out HWO.out (any_no fun j hj => (hno.out j hj (by have := HN.out; omega)).1) (ndB_iff.2 (List.nodup_iff_pairwise_ne.2 (List.pairwise_iff_getElem.2 fun a b ha hb' hab => by
                rw [List.getElem_map, List.getElem_map]
                simp at ha hb'
                exact (hno.out b hb' (by have := HN.out; omega)).2 a ha hab)))
              have HDE : Hid (Dm wr w0.heap.size g v (rs.map puR)) := by have := hD.out; rw [HN.out, List.take_length] at this; exact this
              go_wp2_with fail
              go_ret2
              exact ⟨hb.out, .inr ⟨hE.out, g, v, rfl, HDE.out⟩⟩
end Go.Proofs.Ytldnibkgdpeocaa
