/- OriginHas. -/
import Derived.Test.YtbifmikndpeafaaDoorF3
import Derived.Test.YtbifmikndpeafaaDoorG2
import Derived.Test.YtbifmikndpeafaaDoorE2
namespace Go.Proofs.YtbifmikndpeafaaDoor
open Go.RowKit
set_option linter.unusedVariables false
set_option linter.unusedSimpArgs false
/-- a row of origins made since V -/
def Ro (V wr : World) (v : Value) (L : List Og) : Prop := R EO wr v L ∧ Below V.heap.size V wr ∧ ∀ j, v.ownBlock = some j → V.heap.size ≤ j
theorem Ro.nil (V : World) : Ro V V (.slice none 0 0) [] := ⟨R.nil EO V, Below.refl _ _, fun j hj => by simp [Value.ownBlock] at hj⟩
theorem Ro.below {V wr w' : World} {v : Value} {L : List Og} (h : Ro V wr v L) (hb : Below wr.heap.size wr w') : Ro V w' v L := ⟨h.1.below hb, h.2.1.trans (hb.mono h.2.1.size), h.2.2⟩
theorem Ro.app {V wr : World} {b : Option Addr} {k c : Nat} {L : List Og} (h : Ro V wr (.slice b k c) L) (hk : k = L.length) (hl : (L.length + 1) * 40 ≤ 140737488355328) (x : Og) :
    ∃ b2 c2 w2, (Builtin.append_ #[35, 35] 35 #[.slice b k c, .slice (some ⟨wr.heap.size, 0, none⟩) 1 1]).run Tryd.prog (wr.alloc (.cells #[.string x.s, .string x.h, .int .i64 x.p] 23)) = .ok (.slice b2 (k + 1) c2) w2 ∧ Ro V w2 (.slice b2 (k + 1) c2) (L ++ [x]) ∧ wr.heap.size ≤ w2.heap.size ∧ ∀ g, g < wr.heap.size → (Value.slice b k c).ownBlock ≠ some g → w2.heap[g]? = wr.heap[g]? := by
  subst hk
  have ba := bel1 wr (.cells #[.string x.s, .string x.h, .int .i64 x.p] 23)
  obtain ⟨b2, c2, w2, e1, e2, e3⟩ := Go.Proofs.YtbifmikndpeafaaDoor.app okO (wr.alloc (.cells #[.string x.s, .string x.h, .int .i64 x.p] 23)) _ _ (R.below h.1 ba) (.slice (some ⟨wr.heap.size, 0, none⟩) 1 1) [x] (in_one (x := x) _ _ #[.string x.s, .string x.h, .int .i64 x.p] 23 (0, 0) (by rw [heap_al, if_pos rfl]) rfl) (by simp only [EO, List.length_singleton]; exact hl)
  have el : L.length + [x].length = L.length + 1 := rfl
  rw [el] at e1 e2 e3
  refine ⟨b2, c2, w2, e1, ⟨e2, ?_, fun j hj => ?_⟩, Nat.le_trans ba.size e3.size, fun g hg hne => ?_⟩
  · exact h.2.1.trans (Below.trans (ba.mono h.2.1.size) (e3.belowB (Nat.le_trans h.2.1.size ba.size) h.2.2))
  · rcases e3.own j hj with e | e
    · exact h.2.2 j e
    · exact Nat.le_trans (Nat.le_trans h.2.1.size ba.size) e
  · rw [e3.block g (by rw [size_al]; omega) hne]
    exact ba.block g hg
theorem any_comm (L : List Og) (p : Og) : L.any (fun z => ogD z p) = L.any (ogD p) := by
  congr 1
  funext z
  exact ogD_comm z p
theorem any_take (L : List Og) (p : Og) (q : Nat) (h : q < L.length) : (L.take (q + 1)).any (fun z => ogD z p) = ((L.take q).any (fun z => ogD z p) || ogD L[q] p) := by
  rw [List.take_succ_eq_append_getElem h, List.any_append]
  simp
set_option maxHeartbeats 40000000 in
set_option maxRecDepth 100000 in
theorem originHas_any (x : SV) (l : List Og) (raw : Og) (m : Int) (nm : Bool) (w : World) (he : Env w) (hI : In EO w (sv x) l) (hzl : ∀ o ∈ l, ow o) (hz : ow raw) (hm0 : 0 ≤ m) (hm1 : m ≤ 18446744073709551615) : Calls Tryd.prog 4 #[sv x, .agg (ogv raw), .int .u64 m, .bool nm] w fun e w' => e = .returned (.bool true) ∧ Below w.heap.size w w' := by
  have HE : Hid (Env w) := he
  have HI : Hid (In EO w (sv x) l) := hI
  have HZL : Hid (∀ o ∈ l, ow o) := hzl
  obtain ⟨xb, xc, e, m1, m2⟩ := hI.slice
  obtain ⟨sb, sl, sc⟩ := x
  simp only [sv] at e HI ⊢
  injection e with e1 e2 e3
  subst e1 e2 e3
  have HMd : Hid (∀ W, Calls Tryd.prog 10 #[.agg (ogv raw)] W (MdPost W)) := fun W => made_any raw W hz.1.2 hz.1.1 hz.2
  have HMd2 : Hid (∀ y W, ow y → Calls Tryd.prog 10 #[.agg (ogv y)] W (MdPost W)) := fun y W hy => made_any y W hy.1.2 hy.1.1 hy.2
  obtain ⟨n0, hn0⟩ : ∃ n, w.heap.size = n := ⟨_, rfl⟩
  obtain ⟨A0, hA0⟩ : ∃ W, w.alloc (.cells #[.string raw.s, .string raw.h, .int .i64 raw.p] 23) = W := ⟨_, rfl⟩
  have HB0 : Hid (Below w.heap.size w A0) := by rw [← hA0]; exact bel1 _ _
  have HO0 : Hid (OB A0 n0 raw) := by show OB _ _ _; rw [← hA0, ← hn0]; unfold OB; rw [heap_al, if_pos rfl]; rfl
  unfold ogv at HMd ⊢
  clear he hz hI hzl
  go_enter Tryd.func4, Tryd.ntmps4
  go_wp2_with fail
  clear hA0
  go_at_call 9
  refine (first_any _ (HE.out.below HB0.out)).mono ?_
  rintro e A1 ⟨rfl, b1⟩
  have B1 : Hid (Below w.heap.size w A1) := HB0.out.trans (b1.mono HB0.out.size)
  have O1 : Hid (OB A1 n0 raw) := HO0.out.below b1
  clear b1
  obtain ⟨d0, d1, d2, _, _, _⟩ := O1.out.cells
  go_wp2_with fail
  go_at_call 10
  refine (HMd.out _).mono ?_
  rintro e A2 ⟨o, rfl, hrt, b2⟩
  unfold ogv
  have HRT : Hid (rtB o = true) := hrt
  have HB2 : Hid (Below w.heap.size w A2) := B1.out.trans (b2.mono B1.out.size)
  clear b2 hrt d0 d1 d2
  go_wp2_with fail
  obtain ⟨a, ha⟩ : ∃ a, A2.heap.size = a := ⟨_, rfl⟩
  obtain ⟨X0, hX0⟩ : ∃ V, A2.alloc (.cells #[.string o.s, .string o.h, .int .i64 o.p] 23) = V := ⟨_, rfl⟩
  have HA0 : Hid (OB X0 a o) := by show OB _ _ _; rw [← hX0, ← ha]; unfold OB; rw [heap_al, if_pos rfl]; rfl
  have HBX : Hid (Below w.heap.size w X0) := by rw [← hX0]; exact HB2.out.trans ((bel1 _ _).mono HB2.out.size)
  rw [hX0, ha]
  clear hX0 ha hn0
  go_loopw [10, 11, 12, 13, 14, 15] (fun inv lv iv _ _ _ wr => ∃ (i k c : Nat) (b : Option Addr) (L : List Og) (β : Bool), inv = .bool β ∧ lv = .slice b k c ∧ iv = .int .i64 (i : Int) ∧ i ≤ l.length ∧ i ≤ 15 ∧ k ≤ i ∧ Hid (k = L.length ∧ (∀ z ∈ L, rtB z = true) ∧ L.Nodup ∧ L.any (ogD o) = β ∧ Ro X0 wr (.slice b k c) L)) (fun _ _ iv _ _ _ _ => 15 - (intOf iv).toNat)
  case atStart => exact ⟨0, 0, 0, none, [], false, rfl, rfl, rfl, by omega, by omega, by omega, rfl, fun z hz => (by cases hz), List.nodup_nil, rfl, Ro.nil X0⟩
  case round =>
    obtain ⟨i, k, c, b, L, β, rfl, rfl, rfl, hi, hi15, hk, hJ⟩ := hrel
    by_cases hgo : i < l.length ∧ i < 15
    · obtain ⟨hlt, h15⟩ := hgo
      have a1 : (i : Int) < (l.length : Int) := by omega
      have a2 : (i : Int) < 15 := by omega
      obtain ⟨Bk, off, cap, e, hBk, hc⟩ := HI.out.og i hlt
      injection e with e1 e2 e3
      clear e2 e3
      subst e1
      have HBwr : Hid (Below w.heap.size w wr) := HBX.out.trans (hJ.out.2.2.2.2.2.1.mono HBX.out.size)
      obtain ⟨c0, c1, c2⟩ := hc wr HBwr.out
      obtain ⟨y, hy⟩ : ∃ y, l[i] = y := ⟨_, rfl⟩
      rw [hy] at c0 c1 c2
      have HY : Hid (ow y) := HZL.out y (by rw [← hy]; exact List.getElem_mem hlt)
      have HCm : Hid (Calls Tryd.prog 10 #[.agg #[.string y.s, .string y.h, .int .i64 y.p]] wr (MdPost wr)) := HMd2.out y wr HY.out
      clear hc hy
      go_wp2_with fail
      go_at_call 10
      refine HCm.out.mono ?_
      rintro e W1 ⟨p, rfl, hrp, b1⟩
      unfold ogv
      have HRP : Hid (rtB p = true) := hrp
      have HRo1 : Hid (Ro X0 W1 (.slice b k c) L) := hJ.out.2.2.2.2.below b1
      have HJ2 : Hid (k = L.length ∧ (∀ z ∈ L, rtB z = true) ∧ L.Nodup ∧ L.any (ogD o) = β) := ⟨hJ.out.1, hJ.out.2.1, hJ.out.2.2.1, hJ.out.2.2.2.1⟩
      clear b1 hrp hJ c0 c1 c2 HCm
      go_wp2_with fail
      obtain ⟨g, hg⟩ : ∃ g, W1.heap.size = g := ⟨_, rfl⟩
      obtain ⟨Y, hY⟩ : ∃ V, W1.alloc (.cells #[.string p.s, .string p.h, .int .i64 p.p] 23) = V := ⟨_, rfl⟩
      have HG : Hid (OB Y g p) := by show OB _ _ _; rw [← hY, ← hg]; unfold OB; rw [heap_al, if_pos rfl]; rfl
      have HRoY : Hid (Ro X0 Y (.slice b k c) L) := by rw [← hY]; exact HRo1.out.below (bel1 _ _)
      have Hown : Hid (∀ j, (Value.slice b k c).ownBlock = some j → j < g) := fun j hj => by rw [← hg]; exact HRo1.out.1.lt j hj
      rw [hY, hg]
      clear hY hg
      go_loopw [14, 15] (fun tv kv wq => ∃ q : Nat, tv = .bool ((L.take q).any (fun z => ogD z p)) ∧ kv = .int .i64 (q : Int) ∧ q ≤ k ∧ Hid (Below Y.heap.size Y wq)) (fun _ kv _ => k - (intOf kv).toNat)
      case atStart => exact ⟨0, rfl, rfl, by omega, Below.refl _ _⟩
      case round =>
        obtain ⟨q, rfl, rfl, hq, hbq⟩ := hrel
        by_cases hqk : q < k
        · have a3 : (q : Int) < (k : Int) := by omega
          have HqL : Hid (q < L.length) := by rw [← HJ2.out.1]; exact hqk
          have HST : Hid ((L.take (q + 1)).any (fun z => ogD z p) = ((L.take q).any (fun z => ogD z p) || ogD (L[q]'HqL.out) p)) := any_take L p q HqL.out
          have HBn : Hid (∀ n', Below Y.heap.size Y (wr.drewN n')) := fun n' => below_drewN hbq.out n'
          obtain ⟨τ, hτ⟩ : ∃ τ, (L.take q).any (fun z => ogD z p) = τ := ⟨_, rfl⟩
          rw [hτ] at HST ⊢
          clear hτ
          cases τ
          · obtain ⟨Bq, offq, capq, e, hBq, hcq⟩ := (HRoY.out.1.isIn).og q HqL.out
            injection e with e1 e2 e3
            clear e2 e3
            subst e1
            obtain ⟨c0, c1, c2⟩ := hcq wr hbq.out
            have Og2 : Hid (OB wr g p) := HG.out.below hbq.out
            obtain ⟨d0, d1, d2, _, _, _⟩ := Og2.out.cells
            obtain ⟨z, hz⟩ : ∃ z, L[q]'HqL.out = z := ⟨_, rfl⟩
            rw [hz] at c0 c1 c2 HST
            have hql := eql_og z p
            have hLk : L.length = k := HJ2.out.1.symm
            clear hcq hz hLk
            obtain ⟨δ, hδ⟩ : ∃ δ, ogD z p = δ := ⟨_, rfl⟩
            rw [hδ] at HST hql
            clear hδ
            go_wp2_with fail
            go_quiet (fail)
            go_wp2_with fail
            go_roundw
            case rel => exact ⟨q + 1, by rw [HST.out]; first | rfl | simp, by simp, by omega, HBn.out _⟩
            case measure => first | (simp [intOf]; done) | (simp [intOf]; omega)
          · go_wp2_with fail
            go_quiet (fail)
            go_wp2_with fail
            go_roundw
            case rel => exact ⟨q + 1, by rw [HST.out]; first | rfl | simp, by simp, by omega, HBn.out _⟩
            case measure => first | (simp [intOf]; done) | (simp [intOf]; omega)
        · obtain rfl : q = k := by omega
          have a3 : ¬ (q : Int) < (q : Int) := by omega
          have HAll : Hid ((L.take q).any (fun z => ogD z p) = L.any (ogD p)) := by show _ = _; rw [HJ2.out.1, List.take_length, any_comm]
          have HRoQ : Hid (Ro X0 wr (.slice b q c) L) := HRoY.out.below hbq.out
          rw [HAll.out]
          obtain ⟨τ, hτ⟩ : ∃ τ, L.any (ogD p) = τ := ⟨_, rfl⟩
          have HT : Hid (L.any (ogD p) = τ) := hτ
          rw [hτ]
          clear hτ HAll
          cases τ
          · obtain ⟨b3, c3, w3, e3, e4, e5, e6⟩ := HRoQ.out.app HJ2.out.1 (by have := HJ2.out.1; omega) p
            have Og2 : Hid (OB wr g p) := HG.out.below hbq.out
            have Og3 : Hid (OB w3 g p) := Og2.out.keep (e6 g Og2.out.lt (fun e => by have := Hown.out g e; omega))
            have Oa3 : Hid (OB w3 a o) := HA0.out.below e4.2.1
            obtain ⟨d0, d1, d2, _, _, _⟩ := Og2.out.cells
            obtain ⟨f0, f1, f2, _, _, _⟩ := Og3.out.cells
            obtain ⟨h0, h1, h2, _, _, _⟩ := Oa3.out.cells
            have hql := eql_og p o
            have HN2 : Hid (q + 1 = (L ++ [p]).length ∧ (∀ z ∈ L ++ [p], rtB z = true) ∧ (L ++ [p]).Nodup ∧ (L ++ [p]).any (ogD o) = (β || ogD p o) ∧ Ro X0 w3 (.slice b3 (q + 1) c3) (L ++ [p])) := by
              refine ⟨by simp [HJ2.out.1], fun z hz => ?_, nd_snoc HJ2.out.2.2.1 HT.out, by rw [any_snoc, HJ2.out.2.2.2], e4⟩
              rcases List.mem_append.1 hz with hz | hz
              · exact HJ2.out.2.1 z hz
              · rw [List.mem_singleton.1 hz]
                exact HRP.out
            replace e3 : Hid _ := e3
            obtain ⟨δ, hδ⟩ : ∃ δ, ogD p o = δ := ⟨_, rfl⟩
            rw [hδ] at HN2 hql
            clear e4 e5 e6 hδ
            cases β
            · go_wp2_with (at_builtin; refine Lib.wpList_append_run _ rfl _ _ _ _ rfl _ _ rfl rfl _ _ e3.out ?_)
              go_roundw
              case rel => exact ⟨i + 1, q + 1, c3, b3, L ++ [p], δ, by first | rfl | simp, by first | rfl | simp, by simp, by omega, by omega, by omega, by have h9 := HN2.out; rw [Bool.false_or] at h9; exact h9⟩
              case measure => first | (simp [intOf]; done) | (simp [intOf]; omega)
            · go_wp2_with (at_builtin; refine Lib.wpList_append_run _ rfl _ _ _ _ rfl _ _ rfl rfl _ _ e3.out ?_)
              go_roundw
              case rel => exact ⟨i + 1, q + 1, c3, b3, L ++ [p], true, by first | rfl | simp, by first | rfl | simp, by simp, by omega, by omega, by omega, by have h9 := HN2.out; rw [Bool.true_or] at h9; exact h9⟩
              case measure => first | (simp [intOf]; done) | (simp [intOf]; omega)
          · have HN2 : Hid (q = L.length ∧ (∀ z ∈ L, rtB z = true) ∧ L.Nodup ∧ L.any (ogD o) = β ∧ Ro X0 wr (.slice b q c) L) := ⟨HJ2.out.1, HJ2.out.2.1, HJ2.out.2.2.1, HJ2.out.2.2.2, HRoQ.out⟩
            go_wp2_with fail
            go_roundw
            case rel => exact ⟨i + 1, q, c, b, L, β, rfl, rfl, by simp, by omega, by omega, by omega, HN2.out⟩
            case measure => first | (simp [intOf]; done) | (simp [intOf]; omega)
    · have HDone : Hid (k = L.length ∧ (∀ z ∈ L, rtB z = true) ∧ L.Nodup ∧ L.any (ogD o) = β ∧ Ro X0 wr (.slice b k c) L) := hJ
      clear hJ
      by_cases hlt : i < l.length
      · have a1 : (i : Int) < (l.length : Int) := by omega
        have a2 : ¬ (i : Int) < 15 := by omega
        clear hgo hlt
        have HOf : Hid (Calls Tryd.prog 14 #[.slice b k c] wr (OfPost L wr)) := of_any (b, k, c) L wr (HDone.out.2.2.2.2.1.isIn) (fun z hz => rt_ow (HDone.out.2.1 z hz)) (by have := HDone.out.1; omega)
        have HOE : Hid (ofE L = 0) := ofE_ok ⟨HDone.out.2.1, HDone.out.2.2.1, by have := HDone.out.1; omega⟩
        go_wp2_with fail
        go_at_call 14
        refine HOf.out.mono ?_
        rintro e X ⟨bx, h5⟩
        rcases h5 with ⟨_, P, B, rfl, hS⟩ | ⟨h5, _⟩
        · have HS : Hid (Se X wr.heap.size P B L) := hS
          have HRo : Hid (Ro X0 X (.slice b k c) L) := HDone.out.2.2.2.2.below bx
          have Hown : Hid (∀ j, (Value.slice b k c).ownBlock = some j → j < wr.heap.size) := fun j hj => HDone.out.2.2.2.2.1.lt j hj
          have HD : Hid (k = L.length ∧ (∀ z ∈ L, rtB z = true) ∧ L.Nodup ∧ L.any (ogD o) = β) := ⟨HDone.out.1, HDone.out.2.1, HDone.out.2.2.1, HDone.out.2.2.2.1⟩
          have HAX : Hid (OB X a o) := HA0.out.below HRo.out.2.1
          have HBX2 : Hid (Below w.heap.size w X) := HBX.out.trans (HRo.out.2.1.mono HBX.out.size)
          generalize wr.heap.size = lo at HS Hown
          clear bx hS HDone HOf HOE
          obtain ⟨SO, hSO⟩ : ∃ SO, spS o m nm = SO := ⟨_, rfl⟩
          have HSO : Hid (spS o m nm = SO ∧ SO.size ≤ 300) := ⟨hSO, by rw [← hSO]; unfold spS; rw [bt_size]; exact spL_len HRT.out m nm⟩
          have HSpO : Hid (∀ W, Calls Tryd.prog 13 #[.agg #[.string o.s, .string o.h, .int .i64 o.p], .int .u64 m, .bool nm] W fun e w' => e = .returned (.string SO) ∧ Below W.heap.size W w') := fun W => by rw [← hSO]; exact sp_any o m nm W hm0 hm1 HRT.out
          have HHaO : Hid (∀ W, Below X.heap.size X W → Calls Tryd.prog 15 #[.pointer (some ⟨P, 0, none⟩), .string o.s, .string SO] W fun e w' => e = .returned (.bool β) ∧ Below W.heap.size W w') := fun W hW => by
            have h1 := has_any lo P B L o.s SO W ((HE.out.below HBX2.out).below hW) (HS.out.below hW) (by have := HSO.out.2; omega)
            rw [← HSO.out.1, hs_spelt HRT.out, HD.out.2.2.2, HSO.out.1] at h1
            exact h1
          have hbb : (β != β) = false := by cases β <;> rfl
          clear hSO
          go_wp2_with fail
          have hS19 : Hid (∀ V, Below X.heap.size X V → V.cell? ⟨a, 0, none⟩ = some (.string o.s) ∧ V.cell? ⟨a, 1, none⟩ = some (.string o.h) ∧ V.cell? ⟨a, 2, none⟩ = some (.int .i64 o.p)) := fun V hV => ⟨(HAX.out.below hV).cells.c0, (HAX.out.below hV).cells.c1, (HAX.out.below hV).cells.c2⟩
          have hIW : Below X.heap.size X X.drew := (Below.refl _ _).drew
          refine wp_region_held_drew (S := (fun V => V.cell? ⟨a, 0, none⟩ = some (.string o.s) ∧ V.cell? ⟨a, 1, none⟩ = some (.string o.h) ∧ V.cell? ⟨a, 2, none⟩ = some (.int .i64 o.p))) (by kernel_rfl) (hS19.out _ hIW) (fun hHeld => ?_)
          generalize hWg : World.drew _ = W at hIW hHeld ⊢
          clear hWg
          refine wpAnyH_take (i := 0) (oi := { dst := some 73, op := Op.move (Operand.tmp 16), type := 36, pos := "outright.go:100", after := #[], guard := none }) (v := ?vv121) rfl (by kernel_rfl) (by kernel_rfl) (by kernel_rfl) (fun _ _ _ h => h) (Or.inl ⟨by rfl, ?hy121⟩) (by assumption) ?_
          case hy121 => (intro w hSw; (try dsimp only at hSw); go_simp; all_goals with_reducible rfl)
          try simp only [Act.put, List.setIfInBounds_toArray, List.set_cons_zero, List.set_cons_succ]
          refine wpAnyH_take (i := 1) (oi := { dst := some 74, op := Op.binOp BinOp.eql 36 (Operand.tmp 73) (Operand.const (Value.pointer none)) 36, type := 4, pos := "outright.go:100", after := #[{ on := 0, ground := Ground.data }], guard := none }) (v := ?vv122) rfl (by kernel_rfl) (by kernel_rfl) (by kernel_rfl) (fun _ _ _ h => h) (Or.inl ⟨by rfl, ?hy122⟩) (by assumption) ?_
          case hy122 => (intro w hSw; (try dsimp only at hSw); go_simp; all_goals with_reducible rfl)
          try simp only [Act.put, List.setIfInBounds_toArray, List.set_cons_zero, List.set_cons_succ]
          refine wpAnyH_take (i := 2) (oi := { dst := some 75, op := Op.move (Operand.tmp 74), type := 4, pos := "outright.go:100", after := #[{ on := 1, ground := Ground.data }], guard := none }) (v := ?vv123) rfl (by kernel_rfl) (by kernel_rfl) (by kernel_rfl) (fun _ _ _ h => h) (Or.inl ⟨by rfl, ?hy123⟩) (by assumption) ?_
          case hy123 => (intro w hSw; (try dsimp only at hSw); go_simp; all_goals with_reducible rfl)
          try simp only [Act.put, List.setIfInBounds_toArray, List.set_cons_zero, List.set_cons_succ]
          refine wpAnyH_take (i := 3) (oi := { dst := some 76, op := Op.move (Operand.tmp 17), type := 27, pos := "outright.go:100", after := #[{ on := 2, ground := Ground.guard }], guard := some (2, false) }) (v := ?vv124) rfl (by kernel_rfl) (by kernel_rfl) (by kernel_rfl) (fun _ _ _ h => h) (Or.inl ⟨by rfl, ?hy124⟩) (by assumption) ?_
          case hy124 => (intro w hSw; (try dsimp only at hSw); go_simp; all_goals with_reducible rfl)
          try simp only [Act.put, List.setIfInBounds_toArray, List.set_cons_zero, List.set_cons_succ]
          refine wpAnyH_take (i := 4) (oi := { dst := some 77, op := Op.binOp BinOp.neq 27 (Operand.tmp 76) (Operand.const (Value.int IntKind.i64 0)) 27, type := 4, pos := "outright.go:100", after := #[{ on := 3, ground := Ground.data }, { on := 2, ground := Ground.guard }], guard := some (2, false) }) (v := ?vv125) rfl (by kernel_rfl) (by kernel_rfl) (by kernel_rfl) (fun _ _ _ h => h) (Or.inl ⟨by rfl, ?hy125⟩) (by assumption) ?_
          case hy125 => (intro w hSw; (try dsimp only at hSw); go_simp; all_goals with_reducible rfl)
          try simp only [Act.put, List.setIfInBounds_toArray, List.set_cons_zero, List.set_cons_succ]
          refine wpAnyH_take (i := 5) (oi := { dst := some 78, op := Op.pick (Operand.tmp 75) (Operand.const (Value.bool true)) (Operand.tmp 77), type := 4, pos := "outright.go:100", after := #[{ on := 2, ground := Ground.data }, { on := 4, ground := Ground.data }], guard := none }) (v := ?vv126) rfl (by kernel_rfl) (by kernel_rfl) (by kernel_rfl) (fun _ _ _ h => h) (Or.inl ⟨by rfl, ?hy126⟩) (by assumption) ?_
          case hy126 => (intro w hSw; (try dsimp only at hSw); go_simp; all_goals with_reducible rfl)
          try simp only [Act.put, List.setIfInBounds_toArray, List.set_cons_zero, List.set_cons_succ]
          refine wpAnyH_take (i := 6) (oi := { dst := some 79, op := Op.move (Operand.tmp 78), type := 4, pos := "outright.go:100", after := #[{ on := 5, ground := Ground.data }, { on := 2, ground := Ground.chain }], guard := none }) (v := ?vv127) rfl (by kernel_rfl) (by kernel_rfl) (by kernel_rfl) (fun _ _ _ h => h) (Or.inl ⟨by rfl, ?hy127⟩) (by assumption) ?_
          case hy127 => (intro w hSw; (try dsimp only at hSw); go_simp; all_goals with_reducible rfl)
          try simp only [Act.put, List.setIfInBounds_toArray, List.set_cons_zero, List.set_cons_succ]
          refine wpAnyH_take (i := 7) (oi := { dst := some 80, op := Op.move (Operand.tmp 16), type := 36, pos := "outright.go:100", after := #[{ on := 6, ground := Ground.guard }], guard := some (6, false) }) (v := ?vv128) rfl (by kernel_rfl) (by kernel_rfl) (by kernel_rfl) (fun _ _ _ h => h) (Or.inl ⟨by rfl, ?hy128⟩) (by assumption) ?_
          case hy128 => (intro w hSw; (try dsimp only at hSw); go_simp; all_goals with_reducible rfl)
          try simp only [Act.put, List.setIfInBounds_toArray, List.set_cons_zero, List.set_cons_succ]
          refine wpAnyH_take (i := 8) (oi := { dst := some 81, op := Op.fieldAddr 23 (Operand.tmp 9) 0, type := 0, pos := "outright.go:100", after := #[{ on := 6, ground := Ground.guard }], guard := some (6, false) }) (v := ?vv129) rfl (by kernel_rfl) (by kernel_rfl) (by kernel_rfl) (fun _ _ _ h => h) (Or.inl ⟨by rfl, ?hy129⟩) (by assumption) ?_
          case hy129 => (intro w hSw; (try dsimp only at hSw); go_simp; all_goals with_reducible rfl)
          try simp only [Act.put, List.setIfInBounds_toArray, List.set_cons_zero, List.set_cons_succ]
          refine wpAnyH_take (i := 9) (oi := { dst := some 82, op := Op.load 9 (Operand.tmp 81), type := 9, pos := "outright.go:100", after := #[{ on := 8, ground := Ground.data }, { on := 6, ground := Ground.guard }], guard := some (6, false) }) (v := ?vv130) rfl (by kernel_rfl) (by kernel_rfl) (by kernel_rfl) (fun _ _ _ h => h) (Or.inl ⟨by rfl, ?hy130⟩) (by assumption) ?_
          case hy130 => (intro w hSw; (try dsimp only at hSw); go_simp; all_goals with_reducible rfl)
          try simp only [Act.put, List.setIfInBounds_toArray, List.set_cons_zero, List.set_cons_succ]
          refine wpAnyH_take (i := 10) (oi := { dst := some 83, op := Op.load 23 (Operand.tmp 9), type := 23, pos := "outright.go:100", after := #[{ on := 6, ground := Ground.guard }], guard := some (6, false) }) (v := ?vv131) rfl (by kernel_rfl) (by kernel_rfl) (by kernel_rfl) (fun _ _ _ h => h) (Or.inl ⟨by rfl, ?hy131⟩) (by assumption) ?_
          case hy131 => (intro w hSw; (try dsimp only at hSw); go_simp; all_goals with_reducible rfl)
          try simp only [Act.put, List.setIfInBounds_toArray, List.set_cons_zero, List.set_cons_succ]
          refine wpAnyH_take (i := 11) (oi := { dst := some 84, op := Op.move (Operand.tmp 2), type := 24, pos := "outright.go:100", after := #[{ on := 6, ground := Ground.guard }], guard := some (6, false) }) (v := ?vv132) rfl (by kernel_rfl) (by kernel_rfl) (by kernel_rfl) (fun _ _ _ h => h) (Or.inl ⟨by rfl, ?hy132⟩) (by assumption) ?_
          case hy132 => (intro w hSw; (try dsimp only at hSw); go_simp; all_goals with_reducible rfl)
          try simp only [Act.put, List.setIfInBounds_toArray, List.set_cons_zero, List.set_cons_succ]
          refine wpAnyH_take (i := 12) (oi := { dst := some 85, op := Op.move (Operand.tmp 3), type := 4, pos := "outright.go:100", after := #[{ on := 6, ground := Ground.guard }], guard := some (6, false) }) (v := ?vv133) rfl (by kernel_rfl) (by kernel_rfl) (by kernel_rfl) (fun _ _ _ h => h) (Or.inl ⟨by rfl, ?hy133⟩) (by assumption) ?_
          case hy133 => (intro w hSw; (try dsimp only at hSw); go_simp; all_goals with_reducible rfl)
          try simp only [Act.put, List.setIfInBounds_toArray, List.set_cons_zero, List.set_cons_succ]
          refine wpAnyH_take (i := 15) (oi := { dst := some 88, op := Op.move (Operand.tmp 10), type := 4, pos := "outright.go:100", after := #[{ on := 6, ground := Ground.guard }], guard := some (6, false) }) (v := ?vv134) rfl (by kernel_rfl) (by kernel_rfl) (by kernel_rfl) (fun _ _ _ h => h) (Or.inl ⟨by rfl, ?hy134⟩) (by assumption) ?_
          case hy134 => (intro w hSw; (try dsimp only at hSw); go_simp; all_goals with_reducible rfl)
          try simp only [Act.put, List.setIfInBounds_toArray, List.set_cons_zero, List.set_cons_succ]
          refine wpAnyH_ready (rs := [13]) (by kernel_rfl) (by simp) ?_
          refine AllReadyH.cons (o := { dst := some 86, op := Op.call { callee := Callee.value (Operand.func 13), args := #[Operand.tmp 83, Operand.tmp 84, Operand.tmp 85], argTypes := #[23, 24, 4] }, type := 9, pos := "outright.go:100", after := #[{ on := 10, ground := Ground.data }, { on := 11, ground := Ground.data }, { on := 12, ground := Ground.data }, { on := 6, ground := Ground.chain }, { on := 6, ground := Ground.guard }], guard := some (6, false) }) rfl (fun K hK => ?_) AllReadyH.nil
          go_simp
          refine (HSpO.out _).mono ?_
          rintro e' Wx ⟨rfl, bX⟩
          have hWx : Below X.heap.size X Wx := hIW.trans (bX.mono hIW.size)
          clear bX
          go_wp2_with fail
          refine hK.out _ _ (hS19.out _ hWx) (fun hHeld => ?_)
          clear hK K
          try simp only [Act.put, List.setIfInBounds_toArray, List.set_cons_zero, List.set_cons_succ]
          refine wpAnyH_ready (rs := [14]) (by kernel_rfl) (by simp) ?_
          refine AllReadyH.cons (o := { dst := some 87, op := Op.call { callee := Callee.value (Operand.func 15), args := #[Operand.tmp 80, Operand.tmp 82, Operand.tmp 86], argTypes := #[36, 9, 9] }, type := 4, pos := "outright.go:100", after := #[{ on := 7, ground := Ground.data }, { on := 9, ground := Ground.data }, { on := 13, ground := Ground.data }, { on := 13, ground := Ground.chain }, { on := 6, ground := Ground.guard }], guard := some (6, false) }) rfl (fun K hK => ?_) AllReadyH.nil
          go_simp
          refine (HHaO.out _ hWx).mono ?_
          rintro e' Wxx ⟨rfl, bX⟩
          have hWxx : Below X.heap.size X Wxx := hWx.trans (bX.mono hWx.size)
          clear bX
          go_wp2_with fail
          refine hK.out _ _ (hS19.out _ hWxx) (fun hHeld => ?_)
          clear hK K
          try simp only [Act.put, List.setIfInBounds_toArray, List.set_cons_zero, List.set_cons_succ]
          refine wpAnyH_take (i := 16) (oi := { dst := some 89, op := Op.binOp BinOp.neq 4 (Operand.tmp 87) (Operand.tmp 88) 4, type := 4, pos := "outright.go:100", after := #[{ on := 14, ground := Ground.data }, { on := 15, ground := Ground.data }, { on := 6, ground := Ground.guard }], guard := some (6, false) }) (v := ?vv135) rfl (by kernel_rfl) (by kernel_rfl) (by kernel_rfl) (fun _ _ _ h => h) (Or.inl ⟨by rfl, ?hy135⟩) (by assumption) ?_
          case hy135 => (intro w hSw; (try dsimp only at hSw); go_simp; all_goals with_reducible rfl)
          try simp only [Act.put, List.setIfInBounds_toArray, List.set_cons_zero, List.set_cons_succ]
          refine wpAnyH_take (i := 17) (oi := { dst := some 90, op := Op.pick (Operand.tmp 79) (Operand.const (Value.bool true)) (Operand.tmp 89), type := 4, pos := "outright.go:100", after := #[{ on := 6, ground := Ground.data }, { on := 16, ground := Ground.data }], guard := none }) (v := ?vv136) rfl (by kernel_rfl) (by kernel_rfl) (by kernel_rfl) (fun _ _ _ h => h) (Or.inl ⟨by rfl, ?hy136⟩) (by assumption) ?_
          case hy136 => (intro w hSw; (try dsimp only at hSw); go_simp; all_goals with_reducible rfl)
          try simp only [Act.put, List.setIfInBounds_toArray, List.set_cons_zero, List.set_cons_succ]
          refine wpAnyH_done (by kernel_rfl) ?_ _
          have HX1 : Hid (Below X.heap.size X Wxx) := hWxx
          generalize Wxx = X1 at HX1 hHeld ⊢
          have HRo1 : Hid (Ro X0 X1 (.slice b k c) L) := HRo.out.below HX1.out
          have HS1 : Hid (Se X1 lo P B L) := HS.out.below HX1.out
          have HA1 : Hid (OB X1 a o) := HAX.out.below HX1.out
          have HB1 : Hid (Below w.heap.size w X1) := HBX2.out.trans (HX1.out.mono HBX2.out.size)
          clear hHeld HX1 HRo HS HAX HBX2 HHaO
          go_wp2_with fail
          go_loopw [18, 19] (fun iv _ wr => ∃ q : Nat, iv = .int .i64 (q : Int) ∧ q ≤ k ∧ Hid (Below X1.heap.size X1 wr)) (fun iv _ _ => k - (intOf iv).toNat)
          case atStart => exact ⟨0, rfl, by omega, Below.refl _ _⟩
          case round =>
            obtain ⟨q, rfl, hq, hbq⟩ := hrel
            by_cases hqk : q < k
            · have a3 : (q : Int) < (k : Int) := by omega
              have HqL : Hid (q < L.length) := by rw [← HD.out.1]; exact hqk
              obtain ⟨Bq, offq, capq, e, hBq, hcq⟩ := (HRo1.out.1.isIn).og q HqL.out
              injection e with e1 e2 e3
              clear e2 e3
              subst e1
              obtain ⟨c0, c1, c2⟩ := hcq wr hbq.out
              obtain ⟨p, hp⟩ : ∃ z, L[q]'HqL.out = z := ⟨_, rfl⟩
              rw [hp] at c0 c1 c2
              have HPm : Hid (p ∈ L) := by rw [← hp]; exact List.getElem_mem HqL.out
              have HRP : Hid (rtB p = true) := HD.out.2.1 p HPm.out
              clear hcq hp
              go_wp2_with fail
              obtain ⟨g, hg⟩ : ∃ g, wr.heap.size = g := ⟨_, rfl⟩
              obtain ⟨Y, hY⟩ : ∃ V, wr.alloc (.cells #[.string p.s, .string p.h, .int .i64 p.p] 23) = V := ⟨_, rfl⟩
              have HG : Hid (OB Y g p) := by show OB _ _ _; rw [← hY, ← hg]; unfold OB; rw [heap_al, if_pos rfl]; rfl
              have HBY : Hid (Below X1.heap.size X1 Y) := by rw [← hY]; exact hbq.out.trans ((bel1 _ _).mono hbq.out.size)
              rw [hY, hg]
              clear hY hg c0 c1 c2
              obtain ⟨hu, hh, hp1, hp2⟩ := rtB_iff.1 HRP.out
              have hs5 := usP_size hu
              have hh5 := host_size hh
              obtain ⟨SP, hSP⟩ : ∃ SP, spS p m nm = SP := ⟨_, rfl⟩
              have HSP : Hid (spS p m nm = SP ∧ SP.size ≤ 300) := ⟨hSP, by rw [← hSP]; unfold spS; rw [bt_size]; exact spL_len HRP.out m nm⟩
              obtain ⟨SQ, hSQ⟩ : ∃ SP, spS p 0 true = SP := ⟨_, rfl⟩
              have HSQ : Hid (spS p 0 true = SQ ∧ SQ.size ≤ 300) := ⟨hSQ, by rw [← hSQ]; unfold spS; rw [bt_size]; exact spL_len HRP.out 0 true⟩
              have HSpP : Hid (∀ W, Calls Tryd.prog 13 #[.agg #[.string p.s, .string p.h, .int .i64 p.p], .int .u64 m, .bool nm] W fun e w' => e = .returned (.string SP) ∧ Below W.heap.size W w') := fun W => by rw [← hSP]; exact sp_any p m nm W hm0 hm1 HRP.out
              have HSpQ : Hid (∀ W, Calls Tryd.prog 13 #[.agg #[.string p.s, .string p.h, .int .i64 p.p], .int .u64 0, .bool true] W fun e w' => e = .returned (.string SQ) ∧ Below W.heap.size W w') := fun W => by rw [← hSQ]; exact sp_any p 0 true W (by omega) (by omega) HRP.out
              obtain ⟨U1, hU1⟩ : ∃ U, (⟨#[117, 64]⟩ : ByteArray) ++ p.h = U := ⟨_, rfl⟩
              obtain ⟨U2, hU2⟩ : ∃ U, (⟨#[120]⟩ : ByteArray) ++ p.s = U := ⟨_, rfl⟩
              obtain ⟨U3, hU3⟩ : ∃ U, p.h ++ (⟨#[58, 48]⟩ : ByteArray) = U := ⟨_, rfl⟩
              have t1 : ¬ (2 + p.h.size > 9223372036854775807) := by omega
              have t2 : ¬ (1 + p.s.size > 9223372036854775807) := by omega
              have t3 : ¬ (p.h.size + 2 > 9223372036854775807) := by omega
              have z1 : (⟨#[117, 64]⟩ : ByteArray).size = 2 := rfl
              have z3 : (⟨#[58, 48]⟩ : ByteArray).size = 2 := rfl
              have HH1 : Hid (∀ W, Below Y.heap.size Y W → Calls Tryd.prog 15 #[.pointer (some ⟨P, 0, none⟩), .string p.s, .string SP] W fun e w' => e = .returned (.bool true) ∧ Below W.heap.size W w') := fun W hW => by
                have h1 := has_any lo P B L p.s SP W (((HE.out.below HB1.out).below HBY.out).below hW) ((HS1.out.below HBY.out).below hW) (by have := HSP.out.2; omega)
                rw [← HSP.out.1, hs_spelt HRP.out, any_iff.2 HPm.out, HSP.out.1] at h1
                exact h1
              have HH2 : Hid (∀ W, Below Y.heap.size Y W → Calls Tryd.prog 15 #[.pointer (some ⟨P, 0, none⟩), .string p.s, .string U1] W fun e w' => e = .returned (.bool false) ∧ Below W.heap.size W w') := fun W hW => by
                have h1 := has_any lo P B L p.s U1 W (((HE.out.below HB1.out).below HBY.out).below hW) ((HS1.out.below HBY.out).below hW) (by rw [← hU1, app_size, z1]; omega)
                rw [← hU1, hs_at HRP.out, hU1] at h1
                exact h1
              have HH3 : Hid (∀ W, Below Y.heap.size Y W → Calls Tryd.prog 15 #[.pointer (some ⟨P, 0, none⟩), .string U2, .string SQ] W fun e w' => e = .returned (.bool false) ∧ Below W.heap.size W w') := fun W hW => by
                have h1 := has_any lo P B L U2 SQ W (((HE.out.below HB1.out).below HBY.out).below hW) ((HS1.out.below HBY.out).below hW) (by have := HSQ.out.2; omega)
                rw [← hU2, hs_x HRP.out, hU2] at h1
                exact h1
              have HH4 : Hid (∀ W, Below Y.heap.size Y W → Calls Tryd.prog 15 #[.pointer (some ⟨P, 0, none⟩), .string p.s, .string U3] W fun e w' => e = .returned (.bool false) ∧ Below W.heap.size W w') := fun W hW => by
                have h1 := has_any lo P B L p.s U3 W (((HE.out.below HB1.out).below HBY.out).below hW) ((HS1.out.below HBY.out).below hW) (by rw [← hU3, app_size, z3]; omega)
                rw [← hU3, hs_zero HRP.out, hU3] at h1
                exact h1
              clear hSP hSQ hu hh hp1 hp2 hs5 hh5 hbq
              go_wp2_with fail
              have hS25 : Hid (∀ V, Below Y.heap.size Y V → V.cell? ⟨g, 0, none⟩ = some (.string p.s) ∧ V.cell? ⟨g, 1, none⟩ = some (.string p.h) ∧ V.cell? ⟨g, 2, none⟩ = some (.int .i64 p.p)) := fun V hV => ⟨(HG.out.below hV).cells.c0, (HG.out.below hV).cells.c1, (HG.out.below hV).cells.c2⟩
              have hIW : Below Y.heap.size Y Y.drew := (Below.refl _ _).drew
              refine wp_region_held_drew (S := (fun V => V.cell? ⟨g, 0, none⟩ = some (.string p.s) ∧ V.cell? ⟨g, 1, none⟩ = some (.string p.h) ∧ V.cell? ⟨g, 2, none⟩ = some (.int .i64 p.p))) (by kernel_rfl) (hS25.out _ hIW) (fun hHeld => ?_)
              generalize hWg : World.drew _ = W at hIW hHeld ⊢
              clear hWg
              refine wpAnyH_take (i := 0) (oi := { dst := some 101, op := Op.move (Operand.tmp 16), type := 36, pos := "outright.go:105", after := #[], guard := none }) (v := ?vv91) rfl (by kernel_rfl) (by kernel_rfl) (by kernel_rfl) (fun _ _ _ h => h) (Or.inl ⟨by rfl, ?hy91⟩) (by assumption) ?_
              case hy91 => (intro w hSw; (try dsimp only at hSw); go_simp; all_goals with_reducible rfl)
              try simp only [Act.put, List.setIfInBounds_toArray, List.set_cons_zero, List.set_cons_succ]
              refine wpAnyH_take (i := 1) (oi := { dst := some 102, op := Op.fieldAddr 23 (Operand.tmp 19) 0, type := 0, pos := "outright.go:105", after := #[], guard := none }) (v := ?vv92) rfl (by kernel_rfl) (by kernel_rfl) (by kernel_rfl) (fun _ _ _ h => h) (Or.inl ⟨by rfl, ?hy92⟩) (by assumption) ?_
              case hy92 => (intro w hSw; (try dsimp only at hSw); go_simp; all_goals with_reducible rfl)
              try simp only [Act.put, List.setIfInBounds_toArray, List.set_cons_zero, List.set_cons_succ]
              refine wpAnyH_take (i := 2) (oi := { dst := some 103, op := Op.load 9 (Operand.tmp 102), type := 9, pos := "outright.go:105", after := #[{ on := 1, ground := Ground.data }], guard := none }) (v := ?vv93) rfl (by kernel_rfl) (by kernel_rfl) (by kernel_rfl) (fun _ _ _ h => h) (Or.inl ⟨by rfl, ?hy93⟩) (by assumption) ?_
              case hy93 => (intro w hSw; (try dsimp only at hSw); go_simp; all_goals with_reducible rfl)
              try simp only [Act.put, List.setIfInBounds_toArray, List.set_cons_zero, List.set_cons_succ]
              refine wpAnyH_take (i := 3) (oi := { dst := some 104, op := Op.load 23 (Operand.tmp 19), type := 23, pos := "outright.go:105", after := #[], guard := none }) (v := ?vv94) rfl (by kernel_rfl) (by kernel_rfl) (by kernel_rfl) (fun _ _ _ h => h) (Or.inl ⟨by rfl, ?hy94⟩) (by assumption) ?_
              case hy94 => (intro w hSw; (try dsimp only at hSw); go_simp; all_goals with_reducible rfl)
              try simp only [Act.put, List.setIfInBounds_toArray, List.set_cons_zero, List.set_cons_succ]
              refine wpAnyH_take (i := 4) (oi := { dst := some 105, op := Op.move (Operand.tmp 2), type := 24, pos := "outright.go:105", after := #[], guard := none }) (v := ?vv95) rfl (by kernel_rfl) (by kernel_rfl) (by kernel_rfl) (fun _ _ _ h => h) (Or.inl ⟨by rfl, ?hy95⟩) (by assumption) ?_
              case hy95 => (intro w hSw; (try dsimp only at hSw); go_simp; all_goals with_reducible rfl)
              try simp only [Act.put, List.setIfInBounds_toArray, List.set_cons_zero, List.set_cons_succ]
              refine wpAnyH_take (i := 5) (oi := { dst := some 106, op := Op.move (Operand.tmp 3), type := 4, pos := "outright.go:105", after := #[], guard := none }) (v := ?vv96) rfl (by kernel_rfl) (by kernel_rfl) (by kernel_rfl) (fun _ _ _ h => h) (Or.inl ⟨by rfl, ?hy96⟩) (by assumption) ?_
              case hy96 => (intro w hSw; (try dsimp only at hSw); go_simp; all_goals with_reducible rfl)
              try simp only [Act.put, List.setIfInBounds_toArray, List.set_cons_zero, List.set_cons_succ]
              refine wpAnyH_ready (rs := [6]) (by kernel_rfl) (by simp) ?_
              refine AllReadyH.cons (o := { dst := some 107, op := Op.call { callee := Callee.value (Operand.func 13), args := #[Operand.tmp 104, Operand.tmp 105, Operand.tmp 106], argTypes := #[23, 24, 4] }, type := 9, pos := "outright.go:105", after := #[{ on := 3, ground := Ground.data }, { on := 4, ground := Ground.data }, { on := 5, ground := Ground.data }], guard := none }) rfl (fun K hK => ?_) AllReadyH.nil
              go_simp
              refine (HSpP.out _).mono ?_
              rintro e' Wx ⟨rfl, bX⟩
              have hWx : Below Y.heap.size Y Wx := hIW.trans (bX.mono hIW.size)
              clear bX
              go_wp2_with fail
              refine hK.out _ _ (hS25.out _ hWx) (fun hHeld => ?_)
              clear hK K
              try simp only [Act.put, List.setIfInBounds_toArray, List.set_cons_zero, List.set_cons_succ]
              refine wpAnyH_ready (rs := [7]) (by kernel_rfl) (by simp) ?_
              refine AllReadyH.cons (o := { dst := some 108, op := Op.call { callee := Callee.value (Operand.func 15), args := #[Operand.tmp 101, Operand.tmp 103, Operand.tmp 107], argTypes := #[36, 9, 9] }, type := 4, pos := "outright.go:105", after := #[{ on := 0, ground := Ground.data }, { on := 2, ground := Ground.data }, { on := 6, ground := Ground.data }, { on := 6, ground := Ground.chain }], guard := none }) rfl (fun K hK => ?_) AllReadyH.nil
              go_simp
              refine (HH1.out _ hWx).mono ?_
              rintro e' Wxx ⟨rfl, bX⟩
              have hWxx : Below Y.heap.size Y Wxx := hWx.trans (bX.mono hWx.size)
              clear bX
              go_wp2_with fail
              refine hK.out _ _ (hS25.out _ hWxx) (fun hHeld => ?_)
              clear hK K
              try simp only [Act.put, List.setIfInBounds_toArray, List.set_cons_zero, List.set_cons_succ]
              refine wpAnyH_take (i := 8) (oi := { dst := some 109, op := Op.unOp UnOp.not 4 (Operand.tmp 108), type := 4, pos := "outright.go:105", after := #[{ on := 7, ground := Ground.data }], guard := none }) (v := ?vv97) rfl (by kernel_rfl) (by kernel_rfl) (by kernel_rfl) (fun _ _ _ h => h) (Or.inl ⟨by rfl, ?hy97⟩) (by assumption) ?_
              case hy97 => (intro w hSw; (try dsimp only at hSw); go_simp; all_goals with_reducible rfl)
              try simp only [Act.put, List.setIfInBounds_toArray, List.set_cons_zero, List.set_cons_succ]
              refine wpAnyH_take (i := 9) (oi := { dst := some 110, op := Op.move (Operand.tmp 109), type := 4, pos := "outright.go:105", after := #[{ on := 8, ground := Ground.data }, { on := 7, ground := Ground.chain }], guard := none }) (v := ?vv98) rfl (by kernel_rfl) (by kernel_rfl) (by kernel_rfl) (fun _ _ _ h => h) (Or.inl ⟨by rfl, ?hy98⟩) (by assumption) ?_
              case hy98 => (intro w hSw; (try dsimp only at hSw); go_simp; all_goals with_reducible rfl)
              try simp only [Act.put, List.setIfInBounds_toArray, List.set_cons_zero, List.set_cons_succ]
              refine wpAnyH_take (i := 10) (oi := { dst := some 111, op := Op.move (Operand.tmp 16), type := 36, pos := "outright.go:105", after := #[{ on := 9, ground := Ground.guard }], guard := some (9, false) }) (v := ?vv99) rfl (by kernel_rfl) (by kernel_rfl) (by kernel_rfl) (fun _ _ _ h => h) (Or.inl ⟨by rfl, ?hy99⟩) (by assumption) ?_
              case hy99 => (intro w hSw; (try dsimp only at hSw); go_simp; all_goals with_reducible rfl)
              try simp only [Act.put, List.setIfInBounds_toArray, List.set_cons_zero, List.set_cons_succ]
              refine wpAnyH_take (i := 11) (oi := { dst := some 112, op := Op.fieldAddr 23 (Operand.tmp 19) 0, type := 0, pos := "outright.go:105", after := #[{ on := 9, ground := Ground.guard }], guard := some (9, false) }) (v := ?vv100) rfl (by kernel_rfl) (by kernel_rfl) (by kernel_rfl) (fun _ _ _ h => h) (Or.inl ⟨by rfl, ?hy100⟩) (by assumption) ?_
              case hy100 => (intro w hSw; (try dsimp only at hSw); go_simp; all_goals with_reducible rfl)
              try simp only [Act.put, List.setIfInBounds_toArray, List.set_cons_zero, List.set_cons_succ]
              refine wpAnyH_take (i := 12) (oi := { dst := some 113, op := Op.load 9 (Operand.tmp 112), type := 9, pos := "outright.go:105", after := #[{ on := 11, ground := Ground.data }, { on := 9, ground := Ground.guard }], guard := some (9, false) }) (v := ?vv101) rfl (by kernel_rfl) (by kernel_rfl) (by kernel_rfl) (fun _ _ _ h => h) (Or.inl ⟨by rfl, ?hy101⟩) (by assumption) ?_
              case hy101 => (intro w hSw; (try dsimp only at hSw); go_simp; all_goals with_reducible rfl)
              try simp only [Act.put, List.setIfInBounds_toArray, List.set_cons_zero, List.set_cons_succ]
              refine wpAnyH_take (i := 13) (oi := { dst := some 114, op := Op.fieldAddr 23 (Operand.tmp 19) 1, type := 0, pos := "outright.go:105", after := #[{ on := 9, ground := Ground.guard }], guard := some (9, false) }) (v := ?vv102) rfl (by kernel_rfl) (by kernel_rfl) (by kernel_rfl) (fun _ _ _ h => h) (Or.inl ⟨by rfl, ?hy102⟩) (by assumption) ?_
              case hy102 => (intro w hSw; (try dsimp only at hSw); go_simp; all_goals with_reducible rfl)
              try simp only [Act.put, List.setIfInBounds_toArray, List.set_cons_zero, List.set_cons_succ]
              refine wpAnyH_take (i := 14) (oi := { dst := some 115, op := Op.load 9 (Operand.tmp 114), type := 9, pos := "outright.go:105", after := #[{ on := 13, ground := Ground.data }, { on := 9, ground := Ground.guard }], guard := some (9, false) }) (v := ?vv103) rfl (by kernel_rfl) (by kernel_rfl) (by kernel_rfl) (fun _ _ _ h => h) (Or.inl ⟨by rfl, ?hy103⟩) (by assumption) ?_
              case hy103 => (intro w hSw; (try dsimp only at hSw); go_simp; all_goals with_reducible rfl)
              try simp only [Act.put, List.setIfInBounds_toArray, List.set_cons_zero, List.set_cons_succ]
              refine wpAnyH_take (i := 15) (oi := { dst := some 116, op := Op.binOp BinOp.add 9 (Operand.const (Value.string { data := #[117, 64] })) (Operand.tmp 115) 9, type := 9, pos := "outright.go:105", after := #[{ on := 14, ground := Ground.data }, { on := 9, ground := Ground.guard }], guard := some (9, false) }) (v := ?vv104) rfl (by kernel_rfl) (by kernel_rfl) (by kernel_rfl) (fun _ _ _ h => h) (Or.inl ⟨by rfl, ?hy104⟩) (by assumption) ?_
              case hy104 => (intro w hSw; (try dsimp only at hSw); go_simp; all_goals with_reducible rfl)
              try simp only [Act.put, List.setIfInBounds_toArray, List.set_cons_zero, List.set_cons_succ]
              refine wpAnyH_ready (rs := [16]) (by kernel_rfl) (by simp) ?_
              refine AllReadyH.cons (o := { dst := some 117, op := Op.call { callee := Callee.value (Operand.func 15), args := #[Operand.tmp 111, Operand.tmp 113, Operand.tmp 116], argTypes := #[36, 9, 9] }, type := 4, pos := "outright.go:105", after := #[{ on := 10, ground := Ground.data }, { on := 12, ground := Ground.data }, { on := 15, ground := Ground.data }, { on := 9, ground := Ground.chain }, { on := 9, ground := Ground.guard }], guard := some (9, false) }) rfl (fun K hK => ?_) AllReadyH.nil
              go_simp
              refine (HH2.out _ hWxx).mono ?_
              rintro e' Wxxx ⟨rfl, bX⟩
              have hWxxx : Below Y.heap.size Y Wxxx := hWxx.trans (bX.mono hWxx.size)
              clear bX
              go_wp2_with fail
              refine hK.out _ _ (hS25.out _ hWxxx) (fun hHeld => ?_)
              clear hK K
              try simp only [Act.put, List.setIfInBounds_toArray, List.set_cons_zero, List.set_cons_succ]
              refine wpAnyH_take (i := 17) (oi := { dst := some 118, op := Op.pick (Operand.tmp 110) (Operand.const (Value.bool true)) (Operand.tmp 117), type := 4, pos := "outright.go:105", after := #[{ on := 9, ground := Ground.data }, { on := 16, ground := Ground.data }], guard := none }) (v := ?vv105) rfl (by kernel_rfl) (by kernel_rfl) (by kernel_rfl) (fun _ _ _ h => h) (Or.inl ⟨by rfl, ?hy105⟩) (by assumption) ?_
              case hy105 => (intro w hSw; (try dsimp only at hSw); go_simp; all_goals with_reducible rfl)
              try simp only [Act.put, List.setIfInBounds_toArray, List.set_cons_zero, List.set_cons_succ]
              refine wpAnyH_take (i := 18) (oi := { dst := some 119, op := Op.move (Operand.tmp 118), type := 4, pos := "outright.go:105", after := #[{ on := 17, ground := Ground.data }, { on := 16, ground := Ground.chain }], guard := none }) (v := ?vv106) rfl (by kernel_rfl) (by kernel_rfl) (by kernel_rfl) (fun _ _ _ h => h) (Or.inl ⟨by rfl, ?hy106⟩) (by assumption) ?_
              case hy106 => (intro w hSw; (try dsimp only at hSw); go_simp; all_goals with_reducible rfl)
              try simp only [Act.put, List.setIfInBounds_toArray, List.set_cons_zero, List.set_cons_succ]
              refine wpAnyH_take (i := 19) (oi := { dst := some 120, op := Op.move (Operand.tmp 16), type := 36, pos := "outright.go:105", after := #[{ on := 18, ground := Ground.guard }], guard := some (18, false) }) (v := ?vv107) rfl (by kernel_rfl) (by kernel_rfl) (by kernel_rfl) (fun _ _ _ h => h) (Or.inl ⟨by rfl, ?hy107⟩) (by assumption) ?_
              case hy107 => (intro w hSw; (try dsimp only at hSw); go_simp; all_goals with_reducible rfl)
              try simp only [Act.put, List.setIfInBounds_toArray, List.set_cons_zero, List.set_cons_succ]
              refine wpAnyH_take (i := 20) (oi := { dst := some 121, op := Op.fieldAddr 23 (Operand.tmp 19) 0, type := 0, pos := "outright.go:105", after := #[{ on := 18, ground := Ground.guard }], guard := some (18, false) }) (v := ?vv108) rfl (by kernel_rfl) (by kernel_rfl) (by kernel_rfl) (fun _ _ _ h => h) (Or.inl ⟨by rfl, ?hy108⟩) (by assumption) ?_
              case hy108 => (intro w hSw; (try dsimp only at hSw); go_simp; all_goals with_reducible rfl)
              try simp only [Act.put, List.setIfInBounds_toArray, List.set_cons_zero, List.set_cons_succ]
              refine wpAnyH_take (i := 21) (oi := { dst := some 122, op := Op.load 9 (Operand.tmp 121), type := 9, pos := "outright.go:105", after := #[{ on := 20, ground := Ground.data }, { on := 18, ground := Ground.guard }], guard := some (18, false) }) (v := ?vv109) rfl (by kernel_rfl) (by kernel_rfl) (by kernel_rfl) (fun _ _ _ h => h) (Or.inl ⟨by rfl, ?hy109⟩) (by assumption) ?_
              case hy109 => (intro w hSw; (try dsimp only at hSw); go_simp; all_goals with_reducible rfl)
              try simp only [Act.put, List.setIfInBounds_toArray, List.set_cons_zero, List.set_cons_succ]
              refine wpAnyH_take (i := 22) (oi := { dst := some 123, op := Op.binOp BinOp.add 9 (Operand.const (Value.string { data := #[120] })) (Operand.tmp 122) 9, type := 9, pos := "outright.go:105", after := #[{ on := 21, ground := Ground.data }, { on := 18, ground := Ground.guard }], guard := some (18, false) }) (v := ?vv110) rfl (by kernel_rfl) (by kernel_rfl) (by kernel_rfl) (fun _ _ _ h => h) (Or.inl ⟨by rfl, ?hy110⟩) (by assumption) ?_
              case hy110 => (intro w hSw; (try dsimp only at hSw); go_simp; all_goals with_reducible rfl)
              try simp only [Act.put, List.setIfInBounds_toArray, List.set_cons_zero, List.set_cons_succ]
              refine wpAnyH_take (i := 23) (oi := { dst := some 124, op := Op.load 23 (Operand.tmp 19), type := 23, pos := "outright.go:105", after := #[{ on := 18, ground := Ground.guard }], guard := some (18, false) }) (v := ?vv111) rfl (by kernel_rfl) (by kernel_rfl) (by kernel_rfl) (fun _ _ _ h => h) (Or.inl ⟨by rfl, ?hy111⟩) (by assumption) ?_
              case hy111 => (intro w hSw; (try dsimp only at hSw); go_simp; all_goals with_reducible rfl)
              try simp only [Act.put, List.setIfInBounds_toArray, List.set_cons_zero, List.set_cons_succ]
              refine wpAnyH_ready (rs := [24]) (by kernel_rfl) (by simp) ?_
              refine AllReadyH.cons (o := { dst := some 125, op := Op.call { callee := Callee.value (Operand.func 13), args := #[Operand.tmp 124, Operand.const (Value.int IntKind.u64 0), Operand.const (Value.bool true)], argTypes := #[23, 24, 4] }, type := 9, pos := "outright.go:105", after := #[{ on := 23, ground := Ground.data }, { on := 18, ground := Ground.chain }, { on := 18, ground := Ground.guard }], guard := some (18, false) }) rfl (fun K hK => ?_) AllReadyH.nil
              go_simp
              refine (HSpQ.out _).mono ?_
              rintro e' Wxxxx ⟨rfl, bX⟩
              have hWxxxx : Below Y.heap.size Y Wxxxx := hWxxx.trans (bX.mono hWxxx.size)
              clear bX
              go_wp2_with fail
              refine hK.out _ _ (hS25.out _ hWxxxx) (fun hHeld => ?_)
              clear hK K
              try simp only [Act.put, List.setIfInBounds_toArray, List.set_cons_zero, List.set_cons_succ]
              refine wpAnyH_ready (rs := [25]) (by kernel_rfl) (by simp) ?_
              refine AllReadyH.cons (o := { dst := some 126, op := Op.call { callee := Callee.value (Operand.func 15), args := #[Operand.tmp 120, Operand.tmp 123, Operand.tmp 125], argTypes := #[36, 9, 9] }, type := 4, pos := "outright.go:105", after := #[{ on := 19, ground := Ground.data }, { on := 22, ground := Ground.data }, { on := 24, ground := Ground.data }, { on := 24, ground := Ground.chain }, { on := 18, ground := Ground.guard }], guard := some (18, false) }) rfl (fun K hK => ?_) AllReadyH.nil
              go_simp
              refine (HH3.out _ hWxxxx).mono ?_
              rintro e' Wxxxxx ⟨rfl, bX⟩
              have hWxxxxx : Below Y.heap.size Y Wxxxxx := hWxxxx.trans (bX.mono hWxxxx.size)
              clear bX
              go_wp2_with fail
              refine hK.out _ _ (hS25.out _ hWxxxxx) (fun hHeld => ?_)
              clear hK K
              try simp only [Act.put, List.setIfInBounds_toArray, List.set_cons_zero, List.set_cons_succ]
              refine wpAnyH_take (i := 26) (oi := { dst := some 127, op := Op.pick (Operand.tmp 119) (Operand.const (Value.bool true)) (Operand.tmp 126), type := 4, pos := "outright.go:105", after := #[{ on := 18, ground := Ground.data }, { on := 25, ground := Ground.data }], guard := none }) (v := ?vv112) rfl (by kernel_rfl) (by kernel_rfl) (by kernel_rfl) (fun _ _ _ h => h) (Or.inl ⟨by rfl, ?hy112⟩) (by assumption) ?_
              case hy112 => (intro w hSw; (try dsimp only at hSw); go_simp; all_goals with_reducible rfl)
              try simp only [Act.put, List.setIfInBounds_toArray, List.set_cons_zero, List.set_cons_succ]
              refine wpAnyH_take (i := 27) (oi := { dst := some 128, op := Op.move (Operand.tmp 127), type := 4, pos := "outright.go:105", after := #[{ on := 26, ground := Ground.data }, { on := 25, ground := Ground.chain }], guard := none }) (v := ?vv113) rfl (by kernel_rfl) (by kernel_rfl) (by kernel_rfl) (fun _ _ _ h => h) (Or.inl ⟨by rfl, ?hy113⟩) (by assumption) ?_
              case hy113 => (intro w hSw; (try dsimp only at hSw); go_simp; all_goals with_reducible rfl)
              try simp only [Act.put, List.setIfInBounds_toArray, List.set_cons_zero, List.set_cons_succ]
              refine wpAnyH_take (i := 28) (oi := { dst := some 129, op := Op.move (Operand.tmp 16), type := 36, pos := "outright.go:105", after := #[{ on := 27, ground := Ground.guard }], guard := some (27, false) }) (v := ?vv114) rfl (by kernel_rfl) (by kernel_rfl) (by kernel_rfl) (fun _ _ _ h => h) (Or.inl ⟨by rfl, ?hy114⟩) (by assumption) ?_
              case hy114 => (intro w hSw; (try dsimp only at hSw); go_simp; all_goals with_reducible rfl)
              try simp only [Act.put, List.setIfInBounds_toArray, List.set_cons_zero, List.set_cons_succ]
              refine wpAnyH_take (i := 29) (oi := { dst := some 130, op := Op.fieldAddr 23 (Operand.tmp 19) 0, type := 0, pos := "outright.go:105", after := #[{ on := 27, ground := Ground.guard }], guard := some (27, false) }) (v := ?vv115) rfl (by kernel_rfl) (by kernel_rfl) (by kernel_rfl) (fun _ _ _ h => h) (Or.inl ⟨by rfl, ?hy115⟩) (by assumption) ?_
              case hy115 => (intro w hSw; (try dsimp only at hSw); go_simp; all_goals with_reducible rfl)
              try simp only [Act.put, List.setIfInBounds_toArray, List.set_cons_zero, List.set_cons_succ]
              refine wpAnyH_take (i := 30) (oi := { dst := some 131, op := Op.load 9 (Operand.tmp 130), type := 9, pos := "outright.go:105", after := #[{ on := 29, ground := Ground.data }, { on := 27, ground := Ground.guard }], guard := some (27, false) }) (v := ?vv116) rfl (by kernel_rfl) (by kernel_rfl) (by kernel_rfl) (fun _ _ _ h => h) (Or.inl ⟨by rfl, ?hy116⟩) (by assumption) ?_
              case hy116 => (intro w hSw; (try dsimp only at hSw); go_simp; all_goals with_reducible rfl)
              try simp only [Act.put, List.setIfInBounds_toArray, List.set_cons_zero, List.set_cons_succ]
              refine wpAnyH_take (i := 31) (oi := { dst := some 132, op := Op.fieldAddr 23 (Operand.tmp 19) 1, type := 0, pos := "outright.go:105", after := #[{ on := 27, ground := Ground.guard }], guard := some (27, false) }) (v := ?vv117) rfl (by kernel_rfl) (by kernel_rfl) (by kernel_rfl) (fun _ _ _ h => h) (Or.inl ⟨by rfl, ?hy117⟩) (by assumption) ?_
              case hy117 => (intro w hSw; (try dsimp only at hSw); go_simp; all_goals with_reducible rfl)
              try simp only [Act.put, List.setIfInBounds_toArray, List.set_cons_zero, List.set_cons_succ]
              refine wpAnyH_take (i := 32) (oi := { dst := some 133, op := Op.load 9 (Operand.tmp 132), type := 9, pos := "outright.go:105", after := #[{ on := 31, ground := Ground.data }, { on := 27, ground := Ground.guard }], guard := some (27, false) }) (v := ?vv118) rfl (by kernel_rfl) (by kernel_rfl) (by kernel_rfl) (fun _ _ _ h => h) (Or.inl ⟨by rfl, ?hy118⟩) (by assumption) ?_
              case hy118 => (intro w hSw; (try dsimp only at hSw); go_simp; all_goals with_reducible rfl)
              try simp only [Act.put, List.setIfInBounds_toArray, List.set_cons_zero, List.set_cons_succ]
              refine wpAnyH_take (i := 33) (oi := { dst := some 134, op := Op.binOp BinOp.add 9 (Operand.tmp 133) (Operand.const (Value.string { data := #[58, 48] })) 9, type := 9, pos := "outright.go:105", after := #[{ on := 32, ground := Ground.data }, { on := 27, ground := Ground.guard }], guard := some (27, false) }) (v := ?vv119) rfl (by kernel_rfl) (by kernel_rfl) (by kernel_rfl) (fun _ _ _ h => h) (Or.inl ⟨by rfl, ?hy119⟩) (by assumption) ?_
              case hy119 => (intro w hSw; (try dsimp only at hSw); go_simp; all_goals with_reducible rfl)
              try simp only [Act.put, List.setIfInBounds_toArray, List.set_cons_zero, List.set_cons_succ]
              refine wpAnyH_ready (rs := [34]) (by kernel_rfl) (by simp) ?_
              refine AllReadyH.cons (o := { dst := some 135, op := Op.call { callee := Callee.value (Operand.func 15), args := #[Operand.tmp 129, Operand.tmp 131, Operand.tmp 134], argTypes := #[36, 9, 9] }, type := 4, pos := "outright.go:105", after := #[{ on := 28, ground := Ground.data }, { on := 30, ground := Ground.data }, { on := 33, ground := Ground.data }, { on := 27, ground := Ground.chain }, { on := 27, ground := Ground.guard }], guard := some (27, false) }) rfl (fun K hK => ?_) AllReadyH.nil
              go_simp
              refine (HH4.out _ hWxxxxx).mono ?_
              rintro e' Wxxxxxx ⟨rfl, bX⟩
              have hWxxxxxx : Below Y.heap.size Y Wxxxxxx := hWxxxxx.trans (bX.mono hWxxxxx.size)
              clear bX
              go_wp2_with fail
              refine hK.out _ _ (hS25.out _ hWxxxxxx) (fun hHeld => ?_)
              clear hK K
              try simp only [Act.put, List.setIfInBounds_toArray, List.set_cons_zero, List.set_cons_succ]
              refine wpAnyH_take (i := 35) (oi := { dst := some 136, op := Op.pick (Operand.tmp 128) (Operand.const (Value.bool true)) (Operand.tmp 135), type := 4, pos := "outright.go:105", after := #[{ on := 27, ground := Ground.data }, { on := 34, ground := Ground.data }], guard := none }) (v := ?vv120) rfl (by kernel_rfl) (by kernel_rfl) (by kernel_rfl) (fun _ _ _ h => h) (Or.inl ⟨by rfl, ?hy120⟩) (by assumption) ?_
              case hy120 => (intro w hSw; (try dsimp only at hSw); go_simp; all_goals with_reducible rfl)
              try simp only [Act.put, List.setIfInBounds_toArray, List.set_cons_zero, List.set_cons_succ]
              refine wpAnyH_done (by kernel_rfl) ?_ _
              have HBz : Hid (Below X1.heap.size X1 Wxxxxxx) := HBY.out.trans (hWxxxxxx.mono HBY.out.size)
              clear hHeld
              go_wp2_with fail
              go_roundw
              case rel => exact ⟨q + 1, by simp, by omega, HBz.out⟩
              case measure => first | (simp [intOf]; done) | (simp [intOf]; omega)
            · obtain rfl : q = k := by omega
              have a3 : ¬ (q : Int) < (q : Int) := by omega
              cases β
              · obtain ⟨b3, c3, w3, e3, e4, e5, e6⟩ := (HRo1.out.below hbq.out).app HD.out.1 (by have := HD.out.1; omega) o
                have HNIn : Hid (∀ z ∈ L ++ [o], rtB z = true) := fun z hz => by
                  rcases List.mem_append.1 hz with hz | hz
                  · exact HD.out.2.1 z hz
                  · rw [List.mem_singleton.1 hz]
                    exact HRT.out
                have HND : Hid ((L ++ [o]).Nodup) := nd_snoc HD.out.2.2.1 HD.out.2.2.2
                have HLn : Hid (q + 1 = (L ++ [o]).length) := by show _ = _; rw [List.length_append, HD.out.1]; rfl
                have HOE : Hid (ofE (L ++ [o]) = 0) := ofE_ok ⟨HNIn.out, HND.out, by rw [← HLn.out]; omega⟩
                have HOf : Hid (Calls Tryd.prog 14 #[.slice b3 (q + 1) c3] w3 (OfPost (L ++ [o]) w3)) := of_any (b3, q + 1, c3) (L ++ [o]) w3 e4.1.isIn (fun z hz => rt_ow (HNIn.out z hz)) (by rw [← HLn.out]; omega)
                have HS3 : Hid (Se w3 lo P B L) := (HS1.out.below hbq.out).keep fun kk h1 h2 => e6 kk h2 (fun e => by have := Hown.out kk e; omega)
                have HA3 : Hid (OB w3 a o) := HA0.out.below e4.2.1
                have HB3 : Hid (Below w.heap.size w w3) := HBX.out.trans (e4.2.1.mono HBX.out.size)
                have HAq : Hid (OB wr a o) := HA1.out.below hbq.out
                obtain ⟨d0, d1, d2, _, _, _⟩ := HAq.out.cells
                replace e3 : Hid _ := e3
                clear e4 e5 e6
                go_wp2_with (at_builtin; refine Lib.wpList_append_run _ rfl _ _ _ _ rfl _ _ rfl rfl _ _ e3.out ?_)
                go_at_call 14
                refine HOf.out.mono ?_
                rintro e X4 ⟨bx, h5⟩
                rcases h5 with ⟨_, P2, B2, rfl, hS⟩ | ⟨h5, _⟩
                · have HS4 : Hid (Se X4 w3.heap.size P2 B2 (L ++ [o])) := hS
                  have HS5 : Hid (Se X4 lo P B L) := HS3.out.below bx
                  have HA4 : Hid (OB X4 a o) := HA3.out.below bx
                  have HB4 : Hid (Below w.heap.size w X4) := HB3.out.trans (bx.mono HB3.out.size)
                  generalize w3.heap.size = lo2 at HS4
                  obtain ⟨SQ, hSQ⟩ : ∃ SP, spS o 0 true = SP := ⟨_, rfl⟩
                  have HSQ : Hid (spS o 0 true = SQ ∧ SQ.size ≤ 300) := ⟨hSQ, by rw [← hSQ]; unfold spS; rw [bt_size]; exact spL_len HRT.out 0 true⟩
                  have HSpQ : Hid (∀ W, Calls Tryd.prog 13 #[.agg #[.string o.s, .string o.h, .int .i64 o.p], .int .u64 0, .bool true] W fun e w' => e = .returned (.string SQ) ∧ Below W.heap.size W w') := fun W => by rw [← hSQ]; exact sp_any o 0 true W (by omega) (by omega) HRT.out
                  have HH1 : Hid (∀ W, Below X4.heap.size X4 W → Calls Tryd.prog 15 #[.pointer (some ⟨P2, 0, none⟩), .string o.s, .string SO] W fun e w' => e = .returned (.bool true) ∧ Below W.heap.size W w') := fun W hW => by
                    have h1 := has_any lo2 P2 B2 (L ++ [o]) o.s SO W ((HE.out.below HB4.out).below hW) (HS4.out.below hW) (by have := HSO.out.2; omega)
                    rw [← HSO.out.1, hs_spelt HRT.out, any_iff.2 (by simp), HSO.out.1] at h1
                    exact h1
                  have HH2 : Hid (∀ W, Below X4.heap.size X4 W → Calls Tryd.prog 15 #[.pointer (some ⟨P, 0, none⟩), .string o.s, .string SQ] W fun e w' => e = .returned (.bool false) ∧ Below W.heap.size W w') := fun W hW => by
                    have h1 := has_any lo P B L o.s SQ W ((HE.out.below HB4.out).below hW) (HS5.out.below hW) (by have := HSQ.out.2; omega)
                    rw [← HSQ.out.1, hs_spelt HRT.out, HD.out.2.2.2, HSQ.out.1] at h1
                    exact h1
                  clear hS bx hSQ d0 d1 d2
                  go_wp2_with fail
                  have hS30 : Hid (∀ V, Below X4.heap.size X4 V → V.cell? ⟨a, 0, none⟩ = some (.string o.s) ∧ V.cell? ⟨a, 1, none⟩ = some (.string o.h) ∧ V.cell? ⟨a, 2, none⟩ = some (.int .i64 o.p)) := fun V hV => ⟨(HA4.out.below hV).cells.c0, (HA4.out.below hV).cells.c1, (HA4.out.below hV).cells.c2⟩
                  have hIW : Below X4.heap.size X4 X4.drew := (Below.refl _ _).drew
                  refine wp_region_held_drew (S := (fun V => V.cell? ⟨a, 0, none⟩ = some (.string o.s) ∧ V.cell? ⟨a, 1, none⟩ = some (.string o.h) ∧ V.cell? ⟨a, 2, none⟩ = some (.int .i64 o.p))) (by kernel_rfl) (hS30.out _ hIW) (fun hHeld => ?_)
                  generalize hWg : World.drew _ = W at hIW hHeld ⊢
                  clear hWg
                  refine wpAnyH_take (i := 0) (oi := { dst := some 146, op := Op.move (Operand.tmp 20), type := 36, pos := "outright.go:113", after := #[], guard := none }) (v := ?vv69) rfl (by kernel_rfl) (by kernel_rfl) (by kernel_rfl) (fun _ _ _ h => h) (Or.inl ⟨by rfl, ?hy69⟩) (by assumption) ?_
                  case hy69 => (intro w hSw; (try dsimp only at hSw); go_simp; all_goals with_reducible rfl)
                  try simp only [Act.put, List.setIfInBounds_toArray, List.set_cons_zero, List.set_cons_succ]
                  refine wpAnyH_take (i := 1) (oi := { dst := some 147, op := Op.binOp BinOp.neq 36 (Operand.tmp 146) (Operand.const (Value.pointer none)) 36, type := 4, pos := "outright.go:113", after := #[{ on := 0, ground := Ground.data }], guard := none }) (v := ?vv70) rfl (by kernel_rfl) (by kernel_rfl) (by kernel_rfl) (fun _ _ _ h => h) (Or.inl ⟨by rfl, ?hy70⟩) (by assumption) ?_
                  case hy70 => (intro w hSw; (try dsimp only at hSw); go_simp; all_goals with_reducible rfl)
                  try simp only [Act.put, List.setIfInBounds_toArray, List.set_cons_zero, List.set_cons_succ]
                  refine wpAnyH_take (i := 2) (oi := { dst := some 148, op := Op.move (Operand.tmp 147), type := 4, pos := "outright.go:113", after := #[{ on := 1, ground := Ground.data }], guard := none }) (v := ?vv71) rfl (by kernel_rfl) (by kernel_rfl) (by kernel_rfl) (fun _ _ _ h => h) (Or.inl ⟨by rfl, ?hy71⟩) (by assumption) ?_
                  case hy71 => (intro w hSw; (try dsimp only at hSw); go_simp; all_goals with_reducible rfl)
                  try simp only [Act.put, List.setIfInBounds_toArray, List.set_cons_zero, List.set_cons_succ]
                  refine wpAnyH_take (i := 3) (oi := { dst := some 149, op := Op.move (Operand.tmp 21), type := 27, pos := "outright.go:113", after := #[{ on := 2, ground := Ground.guard }], guard := some (2, true) }) (v := ?vv72) rfl (by kernel_rfl) (by kernel_rfl) (by kernel_rfl) (fun _ _ _ h => h) (Or.inl ⟨by rfl, ?hy72⟩) (by assumption) ?_
                  case hy72 => (intro w hSw; (try dsimp only at hSw); go_simp; all_goals with_reducible rfl)
                  try simp only [Act.put, List.setIfInBounds_toArray, List.set_cons_zero, List.set_cons_succ]
                  refine wpAnyH_take (i := 4) (oi := { dst := some 150, op := Op.binOp BinOp.eql 27 (Operand.tmp 149) (Operand.const (Value.int IntKind.i64 0)) 27, type := 4, pos := "outright.go:113", after := #[{ on := 3, ground := Ground.data }, { on := 2, ground := Ground.guard }], guard := some (2, true) }) (v := ?vv73) rfl (by kernel_rfl) (by kernel_rfl) (by kernel_rfl) (fun _ _ _ h => h) (Or.inl ⟨by rfl, ?hy73⟩) (by assumption) ?_
                  case hy73 => (intro w hSw; (try dsimp only at hSw); go_simp; all_goals with_reducible rfl)
                  try simp only [Act.put, List.setIfInBounds_toArray, List.set_cons_zero, List.set_cons_succ]
                  refine wpAnyH_take (i := 5) (oi := { dst := some 151, op := Op.pick (Operand.tmp 148) (Operand.tmp 150) (Operand.const (Value.bool false)), type := 4, pos := "outright.go:113", after := #[{ on := 2, ground := Ground.data }, { on := 4, ground := Ground.data }], guard := none }) (v := ?vv74) rfl (by kernel_rfl) (by kernel_rfl) (by kernel_rfl) (fun _ _ _ h => h) (Or.inl ⟨by rfl, ?hy74⟩) (by assumption) ?_
                  case hy74 => (intro w hSw; (try dsimp only at hSw); go_simp; all_goals with_reducible rfl)
                  try simp only [Act.put, List.setIfInBounds_toArray, List.set_cons_zero, List.set_cons_succ]
                  refine wpAnyH_take (i := 6) (oi := { dst := some 152, op := Op.move (Operand.tmp 151), type := 4, pos := "outright.go:113", after := #[{ on := 5, ground := Ground.data }, { on := 2, ground := Ground.chain }], guard := none }) (v := ?vv75) rfl (by kernel_rfl) (by kernel_rfl) (by kernel_rfl) (fun _ _ _ h => h) (Or.inl ⟨by rfl, ?hy75⟩) (by assumption) ?_
                  case hy75 => (intro w hSw; (try dsimp only at hSw); go_simp; all_goals with_reducible rfl)
                  try simp only [Act.put, List.setIfInBounds_toArray, List.set_cons_zero, List.set_cons_succ]
                  refine wpAnyH_take (i := 7) (oi := { dst := some 153, op := Op.move (Operand.tmp 20), type := 36, pos := "outright.go:113", after := #[{ on := 6, ground := Ground.guard }], guard := some (6, true) }) (v := ?vv76) rfl (by kernel_rfl) (by kernel_rfl) (by kernel_rfl) (fun _ _ _ h => h) (Or.inl ⟨by rfl, ?hy76⟩) (by assumption) ?_
                  case hy76 => (intro w hSw; (try dsimp only at hSw); go_simp; all_goals with_reducible rfl)
                  try simp only [Act.put, List.setIfInBounds_toArray, List.set_cons_zero, List.set_cons_succ]
                  refine wpAnyH_take (i := 8) (oi := { dst := some 154, op := Op.fieldAddr 23 (Operand.tmp 9) 0, type := 0, pos := "outright.go:113", after := #[{ on := 6, ground := Ground.guard }], guard := some (6, true) }) (v := ?vv77) rfl (by kernel_rfl) (by kernel_rfl) (by kernel_rfl) (fun _ _ _ h => h) (Or.inl ⟨by rfl, ?hy77⟩) (by assumption) ?_
                  case hy77 => (intro w hSw; (try dsimp only at hSw); go_simp; all_goals with_reducible rfl)
                  try simp only [Act.put, List.setIfInBounds_toArray, List.set_cons_zero, List.set_cons_succ]
                  refine wpAnyH_take (i := 9) (oi := { dst := some 155, op := Op.load 9 (Operand.tmp 154), type := 9, pos := "outright.go:113", after := #[{ on := 8, ground := Ground.data }, { on := 6, ground := Ground.guard }], guard := some (6, true) }) (v := ?vv78) rfl (by kernel_rfl) (by kernel_rfl) (by kernel_rfl) (fun _ _ _ h => h) (Or.inl ⟨by rfl, ?hy78⟩) (by assumption) ?_
                  case hy78 => (intro w hSw; (try dsimp only at hSw); go_simp; all_goals with_reducible rfl)
                  try simp only [Act.put, List.setIfInBounds_toArray, List.set_cons_zero, List.set_cons_succ]
                  refine wpAnyH_take (i := 10) (oi := { dst := some 156, op := Op.load 23 (Operand.tmp 9), type := 23, pos := "outright.go:113", after := #[{ on := 6, ground := Ground.guard }], guard := some (6, true) }) (v := ?vv79) rfl (by kernel_rfl) (by kernel_rfl) (by kernel_rfl) (fun _ _ _ h => h) (Or.inl ⟨by rfl, ?hy79⟩) (by assumption) ?_
                  case hy79 => (intro w hSw; (try dsimp only at hSw); go_simp; all_goals with_reducible rfl)
                  try simp only [Act.put, List.setIfInBounds_toArray, List.set_cons_zero, List.set_cons_succ]
                  refine wpAnyH_take (i := 11) (oi := { dst := some 157, op := Op.move (Operand.tmp 2), type := 24, pos := "outright.go:113", after := #[{ on := 6, ground := Ground.guard }], guard := some (6, true) }) (v := ?vv80) rfl (by kernel_rfl) (by kernel_rfl) (by kernel_rfl) (fun _ _ _ h => h) (Or.inl ⟨by rfl, ?hy80⟩) (by assumption) ?_
                  case hy80 => (intro w hSw; (try dsimp only at hSw); go_simp; all_goals with_reducible rfl)
                  try simp only [Act.put, List.setIfInBounds_toArray, List.set_cons_zero, List.set_cons_succ]
                  refine wpAnyH_take (i := 12) (oi := { dst := some 158, op := Op.move (Operand.tmp 3), type := 4, pos := "outright.go:113", after := #[{ on := 6, ground := Ground.guard }], guard := some (6, true) }) (v := ?vv81) rfl (by kernel_rfl) (by kernel_rfl) (by kernel_rfl) (fun _ _ _ h => h) (Or.inl ⟨by rfl, ?hy81⟩) (by assumption) ?_
                  case hy81 => (intro w hSw; (try dsimp only at hSw); go_simp; all_goals with_reducible rfl)
                  try simp only [Act.put, List.setIfInBounds_toArray, List.set_cons_zero, List.set_cons_succ]
                  refine wpAnyH_ready (rs := [13]) (by kernel_rfl) (by simp) ?_
                  refine AllReadyH.cons (o := { dst := some 159, op := Op.call { callee := Callee.value (Operand.func 13), args := #[Operand.tmp 156, Operand.tmp 157, Operand.tmp 158], argTypes := #[23, 24, 4] }, type := 9, pos := "outright.go:113", after := #[{ on := 10, ground := Ground.data }, { on := 11, ground := Ground.data }, { on := 12, ground := Ground.data }, { on := 6, ground := Ground.chain }, { on := 6, ground := Ground.guard }], guard := some (6, true) }) rfl (fun K hK => ?_) AllReadyH.nil
                  go_simp
                  refine (HSpO.out _).mono ?_
                  rintro e' Wx ⟨rfl, bX⟩
                  have hWx : Below X4.heap.size X4 Wx := hIW.trans (bX.mono hIW.size)
                  clear bX
                  go_wp2_with fail
                  refine hK.out _ _ (hS30.out _ hWx) (fun hHeld => ?_)
                  clear hK K
                  try simp only [Act.put, List.setIfInBounds_toArray, List.set_cons_zero, List.set_cons_succ]
                  refine wpAnyH_ready (rs := [14]) (by kernel_rfl) (by simp) ?_
                  refine AllReadyH.cons (o := { dst := some 160, op := Op.call { callee := Callee.value (Operand.func 15), args := #[Operand.tmp 153, Operand.tmp 155, Operand.tmp 159], argTypes := #[36, 9, 9] }, type := 4, pos := "outright.go:113", after := #[{ on := 7, ground := Ground.data }, { on := 9, ground := Ground.data }, { on := 13, ground := Ground.data }, { on := 13, ground := Ground.chain }, { on := 6, ground := Ground.guard }], guard := some (6, true) }) rfl (fun K hK => ?_) AllReadyH.nil
                  go_simp
                  refine (HH1.out _ hWx).mono ?_
                  rintro e' Wxx ⟨rfl, bX⟩
                  have hWxx : Below X4.heap.size X4 Wxx := hWx.trans (bX.mono hWx.size)
                  clear bX
                  go_wp2_with fail
                  refine hK.out _ _ (hS30.out _ hWxx) (fun hHeld => ?_)
                  clear hK K
                  try simp only [Act.put, List.setIfInBounds_toArray, List.set_cons_zero, List.set_cons_succ]
                  refine wpAnyH_take (i := 15) (oi := { dst := some 161, op := Op.pick (Operand.tmp 152) (Operand.tmp 160) (Operand.const (Value.bool false)), type := 4, pos := "outright.go:113", after := #[{ on := 6, ground := Ground.data }, { on := 14, ground := Ground.data }], guard := none }) (v := ?vv82) rfl (by kernel_rfl) (by kernel_rfl) (by kernel_rfl) (fun _ _ _ h => h) (Or.inl ⟨by rfl, ?hy82⟩) (by assumption) ?_
                  case hy82 => (intro w hSw; (try dsimp only at hSw); go_simp; all_goals with_reducible rfl)
                  try simp only [Act.put, List.setIfInBounds_toArray, List.set_cons_zero, List.set_cons_succ]
                  refine wpAnyH_take (i := 16) (oi := { dst := some 162, op := Op.move (Operand.tmp 161), type := 4, pos := "outright.go:113", after := #[{ on := 15, ground := Ground.data }, { on := 14, ground := Ground.chain }], guard := none }) (v := ?vv83) rfl (by kernel_rfl) (by kernel_rfl) (by kernel_rfl) (fun _ _ _ h => h) (Or.inl ⟨by rfl, ?hy83⟩) (by assumption) ?_
                  case hy83 => (intro w hSw; (try dsimp only at hSw); go_simp; all_goals with_reducible rfl)
                  try simp only [Act.put, List.setIfInBounds_toArray, List.set_cons_zero, List.set_cons_succ]
                  refine wpAnyH_take (i := 17) (oi := { dst := some 163, op := Op.move (Operand.tmp 16), type := 36, pos := "outright.go:113", after := #[{ on := 16, ground := Ground.guard }], guard := some (16, true) }) (v := ?vv84) rfl (by kernel_rfl) (by kernel_rfl) (by kernel_rfl) (fun _ _ _ h => h) (Or.inl ⟨by rfl, ?hy84⟩) (by assumption) ?_
                  case hy84 => (intro w hSw; (try dsimp only at hSw); go_simp; all_goals with_reducible rfl)
                  try simp only [Act.put, List.setIfInBounds_toArray, List.set_cons_zero, List.set_cons_succ]
                  refine wpAnyH_take (i := 18) (oi := { dst := some 164, op := Op.fieldAddr 23 (Operand.tmp 9) 0, type := 0, pos := "outright.go:113", after := #[{ on := 16, ground := Ground.guard }], guard := some (16, true) }) (v := ?vv85) rfl (by kernel_rfl) (by kernel_rfl) (by kernel_rfl) (fun _ _ _ h => h) (Or.inl ⟨by rfl, ?hy85⟩) (by assumption) ?_
                  case hy85 => (intro w hSw; (try dsimp only at hSw); go_simp; all_goals with_reducible rfl)
                  try simp only [Act.put, List.setIfInBounds_toArray, List.set_cons_zero, List.set_cons_succ]
                  refine wpAnyH_take (i := 19) (oi := { dst := some 165, op := Op.load 9 (Operand.tmp 164), type := 9, pos := "outright.go:113", after := #[{ on := 18, ground := Ground.data }, { on := 16, ground := Ground.guard }], guard := some (16, true) }) (v := ?vv86) rfl (by kernel_rfl) (by kernel_rfl) (by kernel_rfl) (fun _ _ _ h => h) (Or.inl ⟨by rfl, ?hy86⟩) (by assumption) ?_
                  case hy86 => (intro w hSw; (try dsimp only at hSw); go_simp; all_goals with_reducible rfl)
                  try simp only [Act.put, List.setIfInBounds_toArray, List.set_cons_zero, List.set_cons_succ]
                  refine wpAnyH_take (i := 20) (oi := { dst := some 166, op := Op.load 23 (Operand.tmp 9), type := 23, pos := "outright.go:113", after := #[{ on := 16, ground := Ground.guard }], guard := some (16, true) }) (v := ?vv87) rfl (by kernel_rfl) (by kernel_rfl) (by kernel_rfl) (fun _ _ _ h => h) (Or.inl ⟨by rfl, ?hy87⟩) (by assumption) ?_
                  case hy87 => (intro w hSw; (try dsimp only at hSw); go_simp; all_goals with_reducible rfl)
                  try simp only [Act.put, List.setIfInBounds_toArray, List.set_cons_zero, List.set_cons_succ]
                  refine wpAnyH_ready (rs := [21]) (by kernel_rfl) (by simp) ?_
                  refine AllReadyH.cons (o := { dst := some 167, op := Op.call { callee := Callee.value (Operand.func 13), args := #[Operand.tmp 166, Operand.const (Value.int IntKind.u64 0), Operand.const (Value.bool true)], argTypes := #[23, 24, 4] }, type := 9, pos := "outright.go:113", after := #[{ on := 20, ground := Ground.data }, { on := 16, ground := Ground.chain }, { on := 16, ground := Ground.guard }], guard := some (16, true) }) rfl (fun K hK => ?_) AllReadyH.nil
                  go_simp
                  refine (HSpQ.out _).mono ?_
                  rintro e' Wxxx ⟨rfl, bX⟩
                  have hWxxx : Below X4.heap.size X4 Wxxx := hWxx.trans (bX.mono hWxx.size)
                  clear bX
                  go_wp2_with fail
                  refine hK.out _ _ (hS30.out _ hWxxx) (fun hHeld => ?_)
                  clear hK K
                  try simp only [Act.put, List.setIfInBounds_toArray, List.set_cons_zero, List.set_cons_succ]
                  refine wpAnyH_ready (rs := [22]) (by kernel_rfl) (by simp) ?_
                  refine AllReadyH.cons (o := { dst := some 168, op := Op.call { callee := Callee.value (Operand.func 15), args := #[Operand.tmp 163, Operand.tmp 165, Operand.tmp 167], argTypes := #[36, 9, 9] }, type := 4, pos := "outright.go:113", after := #[{ on := 17, ground := Ground.data }, { on := 19, ground := Ground.data }, { on := 21, ground := Ground.data }, { on := 21, ground := Ground.chain }, { on := 16, ground := Ground.guard }], guard := some (16, true) }) rfl (fun K hK => ?_) AllReadyH.nil
                  go_simp
                  refine (HH2.out _ hWxxx).mono ?_
                  rintro e' Wxxxx ⟨rfl, bX⟩
                  have hWxxxx : Below X4.heap.size X4 Wxxxx := hWxxx.trans (bX.mono hWxxx.size)
                  clear bX
                  go_wp2_with fail
                  refine hK.out _ _ (hS30.out _ hWxxxx) (fun hHeld => ?_)
                  clear hK K
                  try simp only [Act.put, List.setIfInBounds_toArray, List.set_cons_zero, List.set_cons_succ]
                  refine wpAnyH_take (i := 23) (oi := { dst := some 169, op := Op.unOp UnOp.not 4 (Operand.tmp 168), type := 4, pos := "outright.go:113", after := #[{ on := 22, ground := Ground.data }, { on := 16, ground := Ground.guard }], guard := some (16, true) }) (v := ?vv88) rfl (by kernel_rfl) (by kernel_rfl) (by kernel_rfl) (fun _ _ _ h => h) (Or.inl ⟨by rfl, ?hy88⟩) (by assumption) ?_
                  case hy88 => (intro w hSw; (try dsimp only at hSw); go_simp; all_goals with_reducible rfl)
                  try simp only [Act.put, List.setIfInBounds_toArray, List.set_cons_zero, List.set_cons_succ]
                  refine wpAnyH_take (i := 24) (oi := { dst := some 170, op := Op.pick (Operand.tmp 162) (Operand.tmp 169) (Operand.const (Value.bool false)), type := 4, pos := "outright.go:113", after := #[{ on := 16, ground := Ground.data }, { on := 23, ground := Ground.data }], guard := none }) (v := ?vv89) rfl (by kernel_rfl) (by kernel_rfl) (by kernel_rfl) (fun _ _ _ h => h) (Or.inl ⟨by rfl, ?hy89⟩) (by assumption) ?_
                  case hy89 => (intro w hSw; (try dsimp only at hSw); go_simp; all_goals with_reducible rfl)
                  try simp only [Act.put, List.setIfInBounds_toArray, List.set_cons_zero, List.set_cons_succ]
                  refine wpAnyH_take (i := 25) (oi := { dst := some 8, op := Op.assign (Operand.tmp 170), type := 4, pos := "outright.go:113", after := #[{ on := 24, ground := Ground.data }, { on := 22, ground := Ground.chain }, { on := 0, ground := Ground.phase }, { on := 1, ground := Ground.phase }, { on := 2, ground := Ground.phase }, { on := 3, ground := Ground.phase }, { on := 4, ground := Ground.phase }, { on := 5, ground := Ground.phase }, { on := 6, ground := Ground.phase }, { on := 7, ground := Ground.phase }, { on := 8, ground := Ground.phase }, { on := 9, ground := Ground.phase }, { on := 10, ground := Ground.phase }, { on := 11, ground := Ground.phase }, { on := 12, ground := Ground.phase }, { on := 13, ground := Ground.phase }, { on := 14, ground := Ground.phase }, { on := 15, ground := Ground.phase }, { on := 16, ground := Ground.phase }, { on := 17, ground := Ground.phase }, { on := 18, ground := Ground.phase }, { on := 19, ground := Ground.phase }, { on := 20, ground := Ground.phase }, { on := 21, ground := Ground.phase }, { on := 22, ground := Ground.phase }, { on := 23, ground := Ground.phase }, { on := 24, ground := Ground.phase }], guard := none }) (v := ?vv90) rfl (by kernel_rfl) (by kernel_rfl) (by kernel_rfl) (fun _ _ _ h => h) (Or.inl ⟨by rfl, ?hy90⟩) (by assumption) ?_
                  case hy90 => (intro w hSw; (try dsimp only at hSw); go_simp; all_goals with_reducible rfl)
                  try simp only [Act.put, List.setIfInBounds_toArray, List.set_cons_zero, List.set_cons_succ]
                  refine wpAnyH_done (by kernel_rfl) ?_ _
                  have HBz : Hid (Below w.heap.size w Wxxxx) := HB4.out.trans (hWxxxx.mono HB4.out.size)
                  clear hHeld
                  go_wp2_with fail
                  go_ret
                  exact ⟨by first | rfl | simp, HBz.out⟩
                · exact absurd HOE.out h5
              · have HBz : Hid (Below w.heap.size w wr) := HB1.out.trans (hbq.out.mono HB1.out.size)
                go_wp2_with fail
                go_ret
                exact ⟨rfl, HBz.out⟩
        · exact absurd HOE.out h5
      · have a1 : ¬ (i : Int) < (l.length : Int) := by omega
        clear hgo hlt
        have HOf : Hid (Calls Tryd.prog 14 #[.slice b k c] wr (OfPost L wr)) := of_any (b, k, c) L wr (HDone.out.2.2.2.2.1.isIn) (fun z hz => rt_ow (HDone.out.2.1 z hz)) (by have := HDone.out.1; omega)
        have HOE : Hid (ofE L = 0) := ofE_ok ⟨HDone.out.2.1, HDone.out.2.2.1, by have := HDone.out.1; omega⟩
        go_wp2_with fail
        go_at_call 14
        refine HOf.out.mono ?_
        rintro e X ⟨bx, h5⟩
        rcases h5 with ⟨_, P, B, rfl, hS⟩ | ⟨h5, _⟩
        · have HS : Hid (Se X wr.heap.size P B L) := hS
          have HRo : Hid (Ro X0 X (.slice b k c) L) := HDone.out.2.2.2.2.below bx
          have Hown : Hid (∀ j, (Value.slice b k c).ownBlock = some j → j < wr.heap.size) := fun j hj => HDone.out.2.2.2.2.1.lt j hj
          have HD : Hid (k = L.length ∧ (∀ z ∈ L, rtB z = true) ∧ L.Nodup ∧ L.any (ogD o) = β) := ⟨HDone.out.1, HDone.out.2.1, HDone.out.2.2.1, HDone.out.2.2.2.1⟩
          have HAX : Hid (OB X a o) := HA0.out.below HRo.out.2.1
          have HBX2 : Hid (Below w.heap.size w X) := HBX.out.trans (HRo.out.2.1.mono HBX.out.size)
          generalize wr.heap.size = lo at HS Hown
          clear bx hS HDone HOf HOE
          obtain ⟨SO, hSO⟩ : ∃ SO, spS o m nm = SO := ⟨_, rfl⟩
          have HSO : Hid (spS o m nm = SO ∧ SO.size ≤ 300) := ⟨hSO, by rw [← hSO]; unfold spS; rw [bt_size]; exact spL_len HRT.out m nm⟩
          have HSpO : Hid (∀ W, Calls Tryd.prog 13 #[.agg #[.string o.s, .string o.h, .int .i64 o.p], .int .u64 m, .bool nm] W fun e w' => e = .returned (.string SO) ∧ Below W.heap.size W w') := fun W => by rw [← hSO]; exact sp_any o m nm W hm0 hm1 HRT.out
          have HHaO : Hid (∀ W, Below X.heap.size X W → Calls Tryd.prog 15 #[.pointer (some ⟨P, 0, none⟩), .string o.s, .string SO] W fun e w' => e = .returned (.bool β) ∧ Below W.heap.size W w') := fun W hW => by
            have h1 := has_any lo P B L o.s SO W ((HE.out.below HBX2.out).below hW) (HS.out.below hW) (by have := HSO.out.2; omega)
            rw [← HSO.out.1, hs_spelt HRT.out, HD.out.2.2.2, HSO.out.1] at h1
            exact h1
          have hbb : (β != β) = false := by cases β <;> rfl
          clear hSO
          go_wp2_with fail
          have hS19 : Hid (∀ V, Below X.heap.size X V → V.cell? ⟨a, 0, none⟩ = some (.string o.s) ∧ V.cell? ⟨a, 1, none⟩ = some (.string o.h) ∧ V.cell? ⟨a, 2, none⟩ = some (.int .i64 o.p)) := fun V hV => ⟨(HAX.out.below hV).cells.c0, (HAX.out.below hV).cells.c1, (HAX.out.below hV).cells.c2⟩
          have hIW : Below X.heap.size X X.drew := (Below.refl _ _).drew
          refine wp_region_held_drew (S := (fun V => V.cell? ⟨a, 0, none⟩ = some (.string o.s) ∧ V.cell? ⟨a, 1, none⟩ = some (.string o.h) ∧ V.cell? ⟨a, 2, none⟩ = some (.int .i64 o.p))) (by kernel_rfl) (hS19.out _ hIW) (fun hHeld => ?_)
          generalize hWg : World.drew _ = W at hIW hHeld ⊢
          clear hWg
          refine wpAnyH_take (i := 0) (oi := { dst := some 73, op := Op.move (Operand.tmp 16), type := 36, pos := "outright.go:100", after := #[], guard := none }) (v := ?vv189) rfl (by kernel_rfl) (by kernel_rfl) (by kernel_rfl) (fun _ _ _ h => h) (Or.inl ⟨by rfl, ?hy189⟩) (by assumption) ?_
          case hy189 => (intro w hSw; (try dsimp only at hSw); go_simp; all_goals with_reducible rfl)
          try simp only [Act.put, List.setIfInBounds_toArray, List.set_cons_zero, List.set_cons_succ]
          refine wpAnyH_take (i := 1) (oi := { dst := some 74, op := Op.binOp BinOp.eql 36 (Operand.tmp 73) (Operand.const (Value.pointer none)) 36, type := 4, pos := "outright.go:100", after := #[{ on := 0, ground := Ground.data }], guard := none }) (v := ?vv190) rfl (by kernel_rfl) (by kernel_rfl) (by kernel_rfl) (fun _ _ _ h => h) (Or.inl ⟨by rfl, ?hy190⟩) (by assumption) ?_
          case hy190 => (intro w hSw; (try dsimp only at hSw); go_simp; all_goals with_reducible rfl)
          try simp only [Act.put, List.setIfInBounds_toArray, List.set_cons_zero, List.set_cons_succ]
          refine wpAnyH_take (i := 2) (oi := { dst := some 75, op := Op.move (Operand.tmp 74), type := 4, pos := "outright.go:100", after := #[{ on := 1, ground := Ground.data }], guard := none }) (v := ?vv191) rfl (by kernel_rfl) (by kernel_rfl) (by kernel_rfl) (fun _ _ _ h => h) (Or.inl ⟨by rfl, ?hy191⟩) (by assumption) ?_
          case hy191 => (intro w hSw; (try dsimp only at hSw); go_simp; all_goals with_reducible rfl)
          try simp only [Act.put, List.setIfInBounds_toArray, List.set_cons_zero, List.set_cons_succ]
          refine wpAnyH_take (i := 3) (oi := { dst := some 76, op := Op.move (Operand.tmp 17), type := 27, pos := "outright.go:100", after := #[{ on := 2, ground := Ground.guard }], guard := some (2, false) }) (v := ?vv192) rfl (by kernel_rfl) (by kernel_rfl) (by kernel_rfl) (fun _ _ _ h => h) (Or.inl ⟨by rfl, ?hy192⟩) (by assumption) ?_
          case hy192 => (intro w hSw; (try dsimp only at hSw); go_simp; all_goals with_reducible rfl)
          try simp only [Act.put, List.setIfInBounds_toArray, List.set_cons_zero, List.set_cons_succ]
          refine wpAnyH_take (i := 4) (oi := { dst := some 77, op := Op.binOp BinOp.neq 27 (Operand.tmp 76) (Operand.const (Value.int IntKind.i64 0)) 27, type := 4, pos := "outright.go:100", after := #[{ on := 3, ground := Ground.data }, { on := 2, ground := Ground.guard }], guard := some (2, false) }) (v := ?vv193) rfl (by kernel_rfl) (by kernel_rfl) (by kernel_rfl) (fun _ _ _ h => h) (Or.inl ⟨by rfl, ?hy193⟩) (by assumption) ?_
          case hy193 => (intro w hSw; (try dsimp only at hSw); go_simp; all_goals with_reducible rfl)
          try simp only [Act.put, List.setIfInBounds_toArray, List.set_cons_zero, List.set_cons_succ]
          refine wpAnyH_take (i := 5) (oi := { dst := some 78, op := Op.pick (Operand.tmp 75) (Operand.const (Value.bool true)) (Operand.tmp 77), type := 4, pos := "outright.go:100", after := #[{ on := 2, ground := Ground.data }, { on := 4, ground := Ground.data }], guard := none }) (v := ?vv194) rfl (by kernel_rfl) (by kernel_rfl) (by kernel_rfl) (fun _ _ _ h => h) (Or.inl ⟨by rfl, ?hy194⟩) (by assumption) ?_
          case hy194 => (intro w hSw; (try dsimp only at hSw); go_simp; all_goals with_reducible rfl)
          try simp only [Act.put, List.setIfInBounds_toArray, List.set_cons_zero, List.set_cons_succ]
          refine wpAnyH_take (i := 6) (oi := { dst := some 79, op := Op.move (Operand.tmp 78), type := 4, pos := "outright.go:100", after := #[{ on := 5, ground := Ground.data }, { on := 2, ground := Ground.chain }], guard := none }) (v := ?vv195) rfl (by kernel_rfl) (by kernel_rfl) (by kernel_rfl) (fun _ _ _ h => h) (Or.inl ⟨by rfl, ?hy195⟩) (by assumption) ?_
          case hy195 => (intro w hSw; (try dsimp only at hSw); go_simp; all_goals with_reducible rfl)
          try simp only [Act.put, List.setIfInBounds_toArray, List.set_cons_zero, List.set_cons_succ]
          refine wpAnyH_take (i := 7) (oi := { dst := some 80, op := Op.move (Operand.tmp 16), type := 36, pos := "outright.go:100", after := #[{ on := 6, ground := Ground.guard }], guard := some (6, false) }) (v := ?vv196) rfl (by kernel_rfl) (by kernel_rfl) (by kernel_rfl) (fun _ _ _ h => h) (Or.inl ⟨by rfl, ?hy196⟩) (by assumption) ?_
          case hy196 => (intro w hSw; (try dsimp only at hSw); go_simp; all_goals with_reducible rfl)
          try simp only [Act.put, List.setIfInBounds_toArray, List.set_cons_zero, List.set_cons_succ]
          refine wpAnyH_take (i := 8) (oi := { dst := some 81, op := Op.fieldAddr 23 (Operand.tmp 9) 0, type := 0, pos := "outright.go:100", after := #[{ on := 6, ground := Ground.guard }], guard := some (6, false) }) (v := ?vv197) rfl (by kernel_rfl) (by kernel_rfl) (by kernel_rfl) (fun _ _ _ h => h) (Or.inl ⟨by rfl, ?hy197⟩) (by assumption) ?_
          case hy197 => (intro w hSw; (try dsimp only at hSw); go_simp; all_goals with_reducible rfl)
          try simp only [Act.put, List.setIfInBounds_toArray, List.set_cons_zero, List.set_cons_succ]
          refine wpAnyH_take (i := 9) (oi := { dst := some 82, op := Op.load 9 (Operand.tmp 81), type := 9, pos := "outright.go:100", after := #[{ on := 8, ground := Ground.data }, { on := 6, ground := Ground.guard }], guard := some (6, false) }) (v := ?vv198) rfl (by kernel_rfl) (by kernel_rfl) (by kernel_rfl) (fun _ _ _ h => h) (Or.inl ⟨by rfl, ?hy198⟩) (by assumption) ?_
          case hy198 => (intro w hSw; (try dsimp only at hSw); go_simp; all_goals with_reducible rfl)
          try simp only [Act.put, List.setIfInBounds_toArray, List.set_cons_zero, List.set_cons_succ]
          refine wpAnyH_take (i := 10) (oi := { dst := some 83, op := Op.load 23 (Operand.tmp 9), type := 23, pos := "outright.go:100", after := #[{ on := 6, ground := Ground.guard }], guard := some (6, false) }) (v := ?vv199) rfl (by kernel_rfl) (by kernel_rfl) (by kernel_rfl) (fun _ _ _ h => h) (Or.inl ⟨by rfl, ?hy199⟩) (by assumption) ?_
          case hy199 => (intro w hSw; (try dsimp only at hSw); go_simp; all_goals with_reducible rfl)
          try simp only [Act.put, List.setIfInBounds_toArray, List.set_cons_zero, List.set_cons_succ]
          refine wpAnyH_take (i := 11) (oi := { dst := some 84, op := Op.move (Operand.tmp 2), type := 24, pos := "outright.go:100", after := #[{ on := 6, ground := Ground.guard }], guard := some (6, false) }) (v := ?vv200) rfl (by kernel_rfl) (by kernel_rfl) (by kernel_rfl) (fun _ _ _ h => h) (Or.inl ⟨by rfl, ?hy200⟩) (by assumption) ?_
          case hy200 => (intro w hSw; (try dsimp only at hSw); go_simp; all_goals with_reducible rfl)
          try simp only [Act.put, List.setIfInBounds_toArray, List.set_cons_zero, List.set_cons_succ]
          refine wpAnyH_take (i := 12) (oi := { dst := some 85, op := Op.move (Operand.tmp 3), type := 4, pos := "outright.go:100", after := #[{ on := 6, ground := Ground.guard }], guard := some (6, false) }) (v := ?vv201) rfl (by kernel_rfl) (by kernel_rfl) (by kernel_rfl) (fun _ _ _ h => h) (Or.inl ⟨by rfl, ?hy201⟩) (by assumption) ?_
          case hy201 => (intro w hSw; (try dsimp only at hSw); go_simp; all_goals with_reducible rfl)
          try simp only [Act.put, List.setIfInBounds_toArray, List.set_cons_zero, List.set_cons_succ]
          refine wpAnyH_take (i := 15) (oi := { dst := some 88, op := Op.move (Operand.tmp 10), type := 4, pos := "outright.go:100", after := #[{ on := 6, ground := Ground.guard }], guard := some (6, false) }) (v := ?vv202) rfl (by kernel_rfl) (by kernel_rfl) (by kernel_rfl) (fun _ _ _ h => h) (Or.inl ⟨by rfl, ?hy202⟩) (by assumption) ?_
          case hy202 => (intro w hSw; (try dsimp only at hSw); go_simp; all_goals with_reducible rfl)
          try simp only [Act.put, List.setIfInBounds_toArray, List.set_cons_zero, List.set_cons_succ]
          refine wpAnyH_ready (rs := [13]) (by kernel_rfl) (by simp) ?_
          refine AllReadyH.cons (o := { dst := some 86, op := Op.call { callee := Callee.value (Operand.func 13), args := #[Operand.tmp 83, Operand.tmp 84, Operand.tmp 85], argTypes := #[23, 24, 4] }, type := 9, pos := "outright.go:100", after := #[{ on := 10, ground := Ground.data }, { on := 11, ground := Ground.data }, { on := 12, ground := Ground.data }, { on := 6, ground := Ground.chain }, { on := 6, ground := Ground.guard }], guard := some (6, false) }) rfl (fun K hK => ?_) AllReadyH.nil
          go_simp
          refine (HSpO.out _).mono ?_
          rintro e' Wx ⟨rfl, bX⟩
          have hWx : Below X.heap.size X Wx := hIW.trans (bX.mono hIW.size)
          clear bX
          go_wp2_with fail
          refine hK.out _ _ (hS19.out _ hWx) (fun hHeld => ?_)
          clear hK K
          try simp only [Act.put, List.setIfInBounds_toArray, List.set_cons_zero, List.set_cons_succ]
          refine wpAnyH_ready (rs := [14]) (by kernel_rfl) (by simp) ?_
          refine AllReadyH.cons (o := { dst := some 87, op := Op.call { callee := Callee.value (Operand.func 15), args := #[Operand.tmp 80, Operand.tmp 82, Operand.tmp 86], argTypes := #[36, 9, 9] }, type := 4, pos := "outright.go:100", after := #[{ on := 7, ground := Ground.data }, { on := 9, ground := Ground.data }, { on := 13, ground := Ground.data }, { on := 13, ground := Ground.chain }, { on := 6, ground := Ground.guard }], guard := some (6, false) }) rfl (fun K hK => ?_) AllReadyH.nil
          go_simp
          refine (HHaO.out _ hWx).mono ?_
          rintro e' Wxx ⟨rfl, bX⟩
          have hWxx : Below X.heap.size X Wxx := hWx.trans (bX.mono hWx.size)
          clear bX
          go_wp2_with fail
          refine hK.out _ _ (hS19.out _ hWxx) (fun hHeld => ?_)
          clear hK K
          try simp only [Act.put, List.setIfInBounds_toArray, List.set_cons_zero, List.set_cons_succ]
          refine wpAnyH_take (i := 16) (oi := { dst := some 89, op := Op.binOp BinOp.neq 4 (Operand.tmp 87) (Operand.tmp 88) 4, type := 4, pos := "outright.go:100", after := #[{ on := 14, ground := Ground.data }, { on := 15, ground := Ground.data }, { on := 6, ground := Ground.guard }], guard := some (6, false) }) (v := ?vv203) rfl (by kernel_rfl) (by kernel_rfl) (by kernel_rfl) (fun _ _ _ h => h) (Or.inl ⟨by rfl, ?hy203⟩) (by assumption) ?_
          case hy203 => (intro w hSw; (try dsimp only at hSw); go_simp; all_goals with_reducible rfl)
          try simp only [Act.put, List.setIfInBounds_toArray, List.set_cons_zero, List.set_cons_succ]
          refine wpAnyH_take (i := 17) (oi := { dst := some 90, op := Op.pick (Operand.tmp 79) (Operand.const (Value.bool true)) (Operand.tmp 89), type := 4, pos := "outright.go:100", after := #[{ on := 6, ground := Ground.data }, { on := 16, ground := Ground.data }], guard := none }) (v := ?vv204) rfl (by kernel_rfl) (by kernel_rfl) (by kernel_rfl) (fun _ _ _ h => h) (Or.inl ⟨by rfl, ?hy204⟩) (by assumption) ?_
          case hy204 => (intro w hSw; (try dsimp only at hSw); go_simp; all_goals with_reducible rfl)
          try simp only [Act.put, List.setIfInBounds_toArray, List.set_cons_zero, List.set_cons_succ]
          refine wpAnyH_done (by kernel_rfl) ?_ _
          have HX1 : Hid (Below X.heap.size X Wxx) := hWxx
          generalize Wxx = X1 at HX1 hHeld ⊢
          have HRo1 : Hid (Ro X0 X1 (.slice b k c) L) := HRo.out.below HX1.out
          have HS1 : Hid (Se X1 lo P B L) := HS.out.below HX1.out
          have HA1 : Hid (OB X1 a o) := HAX.out.below HX1.out
          have HB1 : Hid (Below w.heap.size w X1) := HBX2.out.trans (HX1.out.mono HBX2.out.size)
          clear hHeld HX1 HRo HS HAX HBX2 HHaO
          go_wp2_with fail
          go_loopw [18, 19] (fun iv _ wr => ∃ q : Nat, iv = .int .i64 (q : Int) ∧ q ≤ k ∧ Hid (Below X1.heap.size X1 wr)) (fun iv _ _ => k - (intOf iv).toNat)
          case atStart => exact ⟨0, rfl, by omega, Below.refl _ _⟩
          case round =>
            obtain ⟨q, rfl, hq, hbq⟩ := hrel
            by_cases hqk : q < k
            · have a3 : (q : Int) < (k : Int) := by omega
              have HqL : Hid (q < L.length) := by rw [← HD.out.1]; exact hqk
              obtain ⟨Bq, offq, capq, e, hBq, hcq⟩ := (HRo1.out.1.isIn).og q HqL.out
              injection e with e1 e2 e3
              clear e2 e3
              subst e1
              obtain ⟨c0, c1, c2⟩ := hcq wr hbq.out
              obtain ⟨p, hp⟩ : ∃ z, L[q]'HqL.out = z := ⟨_, rfl⟩
              rw [hp] at c0 c1 c2
              have HPm : Hid (p ∈ L) := by rw [← hp]; exact List.getElem_mem HqL.out
              have HRP : Hid (rtB p = true) := HD.out.2.1 p HPm.out
              clear hcq hp
              go_wp2_with fail
              obtain ⟨g, hg⟩ : ∃ g, wr.heap.size = g := ⟨_, rfl⟩
              obtain ⟨Y, hY⟩ : ∃ V, wr.alloc (.cells #[.string p.s, .string p.h, .int .i64 p.p] 23) = V := ⟨_, rfl⟩
              have HG : Hid (OB Y g p) := by show OB _ _ _; rw [← hY, ← hg]; unfold OB; rw [heap_al, if_pos rfl]; rfl
              have HBY : Hid (Below X1.heap.size X1 Y) := by rw [← hY]; exact hbq.out.trans ((bel1 _ _).mono hbq.out.size)
              rw [hY, hg]
              clear hY hg c0 c1 c2
              obtain ⟨hu, hh, hp1, hp2⟩ := rtB_iff.1 HRP.out
              have hs5 := usP_size hu
              have hh5 := host_size hh
              obtain ⟨SP, hSP⟩ : ∃ SP, spS p m nm = SP := ⟨_, rfl⟩
              have HSP : Hid (spS p m nm = SP ∧ SP.size ≤ 300) := ⟨hSP, by rw [← hSP]; unfold spS; rw [bt_size]; exact spL_len HRP.out m nm⟩
              obtain ⟨SQ, hSQ⟩ : ∃ SP, spS p 0 true = SP := ⟨_, rfl⟩
              have HSQ : Hid (spS p 0 true = SQ ∧ SQ.size ≤ 300) := ⟨hSQ, by rw [← hSQ]; unfold spS; rw [bt_size]; exact spL_len HRP.out 0 true⟩
              have HSpP : Hid (∀ W, Calls Tryd.prog 13 #[.agg #[.string p.s, .string p.h, .int .i64 p.p], .int .u64 m, .bool nm] W fun e w' => e = .returned (.string SP) ∧ Below W.heap.size W w') := fun W => by rw [← hSP]; exact sp_any p m nm W hm0 hm1 HRP.out
              have HSpQ : Hid (∀ W, Calls Tryd.prog 13 #[.agg #[.string p.s, .string p.h, .int .i64 p.p], .int .u64 0, .bool true] W fun e w' => e = .returned (.string SQ) ∧ Below W.heap.size W w') := fun W => by rw [← hSQ]; exact sp_any p 0 true W (by omega) (by omega) HRP.out
              obtain ⟨U1, hU1⟩ : ∃ U, (⟨#[117, 64]⟩ : ByteArray) ++ p.h = U := ⟨_, rfl⟩
              obtain ⟨U2, hU2⟩ : ∃ U, (⟨#[120]⟩ : ByteArray) ++ p.s = U := ⟨_, rfl⟩
              obtain ⟨U3, hU3⟩ : ∃ U, p.h ++ (⟨#[58, 48]⟩ : ByteArray) = U := ⟨_, rfl⟩
              have t1 : ¬ (2 + p.h.size > 9223372036854775807) := by omega
              have t2 : ¬ (1 + p.s.size > 9223372036854775807) := by omega
              have t3 : ¬ (p.h.size + 2 > 9223372036854775807) := by omega
              have z1 : (⟨#[117, 64]⟩ : ByteArray).size = 2 := rfl
              have z3 : (⟨#[58, 48]⟩ : ByteArray).size = 2 := rfl
              have HH1 : Hid (∀ W, Below Y.heap.size Y W → Calls Tryd.prog 15 #[.pointer (some ⟨P, 0, none⟩), .string p.s, .string SP] W fun e w' => e = .returned (.bool true) ∧ Below W.heap.size W w') := fun W hW => by
                have h1 := has_any lo P B L p.s SP W (((HE.out.below HB1.out).below HBY.out).below hW) ((HS1.out.below HBY.out).below hW) (by have := HSP.out.2; omega)
                rw [← HSP.out.1, hs_spelt HRP.out, any_iff.2 HPm.out, HSP.out.1] at h1
                exact h1
              have HH2 : Hid (∀ W, Below Y.heap.size Y W → Calls Tryd.prog 15 #[.pointer (some ⟨P, 0, none⟩), .string p.s, .string U1] W fun e w' => e = .returned (.bool false) ∧ Below W.heap.size W w') := fun W hW => by
                have h1 := has_any lo P B L p.s U1 W (((HE.out.below HB1.out).below HBY.out).below hW) ((HS1.out.below HBY.out).below hW) (by rw [← hU1, app_size, z1]; omega)
                rw [← hU1, hs_at HRP.out, hU1] at h1
                exact h1
              have HH3 : Hid (∀ W, Below Y.heap.size Y W → Calls Tryd.prog 15 #[.pointer (some ⟨P, 0, none⟩), .string U2, .string SQ] W fun e w' => e = .returned (.bool false) ∧ Below W.heap.size W w') := fun W hW => by
                have h1 := has_any lo P B L U2 SQ W (((HE.out.below HB1.out).below HBY.out).below hW) ((HS1.out.below HBY.out).below hW) (by have := HSQ.out.2; omega)
                rw [← hU2, hs_x HRP.out, hU2] at h1
                exact h1
              have HH4 : Hid (∀ W, Below Y.heap.size Y W → Calls Tryd.prog 15 #[.pointer (some ⟨P, 0, none⟩), .string p.s, .string U3] W fun e w' => e = .returned (.bool false) ∧ Below W.heap.size W w') := fun W hW => by
                have h1 := has_any lo P B L p.s U3 W (((HE.out.below HB1.out).below HBY.out).below hW) ((HS1.out.below HBY.out).below hW) (by rw [← hU3, app_size, z3]; omega)
                rw [← hU3, hs_zero HRP.out, hU3] at h1
                exact h1
              clear hSP hSQ hu hh hp1 hp2 hs5 hh5 hbq
              go_wp2_with fail
              have hS25 : Hid (∀ V, Below Y.heap.size Y V → V.cell? ⟨g, 0, none⟩ = some (.string p.s) ∧ V.cell? ⟨g, 1, none⟩ = some (.string p.h) ∧ V.cell? ⟨g, 2, none⟩ = some (.int .i64 p.p)) := fun V hV => ⟨(HG.out.below hV).cells.c0, (HG.out.below hV).cells.c1, (HG.out.below hV).cells.c2⟩
              have hIW : Below Y.heap.size Y Y.drew := (Below.refl _ _).drew
              refine wp_region_held_drew (S := (fun V => V.cell? ⟨g, 0, none⟩ = some (.string p.s) ∧ V.cell? ⟨g, 1, none⟩ = some (.string p.h) ∧ V.cell? ⟨g, 2, none⟩ = some (.int .i64 p.p))) (by kernel_rfl) (hS25.out _ hIW) (fun hHeld => ?_)
              generalize hWg : World.drew _ = W at hIW hHeld ⊢
              clear hWg
              refine wpAnyH_take (i := 0) (oi := { dst := some 101, op := Op.move (Operand.tmp 16), type := 36, pos := "outright.go:105", after := #[], guard := none }) (v := ?vv159) rfl (by kernel_rfl) (by kernel_rfl) (by kernel_rfl) (fun _ _ _ h => h) (Or.inl ⟨by rfl, ?hy159⟩) (by assumption) ?_
              case hy159 => (intro w hSw; (try dsimp only at hSw); go_simp; all_goals with_reducible rfl)
              try simp only [Act.put, List.setIfInBounds_toArray, List.set_cons_zero, List.set_cons_succ]
              refine wpAnyH_take (i := 1) (oi := { dst := some 102, op := Op.fieldAddr 23 (Operand.tmp 19) 0, type := 0, pos := "outright.go:105", after := #[], guard := none }) (v := ?vv160) rfl (by kernel_rfl) (by kernel_rfl) (by kernel_rfl) (fun _ _ _ h => h) (Or.inl ⟨by rfl, ?hy160⟩) (by assumption) ?_
              case hy160 => (intro w hSw; (try dsimp only at hSw); go_simp; all_goals with_reducible rfl)
              try simp only [Act.put, List.setIfInBounds_toArray, List.set_cons_zero, List.set_cons_succ]
              refine wpAnyH_take (i := 2) (oi := { dst := some 103, op := Op.load 9 (Operand.tmp 102), type := 9, pos := "outright.go:105", after := #[{ on := 1, ground := Ground.data }], guard := none }) (v := ?vv161) rfl (by kernel_rfl) (by kernel_rfl) (by kernel_rfl) (fun _ _ _ h => h) (Or.inl ⟨by rfl, ?hy161⟩) (by assumption) ?_
              case hy161 => (intro w hSw; (try dsimp only at hSw); go_simp; all_goals with_reducible rfl)
              try simp only [Act.put, List.setIfInBounds_toArray, List.set_cons_zero, List.set_cons_succ]
              refine wpAnyH_take (i := 3) (oi := { dst := some 104, op := Op.load 23 (Operand.tmp 19), type := 23, pos := "outright.go:105", after := #[], guard := none }) (v := ?vv162) rfl (by kernel_rfl) (by kernel_rfl) (by kernel_rfl) (fun _ _ _ h => h) (Or.inl ⟨by rfl, ?hy162⟩) (by assumption) ?_
              case hy162 => (intro w hSw; (try dsimp only at hSw); go_simp; all_goals with_reducible rfl)
              try simp only [Act.put, List.setIfInBounds_toArray, List.set_cons_zero, List.set_cons_succ]
              refine wpAnyH_take (i := 4) (oi := { dst := some 105, op := Op.move (Operand.tmp 2), type := 24, pos := "outright.go:105", after := #[], guard := none }) (v := ?vv163) rfl (by kernel_rfl) (by kernel_rfl) (by kernel_rfl) (fun _ _ _ h => h) (Or.inl ⟨by rfl, ?hy163⟩) (by assumption) ?_
              case hy163 => (intro w hSw; (try dsimp only at hSw); go_simp; all_goals with_reducible rfl)
              try simp only [Act.put, List.setIfInBounds_toArray, List.set_cons_zero, List.set_cons_succ]
              refine wpAnyH_take (i := 5) (oi := { dst := some 106, op := Op.move (Operand.tmp 3), type := 4, pos := "outright.go:105", after := #[], guard := none }) (v := ?vv164) rfl (by kernel_rfl) (by kernel_rfl) (by kernel_rfl) (fun _ _ _ h => h) (Or.inl ⟨by rfl, ?hy164⟩) (by assumption) ?_
              case hy164 => (intro w hSw; (try dsimp only at hSw); go_simp; all_goals with_reducible rfl)
              try simp only [Act.put, List.setIfInBounds_toArray, List.set_cons_zero, List.set_cons_succ]
              refine wpAnyH_ready (rs := [6]) (by kernel_rfl) (by simp) ?_
              refine AllReadyH.cons (o := { dst := some 107, op := Op.call { callee := Callee.value (Operand.func 13), args := #[Operand.tmp 104, Operand.tmp 105, Operand.tmp 106], argTypes := #[23, 24, 4] }, type := 9, pos := "outright.go:105", after := #[{ on := 3, ground := Ground.data }, { on := 4, ground := Ground.data }, { on := 5, ground := Ground.data }], guard := none }) rfl (fun K hK => ?_) AllReadyH.nil
              go_simp
              refine (HSpP.out _).mono ?_
              rintro e' Wx ⟨rfl, bX⟩
              have hWx : Below Y.heap.size Y Wx := hIW.trans (bX.mono hIW.size)
              clear bX
              go_wp2_with fail
              refine hK.out _ _ (hS25.out _ hWx) (fun hHeld => ?_)
              clear hK K
              try simp only [Act.put, List.setIfInBounds_toArray, List.set_cons_zero, List.set_cons_succ]
              refine wpAnyH_ready (rs := [7]) (by kernel_rfl) (by simp) ?_
              refine AllReadyH.cons (o := { dst := some 108, op := Op.call { callee := Callee.value (Operand.func 15), args := #[Operand.tmp 101, Operand.tmp 103, Operand.tmp 107], argTypes := #[36, 9, 9] }, type := 4, pos := "outright.go:105", after := #[{ on := 0, ground := Ground.data }, { on := 2, ground := Ground.data }, { on := 6, ground := Ground.data }, { on := 6, ground := Ground.chain }], guard := none }) rfl (fun K hK => ?_) AllReadyH.nil
              go_simp
              refine (HH1.out _ hWx).mono ?_
              rintro e' Wxx ⟨rfl, bX⟩
              have hWxx : Below Y.heap.size Y Wxx := hWx.trans (bX.mono hWx.size)
              clear bX
              go_wp2_with fail
              refine hK.out _ _ (hS25.out _ hWxx) (fun hHeld => ?_)
              clear hK K
              try simp only [Act.put, List.setIfInBounds_toArray, List.set_cons_zero, List.set_cons_succ]
              refine wpAnyH_take (i := 8) (oi := { dst := some 109, op := Op.unOp UnOp.not 4 (Operand.tmp 108), type := 4, pos := "outright.go:105", after := #[{ on := 7, ground := Ground.data }], guard := none }) (v := ?vv165) rfl (by kernel_rfl) (by kernel_rfl) (by kernel_rfl) (fun _ _ _ h => h) (Or.inl ⟨by rfl, ?hy165⟩) (by assumption) ?_
              case hy165 => (intro w hSw; (try dsimp only at hSw); go_simp; all_goals with_reducible rfl)
              try simp only [Act.put, List.setIfInBounds_toArray, List.set_cons_zero, List.set_cons_succ]
              refine wpAnyH_take (i := 9) (oi := { dst := some 110, op := Op.move (Operand.tmp 109), type := 4, pos := "outright.go:105", after := #[{ on := 8, ground := Ground.data }, { on := 7, ground := Ground.chain }], guard := none }) (v := ?vv166) rfl (by kernel_rfl) (by kernel_rfl) (by kernel_rfl) (fun _ _ _ h => h) (Or.inl ⟨by rfl, ?hy166⟩) (by assumption) ?_
              case hy166 => (intro w hSw; (try dsimp only at hSw); go_simp; all_goals with_reducible rfl)
              try simp only [Act.put, List.setIfInBounds_toArray, List.set_cons_zero, List.set_cons_succ]
              refine wpAnyH_take (i := 10) (oi := { dst := some 111, op := Op.move (Operand.tmp 16), type := 36, pos := "outright.go:105", after := #[{ on := 9, ground := Ground.guard }], guard := some (9, false) }) (v := ?vv167) rfl (by kernel_rfl) (by kernel_rfl) (by kernel_rfl) (fun _ _ _ h => h) (Or.inl ⟨by rfl, ?hy167⟩) (by assumption) ?_
              case hy167 => (intro w hSw; (try dsimp only at hSw); go_simp; all_goals with_reducible rfl)
              try simp only [Act.put, List.setIfInBounds_toArray, List.set_cons_zero, List.set_cons_succ]
              refine wpAnyH_take (i := 11) (oi := { dst := some 112, op := Op.fieldAddr 23 (Operand.tmp 19) 0, type := 0, pos := "outright.go:105", after := #[{ on := 9, ground := Ground.guard }], guard := some (9, false) }) (v := ?vv168) rfl (by kernel_rfl) (by kernel_rfl) (by kernel_rfl) (fun _ _ _ h => h) (Or.inl ⟨by rfl, ?hy168⟩) (by assumption) ?_
              case hy168 => (intro w hSw; (try dsimp only at hSw); go_simp; all_goals with_reducible rfl)
              try simp only [Act.put, List.setIfInBounds_toArray, List.set_cons_zero, List.set_cons_succ]
              refine wpAnyH_take (i := 12) (oi := { dst := some 113, op := Op.load 9 (Operand.tmp 112), type := 9, pos := "outright.go:105", after := #[{ on := 11, ground := Ground.data }, { on := 9, ground := Ground.guard }], guard := some (9, false) }) (v := ?vv169) rfl (by kernel_rfl) (by kernel_rfl) (by kernel_rfl) (fun _ _ _ h => h) (Or.inl ⟨by rfl, ?hy169⟩) (by assumption) ?_
              case hy169 => (intro w hSw; (try dsimp only at hSw); go_simp; all_goals with_reducible rfl)
              try simp only [Act.put, List.setIfInBounds_toArray, List.set_cons_zero, List.set_cons_succ]
              refine wpAnyH_take (i := 13) (oi := { dst := some 114, op := Op.fieldAddr 23 (Operand.tmp 19) 1, type := 0, pos := "outright.go:105", after := #[{ on := 9, ground := Ground.guard }], guard := some (9, false) }) (v := ?vv170) rfl (by kernel_rfl) (by kernel_rfl) (by kernel_rfl) (fun _ _ _ h => h) (Or.inl ⟨by rfl, ?hy170⟩) (by assumption) ?_
              case hy170 => (intro w hSw; (try dsimp only at hSw); go_simp; all_goals with_reducible rfl)
              try simp only [Act.put, List.setIfInBounds_toArray, List.set_cons_zero, List.set_cons_succ]
              refine wpAnyH_take (i := 14) (oi := { dst := some 115, op := Op.load 9 (Operand.tmp 114), type := 9, pos := "outright.go:105", after := #[{ on := 13, ground := Ground.data }, { on := 9, ground := Ground.guard }], guard := some (9, false) }) (v := ?vv171) rfl (by kernel_rfl) (by kernel_rfl) (by kernel_rfl) (fun _ _ _ h => h) (Or.inl ⟨by rfl, ?hy171⟩) (by assumption) ?_
              case hy171 => (intro w hSw; (try dsimp only at hSw); go_simp; all_goals with_reducible rfl)
              try simp only [Act.put, List.setIfInBounds_toArray, List.set_cons_zero, List.set_cons_succ]
              refine wpAnyH_take (i := 15) (oi := { dst := some 116, op := Op.binOp BinOp.add 9 (Operand.const (Value.string { data := #[117, 64] })) (Operand.tmp 115) 9, type := 9, pos := "outright.go:105", after := #[{ on := 14, ground := Ground.data }, { on := 9, ground := Ground.guard }], guard := some (9, false) }) (v := ?vv172) rfl (by kernel_rfl) (by kernel_rfl) (by kernel_rfl) (fun _ _ _ h => h) (Or.inl ⟨by rfl, ?hy172⟩) (by assumption) ?_
              case hy172 => (intro w hSw; (try dsimp only at hSw); go_simp; all_goals with_reducible rfl)
              try simp only [Act.put, List.setIfInBounds_toArray, List.set_cons_zero, List.set_cons_succ]
              refine wpAnyH_ready (rs := [16]) (by kernel_rfl) (by simp) ?_
              refine AllReadyH.cons (o := { dst := some 117, op := Op.call { callee := Callee.value (Operand.func 15), args := #[Operand.tmp 111, Operand.tmp 113, Operand.tmp 116], argTypes := #[36, 9, 9] }, type := 4, pos := "outright.go:105", after := #[{ on := 10, ground := Ground.data }, { on := 12, ground := Ground.data }, { on := 15, ground := Ground.data }, { on := 9, ground := Ground.chain }, { on := 9, ground := Ground.guard }], guard := some (9, false) }) rfl (fun K hK => ?_) AllReadyH.nil
              go_simp
              refine (HH2.out _ hWxx).mono ?_
              rintro e' Wxxx ⟨rfl, bX⟩
              have hWxxx : Below Y.heap.size Y Wxxx := hWxx.trans (bX.mono hWxx.size)
              clear bX
              go_wp2_with fail
              refine hK.out _ _ (hS25.out _ hWxxx) (fun hHeld => ?_)
              clear hK K
              try simp only [Act.put, List.setIfInBounds_toArray, List.set_cons_zero, List.set_cons_succ]
              refine wpAnyH_take (i := 17) (oi := { dst := some 118, op := Op.pick (Operand.tmp 110) (Operand.const (Value.bool true)) (Operand.tmp 117), type := 4, pos := "outright.go:105", after := #[{ on := 9, ground := Ground.data }, { on := 16, ground := Ground.data }], guard := none }) (v := ?vv173) rfl (by kernel_rfl) (by kernel_rfl) (by kernel_rfl) (fun _ _ _ h => h) (Or.inl ⟨by rfl, ?hy173⟩) (by assumption) ?_
              case hy173 => (intro w hSw; (try dsimp only at hSw); go_simp; all_goals with_reducible rfl)
              try simp only [Act.put, List.setIfInBounds_toArray, List.set_cons_zero, List.set_cons_succ]
              refine wpAnyH_take (i := 18) (oi := { dst := some 119, op := Op.move (Operand.tmp 118), type := 4, pos := "outright.go:105", after := #[{ on := 17, ground := Ground.data }, { on := 16, ground := Ground.chain }], guard := none }) (v := ?vv174) rfl (by kernel_rfl) (by kernel_rfl) (by kernel_rfl) (fun _ _ _ h => h) (Or.inl ⟨by rfl, ?hy174⟩) (by assumption) ?_
              case hy174 => (intro w hSw; (try dsimp only at hSw); go_simp; all_goals with_reducible rfl)
              try simp only [Act.put, List.setIfInBounds_toArray, List.set_cons_zero, List.set_cons_succ]
              refine wpAnyH_take (i := 19) (oi := { dst := some 120, op := Op.move (Operand.tmp 16), type := 36, pos := "outright.go:105", after := #[{ on := 18, ground := Ground.guard }], guard := some (18, false) }) (v := ?vv175) rfl (by kernel_rfl) (by kernel_rfl) (by kernel_rfl) (fun _ _ _ h => h) (Or.inl ⟨by rfl, ?hy175⟩) (by assumption) ?_
              case hy175 => (intro w hSw; (try dsimp only at hSw); go_simp; all_goals with_reducible rfl)
              try simp only [Act.put, List.setIfInBounds_toArray, List.set_cons_zero, List.set_cons_succ]
              refine wpAnyH_take (i := 20) (oi := { dst := some 121, op := Op.fieldAddr 23 (Operand.tmp 19) 0, type := 0, pos := "outright.go:105", after := #[{ on := 18, ground := Ground.guard }], guard := some (18, false) }) (v := ?vv176) rfl (by kernel_rfl) (by kernel_rfl) (by kernel_rfl) (fun _ _ _ h => h) (Or.inl ⟨by rfl, ?hy176⟩) (by assumption) ?_
              case hy176 => (intro w hSw; (try dsimp only at hSw); go_simp; all_goals with_reducible rfl)
              try simp only [Act.put, List.setIfInBounds_toArray, List.set_cons_zero, List.set_cons_succ]
              refine wpAnyH_take (i := 21) (oi := { dst := some 122, op := Op.load 9 (Operand.tmp 121), type := 9, pos := "outright.go:105", after := #[{ on := 20, ground := Ground.data }, { on := 18, ground := Ground.guard }], guard := some (18, false) }) (v := ?vv177) rfl (by kernel_rfl) (by kernel_rfl) (by kernel_rfl) (fun _ _ _ h => h) (Or.inl ⟨by rfl, ?hy177⟩) (by assumption) ?_
              case hy177 => (intro w hSw; (try dsimp only at hSw); go_simp; all_goals with_reducible rfl)
              try simp only [Act.put, List.setIfInBounds_toArray, List.set_cons_zero, List.set_cons_succ]
              refine wpAnyH_take (i := 22) (oi := { dst := some 123, op := Op.binOp BinOp.add 9 (Operand.const (Value.string { data := #[120] })) (Operand.tmp 122) 9, type := 9, pos := "outright.go:105", after := #[{ on := 21, ground := Ground.data }, { on := 18, ground := Ground.guard }], guard := some (18, false) }) (v := ?vv178) rfl (by kernel_rfl) (by kernel_rfl) (by kernel_rfl) (fun _ _ _ h => h) (Or.inl ⟨by rfl, ?hy178⟩) (by assumption) ?_
              case hy178 => (intro w hSw; (try dsimp only at hSw); go_simp; all_goals with_reducible rfl)
              try simp only [Act.put, List.setIfInBounds_toArray, List.set_cons_zero, List.set_cons_succ]
              refine wpAnyH_take (i := 23) (oi := { dst := some 124, op := Op.load 23 (Operand.tmp 19), type := 23, pos := "outright.go:105", after := #[{ on := 18, ground := Ground.guard }], guard := some (18, false) }) (v := ?vv179) rfl (by kernel_rfl) (by kernel_rfl) (by kernel_rfl) (fun _ _ _ h => h) (Or.inl ⟨by rfl, ?hy179⟩) (by assumption) ?_
              case hy179 => (intro w hSw; (try dsimp only at hSw); go_simp; all_goals with_reducible rfl)
              try simp only [Act.put, List.setIfInBounds_toArray, List.set_cons_zero, List.set_cons_succ]
              refine wpAnyH_ready (rs := [24]) (by kernel_rfl) (by simp) ?_
              refine AllReadyH.cons (o := { dst := some 125, op := Op.call { callee := Callee.value (Operand.func 13), args := #[Operand.tmp 124, Operand.const (Value.int IntKind.u64 0), Operand.const (Value.bool true)], argTypes := #[23, 24, 4] }, type := 9, pos := "outright.go:105", after := #[{ on := 23, ground := Ground.data }, { on := 18, ground := Ground.chain }, { on := 18, ground := Ground.guard }], guard := some (18, false) }) rfl (fun K hK => ?_) AllReadyH.nil
              go_simp
              refine (HSpQ.out _).mono ?_
              rintro e' Wxxxx ⟨rfl, bX⟩
              have hWxxxx : Below Y.heap.size Y Wxxxx := hWxxx.trans (bX.mono hWxxx.size)
              clear bX
              go_wp2_with fail
              refine hK.out _ _ (hS25.out _ hWxxxx) (fun hHeld => ?_)
              clear hK K
              try simp only [Act.put, List.setIfInBounds_toArray, List.set_cons_zero, List.set_cons_succ]
              refine wpAnyH_ready (rs := [25]) (by kernel_rfl) (by simp) ?_
              refine AllReadyH.cons (o := { dst := some 126, op := Op.call { callee := Callee.value (Operand.func 15), args := #[Operand.tmp 120, Operand.tmp 123, Operand.tmp 125], argTypes := #[36, 9, 9] }, type := 4, pos := "outright.go:105", after := #[{ on := 19, ground := Ground.data }, { on := 22, ground := Ground.data }, { on := 24, ground := Ground.data }, { on := 24, ground := Ground.chain }, { on := 18, ground := Ground.guard }], guard := some (18, false) }) rfl (fun K hK => ?_) AllReadyH.nil
              go_simp
              refine (HH3.out _ hWxxxx).mono ?_
              rintro e' Wxxxxx ⟨rfl, bX⟩
              have hWxxxxx : Below Y.heap.size Y Wxxxxx := hWxxxx.trans (bX.mono hWxxxx.size)
              clear bX
              go_wp2_with fail
              refine hK.out _ _ (hS25.out _ hWxxxxx) (fun hHeld => ?_)
              clear hK K
              try simp only [Act.put, List.setIfInBounds_toArray, List.set_cons_zero, List.set_cons_succ]
              refine wpAnyH_take (i := 26) (oi := { dst := some 127, op := Op.pick (Operand.tmp 119) (Operand.const (Value.bool true)) (Operand.tmp 126), type := 4, pos := "outright.go:105", after := #[{ on := 18, ground := Ground.data }, { on := 25, ground := Ground.data }], guard := none }) (v := ?vv180) rfl (by kernel_rfl) (by kernel_rfl) (by kernel_rfl) (fun _ _ _ h => h) (Or.inl ⟨by rfl, ?hy180⟩) (by assumption) ?_
              case hy180 => (intro w hSw; (try dsimp only at hSw); go_simp; all_goals with_reducible rfl)
              try simp only [Act.put, List.setIfInBounds_toArray, List.set_cons_zero, List.set_cons_succ]
              refine wpAnyH_take (i := 27) (oi := { dst := some 128, op := Op.move (Operand.tmp 127), type := 4, pos := "outright.go:105", after := #[{ on := 26, ground := Ground.data }, { on := 25, ground := Ground.chain }], guard := none }) (v := ?vv181) rfl (by kernel_rfl) (by kernel_rfl) (by kernel_rfl) (fun _ _ _ h => h) (Or.inl ⟨by rfl, ?hy181⟩) (by assumption) ?_
              case hy181 => (intro w hSw; (try dsimp only at hSw); go_simp; all_goals with_reducible rfl)
              try simp only [Act.put, List.setIfInBounds_toArray, List.set_cons_zero, List.set_cons_succ]
              refine wpAnyH_take (i := 28) (oi := { dst := some 129, op := Op.move (Operand.tmp 16), type := 36, pos := "outright.go:105", after := #[{ on := 27, ground := Ground.guard }], guard := some (27, false) }) (v := ?vv182) rfl (by kernel_rfl) (by kernel_rfl) (by kernel_rfl) (fun _ _ _ h => h) (Or.inl ⟨by rfl, ?hy182⟩) (by assumption) ?_
              case hy182 => (intro w hSw; (try dsimp only at hSw); go_simp; all_goals with_reducible rfl)
              try simp only [Act.put, List.setIfInBounds_toArray, List.set_cons_zero, List.set_cons_succ]
              refine wpAnyH_take (i := 29) (oi := { dst := some 130, op := Op.fieldAddr 23 (Operand.tmp 19) 0, type := 0, pos := "outright.go:105", after := #[{ on := 27, ground := Ground.guard }], guard := some (27, false) }) (v := ?vv183) rfl (by kernel_rfl) (by kernel_rfl) (by kernel_rfl) (fun _ _ _ h => h) (Or.inl ⟨by rfl, ?hy183⟩) (by assumption) ?_
              case hy183 => (intro w hSw; (try dsimp only at hSw); go_simp; all_goals with_reducible rfl)
              try simp only [Act.put, List.setIfInBounds_toArray, List.set_cons_zero, List.set_cons_succ]
              refine wpAnyH_take (i := 30) (oi := { dst := some 131, op := Op.load 9 (Operand.tmp 130), type := 9, pos := "outright.go:105", after := #[{ on := 29, ground := Ground.data }, { on := 27, ground := Ground.guard }], guard := some (27, false) }) (v := ?vv184) rfl (by kernel_rfl) (by kernel_rfl) (by kernel_rfl) (fun _ _ _ h => h) (Or.inl ⟨by rfl, ?hy184⟩) (by assumption) ?_
              case hy184 => (intro w hSw; (try dsimp only at hSw); go_simp; all_goals with_reducible rfl)
              try simp only [Act.put, List.setIfInBounds_toArray, List.set_cons_zero, List.set_cons_succ]
              refine wpAnyH_take (i := 31) (oi := { dst := some 132, op := Op.fieldAddr 23 (Operand.tmp 19) 1, type := 0, pos := "outright.go:105", after := #[{ on := 27, ground := Ground.guard }], guard := some (27, false) }) (v := ?vv185) rfl (by kernel_rfl) (by kernel_rfl) (by kernel_rfl) (fun _ _ _ h => h) (Or.inl ⟨by rfl, ?hy185⟩) (by assumption) ?_
              case hy185 => (intro w hSw; (try dsimp only at hSw); go_simp; all_goals with_reducible rfl)
              try simp only [Act.put, List.setIfInBounds_toArray, List.set_cons_zero, List.set_cons_succ]
              refine wpAnyH_take (i := 32) (oi := { dst := some 133, op := Op.load 9 (Operand.tmp 132), type := 9, pos := "outright.go:105", after := #[{ on := 31, ground := Ground.data }, { on := 27, ground := Ground.guard }], guard := some (27, false) }) (v := ?vv186) rfl (by kernel_rfl) (by kernel_rfl) (by kernel_rfl) (fun _ _ _ h => h) (Or.inl ⟨by rfl, ?hy186⟩) (by assumption) ?_
              case hy186 => (intro w hSw; (try dsimp only at hSw); go_simp; all_goals with_reducible rfl)
              try simp only [Act.put, List.setIfInBounds_toArray, List.set_cons_zero, List.set_cons_succ]
              refine wpAnyH_take (i := 33) (oi := { dst := some 134, op := Op.binOp BinOp.add 9 (Operand.tmp 133) (Operand.const (Value.string { data := #[58, 48] })) 9, type := 9, pos := "outright.go:105", after := #[{ on := 32, ground := Ground.data }, { on := 27, ground := Ground.guard }], guard := some (27, false) }) (v := ?vv187) rfl (by kernel_rfl) (by kernel_rfl) (by kernel_rfl) (fun _ _ _ h => h) (Or.inl ⟨by rfl, ?hy187⟩) (by assumption) ?_
              case hy187 => (intro w hSw; (try dsimp only at hSw); go_simp; all_goals with_reducible rfl)
              try simp only [Act.put, List.setIfInBounds_toArray, List.set_cons_zero, List.set_cons_succ]
              refine wpAnyH_ready (rs := [34]) (by kernel_rfl) (by simp) ?_
              refine AllReadyH.cons (o := { dst := some 135, op := Op.call { callee := Callee.value (Operand.func 15), args := #[Operand.tmp 129, Operand.tmp 131, Operand.tmp 134], argTypes := #[36, 9, 9] }, type := 4, pos := "outright.go:105", after := #[{ on := 28, ground := Ground.data }, { on := 30, ground := Ground.data }, { on := 33, ground := Ground.data }, { on := 27, ground := Ground.chain }, { on := 27, ground := Ground.guard }], guard := some (27, false) }) rfl (fun K hK => ?_) AllReadyH.nil
              go_simp
              refine (HH4.out _ hWxxxxx).mono ?_
              rintro e' Wxxxxxx ⟨rfl, bX⟩
              have hWxxxxxx : Below Y.heap.size Y Wxxxxxx := hWxxxxx.trans (bX.mono hWxxxxx.size)
              clear bX
              go_wp2_with fail
              refine hK.out _ _ (hS25.out _ hWxxxxxx) (fun hHeld => ?_)
              clear hK K
              try simp only [Act.put, List.setIfInBounds_toArray, List.set_cons_zero, List.set_cons_succ]
              refine wpAnyH_take (i := 35) (oi := { dst := some 136, op := Op.pick (Operand.tmp 128) (Operand.const (Value.bool true)) (Operand.tmp 135), type := 4, pos := "outright.go:105", after := #[{ on := 27, ground := Ground.data }, { on := 34, ground := Ground.data }], guard := none }) (v := ?vv188) rfl (by kernel_rfl) (by kernel_rfl) (by kernel_rfl) (fun _ _ _ h => h) (Or.inl ⟨by rfl, ?hy188⟩) (by assumption) ?_
              case hy188 => (intro w hSw; (try dsimp only at hSw); go_simp; all_goals with_reducible rfl)
              try simp only [Act.put, List.setIfInBounds_toArray, List.set_cons_zero, List.set_cons_succ]
              refine wpAnyH_done (by kernel_rfl) ?_ _
              have HBz : Hid (Below X1.heap.size X1 Wxxxxxx) := HBY.out.trans (hWxxxxxx.mono HBY.out.size)
              clear hHeld
              go_wp2_with fail
              go_roundw
              case rel => exact ⟨q + 1, by simp, by omega, HBz.out⟩
              case measure => first | (simp [intOf]; done) | (simp [intOf]; omega)
            · obtain rfl : q = k := by omega
              have a3 : ¬ (q : Int) < (q : Int) := by omega
              cases β
              · obtain ⟨b3, c3, w3, e3, e4, e5, e6⟩ := (HRo1.out.below hbq.out).app HD.out.1 (by have := HD.out.1; omega) o
                have HNIn : Hid (∀ z ∈ L ++ [o], rtB z = true) := fun z hz => by
                  rcases List.mem_append.1 hz with hz | hz
                  · exact HD.out.2.1 z hz
                  · rw [List.mem_singleton.1 hz]
                    exact HRT.out
                have HND : Hid ((L ++ [o]).Nodup) := nd_snoc HD.out.2.2.1 HD.out.2.2.2
                have HLn : Hid (q + 1 = (L ++ [o]).length) := by show _ = _; rw [List.length_append, HD.out.1]; rfl
                have HOE : Hid (ofE (L ++ [o]) = 0) := ofE_ok ⟨HNIn.out, HND.out, by rw [← HLn.out]; omega⟩
                have HOf : Hid (Calls Tryd.prog 14 #[.slice b3 (q + 1) c3] w3 (OfPost (L ++ [o]) w3)) := of_any (b3, q + 1, c3) (L ++ [o]) w3 e4.1.isIn (fun z hz => rt_ow (HNIn.out z hz)) (by rw [← HLn.out]; omega)
                have HS3 : Hid (Se w3 lo P B L) := (HS1.out.below hbq.out).keep fun kk h1 h2 => e6 kk h2 (fun e => by have := Hown.out kk e; omega)
                have HA3 : Hid (OB w3 a o) := HA0.out.below e4.2.1
                have HB3 : Hid (Below w.heap.size w w3) := HBX.out.trans (e4.2.1.mono HBX.out.size)
                have HAq : Hid (OB wr a o) := HA1.out.below hbq.out
                obtain ⟨d0, d1, d2, _, _, _⟩ := HAq.out.cells
                replace e3 : Hid _ := e3
                clear e4 e5 e6
                go_wp2_with (at_builtin; refine Lib.wpList_append_run _ rfl _ _ _ _ rfl _ _ rfl rfl _ _ e3.out ?_)
                go_at_call 14
                refine HOf.out.mono ?_
                rintro e X4 ⟨bx, h5⟩
                rcases h5 with ⟨_, P2, B2, rfl, hS⟩ | ⟨h5, _⟩
                · have HS4 : Hid (Se X4 w3.heap.size P2 B2 (L ++ [o])) := hS
                  have HS5 : Hid (Se X4 lo P B L) := HS3.out.below bx
                  have HA4 : Hid (OB X4 a o) := HA3.out.below bx
                  have HB4 : Hid (Below w.heap.size w X4) := HB3.out.trans (bx.mono HB3.out.size)
                  generalize w3.heap.size = lo2 at HS4
                  obtain ⟨SQ, hSQ⟩ : ∃ SP, spS o 0 true = SP := ⟨_, rfl⟩
                  have HSQ : Hid (spS o 0 true = SQ ∧ SQ.size ≤ 300) := ⟨hSQ, by rw [← hSQ]; unfold spS; rw [bt_size]; exact spL_len HRT.out 0 true⟩
                  have HSpQ : Hid (∀ W, Calls Tryd.prog 13 #[.agg #[.string o.s, .string o.h, .int .i64 o.p], .int .u64 0, .bool true] W fun e w' => e = .returned (.string SQ) ∧ Below W.heap.size W w') := fun W => by rw [← hSQ]; exact sp_any o 0 true W (by omega) (by omega) HRT.out
                  have HH1 : Hid (∀ W, Below X4.heap.size X4 W → Calls Tryd.prog 15 #[.pointer (some ⟨P2, 0, none⟩), .string o.s, .string SO] W fun e w' => e = .returned (.bool true) ∧ Below W.heap.size W w') := fun W hW => by
                    have h1 := has_any lo2 P2 B2 (L ++ [o]) o.s SO W ((HE.out.below HB4.out).below hW) (HS4.out.below hW) (by have := HSO.out.2; omega)
                    rw [← HSO.out.1, hs_spelt HRT.out, any_iff.2 (by simp), HSO.out.1] at h1
                    exact h1
                  have HH2 : Hid (∀ W, Below X4.heap.size X4 W → Calls Tryd.prog 15 #[.pointer (some ⟨P, 0, none⟩), .string o.s, .string SQ] W fun e w' => e = .returned (.bool false) ∧ Below W.heap.size W w') := fun W hW => by
                    have h1 := has_any lo P B L o.s SQ W ((HE.out.below HB4.out).below hW) (HS5.out.below hW) (by have := HSQ.out.2; omega)
                    rw [← HSQ.out.1, hs_spelt HRT.out, HD.out.2.2.2, HSQ.out.1] at h1
                    exact h1
                  clear hS bx hSQ d0 d1 d2
                  go_wp2_with fail
                  have hS30 : Hid (∀ V, Below X4.heap.size X4 V → V.cell? ⟨a, 0, none⟩ = some (.string o.s) ∧ V.cell? ⟨a, 1, none⟩ = some (.string o.h) ∧ V.cell? ⟨a, 2, none⟩ = some (.int .i64 o.p)) := fun V hV => ⟨(HA4.out.below hV).cells.c0, (HA4.out.below hV).cells.c1, (HA4.out.below hV).cells.c2⟩
                  have hIW : Below X4.heap.size X4 X4.drew := (Below.refl _ _).drew
                  refine wp_region_held_drew (S := (fun V => V.cell? ⟨a, 0, none⟩ = some (.string o.s) ∧ V.cell? ⟨a, 1, none⟩ = some (.string o.h) ∧ V.cell? ⟨a, 2, none⟩ = some (.int .i64 o.p))) (by kernel_rfl) (hS30.out _ hIW) (fun hHeld => ?_)
                  generalize hWg : World.drew _ = W at hIW hHeld ⊢
                  clear hWg
                  refine wpAnyH_take (i := 0) (oi := { dst := some 146, op := Op.move (Operand.tmp 20), type := 36, pos := "outright.go:113", after := #[], guard := none }) (v := ?vv137) rfl (by kernel_rfl) (by kernel_rfl) (by kernel_rfl) (fun _ _ _ h => h) (Or.inl ⟨by rfl, ?hy137⟩) (by assumption) ?_
                  case hy137 => (intro w hSw; (try dsimp only at hSw); go_simp; all_goals with_reducible rfl)
                  try simp only [Act.put, List.setIfInBounds_toArray, List.set_cons_zero, List.set_cons_succ]
                  refine wpAnyH_take (i := 1) (oi := { dst := some 147, op := Op.binOp BinOp.neq 36 (Operand.tmp 146) (Operand.const (Value.pointer none)) 36, type := 4, pos := "outright.go:113", after := #[{ on := 0, ground := Ground.data }], guard := none }) (v := ?vv138) rfl (by kernel_rfl) (by kernel_rfl) (by kernel_rfl) (fun _ _ _ h => h) (Or.inl ⟨by rfl, ?hy138⟩) (by assumption) ?_
                  case hy138 => (intro w hSw; (try dsimp only at hSw); go_simp; all_goals with_reducible rfl)
                  try simp only [Act.put, List.setIfInBounds_toArray, List.set_cons_zero, List.set_cons_succ]
                  refine wpAnyH_take (i := 2) (oi := { dst := some 148, op := Op.move (Operand.tmp 147), type := 4, pos := "outright.go:113", after := #[{ on := 1, ground := Ground.data }], guard := none }) (v := ?vv139) rfl (by kernel_rfl) (by kernel_rfl) (by kernel_rfl) (fun _ _ _ h => h) (Or.inl ⟨by rfl, ?hy139⟩) (by assumption) ?_
                  case hy139 => (intro w hSw; (try dsimp only at hSw); go_simp; all_goals with_reducible rfl)
                  try simp only [Act.put, List.setIfInBounds_toArray, List.set_cons_zero, List.set_cons_succ]
                  refine wpAnyH_take (i := 3) (oi := { dst := some 149, op := Op.move (Operand.tmp 21), type := 27, pos := "outright.go:113", after := #[{ on := 2, ground := Ground.guard }], guard := some (2, true) }) (v := ?vv140) rfl (by kernel_rfl) (by kernel_rfl) (by kernel_rfl) (fun _ _ _ h => h) (Or.inl ⟨by rfl, ?hy140⟩) (by assumption) ?_
                  case hy140 => (intro w hSw; (try dsimp only at hSw); go_simp; all_goals with_reducible rfl)
                  try simp only [Act.put, List.setIfInBounds_toArray, List.set_cons_zero, List.set_cons_succ]
                  refine wpAnyH_take (i := 4) (oi := { dst := some 150, op := Op.binOp BinOp.eql 27 (Operand.tmp 149) (Operand.const (Value.int IntKind.i64 0)) 27, type := 4, pos := "outright.go:113", after := #[{ on := 3, ground := Ground.data }, { on := 2, ground := Ground.guard }], guard := some (2, true) }) (v := ?vv141) rfl (by kernel_rfl) (by kernel_rfl) (by kernel_rfl) (fun _ _ _ h => h) (Or.inl ⟨by rfl, ?hy141⟩) (by assumption) ?_
                  case hy141 => (intro w hSw; (try dsimp only at hSw); go_simp; all_goals with_reducible rfl)
                  try simp only [Act.put, List.setIfInBounds_toArray, List.set_cons_zero, List.set_cons_succ]
                  refine wpAnyH_take (i := 5) (oi := { dst := some 151, op := Op.pick (Operand.tmp 148) (Operand.tmp 150) (Operand.const (Value.bool false)), type := 4, pos := "outright.go:113", after := #[{ on := 2, ground := Ground.data }, { on := 4, ground := Ground.data }], guard := none }) (v := ?vv142) rfl (by kernel_rfl) (by kernel_rfl) (by kernel_rfl) (fun _ _ _ h => h) (Or.inl ⟨by rfl, ?hy142⟩) (by assumption) ?_
                  case hy142 => (intro w hSw; (try dsimp only at hSw); go_simp; all_goals with_reducible rfl)
                  try simp only [Act.put, List.setIfInBounds_toArray, List.set_cons_zero, List.set_cons_succ]
                  refine wpAnyH_take (i := 6) (oi := { dst := some 152, op := Op.move (Operand.tmp 151), type := 4, pos := "outright.go:113", after := #[{ on := 5, ground := Ground.data }, { on := 2, ground := Ground.chain }], guard := none }) (v := ?vv143) rfl (by kernel_rfl) (by kernel_rfl) (by kernel_rfl) (fun _ _ _ h => h) (Or.inl ⟨by rfl, ?hy143⟩) (by assumption) ?_
                  case hy143 => (intro w hSw; (try dsimp only at hSw); go_simp; all_goals with_reducible rfl)
                  try simp only [Act.put, List.setIfInBounds_toArray, List.set_cons_zero, List.set_cons_succ]
                  refine wpAnyH_take (i := 7) (oi := { dst := some 153, op := Op.move (Operand.tmp 20), type := 36, pos := "outright.go:113", after := #[{ on := 6, ground := Ground.guard }], guard := some (6, true) }) (v := ?vv144) rfl (by kernel_rfl) (by kernel_rfl) (by kernel_rfl) (fun _ _ _ h => h) (Or.inl ⟨by rfl, ?hy144⟩) (by assumption) ?_
                  case hy144 => (intro w hSw; (try dsimp only at hSw); go_simp; all_goals with_reducible rfl)
                  try simp only [Act.put, List.setIfInBounds_toArray, List.set_cons_zero, List.set_cons_succ]
                  refine wpAnyH_take (i := 8) (oi := { dst := some 154, op := Op.fieldAddr 23 (Operand.tmp 9) 0, type := 0, pos := "outright.go:113", after := #[{ on := 6, ground := Ground.guard }], guard := some (6, true) }) (v := ?vv145) rfl (by kernel_rfl) (by kernel_rfl) (by kernel_rfl) (fun _ _ _ h => h) (Or.inl ⟨by rfl, ?hy145⟩) (by assumption) ?_
                  case hy145 => (intro w hSw; (try dsimp only at hSw); go_simp; all_goals with_reducible rfl)
                  try simp only [Act.put, List.setIfInBounds_toArray, List.set_cons_zero, List.set_cons_succ]
                  refine wpAnyH_take (i := 9) (oi := { dst := some 155, op := Op.load 9 (Operand.tmp 154), type := 9, pos := "outright.go:113", after := #[{ on := 8, ground := Ground.data }, { on := 6, ground := Ground.guard }], guard := some (6, true) }) (v := ?vv146) rfl (by kernel_rfl) (by kernel_rfl) (by kernel_rfl) (fun _ _ _ h => h) (Or.inl ⟨by rfl, ?hy146⟩) (by assumption) ?_
                  case hy146 => (intro w hSw; (try dsimp only at hSw); go_simp; all_goals with_reducible rfl)
                  try simp only [Act.put, List.setIfInBounds_toArray, List.set_cons_zero, List.set_cons_succ]
                  refine wpAnyH_take (i := 10) (oi := { dst := some 156, op := Op.load 23 (Operand.tmp 9), type := 23, pos := "outright.go:113", after := #[{ on := 6, ground := Ground.guard }], guard := some (6, true) }) (v := ?vv147) rfl (by kernel_rfl) (by kernel_rfl) (by kernel_rfl) (fun _ _ _ h => h) (Or.inl ⟨by rfl, ?hy147⟩) (by assumption) ?_
                  case hy147 => (intro w hSw; (try dsimp only at hSw); go_simp; all_goals with_reducible rfl)
                  try simp only [Act.put, List.setIfInBounds_toArray, List.set_cons_zero, List.set_cons_succ]
                  refine wpAnyH_take (i := 11) (oi := { dst := some 157, op := Op.move (Operand.tmp 2), type := 24, pos := "outright.go:113", after := #[{ on := 6, ground := Ground.guard }], guard := some (6, true) }) (v := ?vv148) rfl (by kernel_rfl) (by kernel_rfl) (by kernel_rfl) (fun _ _ _ h => h) (Or.inl ⟨by rfl, ?hy148⟩) (by assumption) ?_
                  case hy148 => (intro w hSw; (try dsimp only at hSw); go_simp; all_goals with_reducible rfl)
                  try simp only [Act.put, List.setIfInBounds_toArray, List.set_cons_zero, List.set_cons_succ]
                  refine wpAnyH_take (i := 12) (oi := { dst := some 158, op := Op.move (Operand.tmp 3), type := 4, pos := "outright.go:113", after := #[{ on := 6, ground := Ground.guard }], guard := some (6, true) }) (v := ?vv149) rfl (by kernel_rfl) (by kernel_rfl) (by kernel_rfl) (fun _ _ _ h => h) (Or.inl ⟨by rfl, ?hy149⟩) (by assumption) ?_
                  case hy149 => (intro w hSw; (try dsimp only at hSw); go_simp; all_goals with_reducible rfl)
                  try simp only [Act.put, List.setIfInBounds_toArray, List.set_cons_zero, List.set_cons_succ]
                  refine wpAnyH_ready (rs := [13]) (by kernel_rfl) (by simp) ?_
                  refine AllReadyH.cons (o := { dst := some 159, op := Op.call { callee := Callee.value (Operand.func 13), args := #[Operand.tmp 156, Operand.tmp 157, Operand.tmp 158], argTypes := #[23, 24, 4] }, type := 9, pos := "outright.go:113", after := #[{ on := 10, ground := Ground.data }, { on := 11, ground := Ground.data }, { on := 12, ground := Ground.data }, { on := 6, ground := Ground.chain }, { on := 6, ground := Ground.guard }], guard := some (6, true) }) rfl (fun K hK => ?_) AllReadyH.nil
                  go_simp
                  refine (HSpO.out _).mono ?_
                  rintro e' Wx ⟨rfl, bX⟩
                  have hWx : Below X4.heap.size X4 Wx := hIW.trans (bX.mono hIW.size)
                  clear bX
                  go_wp2_with fail
                  refine hK.out _ _ (hS30.out _ hWx) (fun hHeld => ?_)
                  clear hK K
                  try simp only [Act.put, List.setIfInBounds_toArray, List.set_cons_zero, List.set_cons_succ]
                  refine wpAnyH_ready (rs := [14]) (by kernel_rfl) (by simp) ?_
                  refine AllReadyH.cons (o := { dst := some 160, op := Op.call { callee := Callee.value (Operand.func 15), args := #[Operand.tmp 153, Operand.tmp 155, Operand.tmp 159], argTypes := #[36, 9, 9] }, type := 4, pos := "outright.go:113", after := #[{ on := 7, ground := Ground.data }, { on := 9, ground := Ground.data }, { on := 13, ground := Ground.data }, { on := 13, ground := Ground.chain }, { on := 6, ground := Ground.guard }], guard := some (6, true) }) rfl (fun K hK => ?_) AllReadyH.nil
                  go_simp
                  refine (HH1.out _ hWx).mono ?_
                  rintro e' Wxx ⟨rfl, bX⟩
                  have hWxx : Below X4.heap.size X4 Wxx := hWx.trans (bX.mono hWx.size)
                  clear bX
                  go_wp2_with fail
                  refine hK.out _ _ (hS30.out _ hWxx) (fun hHeld => ?_)
                  clear hK K
                  try simp only [Act.put, List.setIfInBounds_toArray, List.set_cons_zero, List.set_cons_succ]
                  refine wpAnyH_take (i := 15) (oi := { dst := some 161, op := Op.pick (Operand.tmp 152) (Operand.tmp 160) (Operand.const (Value.bool false)), type := 4, pos := "outright.go:113", after := #[{ on := 6, ground := Ground.data }, { on := 14, ground := Ground.data }], guard := none }) (v := ?vv150) rfl (by kernel_rfl) (by kernel_rfl) (by kernel_rfl) (fun _ _ _ h => h) (Or.inl ⟨by rfl, ?hy150⟩) (by assumption) ?_
                  case hy150 => (intro w hSw; (try dsimp only at hSw); go_simp; all_goals with_reducible rfl)
                  try simp only [Act.put, List.setIfInBounds_toArray, List.set_cons_zero, List.set_cons_succ]
                  refine wpAnyH_take (i := 16) (oi := { dst := some 162, op := Op.move (Operand.tmp 161), type := 4, pos := "outright.go:113", after := #[{ on := 15, ground := Ground.data }, { on := 14, ground := Ground.chain }], guard := none }) (v := ?vv151) rfl (by kernel_rfl) (by kernel_rfl) (by kernel_rfl) (fun _ _ _ h => h) (Or.inl ⟨by rfl, ?hy151⟩) (by assumption) ?_
                  case hy151 => (intro w hSw; (try dsimp only at hSw); go_simp; all_goals with_reducible rfl)
                  try simp only [Act.put, List.setIfInBounds_toArray, List.set_cons_zero, List.set_cons_succ]
                  refine wpAnyH_take (i := 17) (oi := { dst := some 163, op := Op.move (Operand.tmp 16), type := 36, pos := "outright.go:113", after := #[{ on := 16, ground := Ground.guard }], guard := some (16, true) }) (v := ?vv152) rfl (by kernel_rfl) (by kernel_rfl) (by kernel_rfl) (fun _ _ _ h => h) (Or.inl ⟨by rfl, ?hy152⟩) (by assumption) ?_
                  case hy152 => (intro w hSw; (try dsimp only at hSw); go_simp; all_goals with_reducible rfl)
                  try simp only [Act.put, List.setIfInBounds_toArray, List.set_cons_zero, List.set_cons_succ]
                  refine wpAnyH_take (i := 18) (oi := { dst := some 164, op := Op.fieldAddr 23 (Operand.tmp 9) 0, type := 0, pos := "outright.go:113", after := #[{ on := 16, ground := Ground.guard }], guard := some (16, true) }) (v := ?vv153) rfl (by kernel_rfl) (by kernel_rfl) (by kernel_rfl) (fun _ _ _ h => h) (Or.inl ⟨by rfl, ?hy153⟩) (by assumption) ?_
                  case hy153 => (intro w hSw; (try dsimp only at hSw); go_simp; all_goals with_reducible rfl)
                  try simp only [Act.put, List.setIfInBounds_toArray, List.set_cons_zero, List.set_cons_succ]
                  refine wpAnyH_take (i := 19) (oi := { dst := some 165, op := Op.load 9 (Operand.tmp 164), type := 9, pos := "outright.go:113", after := #[{ on := 18, ground := Ground.data }, { on := 16, ground := Ground.guard }], guard := some (16, true) }) (v := ?vv154) rfl (by kernel_rfl) (by kernel_rfl) (by kernel_rfl) (fun _ _ _ h => h) (Or.inl ⟨by rfl, ?hy154⟩) (by assumption) ?_
                  case hy154 => (intro w hSw; (try dsimp only at hSw); go_simp; all_goals with_reducible rfl)
                  try simp only [Act.put, List.setIfInBounds_toArray, List.set_cons_zero, List.set_cons_succ]
                  refine wpAnyH_take (i := 20) (oi := { dst := some 166, op := Op.load 23 (Operand.tmp 9), type := 23, pos := "outright.go:113", after := #[{ on := 16, ground := Ground.guard }], guard := some (16, true) }) (v := ?vv155) rfl (by kernel_rfl) (by kernel_rfl) (by kernel_rfl) (fun _ _ _ h => h) (Or.inl ⟨by rfl, ?hy155⟩) (by assumption) ?_
                  case hy155 => (intro w hSw; (try dsimp only at hSw); go_simp; all_goals with_reducible rfl)
                  try simp only [Act.put, List.setIfInBounds_toArray, List.set_cons_zero, List.set_cons_succ]
                  refine wpAnyH_ready (rs := [21]) (by kernel_rfl) (by simp) ?_
                  refine AllReadyH.cons (o := { dst := some 167, op := Op.call { callee := Callee.value (Operand.func 13), args := #[Operand.tmp 166, Operand.const (Value.int IntKind.u64 0), Operand.const (Value.bool true)], argTypes := #[23, 24, 4] }, type := 9, pos := "outright.go:113", after := #[{ on := 20, ground := Ground.data }, { on := 16, ground := Ground.chain }, { on := 16, ground := Ground.guard }], guard := some (16, true) }) rfl (fun K hK => ?_) AllReadyH.nil
                  go_simp
                  refine (HSpQ.out _).mono ?_
                  rintro e' Wxxx ⟨rfl, bX⟩
                  have hWxxx : Below X4.heap.size X4 Wxxx := hWxx.trans (bX.mono hWxx.size)
                  clear bX
                  go_wp2_with fail
                  refine hK.out _ _ (hS30.out _ hWxxx) (fun hHeld => ?_)
                  clear hK K
                  try simp only [Act.put, List.setIfInBounds_toArray, List.set_cons_zero, List.set_cons_succ]
                  refine wpAnyH_ready (rs := [22]) (by kernel_rfl) (by simp) ?_
                  refine AllReadyH.cons (o := { dst := some 168, op := Op.call { callee := Callee.value (Operand.func 15), args := #[Operand.tmp 163, Operand.tmp 165, Operand.tmp 167], argTypes := #[36, 9, 9] }, type := 4, pos := "outright.go:113", after := #[{ on := 17, ground := Ground.data }, { on := 19, ground := Ground.data }, { on := 21, ground := Ground.data }, { on := 21, ground := Ground.chain }, { on := 16, ground := Ground.guard }], guard := some (16, true) }) rfl (fun K hK => ?_) AllReadyH.nil
                  go_simp
                  refine (HH2.out _ hWxxx).mono ?_
                  rintro e' Wxxxx ⟨rfl, bX⟩
                  have hWxxxx : Below X4.heap.size X4 Wxxxx := hWxxx.trans (bX.mono hWxxx.size)
                  clear bX
                  go_wp2_with fail
                  refine hK.out _ _ (hS30.out _ hWxxxx) (fun hHeld => ?_)
                  clear hK K
                  try simp only [Act.put, List.setIfInBounds_toArray, List.set_cons_zero, List.set_cons_succ]
                  refine wpAnyH_take (i := 23) (oi := { dst := some 169, op := Op.unOp UnOp.not 4 (Operand.tmp 168), type := 4, pos := "outright.go:113", after := #[{ on := 22, ground := Ground.data }, { on := 16, ground := Ground.guard }], guard := some (16, true) }) (v := ?vv156) rfl (by kernel_rfl) (by kernel_rfl) (by kernel_rfl) (fun _ _ _ h => h) (Or.inl ⟨by rfl, ?hy156⟩) (by assumption) ?_
                  case hy156 => (intro w hSw; (try dsimp only at hSw); go_simp; all_goals with_reducible rfl)
                  try simp only [Act.put, List.setIfInBounds_toArray, List.set_cons_zero, List.set_cons_succ]
                  refine wpAnyH_take (i := 24) (oi := { dst := some 170, op := Op.pick (Operand.tmp 162) (Operand.tmp 169) (Operand.const (Value.bool false)), type := 4, pos := "outright.go:113", after := #[{ on := 16, ground := Ground.data }, { on := 23, ground := Ground.data }], guard := none }) (v := ?vv157) rfl (by kernel_rfl) (by kernel_rfl) (by kernel_rfl) (fun _ _ _ h => h) (Or.inl ⟨by rfl, ?hy157⟩) (by assumption) ?_
                  case hy157 => (intro w hSw; (try dsimp only at hSw); go_simp; all_goals with_reducible rfl)
                  try simp only [Act.put, List.setIfInBounds_toArray, List.set_cons_zero, List.set_cons_succ]
                  refine wpAnyH_take (i := 25) (oi := { dst := some 8, op := Op.assign (Operand.tmp 170), type := 4, pos := "outright.go:113", after := #[{ on := 24, ground := Ground.data }, { on := 22, ground := Ground.chain }, { on := 0, ground := Ground.phase }, { on := 1, ground := Ground.phase }, { on := 2, ground := Ground.phase }, { on := 3, ground := Ground.phase }, { on := 4, ground := Ground.phase }, { on := 5, ground := Ground.phase }, { on := 6, ground := Ground.phase }, { on := 7, ground := Ground.phase }, { on := 8, ground := Ground.phase }, { on := 9, ground := Ground.phase }, { on := 10, ground := Ground.phase }, { on := 11, ground := Ground.phase }, { on := 12, ground := Ground.phase }, { on := 13, ground := Ground.phase }, { on := 14, ground := Ground.phase }, { on := 15, ground := Ground.phase }, { on := 16, ground := Ground.phase }, { on := 17, ground := Ground.phase }, { on := 18, ground := Ground.phase }, { on := 19, ground := Ground.phase }, { on := 20, ground := Ground.phase }, { on := 21, ground := Ground.phase }, { on := 22, ground := Ground.phase }, { on := 23, ground := Ground.phase }, { on := 24, ground := Ground.phase }], guard := none }) (v := ?vv158) rfl (by kernel_rfl) (by kernel_rfl) (by kernel_rfl) (fun _ _ _ h => h) (Or.inl ⟨by rfl, ?hy158⟩) (by assumption) ?_
                  case hy158 => (intro w hSw; (try dsimp only at hSw); go_simp; all_goals with_reducible rfl)
                  try simp only [Act.put, List.setIfInBounds_toArray, List.set_cons_zero, List.set_cons_succ]
                  refine wpAnyH_done (by kernel_rfl) ?_ _
                  have HBz : Hid (Below w.heap.size w Wxxxx) := HB4.out.trans (hWxxxx.mono HB4.out.size)
                  clear hHeld
                  go_wp2_with fail
                  go_ret
                  exact ⟨by first | rfl | simp, HBz.out⟩
                · exact absurd HOE.out h5
              · have HBz : Hid (Below w.heap.size w wr) := HB1.out.trans (hbq.out.mono HB1.out.size)
                go_wp2_with fail
                go_ret
                exact ⟨rfl, HBz.out⟩
        · exact absurd HOE.out h5
end Go.Proofs.YtbifmikndpeafaaDoor
