/- same of equal lists; the document's Has. -/
import Derived.Test.YtbifmikndpeafaaDoorE2
import Derived.Test.YtbifmikndpeafaaDoorK1
namespace Go.Proofs.YtbifmikndpeafaaDoor
open Go.RowKit Go.Maps
set_option linter.unusedVariables false
set_option linter.unusedSimpArgs false
set_option maxHeartbeats 4000000 in
set_option maxRecDepth 100000 in
theorem same_eq (x y : SV) (l : List Og) (w : World) (hx : In EO w (sv x) l) (hy : In EO w (sv y) l) : Calls Tryd.prog 20 #[sv x, sv y] w fun e w' => e = .returned (.bool true) ∧ Below w.heap.size w w' := by
  have HX : Hid (In EO w (sv x) l) := hx
  have HY : Hid (In EO w (sv y) l) := hy
  obtain ⟨b, c, e, m1, m2⟩ := hx.slice
  obtain ⟨b', c', e', m1', m2'⟩ := hy.slice
  obtain ⟨x1, x2, x3⟩ := x
  obtain ⟨y1, y2, y3⟩ := y
  simp only [sv] at e e' HX HY ⊢
  injection e with e1 e2 e3
  subst e1 e2 e3
  injection e' with e1 e2 e3
  subst e1 e3
  rw [e2] at HY ⊢
  clear hx hy e2
  obtain ⟨k, hk⟩ : ∃ k, l.length = k := ⟨_, rfl⟩
  have HK : Hid (l.length = k) := hk
  rw [hk] at HX HY m1 m1' ⊢
  clear hk
  go_enter Tryd.func20, Tryd.ntmps20
  go_wp2_with fail
  go_loopw [5] (fun iv wr => ∃ i : Nat, iv = .int .i64 (i : Int) ∧ i ≤ k ∧ Hid (Below w.heap.size w wr)) (fun iv _ => k - (intOf iv).toNat)
  case atStart => exact ⟨0, rfl, by omega, Below.refl _ _⟩
  case round =>
    obtain ⟨i, rfl, hi, hb⟩ := hrel
    by_cases hlt : i < k
    · have a1 : (i : Int) < (k : Int) := by omega
      have HiL : Hid (i < l.length) := by rw [HK.out]; exact hlt
      obtain ⟨B1, o1, c1, e1, _, h1⟩ := HX.out.og i HiL.out
      obtain ⟨B2, o2, c2, e2, _, h2⟩ := HY.out.og i HiL.out
      injection e1 with e11 e12 e13
      clear e12 e13
      subst e11
      injection e2 with e21 e22 e23
      clear e22 e23
      subst e21
      obtain ⟨p0, p1, p2⟩ := h1 wr hb.out
      obtain ⟨q0, q1, q2⟩ := h2 wr hb.out
      obtain ⟨z, hz⟩ : ∃ z, l[i]'HiL.out = z := ⟨_, rfl⟩
      rw [hz] at p0 p1 p2 q0 q1 q2
      have hnq := neq_og z z
      rw [ogD_self] at hnq
      simp only [Bool.not_true] at hnq
      have HBn : Hid (∀ n', Below w.heap.size w (wr.drewN n')) := fun n' => below_drewN hb.out n'
      clear h1 h2 hz
      go_wp2_with fail
      go_quiet (fail)
      go_wp2_with fail
      go_roundw
      case rel => exact ⟨i + 1, by simp, by omega, HBn.out _⟩
      case measure => first | (simp [intOf]; done) | (simp [intOf]; omega)
    · obtain rfl : i = k := by omega
      have a1 : ¬ (i : Int) < (i : Int) := by omega
      go_wp2_with fail
      go_ret
      exact ⟨rfl, hb.out⟩
/-- the document's set in memory -/
structure Sd (w : World) (p : Nat) (v : SV) (L : List Og) : Prop where
  hp : w.heap[p]? = some (.cells #[sv v] 65 (0, 0))
  row : R EO w (sv v) L
  ne : ∀ j, (sv v).ownBlock = some j → j ≠ p
theorem Sd.keep {w w' : World} {p : Nat} {v : SV} {L : List Og} (h : Sd w p v L) (hk : ∀ k, k = p ∨ (sv v).ownBlock = some k → k < w.heap.size → w'.heap[k]? = w.heap[k]?) : Sd w' p v L :=
  ⟨(hk p (.inl rfl) (heap_lt h.hp)).trans h.hp, h.row.stays fun k hk' hl => hk k (.inr hk') hl, h.ne⟩
theorem Sd.below {w w' : World} {p : Nat} {v : SV} {L : List Og} (h : Sd w p v L) (hb : Below w.heap.size w w') : Sd w' p v L := h.keep fun k _ hl => hb.block k hl
set_option maxHeartbeats 4000000 in
set_option maxRecDepth 100000 in
theorem rhas_any (p : Nat) (v : SV) (L : List Og) (sc au : ByteArray) (w : World) (hS : Sd w p v L) (hL : L.length ≤ 16) (h2 : au.size ≤ 140737488351232) : Calls Tryd.prog 21 #[.pointer (some ⟨p, 0, none⟩), .string sc, .string au] w fun e w' => e = .returned (.bool (hsB L sc au)) ∧ Below w.heap.size w w' := by
  have HS : Hid (Sd w p v L) := hS
  obtain ⟨O, hO⟩ : ∃ O, mnO sc au = O := ⟨_, rfl⟩
  obtain ⟨G, hG⟩ : ∃ G, mnB sc au = G := ⟨_, rfl⟩
  have HSp : Hid (Calls Tryd.prog 32 #[.string sc, .string au] w fun e w' => e = .returned (.tuple #[.agg #[.string O.s, .string O.h, .int .i64 O.p], .bool G]) ∧ Below w.heap.size w w') := by
    have := spelt_any sc au w h2
    unfold mnV ogv at this
    rw [hO, hG] at this
    exact this
  have HH : Hid (hsB L sc au = (G && L.any (ogD O))) := by show _ = _; unfold hsB; rw [hO, hG]
  rw [HH.out]
  obtain ⟨b, c, e, m1, m2⟩ := hS.row.slice
  obtain ⟨v1, v2, v3⟩ := v
  simp only [sv] at e
  injection e with e1 e2 e3
  subst e1 e2 e3
  obtain ⟨k, hk⟩ : ∃ k, L.length = k := ⟨_, rfl⟩
  have HK : Hid (L.length = k) := hk
  have hk16 : k ≤ 16 := by rw [← hk]; exact hL
  clear hS hO hG h2
  go_enter Tryd.func21, Tryd.ntmps21
  go_wp2_with fail
  go_at_call 32
  refine HSp.out.mono ?_
  rintro e W1 ⟨rfl, b1⟩
  go_wp2_with fail
  obtain ⟨g, hg⟩ : ∃ g, W1.heap.size = g := ⟨_, rfl⟩
  obtain ⟨Y, hY⟩ : ∃ V, W1.alloc (.cells #[.string O.s, .string O.h, .int .i64 O.p] 23) = V := ⟨_, rfl⟩
  have HG : Hid (OB Y g O) := by show OB _ _ _; rw [← hY, ← hg]; unfold OB; rw [heap_al, if_pos rfl]; rfl
  have HSY : Hid (Sd Y p (v1, L.length, v3) L) := by rw [← hY]; exact (HS.out.below b1).below (bel1 _ _)
  have HBY : Hid (Below w.heap.size w Y) := by rw [← hY]; exact b1.trans ((bel1 _ _).mono b1.size)
  rw [hY, hg]
  clear hY hg b1
  rw [hk] at HSY
  clear hk
  go_loopw [9] (fun iv wr => ∃ q : Nat, iv = .int .i64 (q : Int) ∧ q ≤ k ∧ Hid ((G = true → (L.take q).any (fun z => ogD z O) = false) ∧ Below Y.heap.size Y wr)) (fun iv _ => k - (intOf iv).toNat)
  case atStart => exact ⟨0, rfl, by omega, fun _ => rfl, Below.refl _ _⟩
  case round =>
    obtain ⟨q, rfl, hq, hJ⟩ := hrel
    have SW : Hid (Sd wr p (v1, k, v3) L) := HSY.out.below hJ.out.2
    have dp : wr.cell? ⟨p, 0, none⟩ = some (.slice v1 k v3) := cell_blk SW.out.hp 0
    have HBn : Hid (∀ n', Below Y.heap.size Y (wr.drewN n')) := fun n' => below_drewN hJ.out.2 n'
    have HBr : Hid (Below w.heap.size w wr) := HBY.out.trans (hJ.out.2.mono HBY.out.size)
    by_cases hqk : q < k
    · have a1 : (q : Int) < (k : Int) := by omega
      cases G
      · go_wp2_with fail
        go_ret
        exact ⟨rfl, HBr.out⟩
      · have HqL : Hid (q < L.length) := by rw [HK.out]; exact hqk
        obtain ⟨B1, o1, c1, e1, _, h1⟩ := SW.out.row.isIn.og q HqL.out
        simp only [sv] at e1
        injection e1 with e11 e12 e13
        clear e12 e13
        subst e11
        obtain ⟨p0, p1, p2⟩ := h1 wr (Below.refl _ _)
        obtain ⟨z, hz⟩ : ∃ z, L[q]'HqL.out = z := ⟨_, rfl⟩
        rw [hz] at p0 p1 p2
        have OW : Hid (OB wr g O) := HG.out.below hJ.out.2
        obtain ⟨d0, d1, d2, _, _, _⟩ := OW.out.cells
        have hql := eql_og z O
        have HST : Hid ((L.take (q + 1)).any (fun z => ogD z O) = ((L.take q).any (fun z => ogD z O) || ogD z O)) := by
          show _ = _
          rw [List.take_succ_eq_append_getElem HqL.out, hz, List.any_append]
          simp
        have HZm : Hid (z ∈ L) := by rw [← hz]; exact List.getElem_mem _
        have HJ1 : Hid ((L.take q).any (fun z => ogD z O) = false) := hJ.out.1 rfl
        obtain ⟨δ, hδ⟩ : ∃ δ, ogD z O = δ := ⟨_, rfl⟩
        have HD : Hid (ogD z O = δ) := hδ
        rw [hδ] at hql HST
        clear h1 hz hδ hJ
        cases δ
        · go_wp2_with fail
          go_quiet (fail)
          go_wp2_with fail
          go_roundw
          case rel => exact ⟨q + 1, by simp, by omega, fun _ => by rw [HST.out, HJ1.out]; rfl, HBn.out _⟩
          case measure => first | (simp [intOf]; done) | (simp [intOf]; omega)
        · have HBr2 : Hid (∀ n', Below w.heap.size w (wr.drewN n')) := fun n' => below_drewN HBr.out n'
          have HAn : Hid (L.any (ogD O) = true) := by
            have := ogD_iff.1 HD.out
            rw [this] at HZm
            exact any_iff.2 HZm.out
          go_wp2_with fail
          go_quiet (fail)
          go_wp2_with fail
          go_ret
          exact ⟨by rw [HAn.out]; rfl, HBr2.out _⟩
    · obtain rfl : q = k := by omega
      have a1 : ¬ (q : Int) < (q : Int) := by omega
      have HF : Hid ((G && L.any (ogD O)) = false) := by
        show _ = _
        cases G
        · rfl
        · have := hJ.out.1 rfl
          rw [← HK.out, List.take_length] at this
          have h3 : L.any (fun z => ogD z O) = L.any (ogD O) := by
            congr 1
            funext z
            rw [Bool.eq_iff_iff, ogD_iff, ogD_iff]
            exact ⟨Eq.symm, Eq.symm⟩
          rw [← h3, this]
          rfl
      clear hJ
      go_wp2_with fail
      go_ret
      exact ⟨by rw [HF.out]; rfl, HBr.out⟩
end Go.Proofs.YtbifmikndpeafaaDoor
