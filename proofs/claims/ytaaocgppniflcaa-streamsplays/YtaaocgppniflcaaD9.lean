/- The document's Live, walked. -/
import Derived.Test.YtaaocgppniflcaaD8
import Derived.Test.YtaaocgppniflcaaP8
import Derived.Test.YtaaocgppniflcaaK5
import Derived.BigQuiet
import Derived.Deep.QuietTactic
namespace Go.Proofs.Ytaaocgppniflcaa
open Go.RowKit Go.Maps
set_option linter.unusedVariables false
set_option linter.unusedSimpArgs false

/-- a slice of a slice -/
theorem In.take {α : Type} {E : El α} {w : World} {B off n cap : Nat} {l : List α} (h : In E w (.slice (some ⟨B, off, none⟩) n cap) l) (k : Nat) (hk : k ≤ l.length) : In E w (.slice (some ⟨B, off, none⟩) k cap) (l.take k) := by
  rcases h with ⟨h, _⟩ | ⟨a, cap', e, h1, h2, h3⟩
  · cases h
  · injection e with e1 e2 e3
    injection e1 with e1
    subst e1
    subst e3
    refine .inr ⟨_, cap, by rw [List.length_take, Nat.min_eq_left hk], by rw [List.length_take]; omega, h2, fun j u hu => h3 j u ?_⟩
    have e : E.cs l = E.cs (l.take k) ++ E.cs (l.drop k) := by rw [← El.cs_append, List.take_append_drop]
    rw [e, List.getElem?_append_left (List.getElem?_eq_some_iff.1 hu).1]
    exact hu
theorem In.drop {α : Type} {E : El α} (ok : E.Ok) {w : World} {B off n cap : Nat} {l : List α} (h : In E w (.slice (some ⟨B, off, none⟩) n cap) l) (k : Nat) (hk : k ≤ l.length) :
    (cap ≠ k → In E w (.slice (some ⟨B, off + k * E.sz, none⟩) (l.length - k) (cap - k)) (l.drop k)) ∧ (cap = k → In E w (.slice (some ⟨B, off, none⟩) (l.length - k) (cap - k)) (l.drop k)) := by
  rcases h with ⟨h, _⟩ | ⟨a, cap', e, h1, h2, h3⟩
  · cases h
  · injection e with e1 e2 e3
    injection e1 with e1
    subst e1
    subst e3
    refine ⟨fun hc => .inr ⟨_, cap - k, by rw [List.length_drop], by rw [List.length_drop]; omega, by omega, fun j u hu => ?_⟩, fun hc => .inr ⟨_, cap - k, by rw [List.length_drop], by rw [List.length_drop]; omega, by omega, fun j u hu => ?_⟩⟩
    · have e : E.cs l = E.cs (l.take k) ++ E.cs (l.drop k) := by rw [← El.cs_append, List.take_append_drop]
      have hl : (E.cs (l.take k)).length = k * E.sz := by rw [ok.length, List.length_take, Nat.min_eq_left hk]
      have := h3 (k * E.sz + j) u (by rw [e, List.getElem?_append_right (by omega), hl, Nat.add_sub_cancel_left]; exact hu)
      rw [Addr.add_lit] at this ⊢
      rw [← Nat.add_assoc] at this
      exact this
    · have : l.drop k = [] := List.drop_of_length_le (by omega)
      rw [this] at hu
      simp [El.cs] at hu

theorem cutAt_of {out : List Int} {id : Int} {k : Nat} (hk : k ≤ out.length) (h1 : ∀ j (hj : j < out.length), j < k → out[j] < id) (h2 : ∀ hk' : k < out.length, ¬ out[k] < id) : cutAt out id = k := by
  unfold cutAt
  induction out generalizing k with
  | nil => simp at hk; simp [hk]
  | cons a r ih =>
    cases k with
    | zero =>
      have := h2 (by simp)
      rw [List.takeWhile_cons, if_neg (by simpa using this)]
      rfl
    | succ k =>
      have := h1 0 (by simp) (by omega)
      rw [List.takeWhile_cons, if_pos (by simpa using this), List.length_cons, ih (by simpa using hk) (fun j hj hjk => by
        have := h1 (j + 1) (by simpa using hj) (by omega)
        simpa using this) (fun hk' => by
        have := h2 (by simpa using hk')
        simpa using this)]
theorem rlive_succ (l : List O1) (i : Nat) (hi : i < l.length) : rlive (l.take (i + 1)) = if (l[i].2.1 == 6) = true then rlive (l.take i) else insI (rlive (l.take i)) l[i].1 := by
  unfold rlive
  rw [List.take_succ_eq_append_getElem hi, List.foldl_append]
  rfl
theorem insI_len (out : List Int) (id : Int) : (insI out id).length = out.length + 1 := by
  unfold insI
  have := congrArg List.length (List.take_append_drop (cutAt out id) out)
  simp only [List.length_append, List.length_singleton] at this ⊢
  omega
theorem rlive_len (l : List O1) (i : Nat) (hi : i ≤ l.length) : (rlive (l.take i)).length ≤ i := by
  induction i with
  | zero => simp [rlive]
  | succ i ih =>
    rw [rlive_succ l i (by omega)]
    have := ih (by omega)
    split
    · omega
    · rw [insI_len]; omega
/-- a number of a row -/
theorem ri_get {w : World} {v : Value} {L : List Int} (h : R EI w v L) (i : Nat) (hi : i < L.length) : ∃ g c, v = .slice (some ⟨g, 0, none⟩) L.length c ∧ g < w.heap.size ∧ w.cell? ⟨g, i, none⟩ = some (.int .i64 L[i]) := by
  obtain ⟨B, off, cap, e, hB, hc⟩ := h.isIn.get okI i hi
  rcases h.2 with ⟨rfl, hn⟩ | ⟨g, c, cur, rfl, _⟩
  · exact absurd hi (by omega)
  · injection e with e _ e3
    injection e with e
    injection e with e1 e2
    subst e1
    subst e2
    refine ⟨g, c, rfl, hB, ?_⟩
    have := hc 0 _ rfl
    simpa [EI] using this
/-- three appends, one behind the other -/
theorem live_apps {w wr : World} (hb : Below w.heap.size w wr) {o : Value} {out : List Int} (hR : R EI wr o out) (hlen : (out.length + 1) * 8 ≤ 140737488355328) (id : Int) (v1 v2 : Value) (k : Nat) (hk : k ≤ out.length) (h1 : In EI wr v1 (out.take k)) (h2 : In EI wr v2 (out.drop k)) (hc : cutAt out id = k) :
    ∃ b1 c1 w1 b2 c2 w2 b3 c3 w3, (Builtin.append_ #[30, 30] 30 #[.slice none 0 0, v1]).run Try.prog wr = .ok (.slice b1 k c1) w1 ∧
      (Builtin.append_ #[30, 30] 30 #[.slice b1 k c1, .slice (some ⟨w1.heap.size, 0, none⟩) 1 1]).run Try.prog (w1.alloc (.cells #[.int .i64 id] 2)) = .ok (.slice b2 (k + 1) c2) w2 ∧
      (Builtin.append_ #[30, 30] 30 #[.slice b2 (k + 1) c2, v2]).run Try.prog w2 = .ok (.slice b3 (out.length + 1) c3) w3 ∧
      R EI w3 (.slice b3 (out.length + 1) c3) (insI out id) ∧ Below wr.heap.size wr w1 ∧ Below wr.heap.size wr w2 ∧ Below wr.heap.size wr w3 ∧ (∀ i, (Value.slice b3 (out.length + 1) c3).ownBlock = some i → wr.heap.size ≤ i) := by
  obtain ⟨b1, c1, w1, r1, R1, G1⟩ := app okI wr (.slice none 0 0) [] (R.nil _ _) v1 (out.take k) h1 (by
    simp only [EI, List.length_nil, List.length_take, Nat.zero_add]; omega)
  have e1 : ([] : List Int).length + (out.take k).length = k := by simp [hk]
  rw [e1, List.nil_append] at R1
  rw [e1] at r1 G1
  have B1 : Below wr.heap.size wr w1 := G1.fresh
  have own1 := G1.new
  have R1' := R1.below (bel1 w1 (.cells #[.int .i64 id] 2))
  obtain ⟨b2, c2, w2, r2, R2, G2⟩ := app okI (w1.alloc (.cells #[.int .i64 id] 2)) (.slice b1 k c1) (out.take k) R1' (.slice (some ⟨w1.heap.size, 0, none⟩) 1 1) [id] (in_one _ _ _ _ _ _ (heap_alloc_new _ _) rfl) (by
    simp only [EI, List.length_take, List.length_singleton]; omega)
  have e2 : (out.take k).length + [id].length = k + 1 := by simp [hk]
  rw [e2] at r2 R2 G2
  have Ba : Below wr.heap.size wr (w1.alloc (.cells #[.int .i64 id] 2)) := B1.trans ((bel1 w1 _).mono B1.size)
  have B2 : Below wr.heap.size wr w2 := Ba.trans (G2.belowB Ba.size own1)
  have own2 : ∀ i, (Value.slice b2 (k + 1) c2).ownBlock = some i → wr.heap.size ≤ i := fun i hi => by
    rcases G2.own i hi with e | e
    · exact own1 i e
    · exact Nat.le_trans Ba.size e
  obtain ⟨b3, c3, w3, r3, R3, G3⟩ := app okI w2 (.slice b2 (k + 1) c2) (out.take k ++ [id]) R2 v2 (out.drop k) (h2.below B2) (by
    simp only [EI, List.length_append, List.length_take, List.length_singleton, List.length_drop]; omega)
  have e3 : (out.take k ++ [id]).length + (out.drop k).length = out.length + 1 := by
    simp only [List.length_append, List.length_take, List.length_singleton, List.length_drop]; omega
  rw [e3] at r3 R3 G3
  refine ⟨b1, c1, w1, b2, c2, w2, b3, c3, w3, r1, r2, r3, ?_, B1, B2, B2.trans (G3.belowB B2.size own2), fun i hi => ?_⟩
  · unfold insI
    rw [hc]
    exact R3
  · rcases G3.own i hi with e | e
    · exact own2 i e
    · exact Nat.le_trans B2.size e
set_option maxRecDepth 100000 in
set_option maxHeartbeats 8000000 in
theorem rlive_any (w : World) (p : Nat) (c : Bool) (v : Value) (l : List O1) (h : RT w p c v l) (hlen : l.length * 24 ≤ 140737488355328) :
    Calls Try.prog 27 #[.pointer (some ⟨p, 0, none⟩)] w fun e w' => ∃ o, e = .returned o ∧ R EI w' o (rlive l) ∧ Below w.heap.size w w' := by
  obtain ⟨vb, vcap, rfl, hl1, hl2⟩ := h.row.slice
  have HRT : Hid (RT w p c (.slice vb l.length vcap) l) := h
  have HL : Hid (l.length * 24 ≤ 140737488355328) := hlen
  clear h hlen
  go_enter Try.func27, Try.ntmps27
  go_wp2_with fail
  go_loopw [3, 4] (fun ov iv wr => ∃ (i : Nat), iv = .int .i64 (i : Int) ∧ i ≤ l.length ∧ (∃ ob oc, ov = .slice ob (rlive (l.take i)).length oc) ∧ Hid (R EI wr ov (rlive (l.take i)) ∧ Below w.heap.size w wr)) (fun _ iv _ => l.length - (intOf iv).toNat)
  case atStart => exact ⟨0, rfl, Nat.zero_le _, ⟨none, 0, rfl⟩, R.nil _ _, Below.refl _ _⟩
  case round =>
    obtain ⟨i, rfl, hi, ⟨ob, oc, rfl⟩, hinv⟩ := hrel
    have HT := HRT.out.below hinv.out.2
    have c1 : wr.cell? ⟨p, 1, none⟩ = some (.slice vb l.length vcap) := cell_blk HT.blk 1
    have lp : p < wr.heap.size := HT.lt
    by_cases hlt : i < l.length
    · have hlt' : (i : Int) < (l.length : Int) := by omega
      obtain ⟨B, off, cap, ev, hB, d0, d1, d2⟩ := In.one HT.row.isIn i hlt
      injection ev with ev1 ev2 ev3
      subst ev1
      subst ev3
      have hrs := rlive_succ l i hlt
      have hrl := rlive_len l i hi
      obtain ⟨st, hst⟩ : ∃ st, l[i].2.1 = st := ⟨_, rfl⟩
      obtain ⟨id, hid⟩ : ∃ id, l[i].1 = id := ⟨_, rfl⟩
      rw [hst, hid] at hrs
      rw [hst] at d1
      rw [hid] at d0
      obtain ⟨out, hout⟩ : ∃ out, rlive (l.take i) = out := ⟨_, rfl⟩
      rw [hout] at hrs hrl hinv ⊢
      have HO : Hid (rlive (l.take i) = out) := hout
      have HS : Hid (rlive (l.take (i + 1)) = if (st == 6) = true then out else insI out id) := hrs
      have HRL : Hid (out.length ≤ i) := hrl
      have hcap := hinv.out.1.slice
      obtain ⟨_, oc', eo, ho1, ho2⟩ := hcap
      injection eo with eo1 eo2 eo3
      subst eo3
      clear eo1 hst hid hout hrs hrl d2 HT
      try clear eo2
      try clear ev2
      cases e6 : (st == 6)
      · go_upto_region 6 with fail
        obtain ⟨w0, hw0⟩ : ∃ w0, w0 = wr := ⟨_, rfl⟩
        subst hw0
        have HI : Hid (R EI w0 (.slice ob out.length oc) out ∧ Below w.heap.size w w0) := hinv.out
        have hfc : Hid (∀ W, Below w0.heap.size w0 W → W.cell? ⟨p, 1, none⟩ = some (.slice (some ⟨B, off, none⟩) l.length vcap) ∧ p < W.heap.size ∧ W.cell? ⟨B, off + i * 3, none⟩ = some (.int .i64 id) ∧ B < W.heap.size) := fun W hb => ⟨(hb.cell (p := ⟨p, 1, none⟩) lp).trans c1, Nat.lt_of_lt_of_le lp hb.size, (hb.cell (p := ⟨B, off + i * 3, none⟩) hB).trans d0, Nat.lt_of_lt_of_le hB hb.size⟩
        clear c1 lp d0 d1 hB hinv
        go_upto_region 7 with fail
        go_wp2_with fail
        go_loopw [6] (fun kv wi => ∃ k : Nat, kv = .int .i64 (k : Int) ∧ k ≤ out.length ∧ Hid ((∀ j (hj : j < out.length), j < k → out[j] < id) ∧ Below w0.heap.size w0 wi)) (fun kv _ => out.length - (intOf kv).toNat)
        case atStart => exact ⟨0, rfl, Nat.zero_le _, fun j _ hj => absurd hj (by omega), Below.refl _ _⟩
        case round =>
          obtain ⟨k, rfl, hk, hin⟩ := hrel
          go_upto_region 8 with fail
          go_cut [43] from 25 to 45 (fun x wx => ∃ b : Bool, x = .bool b ∧ Hid ((b = true → ∃ h : k < out.length, out[k] < id) ∧ (b = false → ∀ h : k < out.length, ¬ out[k] < id) ∧ Below w0.heap.size w0 wx))
          case first =>
            obtain ⟨c1, lp, d0, lB⟩ := hfc.out wr hin.out.2
            by_cases hkl : k < out.length
            · obtain ⟨g, oc', e1, lg, hcell⟩ := ri_get (R.below HI.out.1 hin.out.2) k hkl
              injection e1 with e1 e2 e3
              subst e1
              subst e3
              try clear e2
              have hkl' : (k : Int) < (out.length : Int) := by omega
              obtain ⟨y, hy⟩ : ∃ y, out[k] = y := ⟨_, rfl⟩
              rw [hy] at hcell
              have HY : Hid (∀ h, out[k]'h = y) := fun _ => hy
              clear hy
              go_quiet (fail)
              all_goals
                go_wp2_with fail
                go_meet
                case rel =>
                  refine ⟨decide (y < id), by first | rfl | simp, ⟨fun e => ⟨hkl, by rw [HY.out]; simpa using e⟩, fun e h => by rw [HY.out]; simpa using e, hin.out.2.trans ?_⟩⟩
                  exact ⟨rfl, rfl, rfl, Nat.le_refl _, fun _ _ => rfl⟩
            · obtain rfl : k = out.length := by omega
              have hkl' : decide ((out.length : Int) < (out.length : Int)) = false := by simp
              have hkl2 : ¬ ((out.length : Int) < (out.length : Int)) := by omega
              go_quiet (fail)
              all_goals
                go_wp2_with fail
                go_meet
                case rel =>
                  refine ⟨false, by first | rfl | simp, ⟨fun e => absurd e (by decide), fun _ h => absurd h (by omega), hin.out.2.trans ?_⟩⟩
                  exact ⟨rfl, rfl, rfl, Nat.le_refl _, fun _ _ => rfl⟩
          case rest =>
            obtain ⟨b, rfl, hbb⟩ := hcut
            cases b
            · have hcut : cutAt out id = k := cutAt_of hk hin.out.1 (hbb.out.2.1 rfl)
              have HBW : Hid (Below w0.heap.size w0 wc) := hbb.out.2.2
              have HC : Hid (cutAt out id = k) := hcut
              clear hcut hbb hin
              have HR : R EI wc (.slice ob out.length oc) out := R.below HI.out.1 HBW.out
              have hlen8 : (out.length + 1) * 8 ≤ 140737488355328 := by have := HL.out; have := HRL.out; omega
              rcases HR.2 with ⟨hnil, hn0⟩ | ⟨g, cap, cur, hg, hrest⟩
              · obtain rfl : out = [] := List.eq_nil_of_length_eq_zero hn0
                injection hnil with e1 e2 e3
                subst e1
                subst e3
                obtain rfl : k = 0 := by simpa using hk
                clear e2 hn0
                simp only [List.length_nil] at *
                obtain ⟨b1, q1, w1, b2, q2, w2, b3, q3, w3, r1, r2, r3, RR, B1, B2, B3, own3⟩ := live_apps (Below.refl w.heap.size w |>.trans (HI.out.2.trans (HBW.out.mono HI.out.2.size))) HR hlen8 id (.slice none 0 0) (.slice none 0 0) 0 (by simp) (.inl ⟨rfl, rfl⟩) (.inl ⟨rfl, rfl⟩) HC.out
                skip
                replace r1 : Hid _ := r1
                replace r2 : Hid _ := r2
                replace r3 : Hid _ := r3
                have hf1 : Hid (w1.cell? ⟨p, 1, none⟩ = some (.slice (some ⟨B, off, none⟩) l.length vcap) ∧ p < w1.heap.size ∧ w1.cell? ⟨B, off + i * 3, none⟩ = some (.int .i64 id) ∧ B < w1.heap.size) := hfc.out w1 (HBW.out.trans (B1.mono HBW.out.size))
                have HFIN : Hid (R EI w3 (.slice b3 (0 + 1) q3) (insI [] id) ∧ Below w.heap.size w w3) := ⟨RR, HI.out.2.trans ((HBW.out.trans (B3.mono HBW.out.size)).mono HI.out.2.size)⟩
                clear RR B1 B2 B3 own3 hlen8 HR
                go_upto_region 11 with (at_builtin; refine Lib.wpList_append_run _ rfl _ _ _ _ rfl _ _ rfl rfl _ _ r1.out ?_)
                obtain ⟨c1, lp, d0, lB⟩ := hf1.out
                go_upto_region 12 with (at_builtin; refine Lib.wpList_append_run _ rfl _ _ _ _ rfl _ _ rfl rfl _ _ r2.out ?_)
                clear c1 lp d0 lB
                go_wp2_with (at_builtin; refine Lib.wpList_append_run _ rfl _ _ _ _ rfl _ _ rfl rfl _ _ r3.out ?_)
                go_roundw
                case rel =>
                  have hs := HS.out
                  rw [e6, if_neg (by decide)] at hs
                  refine ⟨i + 1, by simp, by omega, ⟨b3, q3, by rw [hs, insI_len]; try rfl⟩, ?_, HFIN.out.2⟩
                  rw [hs]
                  exact HFIN.out.1
                case measure => simp [intOf]; omega
              · injection hg with e1 e2 e3
                subst e1
                subst e3
                clear hrest
                try clear e2
                have hIn := HR.isIn
                have hId := In.drop okI hIn k hk
                by_cases hck : oc = k
                · have hokn : out.length = k := by omega
                  have hI2 := hId.2 hck
                  subst hck
                  subst hokn
                  simp only [Nat.sub_self] at hI2
                  clear hId hIn
                  obtain ⟨b1, q1, w1, b2, q2, w2, b3, q3, w3, r1, r2, r3, RR, B1, B2, B3, own3⟩ := live_apps (Below.refl w.heap.size w |>.trans (HI.out.2.trans (HBW.out.mono HI.out.2.size))) HR hlen8 id (.slice (some ⟨g, 0, none⟩) out.length out.length) (.slice (some ⟨g, 0, none⟩) 0 0) out.length (Nat.le_refl _) (In.take HR.isIn out.length (Nat.le_refl _)) hI2 HC.out
                  clear hI2
                  replace r1 : Hid _ := r1
                  replace r2 : Hid _ := r2
                  replace r3 : Hid _ := r3
                  have hf1 : Hid (w1.cell? ⟨p, 1, none⟩ = some (.slice (some ⟨B, off, none⟩) l.length vcap) ∧ p < w1.heap.size ∧ w1.cell? ⟨B, off + i * 3, none⟩ = some (.int .i64 id) ∧ B < w1.heap.size) := hfc.out w1 (HBW.out.trans (B1.mono HBW.out.size))
                  have HFIN : Hid (R EI w3 (.slice b3 (out.length + 1) q3) (insI out id) ∧ Below w.heap.size w w3) := ⟨RR, HI.out.2.trans ((HBW.out.trans (B3.mono HBW.out.size)).mono HI.out.2.size)⟩
                  clear RR B1 B2 B3 own3 hlen8 HR
                  go_upto_region 11 with (at_builtin; refine Lib.wpList_append_run _ rfl _ _ _ _ rfl _ _ rfl rfl _ _ r1.out ?_)
                  obtain ⟨c1, lp, d0, lB⟩ := hf1.out
                  go_upto_region 12 with (at_builtin; refine Lib.wpList_append_run _ rfl _ _ _ _ rfl _ _ rfl rfl _ _ r2.out ?_)
                  clear c1 lp d0 lB
                  go_wp2_with (at_builtin; refine Lib.wpList_append_run _ rfl _ _ _ _ rfl _ _ rfl rfl _ _ r3.out ?_)
                  go_roundw
                  case rel =>
                    have hs := HS.out
                    rw [e6, if_neg (by decide)] at hs
                    refine ⟨i + 1, by simp, by omega, ⟨b3, q3, by rw [hs, insI_len]; try rfl⟩, ?_, HFIN.out.2⟩
                    rw [hs]
                    exact HFIN.out.1
                  case measure => simp [intOf]; omega
                · have hI2 := hId.1 hck
                  simp only [EI, Nat.zero_add, Nat.mul_one] at hI2
                  have hok : ¬ (oc : Int) = (k : Int) := by omega
                  clear hId hIn
                  obtain ⟨b1, q1, w1, b2, q2, w2, b3, q3, w3, r1, r2, r3, RR, B1, B2, B3, own3⟩ := live_apps (Below.refl w.heap.size w |>.trans (HI.out.2.trans (HBW.out.mono HI.out.2.size))) HR hlen8 id (.slice (some ⟨g, 0, none⟩) k oc) (.slice (some ⟨g, k, none⟩) (out.length - k) (oc - k)) k hk (In.take HR.isIn k hk) hI2 HC.out
                  clear hI2
                  replace r1 : Hid _ := r1
                  replace r2 : Hid _ := r2
                  replace r3 : Hid _ := r3
                  have hf1 : Hid (w1.cell? ⟨p, 1, none⟩ = some (.slice (some ⟨B, off, none⟩) l.length vcap) ∧ p < w1.heap.size ∧ w1.cell? ⟨B, off + i * 3, none⟩ = some (.int .i64 id) ∧ B < w1.heap.size) := hfc.out w1 (HBW.out.trans (B1.mono HBW.out.size))
                  have HFIN : Hid (R EI w3 (.slice b3 (out.length + 1) q3) (insI out id) ∧ Below w.heap.size w w3) := ⟨RR, HI.out.2.trans ((HBW.out.trans (B3.mono HBW.out.size)).mono HI.out.2.size)⟩
                  clear RR B1 B2 B3 own3 hlen8 HR
                  go_upto_region 11 with (at_builtin; refine Lib.wpList_append_run _ rfl _ _ _ _ rfl _ _ rfl rfl _ _ r1.out ?_)
                  obtain ⟨c1, lp, d0, lB⟩ := hf1.out
                  go_upto_region 12 with (at_builtin; refine Lib.wpList_append_run _ rfl _ _ _ _ rfl _ _ rfl rfl _ _ r2.out ?_)
                  clear c1 lp d0 lB
                  go_wp2_with (at_builtin; refine Lib.wpList_append_run _ rfl _ _ _ _ rfl _ _ rfl rfl _ _ r3.out ?_)
                  go_roundw
                  case rel =>
                    have hs := HS.out
                    rw [e6, if_neg (by decide)] at hs
                    refine ⟨i + 1, by simp, by omega, ⟨b3, q3, by rw [hs, insI_len]; try rfl⟩, ?_, HFIN.out.2⟩
                    rw [hs]
                    exact HFIN.out.1
                  case measure => simp [intOf]; omega
            · obtain ⟨hkl, hlt2⟩ := hbb.out.1 rfl
              have HN : Hid (∀ j (hj : j < out.length), j < k + 1 → out[j] < id) := fun j hj hjk => by
                by_cases e : j = k
                · subst e
                  exact hlt2
                · exact hin.out.1 j hj (by omega)
              have HBW : Hid (Below w0.heap.size w0 wc) := hbb.out.2.2
              clear hbb hin hlt2
              go_wp2_with fail
              go_roundw
              case rel => exact ⟨k + 1, by simp, by omega, HN.out, HBW.out⟩
              case measure => simp [intOf]; omega
      · go_wp2_with fail
        go_roundw
        case rel =>
          have := HS.out
          rw [e6, if_pos rfl] at this
          refine ⟨i + 1, by simp, by omega, ⟨ob, oc, by rw [this]⟩, ?_, hinv.out.2⟩
          rw [this]
          exact hinv.out.1
        case measure => simp [intOf]; omega
    · obtain rfl : i = l.length := by omega
      have hge : ¬ ((l.length : Int) < (l.length : Int)) := by omega
      rw [List.take_length] at hinv ⊢
      go_wp2_with fail
      go_ret
      exact ⟨_, rfl, hinv.out.1, hinv.out.2⟩
end Go.Proofs.Ytaaocgppniflcaa
