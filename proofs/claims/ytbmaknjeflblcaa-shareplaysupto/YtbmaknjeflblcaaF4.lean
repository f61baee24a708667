/- The document's share: Next. -/
import Derived.Test.YtbmaknjeflblcaaF3
namespace Go.Proofs.Ytbmaknjeflblcaa
open Go.RowKit Go.Maps
set_option linter.unusedVariables false
set_option linter.unusedSimpArgs false

def rnextE (L : List Stm) (id c s f : Int) : Int := if f < 1 then 1 else if wN L id = 0 ∧ wE L id = false then 5 else if 0 < wN L id ∧ (c ≤ 0 ∨ s ≤ 0) then 6 else 0
def tOf (L : List Stm) (id : Int) : ByteArray := match ix L id with | some k => ((L[k]?.map fun s => s.t).getD ⟨#[]⟩) | none => ⟨#[]⟩
def rnextN (L : List Stm) (id c s f : Int) : Nat := (rm c s (wN L id : Int) f).toNat
def rnextP (L : List Stm) (id c s f : Int) : ByteArray := if rnextE L id c s f = 0 then (tOf L id).extract 0 (rnextN L id c s f) else ⟨#[]⟩
def rnextL (L : List Stm) (id c s f : Int) : Bool := decide (rnextE L id c s f = 0) && wE L id && decide (wN L id ≤ rnextN L id c s f)
def rnext (L : List Stm) (id c s f : Int) : List Stm := if rnextE L id c s f = 0 then match ix L id with | some k => mo L k (fun x => ⟨x.id, x.t.extract (rnextN L id c s f) x.t.size, x.o, rnextL L id c s f⟩) | none => L else L
def NV (L : List Stm) (id c s f : Int) : Value := .tuple #[.string (rnextP L id c s f), .bool (rnextL L id c s f), .int .i64 (rnextE L id c s f)]
theorem rnext_no {w w' : World} {N : Nat → Prop} {p : Nat} {L : List Stm} {id c s f : Int} (h : Rn w N p L) (hB : Below w.heap.size w w') {x : Int} (hx : rnextE L id c s f = x) (h0 : x ≠ 0) : RP w N p (rnext L id c s f) (NV L id c s f) (.returned (.tuple #[.string ⟨#[]⟩, .bool false, .int .i64 x])) w' := by
  have hn : rnextE L id c s f ≠ 0 := by rw [hx]; exact h0
  refine ⟨?_, ?_, Kn.of_below hB h.lt⟩
  · unfold NV
    rw [rnextP, if_neg hn, rnextL, decide_eq_false hn, hx]
    rfl
  · rw [rnext, if_neg hn]
    exact h.below hB
theorem ext_size (t : ByteArray) (m : Nat) (hm : m ≤ t.size) : (t.extract m t.size).size = t.size - m := by
  rw [ByteArray.size_extract]; omega
theorem ext_all (t : ByteArray) : t.extract 0 t.size = t := by simp
theorem ext_none (t : ByteArray) : t.extract t.size t.size = ByteArray.empty := by simp
set_option maxRecDepth 100000 in
set_option maxHeartbeats 16000000 in
theorem rnext_any (w : World) (N : Nat → Prop) (p : Nat) (L : List Stm) (id c s f : Int) (h : Rn w N p L) (hl : L.length ≤ 1048576) (hz : ∀ x ∈ L, x.t.size ≤ 1048576) :
    Calls Try.prog 31 #[.pointer (some ⟨p, 0, none⟩), .int .i64 id, .int .i64 c, .int .i64 s, .int .i64 f] w (RP w N p (rnext L id c s f) (NV L id c s f)) := by
  by_cases hf : f < 1
  · have hfin : Hid (RP w N p (rnext L id c s f) (NV L id c s f) (.returned (.tuple #[.string ⟨#[]⟩, .bool false, .int .i64 1])) w) := rnext_no h (Below.refl _ w) (by rw [rnextE, if_pos hf]) (by decide)
    generalize RP w N p (rnext L id c s f) (NV L id c s f) = Q at hfin ⊢
    clear h
    go_enter Try.func31, Try.ntmps31
    go_wp2
    go_ret3
    exact hfin.out
  · obtain ⟨v, hs, hNp, hNv⟩ := h.s
    have hlt := h.lt
    have hwt := rwaits_any w p v L id hs
    by_cases h5 : wN L id = 0 ∧ wE L id = false
    · have hfin : Hid (∀ w', Below w.heap.size w w' → RP w N p (rnext L id c s f) (NV L id c s f) (.returned (.tuple #[.string ⟨#[]⟩, .bool false, .int .i64 5])) w') := fun w' hB => rnext_no h hB (by rw [rnextE, if_neg hf, if_pos h5]) (by decide)
      generalize RP w N p (rnext L id c s f) (NV L id c s f) = Q at hfin ⊢
      rw [h5.1, h5.2] at hwt
      clear h h5 hs
      go_enter Try.func31, Try.ntmps31
      go_wp2_with fail
      refine hwt.mono ?_
      rintro e w1 ⟨rfl, hB⟩
      go_wp2_with fail
      go_ret3
      exact hfin.out _ hB
    · have HAT : Hid (∀ w1, Below w.heap.size w w1 → Calls Try.prog 34 #[.pointer (some ⟨p, 0, none⟩), .int .i64 id] w1 fun e w' => e = .returned (.int .i64 (ixI L id)) ∧ w' = w1) := fun w1 hB => at_any w1 p v L id (hs.below hB)
      have HWT : Hid (Calls Try.prog 29 #[.pointer (some ⟨p, 0, none⟩), .int .i64 id] w fun e w' => e = .returned (.tuple #[.int .i64 (wN L id : Int), .bool (wE L id)]) ∧ Below w.heap.size w w') := hwt
      clear hwt
      by_cases h6 : 0 < wN L id ∧ (c ≤ 0 ∨ s ≤ 0)
      · have hfin : Hid (∀ w', Below w.heap.size w w' → RP w N p (rnext L id c s f) (NV L id c s f) (.returned (.tuple #[.string ⟨#[]⟩, .bool false, .int .i64 6])) w') := fun w' hB => rnext_no h hB (by rw [rnextE, if_neg hf, if_neg h5, if_pos h6]) (by decide)
        generalize RP w N p (rnext L id c s f) (NV L id c s f) = Q at hfin ⊢
        obtain ⟨h61, h62⟩ := h6
        generalize wN L id = wn at HWT h61
        generalize wE L id = we at HWT
        generalize ixI L id = xi at HAT
        have e0 : ((wn : Int) == 0) = false := beq_eq_false_iff_ne.2 (by omega)
        have p1 : (0 : Int) < (wn : Int) := by omega
        have p2 : decide ((0 : Int) < (wn : Int)) = true := decide_eq_true p1
        have p3 : decide (0 < wn) = true := decide_eq_true h61
        clear h h5 hs
        by_cases hc : c ≤ 0
        · have c1 : decide (c ≤ 0) = true := decide_eq_true hc
          go_enter Try.func31, Try.ntmps31
          go_wp2_with fail
          refine Calls.mono HWT.out ?_
          rintro e w1 ⟨rfl, hB⟩
          go_wp2_with fail
          refine Calls.mono (HAT.out w1 hB) ?_
          rintro e w1 ⟨rfl, rfl⟩
          go_wp2_with fail
          go_ret3
          exact hfin.out _ hB
        · have hs0 : s ≤ 0 := by omega
          have c1 : decide (c ≤ 0) = false := decide_eq_false hc
          have c2 : decide (s ≤ 0) = true := decide_eq_true hs0
          go_enter Try.func31, Try.ntmps31
          go_wp2_with fail
          refine Calls.mono HWT.out ?_
          rintro e w1 ⟨rfl, hB⟩
          go_wp2_with fail
          refine Calls.mono (HAT.out w1 hB) ?_
          rintro e w1 ⟨rfl, rfl⟩
          go_wp2_with fail
          go_ret3
          exact hfin.out _ hB
      · have hE : rnextE L id c s f = 0 := by rw [rnextE, if_neg hf, if_neg h5, if_neg h6]
        obtain ⟨k, hix⟩ : ∃ k, ix L id = some k := by
          cases e : ix L id with
          | some k => exact ⟨k, rfl⟩
          | none => exact absurd ⟨by unfold wN; rw [e], by unfold wE; rw [e]⟩ h5
        have hk := (ix_some hix).1
        have hxi : ixI L id = (k : Int) := by rw [ixI, hix]
        rw [hxi] at HAT
        have hwn : wN L id = L[k].t.size := by unfold wN; rw [hix]; simp only [List.getElem?_eq_getElem hk]; rfl
        have htO : tOf L id = L[k].t := by unfold tOf; rw [hix]; simp only [List.getElem?_eq_getElem hk]; rfl
        have HK : Hid (∀ w1, Below w.heap.size w w1 → ∃ g cap, v = (some ⟨g, 0, none⟩, L.length, cap) ∧ L.length ≤ cap ∧ cap ≤ 9223372036854775807 ∧ g < w1.heap.size ∧ (∀ o, w1.frozen? ⟨g, o, none⟩ = false) ∧ w1.cell? ⟨g, k * 4 + 1, none⟩ = some (.string L[k].t) ∧ w1.cell? ⟨g, k * 4 + 3, none⟩ = some (.bool L[k].g) ∧ w1.cell? ⟨p, 0, none⟩ = some (.slice (some ⟨g, 0, none⟩) L.length cap) ∧ p < w1.heap.size ∧ p ≠ g ∧
            ∀ (m : Nat) (la : Bool) (w2 : World), m = rnextN L id c s f → la = rnextL L id c s f → w2.heap = ((w1.setCell ⟨g, k * 4 + 1, none⟩ (.string (L[k].t.extract m L[k].t.size))).setCell ⟨g, k * 4 + 3, none⟩ (.bool la)).heap → w2.os = w1.os → w2.tape = w1.tape → w2.output = w1.output → RP w N p (rnext L id c s f) (NV L id c s f) (.returned (.tuple #[.string (L[k].t.extract 0 m), .bool la, .int .i64 0])) w2) := by
          intro w1 hB
          have hs1 := hs.below hB
          obtain ⟨g, cap, hv, q1, q2, q3, q4, q5, q6, ⟨d0, d1, d2, d3⟩, q7⟩ := hs1.st k hk 1 3 (by decide) (by decide) (by decide)
          have hc0 := cell_blk hs1.blk 0
          have hsv : sv v = .slice (some ⟨g, 0, none⟩) L.length cap := by rw [hv]; rfl
          refine ⟨g, cap, hv, q1, q2, q3, q6, d1, d3, ?_, heap_lt hs1.blk, Ne.symm q4, fun m la w2 hm hla e1 e2 e3 e4 => ?_⟩
          · rw [hc0, ← hsv]; rfl
          · obtain ⟨a1, a2⟩ := q7 (.string (L[k].t.extract m L[k].t.size)) (.bool la) ⟨L[k].id, L[k].t.extract m L[k].t.size, L[k].o, la⟩ ⟨L[k].id, L[k].t.extract m L[k].t.size, L[k].o, L[k].g⟩ w2 rfl rfl e1 e2 e3 e4
            have hK2 : Kn N w1 w2 := ⟨a2.os, a2.tape, a2.output, a2.size, fun j hj => a2.block j (Nat.lt_of_lt_of_le (hlt j hj) hB.size) fun e => hNv j (by rw [q5, e]) hj⟩
            refine ⟨?_, ⟨⟨v, ?_, hNp, hNv⟩, fun j hj => Nat.lt_of_lt_of_le (hlt j hj) (Nat.le_trans hB.size a2.size)⟩, (Kn.of_below hB hlt).trans hK2⟩
            · unfold NV
              rw [rnextP, if_pos hE, hE, ← hla, ← hm, htO]
            · rw [rnext, if_pos hE, hix]
              simp only
              rw [mod_set hk, ← hla, ← hm]
              exact a1
        have hN : rnextN L id c s f = (rm c s (L[k].t.size : Int) f).toNat := by unfold rnextN; rw [hwn]
        have hLa : rnextL L id c s f = (wE L id && decide (L[k].t.size ≤ (rm c s (L[k].t.size : Int) f).toNat)) := by unfold rnextL; rw [hE, hN, hwn]; simp
        have hst1 := hz _ (List.getElem_mem hk)
        rw [hwn] at HWT h5 h6
        generalize hQ : RP w N p (rnext L id c s f) (NV L id c s f) = Q at HK ⊢
        clear hQ
        rw [hN, hLa] at HK
        generalize L[k].g = sg at HK
        generalize L[k].t = st at HK HWT h5 h6 hst1
        generalize wE L id = we at HK HWT h5
        obtain ⟨n, hn⟩ : ∃ n, L.length = n := ⟨_, rfl⟩
        rw [hn] at HK hk hl
        have kl : (k : Int) < (n : Int) := by omega
        have kn : ¬ (k : Int) < 0 := by omega
        obtain ⟨fm, rfl⟩ : ∃ fm : Nat, f = (fm : Int) := ⟨f.toNat, by omega⟩
        have HKL : Hid (k < n) := hk
        clear hN hLa hE hwn htO hxi hix hs hNv hlt h hz hn hk
        by_cases hz0 : st.size = 0
        · have hwe : we = true := by
            cases we
            · exact absurd ⟨hz0, rfl⟩ h5
            · rfl
          subst hwe
          have hse : st = ByteArray.empty := by
            apply ByteArray.ext
            exact Array.eq_empty_of_size_eq_zero hz0
          subst hse
          have HWT0 : Hid (Calls Try.prog 29 #[.pointer (some ⟨p, 0, none⟩), .int .i64 id] w fun e w' => e = .returned (.tuple #[.int .i64 0, .bool true]) ∧ Below w.heap.size w w') := HWT.out
          have hm0 : (rm c s ((ByteArray.empty.size : Nat) : Int) (fm : Int)).toNat = 0 := by rw [show ByteArray.empty.size = 0 from rfl]; unfold rm; omega
          have z3 : ¬ (fm : Int) < 0 := by omega
          clear HWT h5 h6 hz0 hst1
          by_cases hc : c < 0
          · have c1 : decide (c < (0 : Int)) = true := decide_eq_true (by omega)
            by_cases hs : s < 0
            · have s1 : decide (s < (0 : Int)) = true := decide_eq_true (by omega)
              go_enter Try.func31, Try.ntmps31
              go_wp2_with fail
              refine Calls.mono HWT0.out ?_
              rintro e w1 ⟨rfl, hB⟩
              obtain ⟨g, cap, -, q1, q2, q3, q6, d1, d3, cp0, lp0, hpg, hfin⟩ := HK.out w1 hB
              have f1 := q6 (k * 4 + 1)
              have f3 := q6 (k * 4 + 3)
              have HF : Hid (∀ w2 : World, w2.heap = ((w1.setCell ⟨g, k * 4 + 1, none⟩ (.string ByteArray.empty)).setCell ⟨g, k * 4 + 3, none⟩ (.bool true)).heap → w2.os = w1.os → w2.tape = w1.tape → w2.output = w1.output → Q (.returned (.tuple #[.string ByteArray.empty, .bool true, .int .i64 0])) w2) := fun w2 => hfin 0 true w2 (hm0).symm (by rw [hm0]; rfl)
              clear hfin q6
              go_wp2_with fail
              refine Calls.mono (HAT.out w1 hB) ?_
              rintro e w1 ⟨rfl, rfl⟩
              go_wp2_with fail
              go_region
              all_goals
                go_wp2_with fail
                go_ret3
                refine HF.out _ ?_ ?_ ?_ ?_ <;> rfl
            · have s1 : decide (s < (0 : Int)) = false := decide_eq_false (by omega)
              go_enter Try.func31, Try.ntmps31
              go_wp2_with fail
              refine Calls.mono HWT0.out ?_
              rintro e w1 ⟨rfl, hB⟩
              obtain ⟨g, cap, -, q1, q2, q3, q6, d1, d3, cp0, lp0, hpg, hfin⟩ := HK.out w1 hB
              have f1 := q6 (k * 4 + 1)
              have f3 := q6 (k * 4 + 3)
              have HF : Hid (∀ w2 : World, w2.heap = ((w1.setCell ⟨g, k * 4 + 1, none⟩ (.string ByteArray.empty)).setCell ⟨g, k * 4 + 3, none⟩ (.bool true)).heap → w2.os = w1.os → w2.tape = w1.tape → w2.output = w1.output → Q (.returned (.tuple #[.string ByteArray.empty, .bool true, .int .i64 0])) w2) := fun w2 => hfin 0 true w2 (hm0).symm (by rw [hm0]; rfl)
              clear hfin q6
              go_wp2_with fail
              refine Calls.mono (HAT.out w1 hB) ?_
              rintro e w1 ⟨rfl, rfl⟩
              go_wp2_with fail
              go_region
              all_goals
                go_wp2_with fail
                go_ret3
                refine HF.out _ ?_ ?_ ?_ ?_ <;> rfl
          · have c1 : decide (c < (0 : Int)) = false := decide_eq_false (by omega)
            by_cases hs : s < 0
            · have s1 : decide (s < (0 : Int)) = true := decide_eq_true (by omega)
              go_enter Try.func31, Try.ntmps31
              go_wp2_with fail
              refine Calls.mono HWT0.out ?_
              rintro e w1 ⟨rfl, hB⟩
              obtain ⟨g, cap, -, q1, q2, q3, q6, d1, d3, cp0, lp0, hpg, hfin⟩ := HK.out w1 hB
              have f1 := q6 (k * 4 + 1)
              have f3 := q6 (k * 4 + 3)
              have HF : Hid (∀ w2 : World, w2.heap = ((w1.setCell ⟨g, k * 4 + 1, none⟩ (.string ByteArray.empty)).setCell ⟨g, k * 4 + 3, none⟩ (.bool true)).heap → w2.os = w1.os → w2.tape = w1.tape → w2.output = w1.output → Q (.returned (.tuple #[.string ByteArray.empty, .bool true, .int .i64 0])) w2) := fun w2 => hfin 0 true w2 (hm0).symm (by rw [hm0]; rfl)
              clear hfin q6
              go_wp2_with fail
              refine Calls.mono (HAT.out w1 hB) ?_
              rintro e w1 ⟨rfl, rfl⟩
              go_wp2_with fail
              go_region
              all_goals
                go_wp2_with fail
                go_ret3
                refine HF.out _ ?_ ?_ ?_ ?_ <;> rfl
            · have s1 : decide (s < (0 : Int)) = false := decide_eq_false (by omega)
              go_enter Try.func31, Try.ntmps31
              go_wp2_with fail
              refine Calls.mono HWT0.out ?_
              rintro e w1 ⟨rfl, hB⟩
              obtain ⟨g, cap, -, q1, q2, q3, q6, d1, d3, cp0, lp0, hpg, hfin⟩ := HK.out w1 hB
              have f1 := q6 (k * 4 + 1)
              have f3 := q6 (k * 4 + 3)
              have HF : Hid (∀ w2 : World, w2.heap = ((w1.setCell ⟨g, k * 4 + 1, none⟩ (.string ByteArray.empty)).setCell ⟨g, k * 4 + 3, none⟩ (.bool true)).heap → w2.os = w1.os → w2.tape = w1.tape → w2.output = w1.output → Q (.returned (.tuple #[.string ByteArray.empty, .bool true, .int .i64 0])) w2) := fun w2 => hfin 0 true w2 (hm0).symm (by rw [hm0]; rfl)
              clear hfin q6
              go_wp2_with fail
              refine Calls.mono (HAT.out w1 hB) ?_
              rintro e w1 ⟨rfl, rfl⟩
              go_wp2_with fail
              go_region
              all_goals
                go_wp2_with fail
                go_ret3
                refine HF.out _ ?_ ?_ ?_ ?_ <;> rfl
        · obtain ⟨cm, rfl⟩ : ∃ cm : Nat, c = (cm : Int) := ⟨c.toNat, by omega⟩
          obtain ⟨sm, rfl⟩ : ∃ sm : Nat, s = (sm : Int) := ⟨s.toNat, by omega⟩
          have cs0 : 0 < cm ∧ 0 < sm := by omega
          obtain ⟨cp, sp⟩ := cs0
          have z1 : ((st.size : Int) == 0) = false := beq_eq_false_iff_ne.2 (by omega)
          have z2 : decide ((0 : Int) < (st.size : Int)) = true := decide_eq_true (by omega)
          have z2N : decide (0 < st.size) = true := decide_eq_true (by omega)
          have z4 : decide ((cm : Int) ≤ 0) = false := decide_eq_false (by omega)
          have z5 : decide ((sm : Int) ≤ 0) = false := decide_eq_false (by omega)
          have fp : 0 < fm := by omega
          by_cases hf0 : fm < st.size
          · have t0 : decide ((fm : Int) < (st.size : Int)) = true := decide_eq_true (by omega)
            have t0N : decide (fm < st.size) = true := decide_eq_true hf0
            have pm0 : decide ((0 : Int) < (st.size : Int)) = true := decide_eq_true (by omega)
            have pm0N : decide (0 < st.size) = true := decide_eq_true (by omega)
            by_cases hc1 : cm < fm
            · have t1 : decide ((cm : Int) < (fm : Int)) = true := decide_eq_true (by omega)
              have t1N : decide (cm < fm) = true := decide_eq_true hc1
              have pm1 : decide ((0 : Int) < (fm : Int)) = true := decide_eq_true (by omega)
              have pm1N : decide (0 < fm) = true := decide_eq_true (by omega)
              by_cases hs2 : sm < cm
              · have t2 : decide ((sm : Int) < (cm : Int)) = true := decide_eq_true (by omega)
                have t2N : decide (sm < cm) = true := decide_eq_true hs2
                have pm2 : decide ((0 : Int) < (cm : Int)) = true := decide_eq_true (by omega)
                have pm2N : decide (0 < cm) = true := decide_eq_true (by omega)
                have hmm : (rm (cm : Int) (sm : Int) (st.size : Int) (fm : Int)).toNat = sm := by unfold rm; omega
                have hlm : sm ≤ st.size := by omega
                have hem : (st.extract sm st.size).toList.isEmpty = false := by
                  rw [ByteArray.toList_eq]
                  have h1 := Lib.size_eq (st.extract sm st.size)
                  rw [ByteArray.size_extract] at h1
                  cases e : (st.extract sm st.size).data.toList with
                  | nil => rw [e] at h1; simp only [List.length_nil] at h1; omega
                  | cons a r => rfl
                have hem2 : ¬ (st.extract sm st.size).toList = [] := fun e => by rw [e] at hem; cases hem
                go_enter Try.func31, Try.ntmps31
                go_wp2_with fail
                refine Calls.mono HWT.out ?_
                rintro e w1 ⟨rfl, hB⟩
                obtain ⟨g, cap, -, q1, q2, q3, q6, d1, d3, cp0, lp0, hpg, hfin⟩ := HK.out w1 hB
                have f1 := q6 (k * 4 + 1)
                have f3 := q6 (k * 4 + 3)
                have HF : Hid (∀ w2 : World, w2.heap = ((w1.setCell ⟨g, k * 4 + 1, none⟩ (.string (st.extract sm st.size))).setCell ⟨g, k * 4 + 3, none⟩ (.bool false)).heap → w2.os = w1.os → w2.tape = w1.tape → w2.output = w1.output → Q (.returned (.tuple #[.string (st.extract 0 sm), .bool false, .int .i64 0])) w2) := fun w2 => hfin sm false w2 (hmm).symm (by rw [hmm]; rw [decide_eq_false (by omega)]; simp)
                clear hfin q6
                go_wp2_with fail
                refine Calls.mono (HAT.out w1 hB) ?_
                rintro e w1 ⟨rfl, rfl⟩
                go_wp2_with fail
                go_region
                all_goals
                  go_wp2_with fail
                  go_ret3
                  refine HF.out _ ?_ ?_ ?_ ?_ <;> rfl
              · have t2 : decide ((sm : Int) < (cm : Int)) = false := decide_eq_false (by omega)
                have t2N : decide (sm < cm) = false := decide_eq_false hs2
                have hmm : (rm (cm : Int) (sm : Int) (st.size : Int) (fm : Int)).toNat = cm := by unfold rm; omega
                have hlm : cm ≤ st.size := by omega
                have hem : (st.extract cm st.size).toList.isEmpty = false := by
                  rw [ByteArray.toList_eq]
                  have h1 := Lib.size_eq (st.extract cm st.size)
                  rw [ByteArray.size_extract] at h1
                  cases e : (st.extract cm st.size).data.toList with
                  | nil => rw [e] at h1; simp only [List.length_nil] at h1; omega
                  | cons a r => rfl
                have hem2 : ¬ (st.extract cm st.size).toList = [] := fun e => by rw [e] at hem; cases hem
                go_enter Try.func31, Try.ntmps31
                go_wp2_with fail
                refine Calls.mono HWT.out ?_
                rintro e w1 ⟨rfl, hB⟩
                obtain ⟨g, cap, -, q1, q2, q3, q6, d1, d3, cp0, lp0, hpg, hfin⟩ := HK.out w1 hB
                have f1 := q6 (k * 4 + 1)
                have f3 := q6 (k * 4 + 3)
                have HF : Hid (∀ w2 : World, w2.heap = ((w1.setCell ⟨g, k * 4 + 1, none⟩ (.string (st.extract cm st.size))).setCell ⟨g, k * 4 + 3, none⟩ (.bool false)).heap → w2.os = w1.os → w2.tape = w1.tape → w2.output = w1.output → Q (.returned (.tuple #[.string (st.extract 0 cm), .bool false, .int .i64 0])) w2) := fun w2 => hfin cm false w2 (hmm).symm (by rw [hmm]; rw [decide_eq_false (by omega)]; simp)
                clear hfin q6
                go_wp2_with fail
                refine Calls.mono (HAT.out w1 hB) ?_
                rintro e w1 ⟨rfl, rfl⟩
                go_wp2_with fail
                go_region
                all_goals
                  go_wp2_with fail
                  go_ret3
                  refine HF.out _ ?_ ?_ ?_ ?_ <;> rfl
            · have t1 : decide ((cm : Int) < (fm : Int)) = false := decide_eq_false (by omega)
              have t1N : decide (cm < fm) = false := decide_eq_false hc1
              by_cases hs2 : sm < fm
              · have t2 : decide ((sm : Int) < (fm : Int)) = true := decide_eq_true (by omega)
                have t2N : decide (sm < fm) = true := decide_eq_true hs2
                have pm2 : decide ((0 : Int) < (fm : Int)) = true := decide_eq_true (by omega)
                have pm2N : decide (0 < fm) = true := decide_eq_true (by omega)
                have hmm : (rm (cm : Int) (sm : Int) (st.size : Int) (fm : Int)).toNat = sm := by unfold rm; omega
                have hlm : sm ≤ st.size := by omega
                have hem : (st.extract sm st.size).toList.isEmpty = false := by
                  rw [ByteArray.toList_eq]
                  have h1 := Lib.size_eq (st.extract sm st.size)
                  rw [ByteArray.size_extract] at h1
                  cases e : (st.extract sm st.size).data.toList with
                  | nil => rw [e] at h1; simp only [List.length_nil] at h1; omega
                  | cons a r => rfl
                have hem2 : ¬ (st.extract sm st.size).toList = [] := fun e => by rw [e] at hem; cases hem
                go_enter Try.func31, Try.ntmps31
                go_wp2_with fail
                refine Calls.mono HWT.out ?_
                rintro e w1 ⟨rfl, hB⟩
                obtain ⟨g, cap, -, q1, q2, q3, q6, d1, d3, cp0, lp0, hpg, hfin⟩ := HK.out w1 hB
                have f1 := q6 (k * 4 + 1)
                have f3 := q6 (k * 4 + 3)
                have HF : Hid (∀ w2 : World, w2.heap = ((w1.setCell ⟨g, k * 4 + 1, none⟩ (.string (st.extract sm st.size))).setCell ⟨g, k * 4 + 3, none⟩ (.bool false)).heap → w2.os = w1.os → w2.tape = w1.tape → w2.output = w1.output → Q (.returned (.tuple #[.string (st.extract 0 sm), .bool false, .int .i64 0])) w2) := fun w2 => hfin sm false w2 (hmm).symm (by rw [hmm]; rw [decide_eq_false (by omega)]; simp)
                clear hfin q6
                go_wp2_with fail
                refine Calls.mono (HAT.out w1 hB) ?_
                rintro e w1 ⟨rfl, rfl⟩
                go_wp2_with fail
                go_region
                all_goals
                  go_wp2_with fail
                  go_ret3
                  refine HF.out _ ?_ ?_ ?_ ?_ <;> rfl
              · have t2 : decide ((sm : Int) < (fm : Int)) = false := decide_eq_false (by omega)
                have t2N : decide (sm < fm) = false := decide_eq_false hs2
                have hmm : (rm (cm : Int) (sm : Int) (st.size : Int) (fm : Int)).toNat = fm := by unfold rm; omega
                have hlm : fm ≤ st.size := by omega
                have hem : (st.extract fm st.size).toList.isEmpty = false := by
                  rw [ByteArray.toList_eq]
                  have h1 := Lib.size_eq (st.extract fm st.size)
                  rw [ByteArray.size_extract] at h1
                  cases e : (st.extract fm st.size).data.toList with
                  | nil => rw [e] at h1; simp only [List.length_nil] at h1; omega
                  | cons a r => rfl
                have hem2 : ¬ (st.extract fm st.size).toList = [] := fun e => by rw [e] at hem; cases hem
                go_enter Try.func31, Try.ntmps31
                go_wp2_with fail
                refine Calls.mono HWT.out ?_
                rintro e w1 ⟨rfl, hB⟩
                obtain ⟨g, cap, -, q1, q2, q3, q6, d1, d3, cp0, lp0, hpg, hfin⟩ := HK.out w1 hB
                have f1 := q6 (k * 4 + 1)
                have f3 := q6 (k * 4 + 3)
                have HF : Hid (∀ w2 : World, w2.heap = ((w1.setCell ⟨g, k * 4 + 1, none⟩ (.string (st.extract fm st.size))).setCell ⟨g, k * 4 + 3, none⟩ (.bool false)).heap → w2.os = w1.os → w2.tape = w1.tape → w2.output = w1.output → Q (.returned (.tuple #[.string (st.extract 0 fm), .bool false, .int .i64 0])) w2) := fun w2 => hfin fm false w2 (hmm).symm (by rw [hmm]; rw [decide_eq_false (by omega)]; simp)
                clear hfin q6
                go_wp2_with fail
                refine Calls.mono (HAT.out w1 hB) ?_
                rintro e w1 ⟨rfl, rfl⟩
                go_wp2_with fail
                go_region
                all_goals
                  go_wp2_with fail
                  go_ret3
                  refine HF.out _ ?_ ?_ ?_ ?_ <;> rfl
          · have t0 : decide ((fm : Int) < (st.size : Int)) = false := decide_eq_false (by omega)
            have t0N : decide (fm < st.size) = false := decide_eq_false hf0
            by_cases hc1 : cm < st.size
            · have t1 : decide ((cm : Int) < (st.size : Int)) = true := decide_eq_true (by omega)
              have t1N : decide (cm < st.size) = true := decide_eq_true hc1
              have pm1 : decide ((0 : Int) < (st.size : Int)) = true := decide_eq_true (by omega)
              have pm1N : decide (0 < st.size) = true := decide_eq_true (by omega)
              by_cases hs2 : sm < cm
              · have t2 : decide ((sm : Int) < (cm : Int)) = true := decide_eq_true (by omega)
                have t2N : decide (sm < cm) = true := decide_eq_true hs2
                have pm2 : decide ((0 : Int) < (cm : Int)) = true := decide_eq_true (by omega)
                have pm2N : decide (0 < cm) = true := decide_eq_true (by omega)
                have hmm : (rm (cm : Int) (sm : Int) (st.size : Int) (fm : Int)).toNat = sm := by unfold rm; omega
                have hlm : sm ≤ st.size := by omega
                have hem : (st.extract sm st.size).toList.isEmpty = false := by
                  rw [ByteArray.toList_eq]
                  have h1 := Lib.size_eq (st.extract sm st.size)
                  rw [ByteArray.size_extract] at h1
                  cases e : (st.extract sm st.size).data.toList with
                  | nil => rw [e] at h1; simp only [List.length_nil] at h1; omega
                  | cons a r => rfl
                have hem2 : ¬ (st.extract sm st.size).toList = [] := fun e => by rw [e] at hem; cases hem
                go_enter Try.func31, Try.ntmps31
                go_wp2_with fail
                refine Calls.mono HWT.out ?_
                rintro e w1 ⟨rfl, hB⟩
                obtain ⟨g, cap, -, q1, q2, q3, q6, d1, d3, cp0, lp0, hpg, hfin⟩ := HK.out w1 hB
                have f1 := q6 (k * 4 + 1)
                have f3 := q6 (k * 4 + 3)
                have HF : Hid (∀ w2 : World, w2.heap = ((w1.setCell ⟨g, k * 4 + 1, none⟩ (.string (st.extract sm st.size))).setCell ⟨g, k * 4 + 3, none⟩ (.bool false)).heap → w2.os = w1.os → w2.tape = w1.tape → w2.output = w1.output → Q (.returned (.tuple #[.string (st.extract 0 sm), .bool false, .int .i64 0])) w2) := fun w2 => hfin sm false w2 (hmm).symm (by rw [hmm]; rw [decide_eq_false (by omega)]; simp)
                clear hfin q6
                go_wp2_with fail
                refine Calls.mono (HAT.out w1 hB) ?_
                rintro e w1 ⟨rfl, rfl⟩
                go_wp2_with fail
                go_region
                all_goals
                  go_wp2_with fail
                  go_ret3
                  refine HF.out _ ?_ ?_ ?_ ?_ <;> rfl
              · have t2 : decide ((sm : Int) < (cm : Int)) = false := decide_eq_false (by omega)
                have t2N : decide (sm < cm) = false := decide_eq_false hs2
                have hmm : (rm (cm : Int) (sm : Int) (st.size : Int) (fm : Int)).toNat = cm := by unfold rm; omega
                have hlm : cm ≤ st.size := by omega
                have hem : (st.extract cm st.size).toList.isEmpty = false := by
                  rw [ByteArray.toList_eq]
                  have h1 := Lib.size_eq (st.extract cm st.size)
                  rw [ByteArray.size_extract] at h1
                  cases e : (st.extract cm st.size).data.toList with
                  | nil => rw [e] at h1; simp only [List.length_nil] at h1; omega
                  | cons a r => rfl
                have hem2 : ¬ (st.extract cm st.size).toList = [] := fun e => by rw [e] at hem; cases hem
                go_enter Try.func31, Try.ntmps31
                go_wp2_with fail
                refine Calls.mono HWT.out ?_
                rintro e w1 ⟨rfl, hB⟩
                obtain ⟨g, cap, -, q1, q2, q3, q6, d1, d3, cp0, lp0, hpg, hfin⟩ := HK.out w1 hB
                have f1 := q6 (k * 4 + 1)
                have f3 := q6 (k * 4 + 3)
                have HF : Hid (∀ w2 : World, w2.heap = ((w1.setCell ⟨g, k * 4 + 1, none⟩ (.string (st.extract cm st.size))).setCell ⟨g, k * 4 + 3, none⟩ (.bool false)).heap → w2.os = w1.os → w2.tape = w1.tape → w2.output = w1.output → Q (.returned (.tuple #[.string (st.extract 0 cm), .bool false, .int .i64 0])) w2) := fun w2 => hfin cm false w2 (hmm).symm (by rw [hmm]; rw [decide_eq_false (by omega)]; simp)
                clear hfin q6
                go_wp2_with fail
                refine Calls.mono (HAT.out w1 hB) ?_
                rintro e w1 ⟨rfl, rfl⟩
                go_wp2_with fail
                go_region
                all_goals
                  go_wp2_with fail
                  go_ret3
                  refine HF.out _ ?_ ?_ ?_ ?_ <;> rfl
            · have t1 : decide ((cm : Int) < (st.size : Int)) = false := decide_eq_false (by omega)
              have t1N : decide (cm < st.size) = false := decide_eq_false hc1
              by_cases hs2 : sm < st.size
              · have t2 : decide ((sm : Int) < (st.size : Int)) = true := decide_eq_true (by omega)
                have t2N : decide (sm < st.size) = true := decide_eq_true hs2
                have pm2 : decide ((0 : Int) < (st.size : Int)) = true := decide_eq_true (by omega)
                have pm2N : decide (0 < st.size) = true := decide_eq_true (by omega)
                have hmm : (rm (cm : Int) (sm : Int) (st.size : Int) (fm : Int)).toNat = sm := by unfold rm; omega
                have hlm : sm ≤ st.size := by omega
                have hem : (st.extract sm st.size).toList.isEmpty = false := by
                  rw [ByteArray.toList_eq]
                  have h1 := Lib.size_eq (st.extract sm st.size)
                  rw [ByteArray.size_extract] at h1
                  cases e : (st.extract sm st.size).data.toList with
                  | nil => rw [e] at h1; simp only [List.length_nil] at h1; omega
                  | cons a r => rfl
                have hem2 : ¬ (st.extract sm st.size).toList = [] := fun e => by rw [e] at hem; cases hem
                go_enter Try.func31, Try.ntmps31
                go_wp2_with fail
                refine Calls.mono HWT.out ?_
                rintro e w1 ⟨rfl, hB⟩
                obtain ⟨g, cap, -, q1, q2, q3, q6, d1, d3, cp0, lp0, hpg, hfin⟩ := HK.out w1 hB
                have f1 := q6 (k * 4 + 1)
                have f3 := q6 (k * 4 + 3)
                have HF : Hid (∀ w2 : World, w2.heap = ((w1.setCell ⟨g, k * 4 + 1, none⟩ (.string (st.extract sm st.size))).setCell ⟨g, k * 4 + 3, none⟩ (.bool false)).heap → w2.os = w1.os → w2.tape = w1.tape → w2.output = w1.output → Q (.returned (.tuple #[.string (st.extract 0 sm), .bool false, .int .i64 0])) w2) := fun w2 => hfin sm false w2 (hmm).symm (by rw [hmm]; rw [decide_eq_false (by omega)]; simp)
                clear hfin q6
                go_wp2_with fail
                refine Calls.mono (HAT.out w1 hB) ?_
                rintro e w1 ⟨rfl, rfl⟩
                go_wp2_with fail
                go_region
                all_goals
                  go_wp2_with fail
                  go_ret3
                  refine HF.out _ ?_ ?_ ?_ ?_ <;> rfl
              · have t2 : decide ((sm : Int) < (st.size : Int)) = false := decide_eq_false (by omega)
                have t2N : decide (sm < st.size) = false := decide_eq_false hs2
                have hmm : (rm (cm : Int) (sm : Int) (st.size : Int) (fm : Int)).toNat = st.size := by unfold rm; omega
                have hem : (st.extract st.size st.size).toList.isEmpty = true := by
                  rw [ByteArray.toList_eq, List.isEmpty_iff, ← List.length_eq_zero_iff, ← Lib.size_eq, ByteArray.size_extract]
                  omega
                cases we
                · go_enter Try.func31, Try.ntmps31
                  go_wp2_with fail
                  refine Calls.mono HWT.out ?_
                  rintro e w1 ⟨rfl, hB⟩
                  obtain ⟨g, cap, -, q1, q2, q3, q6, d1, d3, cp0, lp0, hpg, hfin⟩ := HK.out w1 hB
                  have f1 := q6 (k * 4 + 1)
                  have f3 := q6 (k * 4 + 3)
                  have HF : Hid (∀ w2 : World, w2.heap = ((w1.setCell ⟨g, k * 4 + 1, none⟩ (.string ByteArray.empty)).setCell ⟨g, k * 4 + 3, none⟩ (.bool false)).heap → w2.os = w1.os → w2.tape = w1.tape → w2.output = w1.output → Q (.returned (.tuple #[.string st, .bool false, .int .i64 0])) w2) := by
                    have x1 : st.extract 0 st.size = st := ext_all st
                    have x2 : st.extract st.size st.size = ByteArray.empty := ext_none st
                    rw [← x2]
                    intro w2
                    have := (fun w2 => hfin st.size false w2 (hmm).symm (by rw [hmm]; simp)) w2
                    rw [x1] at this
                    exact this
                  clear hfin q6
                  go_wp2_with fail
                  refine Calls.mono (HAT.out w1 hB) ?_
                  rintro e w1 ⟨rfl, rfl⟩
                  go_wp2_with fail
                  go_region
                  all_goals
                    go_wp2_with fail
                    go_ret3
                    refine HF.out _ ?_ ?_ ?_ ?_ <;> rfl
                · go_enter Try.func31, Try.ntmps31
                  go_wp2_with fail
                  refine Calls.mono HWT.out ?_
                  rintro e w1 ⟨rfl, hB⟩
                  obtain ⟨g, cap, -, q1, q2, q3, q6, d1, d3, cp0, lp0, hpg, hfin⟩ := HK.out w1 hB
                  have f1 := q6 (k * 4 + 1)
                  have f3 := q6 (k * 4 + 3)
                  have HF : Hid (∀ w2 : World, w2.heap = ((w1.setCell ⟨g, k * 4 + 1, none⟩ (.string ByteArray.empty)).setCell ⟨g, k * 4 + 3, none⟩ (.bool true)).heap → w2.os = w1.os → w2.tape = w1.tape → w2.output = w1.output → Q (.returned (.tuple #[.string st, .bool true, .int .i64 0])) w2) := by
                    have x1 : st.extract 0 st.size = st := ext_all st
                    have x2 : st.extract st.size st.size = ByteArray.empty := ext_none st
                    rw [← x2]
                    intro w2
                    have := (fun w2 => hfin st.size true w2 (hmm).symm (by rw [hmm]; simp)) w2
                    rw [x1] at this
                    exact this
                  clear hfin q6
                  go_wp2_with fail
                  refine Calls.mono (HAT.out w1 hB) ?_
                  rintro e w1 ⟨rfl, rfl⟩
                  go_wp2_with fail
                  go_region
                  all_goals
                    go_wp2_with fail
                    go_ret3
                    refine HF.out _ ?_ ?_ ?_ ?_ <;> rfl
end Go.Proofs.Ytbmaknjeflblcaa
