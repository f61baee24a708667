/- ScriptBack. A frame among the arguments, opened, of a bulk that is bounded. -/
import Derived.Test.YtghppkfopglgaaaGreatDoorKaz
import Derived.Test.YtghppkfopglgaaaGreatDoorKba
import Derived.Test.YtghppkfopglgaaaGreatDoorKaf
import Derived.Test.YtghppkfopglgaaaGreatDoorKaw
import Derived.ProofKit
import Derived.SizedLaws
import Derived.Deep.SlicePairs
namespace Go.Proofs.YtghppkfopglgaaaGreatDoor
open Go.RowKit
set_option linter.unusedVariables false
set_option linter.unusedSimpArgs false
def TxW (l : List Wd) : Prop := ∀ x ∈ l, x.t.size ≤ 140737488355328
theorem txPg_of (p : Pg) (h : TxW (pgW p)) : TxPg p :=
  ⟨h (qW p.a) (by simp [pgW]), h (qW p.p) (by simp [pgW]), h (qW p.vr) (by simp [pgW]), fun c hc => ⟨h (qW c.v) (by unfold pgW; exact List.mem_append_right _ (List.mem_flatMap.2 ⟨c, hc, by simp [chW]⟩)), h (qW c.b) (by unfold pgW; exact List.mem_append_right _ (List.mem_flatMap.2 ⟨c, hc, by simp [chW]⟩))⟩⟩
theorem txTg_of (t : Tg) (h : TxW (tgW t)) : TxTg t := ⟨h (qW t.a) (by simp [tgW]), h (qW t.p) (by simp [tgW])⟩
theorem txRq_of (q : Rq) (h : TxW (rqW q)) : TxRq q :=
  ⟨h (qW q.m) (by simp [rqW]), h (qW q.s) (by simp [rqW]), h (qW q.a) (by simp [rqW]), h (qW q.p) (by simp [rqW]), h (qW q.b) (by simp [rqW]), fun f hf => ⟨h (qW f.n) (by unfold rqW; exact List.mem_append_right _ (List.mem_flatMap.2 ⟨f, hf, by simp [fdW]⟩)), h (qW f.v) (by unfold rqW; exact List.mem_append_right _ (List.mem_flatMap.2 ⟨f, hf, by simp [fdW]⟩))⟩⟩
theorem txWo_of (w : Wo) (h : ∀ l ∈ woW w, TxW l) : TxWo w := by
  refine ⟨fun p hp => txPg_of p fun x hx => h (bW nPage :: pgW p) (by unfold woW; simp only [List.mem_append, List.mem_map]; exact .inl (.inl (.inl (.inr ⟨p, hp, rfl⟩)))) x (List.mem_cons_of_mem _ hx), fun u hu => ?_, fun s hs => h [bW nOrigin, qW s] (by unfold woW; simp only [List.mem_append, List.mem_map]; exact .inl (.inr ⟨s, hs, rfl⟩)) (qW s) (by simp)⟩
  have hu' : TxW (ruW u) := fun x hx => h (bW nRule :: ruW u) (by unfold woW; simp only [List.mem_append, List.mem_map]; exact .inl (.inl (.inr ⟨u, hu, rfl⟩))) x (List.mem_cons_of_mem _ hx)
  exact ⟨txTg_of _ fun x hx => hu' x (by unfold ruW; exact List.mem_append_left _ hx), fun t ht => txTg_of _ fun x hx => hu' x (by unfold ruW; exact List.mem_append_right _ (List.mem_flatMap.2 ⟨t, ht, hx⟩))⟩
theorem ns_sz : noS.size = 0 := rfl
theorem txPg_z : TxPg Pg.z := ⟨Nat.zero_le _, Nat.zero_le _, Nat.zero_le _, fun c hc => absurd hc (by simp [Pg.z])⟩
theorem txRq_z : TxRq Mv.z.rq := ⟨Nat.zero_le _, Nat.zero_le _, Nat.zero_le _, Nat.zero_le _, Nat.zero_le _, fun c hc => absurd hc (by simp [Mv.z, Rq.z])⟩
theorem txWo_z : TxWo Wo.z := ⟨fun p hp => absurd hp (by simp [Wo.z]), fun p hp => absurd hp (by simp [Wo.z]), fun p hp => absurd hp (by simp [Wo.z])⟩
theorem txC_of (c : Cm) (h : Fit c) (hw : ∀ l ∈ cmW c, TxW l) : TxC c := by
  obtain ⟨_, ⟨k1, k2, k3⟩, hcl⟩ := h
  by_cases e1 : c.k = 1
  · have e := cl_1 c e1
    rw [hcl] at e
    have hm : c.m = Mv.z := by rw [e]; rfl
    refine ⟨txWo_of _ fun l hl => hw l (by unfold cmW; rw [e1]; exact List.mem_cons_of_mem _ hl), ?_, ?_, ?_⟩
    · rw [hm]; exact txPg_z
    · rw [hm]; exact txRq_z
    · rw [hm]; exact Nat.zero_le _
  by_cases e2 : c.k = 2
  · have e := cl_2 c e2
    rw [hcl] at e
    have hm : c.m = c.m.cl := congrArg Cm.m e
    have hwo : c.w = Wo.z := by rw [e]; rfl
    have hx : TxW (mvW c.m) := hw _ (by unfold cmW; rw [e2]; exact List.mem_singleton.2 rfl)
    refine ⟨by rw [hwo]; exact txWo_z, ?_⟩
    obtain ⟨m1, m2⟩ := k3 e2
    rcases (show c.m.k = 1 ∨ c.m.k = 8 ∨ c.m.k = 9 ∨ c.m.k = 10 ∨ c.m.k = 2 ∨ c.m.k = 3 ∨ c.m.k = 4 ∨ c.m.k = 5 ∨ c.m.k = 6 ∨ c.m.k = 7 by omega) with q | q | q | q | q | q | q | q | q | q
    · have hq : TxW (rqW c.m.rq) := fun x hx' => hx x (by unfold mvW; rw [q]; exact List.mem_cons_of_mem _ hx')
      refine ⟨?_, txRq_of _ hq, ?_⟩ <;> (rw [hm]; unfold Mv.cl; rw [q])
      · exact txPg_z
      · exact Nat.zero_le _
    · have hq : TxW (pgW c.m.pg) := fun x hx' => hx x (by unfold mvW; rw [q]; exact List.mem_cons_of_mem _ hx')
      refine ⟨txPg_of _ hq, ?_, ?_⟩ <;> (rw [hm]; unfold Mv.cl; rw [q])
      · exact txRq_z
      · exact Nat.zero_le _
    · refine ⟨?_, ?_, ?_⟩ <;> (rw [hm]; unfold Mv.cl; rw [q])
      · exact txPg_z
      · exact txRq_z
      · exact Nat.zero_le _
    · have hq : (qW c.m.by').t.size ≤ 140737488355328 := hx _ (by unfold mvW; rw [q]; simp)
      refine ⟨?_, ?_, hq⟩ <;> (rw [hm]; unfold Mv.cl; rw [q])
      · exact txPg_z
      · exact txRq_z
    all_goals
      refine ⟨?_, ?_, ?_⟩ <;> (rw [hm]; unfold Mv.cl; rw [q])
      · exact txPg_z
      · exact txRq_z
      · exact Nat.zero_le _
  have hz : c.w = Wo.z ∧ c.m = Mv.z := by
    by_cases e3 : c.k = 3
    · have e := cl_3 c e3; rw [hcl] at e; exact ⟨by rw [e]; rfl, by rw [e]; rfl⟩
    by_cases e10 : c.k = 10
    · have e := cl_10 c e10; rw [hcl] at e; exact ⟨by rw [e]; rfl, by rw [e]; rfl⟩
    · have e := cl_n c (by omega) (by omega); rw [hcl] at e; exact ⟨by rw [e]; rfl, by rw [e]; rfl⟩
  unfold TxC
  rw [hz.1, hz.2]
  exact ⟨txWo_z, txPg_z, txRq_z, Nat.zero_le _⟩
theorem none_kok (c : Cm) : noneB c = !(kokB c) := by
  rw [Bool.eq_iff_iff]
  have := kokB_iff c
  unfold noneB
  unfold KOk at this
  cases hb : kokB c <;> rw [hb] at this <;> simp at this ⊢ <;> split <;> (try simp) <;> omega
/-- the commands that were handed in -/
theorem back_facts (xs : List (Cm × CmS)) : ((xs.all fun q => kokB q.1) = false → printL (xs.map (·.1)) = ([], 260)) ∧ ((xs.all fun q => kokB q.1) = true → (∀ q ∈ xs, KOk q.1) ∧ (longB (prT (xs.map (·.1))) = true → printL (xs.map (·.1)) = ([], 3)) ∧ (longB (prT (xs.map (·.1))) = false → printL (xs.map (·.1)) = (prT (xs.map (·.1)), 0))) := by
  have hany : (xs.map (·.1)).any noneB = !(xs.all fun q => kokB q.1) := by
    rw [List.any_map, List.not_all_eq_any_not]
    congr 1
    funext q
    exact none_kok q.1
  unfold printL
  rw [hany]
  refine ⟨fun h => by rw [h]; rfl, fun h => ⟨fun q hq => (kokB_iff _).1 (List.all_eq_true.1 h q hq), fun hl => by rw [h, hl]; rfl, fun hl => by rw [h, hl]; rfl⟩⟩
/-- the text -/
theorem text_facts (s : ByteArray) (hs : s.size ≤ 140737488355328) : ((parseL s.data.toList).2 ≠ 0 → (parseL s.data.toList).1 = []) ∧ ((parseL s.data.toList).2 = 0 → (∀ c ∈ (parseL s.data.toList).1, CmOk c ∧ TxC c) ∧ (printL (parseL s.data.toList).1 = ([], 3) ∨ ∃ T : ByteArray, T.size ≤ 65536 ∧ printL (parseL s.data.toList).1 = (T.data.toList, 0) ∧ parseL T.data.toList = ((parseL s.data.toList).1, 0))) := by
  obtain ⟨cs, E, he⟩ : ∃ cs E, parseL s.data.toList = (cs, E) := ⟨_, _, rfl⟩
  rw [he]
  refine ⟨fun h => ?_, fun h => ?_⟩
  · have h' := he
    unfold parseL at h'
    split at h'
    · cases h'; rfl
    · split at h'
      · cases h'; exact absurd rfl h
      · cases h'; rfl
  · simp only at h
    subst h
    obtain ⟨hw, hf⟩ := parse_inv _ _ he
    have hT : ∀ c ∈ cs, TxC c := fun c hc => txC_of c (hf c hc) fun l hl x hx => Nat.le_trans (wds_txt_le s x (by
      rw [hw]
      exact List.mem_flatMap.2 ⟨l, List.mem_flatMap.2 ⟨c, hc, hl⟩, List.mem_append_left _ hx⟩)) hs
    refine ⟨fun c hc => ⟨(hf c hc).1, hT c hc⟩, ?_⟩
    have hn : cs.any noneB = false := by
      rw [Bool.eq_false_iff]
      intro hh
      obtain ⟨c, hc, hq⟩ := List.any_eq_true.1 hh
      rw [none_kok, (kokB_iff c).2 (hf c hc).2.1] at hq
      cases hq
    cases hl : longB (prT cs) with
    | true => exact .inl (by unfold printL; rw [hn, hl]; rfl)
    | false =>
      refine .inr ⟨bt (prT cs), ?_, by unfold printL; rw [hn, hl]; rfl, ?_⟩
      · have := (wds_len (bt (prT cs)) (by rw [bt_toList]; exact hl)).2
        exact this
      · rw [bt_toList, parse_prT cs (fun c hc => ⟨(hf c hc).1, (hf c hc).2.1⟩) hl, fit_cl cs hf]
set_option maxRecDepth 100000 in
set_option maxHeartbeats 32000000 in
theorem back_law (v : Value) (xs : List (Cm × CmS)) (text : ByteArray) (w : World) (hE : Env w) (hI : In EC2 w v xs) (hlen : xs.length * 488 ≤ 140737488351232) (hC : ∀ x ∈ xs, CmOk x.1 ∧ TxC x.1) (hR : ∀ x ∈ xs, CmRd w x) (ht : text.size ≤ 140737488355328) : Calls Tryz.prog 8 #[v, .string text] w fun e w' => e = .returned (.bool true) ∧ Below w.heap.size w w' := by
  have HEV : Hid (∀ V, Below w.heap.size w V → Env V) := hid (fun V h => hE.of h.size fun k hk => h.block k (by have := hE.sz; omega))
  have HH := hid (head_any w hE)
  have HO := hid (fun V (h : Below w.heap.size w V) => own_any v xs V (hI.below h) hlen)
  have HRD := hid hR
  have HCL := hid (fun V u (h : Below w.heap.size w V) (hr : R ECm V u xs) => cleared_any u xs V hr (fun q hq => (HRD.out q hq).below h) hlen)
  have HPA := hid (fun V u (h : Below w.heap.size w V) (hr : R ECm V u xs) => print_w u xs V (HEV.out V h) (InC.of hr) (by omega) hC (fun q hq => (HRD.out q hq).below h))
  have HP := hid (fun s hs V (h : Below w.heap.size w V) => parse_w s hs V (HEV.out V h))
  have HPT := hid (HP.out text ht)
  obtain ⟨fa, fb⟩ := back_facts xs
  obtain ⟨ta, tb⟩ := text_facts text ht
  have hOK : ∀ c ∈ xs.map (·.1), CmOk c := by
    intro c hc
    obtain ⟨q, hq, rfl⟩ := List.mem_map.1 hc
    exact (hC q hq).1
  have HV : ∃ a n c, v = .slice a n c := by
    rcases hI with ⟨rfl, _⟩ | ⟨a, cap, rfl, _⟩ <;> exact ⟨_, _, _, rfl⟩
  obtain ⟨va, vn, vc, rfl⟩ := HV
  clear hE hI hlen hC hR ht
  obtain ⟨BB, hBB⟩ : ∃ b, (xs.all fun q => kokB q.1) = b := ⟨_, rfl⟩
  rw [hBB] at fa fb HCL
  clear hBB
  cases BB with
  | false =>
    have hp := fa rfl
    rw [hp] at HPA
    replace HPA : Hid (∀ V u, Below w.heap.size w V → R ECm V u xs → Calls Tryz.prog 12 #[u] V fun e w' => e = .returned (.tuple #[.string ⟨#[]⟩, .int .i64 260]) ∧ Below V.heap.size V w') := hid (fun V u a b => HPA.out V u a b)
    clear fa fb ta tb hOK hp
    go_enter Tryz.func8, Tryz.ntmps8
    go_wp2_with fail
    go_at_call 9
    refine HH.out.mono ?_
    rintro e V0 ⟨rfl, hb0⟩
    go_wp2_with fail
    go_at_call 18
    refine (HO.out _ hb0).mono ?_
    rintro e V1 ⟨oa, on, oc, rfl, hR1, _, hb1⟩
    have HB1 := hid (hb0.trans (hb1.mono hb0.size))
    have HR1 := hid hR1
    clear hb0 hb1 hR1 HH HO
    go_wp2_with fail
    go_at_call 19
    refine (HCL.out _ _ HB1.out HR1.out).mono ?_
    rintro e V2 ⟨ca, cn, cc, rfl, hb2, hys⟩
    have HB2 := hid (HB1.out.trans (hb2.mono HB1.out.size))
    have HR2 := hid (HR1.out.below hb2)
    clear HB1 HR1 hb2 hys HCL
    go_wp2_with fail
    go_at_call 12
    refine (HPA.out _ _ HB2.out HR2.out).mono ?_
    rintro e V3 ⟨rfl, hb3⟩
    have HB3 := hid (HB2.out.trans (hb3.mono HB2.out.size))
    clear HB2 HR2 hb3 HPA
    go_wp2_with fail
    go_ret
    exact ⟨rfl, HB3.out⟩
  | true =>
    obtain ⟨hk, f3, f0⟩ := fb rfl
    have HKK := hid hk
    clear fa fb hk
    cases hl : longB (prT (xs.map (·.1))) with
    | true =>
      have hp := f3 hl
      rw [hp] at HPA
      replace HPA : Hid (∀ V u, Below w.heap.size w V → R ECm V u xs → Calls Tryz.prog 12 #[u] V fun e w' => e = .returned (.tuple #[.string ⟨#[]⟩, .int .i64 3]) ∧ Below V.heap.size V w') := hid (fun V u a b => HPA.out V u a b)
      have HTA := hid ta
      have HTB := hid tb
      clear f3 f0 ta tb hOK hl hp
      go_enter Tryz.func8, Tryz.ntmps8
      go_wp2_with fail
      go_at_call 9
      refine HH.out.mono ?_
      rintro e V0 ⟨rfl, hb0⟩
      go_wp2_with fail
      go_at_call 18
      refine (HO.out _ hb0).mono ?_
      rintro e V1 ⟨oa, on, oc, rfl, hR1, _, hb1⟩
      have HB1 := hid (hb0.trans (hb1.mono hb0.size))
      have HR1 := hid hR1
      clear hb0 hb1 hR1 HH HO
      go_wp2_with fail
      go_at_call 19
      refine (HCL.out _ _ HB1.out HR1.out).mono ?_
      rintro e V2 ⟨ca, cn, cc, rfl, hb2, hys⟩
      obtain ⟨ys, hye, hyr, hyd⟩ := hys HKK.out
      have HYE := hid hye
      have HB2 := hid (HB1.out.trans (hb2.mono HB1.out.size))
      have HR2 := hid (HR1.out.below hb2)
      clear HB1 HR1 hb2 hys HCL
      go_wp2_with fail
      go_at_call 12
      refine (HPA.out _ _ HB2.out HR2.out).mono ?_
      rintro e V3 ⟨rfl, hb3⟩
      have HB3 := hid (HB2.out.trans (hb3.mono HB2.out.size))
      have HYS := hid (And.intro (hyr.below hb3) (fun q hq => (hyd q hq).below hb3))
      clear hyr hyd hye
      clear HB2 HR2 hb3 HPA
      by_cases hE2 : (parseL text.data.toList).2 = 0
      · obtain ⟨hcT, hpr⟩ := HTB.out hE2
        have HCT := hid hcT
        have HPC := hid (parse_count text)
        rw [hE2] at HPT
        rcases hpr with h3 | ⟨T, hT, h0, hpT⟩
        · have HPR3 : Hid (∀ V u cs, Below w.heap.size w V → PR V u cs → cs.map (·.1) = (parseL text.data.toList).1 → Calls Tryz.prog 12 #[u] V fun e w' => e = .returned (.tuple #[.string ⟨#[]⟩, .int .i64 3]) ∧ Below V.heap.size V w') := hid (fun V u cs a b hm => by
            have := print_w u cs V (HEV.out V a) (InC.of b.row) (by have := HPC.out; have := congrArg List.length hm; simp only [List.length_map] at this; omega) (fun x hx => HCT.out _ (by rw [← hm]; exact List.mem_map_of_mem hx)) b.rd
            rw [hm, h3] at this
            exact this)
          clear h3 hcT hE2
          go_wp2_with fail
          go_at_call 11
          refine (HPT.out _ HB3.out).mono ?_
          rintro e V6 ⟨ta', tn, tc, ts, rfl, -, hte, hPR, hb6⟩
          have HB6 := hid (HB3.out.trans (hb6.mono HB3.out.size))
          have HPR6 := hid (HPR3.out _ _ ts HB6.out hPR hte)
          clear hb6 hPR hte HB3
          go_wp2_with fail
          go_at_call 12
          refine HPR6.out.mono ?_
          rintro e V7 ⟨rfl, hb7⟩
          have HB7 := hid (HB6.out.trans (hb7.mono HB6.out.size))
          clear hb7 HB6 HPR6
          go_wp2_with fail
          go_ret
          exact ⟨rfl, HB7.out⟩
        · have HPR3 : Hid (∀ V u cs, Below w.heap.size w V → PR V u cs → cs.map (·.1) = (parseL text.data.toList).1 → Calls Tryz.prog 12 #[u] V fun e w' => e = .returned (.tuple #[.string T, .int .i64 0]) ∧ Below V.heap.size V w') := hid (fun V u cs a b hm => by
            have := print_w u cs V (HEV.out V a) (InC.of b.row) (by have := HPC.out; have := congrArg List.length hm; simp only [List.length_map] at this; omega) (fun x hx => HCT.out _ (by rw [← hm]; exact List.mem_map_of_mem hx)) b.rd
            rw [hm, h0] at this
            exact this)
          have HPT2 := hid (HP.out T (by omega))
          rw [hpT] at HPT2
          replace HPT2 : Hid (∀ V, Below w.heap.size w V → Calls Tryz.prog 11 #[.string T] V fun e w' => ∃ (a : Option Addr) (n c : Nat) (cs : List (Cm × CmS)), e = .returned (.tuple #[.slice a n c, .int .i64 0]) ∧ n = cs.length ∧ cs.map (·.1) = (parseL text.data.toList).1 ∧ PR w' (.slice a n c) cs ∧ Below V.heap.size V w') := hid (fun V h => HPT2.out V h)
          clear h0 hpT hT hcT hE2
          go_wp2_with fail
          go_at_call 11
          refine (HPT.out _ HB3.out).mono ?_
          rintro e V6 ⟨ta', tn, tc, ts, rfl, -, hte, hPR, hb6⟩
          have HB6 := hid (HB3.out.trans (hb6.mono HB3.out.size))
          have HPR6 := hid (HPR3.out _ _ ts HB6.out hPR hte)
          have HQ6 := hid hPR
          have HTE := hid hte
          clear hb6 hPR hte HB3
          go_wp2_with fail
          go_at_call 12
          refine HPR6.out.mono ?_
          rintro e V7 ⟨rfl, hb7⟩
          have HB7 := hid (HB6.out.trans (hb7.mono HB6.out.size))
          have HQ7 := hid (HQ6.out.below hb7)
          clear hb7 HB6 HPR6 HQ6
          go_wp2_with fail
          go_at_call 11
          refine (HPT2.out _ HB7.out).mono ?_
          rintro e V8 ⟨na, nn, nc, ns, rfl, -, hne, hPR, hb8⟩
          have HB8 := hid (HB7.out.trans (hb8.mono HB7.out.size))
          have HPR8 := hid (HPR3.out _ _ ns HB8.out hPR hne)
          have HQ8 := hid (HQ7.out.below hb8)
          have HN8 := hid hPR
          have HNE := hid hne
          clear hb8 hPR hne HB7 HQ7
          go_wp2_with fail
          go_at_call 12
          refine HPR8.out.mono ?_
          rintro e V9 ⟨rfl, hb9⟩
          have HB9 := hid (HB8.out.trans (hb9.mono HB8.out.size))
          have HSM := hid (same_any _ _ ts ns V9 (by rw [HTE.out, HNE.out]) (HQ8.out.below hb9).row (HN8.out.below hb9).row (HQ8.out.below hb9).rd (HN8.out.below hb9).rd)
          clear hb9 HB8 HPR8 HQ8 HN8
          go_wp2_with fail
          go_at_call 15
          refine HSM.out.mono ?_
          rintro e VA ⟨rfl, hbA⟩
          have HBA := hid (HB9.out.trans (hbA.mono HB9.out.size))
          clear hbA HB9 HSM
          go_wp2_with fail
          go_ret
          exact ⟨rfl, HBA.out⟩
      · have hnil := HTA.out hE2
        obtain ⟨E2, hE2'⟩ : ∃ E, (parseL text.data.toList).2 = E := ⟨_, rfl⟩
        rw [hE2'] at hE2 HPT
        rw [hnil] at HPT
        have d0 : (E2 == 0) = false := by simpa using hE2
        clear hnil hE2' HTA HTB
        go_wp2_with fail
        go_at_call 11
        refine (HPT.out _ HB3.out).mono ?_
        rintro e V6 ⟨ta', tn, tc, ts, rfl, hn, hte, _, hb6⟩
        have hn0 : tn = 0 := by rw [hn, List.map_eq_nil_iff.1 hte]; rfl
        subst hn0
        have HB6 := hid (HB3.out.trans (hb6.mono HB3.out.size))
        clear hb6 hte hn HB3
        go_wp2_with fail
        go_ret
        exact ⟨rfl, HB6.out⟩
    | false =>
      have hp := f0 hl
      obtain ⟨S1, hS1⟩ : ∃ S, bt (prT (xs.map (·.1))) = S := ⟨_, rfl⟩
      have hz1 : S1.size ≤ 140737488355328 := by
        have := (wds_len S1 (by rw [← hS1, bt_toList]; exact hl)).2
        omega
      have hpp : parseL S1.data.toList = ((xs.map (·.1)).map Cm.cl, 0) := by
        rw [← hS1, bt_toList]
        refine parse_prT _ (fun c hc => ⟨hOK c hc, ?_⟩) hl
        obtain ⟨q, hq, rfl⟩ := List.mem_map.1 hc
        exact HKK.out q hq
      rw [hp] at HPA
      replace HPA : Hid (∀ V u, Below w.heap.size w V → R ECm V u xs → Calls Tryz.prog 12 #[u] V fun e w' => e = .returned (.tuple #[.string S1, .int .i64 0]) ∧ Below V.heap.size V w') := hid (fun V u a b => by rw [← hS1]; exact HPA.out V u a b)
      have HPS := hid (HP.out S1 hz1)
      rw [hpp] at HPS
      replace HPS : Hid (∀ V, Below w.heap.size w V → Calls Tryz.prog 11 #[.string S1] V fun e w' => ∃ (a : Option Addr) (n c : Nat) (cs : List (Cm × CmS)), e = .returned (.tuple #[.slice a n c, .int .i64 0]) ∧ n = cs.length ∧ cs.map (·.1) = (xs.map (·.1)).map Cm.cl ∧ PR w' (.slice a n c) cs ∧ Below V.heap.size V w') := hid (fun V h => HPS.out V h)
      have HTA := hid ta
      have HTB := hid tb
      clear f3 f0 ta tb hOK hl hp hS1 hz1 hpp
      go_enter Tryz.func8, Tryz.ntmps8
      go_wp2_with fail
      go_at_call 9
      refine HH.out.mono ?_
      rintro e V0 ⟨rfl, hb0⟩
      go_wp2_with fail
      go_at_call 18
      refine (HO.out _ hb0).mono ?_
      rintro e V1 ⟨oa, on, oc, rfl, hR1, _, hb1⟩
      have HB1 := hid (hb0.trans (hb1.mono hb0.size))
      have HR1 := hid hR1
      clear hb0 hb1 hR1 HH HO
      go_wp2_with fail
      go_at_call 19
      refine (HCL.out _ _ HB1.out HR1.out).mono ?_
      rintro e V2 ⟨ca, cn, cc, rfl, hb2, hys⟩
      obtain ⟨ys, hye, hyr, hyd⟩ := hys HKK.out
      have HYE := hid hye
      have HB2 := hid (HB1.out.trans (hb2.mono HB1.out.size))
      have HR2 := hid (HR1.out.below hb2)
      clear HB1 HR1 hb2 hys HCL
      go_wp2_with fail
      go_at_call 12
      refine (HPA.out _ _ HB2.out HR2.out).mono ?_
      rintro e V3 ⟨rfl, hb3⟩
      have HB3 := hid (HB2.out.trans (hb3.mono HB2.out.size))
      have HYS := hid (And.intro (hyr.below hb3) (fun q hq => (hyd q hq).below hb3))
      clear hyr hyd hye
      clear HB2 HR2 hb3 HPA
      go_wp2_with fail
      go_at_call 11
      refine (HPS.out _ HB3.out).mono ?_
      rintro e V4 ⟨pa, pn, pc, ps, rfl, -, hpe, hPR, hb4⟩
      have HB4 := hid (HB3.out.trans (hb4.mono HB3.out.size))
      have HYS4 := hid (And.intro (HYS.out.1.below hb4) (fun q hq => (HYS.out.2 q hq).below hb4))
      have HSA := hid (same_any _ _ ps ys V4 (by rw [hpe, HYE.out, List.map_map]; rfl) hPR.row HYS4.out.1 hPR.rd HYS4.out.2)
      clear hPR hb4 hpe HYS
      go_wp2_with fail
      go_at_call 15
      refine HSA.out.mono ?_
      rintro e V5 ⟨rfl, hb5⟩
      replace HB3 := hid (HB4.out.trans (hb5.mono HB4.out.size))
      clear hb5 HB4 HYS4 HSA
      by_cases hE2 : (parseL text.data.toList).2 = 0
      · obtain ⟨hcT, hpr⟩ := HTB.out hE2
        have HCT := hid hcT
        have HPC := hid (parse_count text)
        rw [hE2] at HPT
        rcases hpr with h3 | ⟨T, hT, h0, hpT⟩
        · have HPR3 : Hid (∀ V u cs, Below w.heap.size w V → PR V u cs → cs.map (·.1) = (parseL text.data.toList).1 → Calls Tryz.prog 12 #[u] V fun e w' => e = .returned (.tuple #[.string ⟨#[]⟩, .int .i64 3]) ∧ Below V.heap.size V w') := hid (fun V u cs a b hm => by
            have := print_w u cs V (HEV.out V a) (InC.of b.row) (by have := HPC.out; have := congrArg List.length hm; simp only [List.length_map] at this; omega) (fun x hx => HCT.out _ (by rw [← hm]; exact List.mem_map_of_mem hx)) b.rd
            rw [hm, h3] at this
            exact this)
          clear h3 hcT hE2
          go_wp2_with fail
          go_at_call 11
          refine (HPT.out _ HB3.out).mono ?_
          rintro e V6 ⟨ta', tn, tc, ts, rfl, -, hte, hPR, hb6⟩
          have HB6 := hid (HB3.out.trans (hb6.mono HB3.out.size))
          have HPR6 := hid (HPR3.out _ _ ts HB6.out hPR hte)
          clear hb6 hPR hte HB3
          go_wp2_with fail
          go_at_call 12
          refine HPR6.out.mono ?_
          rintro e V7 ⟨rfl, hb7⟩
          have HB7 := hid (HB6.out.trans (hb7.mono HB6.out.size))
          clear hb7 HB6 HPR6
          go_wp2_with fail
          go_ret
          exact ⟨rfl, HB7.out⟩
        · have HPR3 : Hid (∀ V u cs, Below w.heap.size w V → PR V u cs → cs.map (·.1) = (parseL text.data.toList).1 → Calls Tryz.prog 12 #[u] V fun e w' => e = .returned (.tuple #[.string T, .int .i64 0]) ∧ Below V.heap.size V w') := hid (fun V u cs a b hm => by
            have := print_w u cs V (HEV.out V a) (InC.of b.row) (by have := HPC.out; have := congrArg List.length hm; simp only [List.length_map] at this; omega) (fun x hx => HCT.out _ (by rw [← hm]; exact List.mem_map_of_mem hx)) b.rd
            rw [hm, h0] at this
            exact this)
          have HPT2 := hid (HP.out T (by omega))
          rw [hpT] at HPT2
          replace HPT2 : Hid (∀ V, Below w.heap.size w V → Calls Tryz.prog 11 #[.string T] V fun e w' => ∃ (a : Option Addr) (n c : Nat) (cs : List (Cm × CmS)), e = .returned (.tuple #[.slice a n c, .int .i64 0]) ∧ n = cs.length ∧ cs.map (·.1) = (parseL text.data.toList).1 ∧ PR w' (.slice a n c) cs ∧ Below V.heap.size V w') := hid (fun V h => HPT2.out V h)
          clear h0 hpT hT hcT hE2
          go_wp2_with fail
          go_at_call 11
          refine (HPT.out _ HB3.out).mono ?_
          rintro e V6 ⟨ta', tn, tc, ts, rfl, -, hte, hPR, hb6⟩
          have HB6 := hid (HB3.out.trans (hb6.mono HB3.out.size))
          have HPR6 := hid (HPR3.out _ _ ts HB6.out hPR hte)
          have HQ6 := hid hPR
          have HTE := hid hte
          clear hb6 hPR hte HB3
          go_wp2_with fail
          go_at_call 12
          refine HPR6.out.mono ?_
          rintro e V7 ⟨rfl, hb7⟩
          have HB7 := hid (HB6.out.trans (hb7.mono HB6.out.size))
          have HQ7 := hid (HQ6.out.below hb7)
          clear hb7 HB6 HPR6 HQ6
          go_wp2_with fail
          go_at_call 11
          refine (HPT2.out _ HB7.out).mono ?_
          rintro e V8 ⟨na, nn, nc, ns, rfl, -, hne, hPR, hb8⟩
          have HB8 := hid (HB7.out.trans (hb8.mono HB7.out.size))
          have HPR8 := hid (HPR3.out _ _ ns HB8.out hPR hne)
          have HQ8 := hid (HQ7.out.below hb8)
          have HN8 := hid hPR
          have HNE := hid hne
          clear hb8 hPR hne HB7 HQ7
          go_wp2_with fail
          go_at_call 12
          refine HPR8.out.mono ?_
          rintro e V9 ⟨rfl, hb9⟩
          have HB9 := hid (HB8.out.trans (hb9.mono HB8.out.size))
          have HSM := hid (same_any _ _ ts ns V9 (by rw [HTE.out, HNE.out]) (HQ8.out.below hb9).row (HN8.out.below hb9).row (HQ8.out.below hb9).rd (HN8.out.below hb9).rd)
          clear hb9 HB8 HPR8 HQ8 HN8
          go_wp2_with fail
          go_at_call 15
          refine HSM.out.mono ?_
          rintro e VA ⟨rfl, hbA⟩
          have HBA := hid (HB9.out.trans (hbA.mono HB9.out.size))
          clear hbA HB9 HSM
          go_wp2_with fail
          go_ret
          exact ⟨rfl, HBA.out⟩
      · have hnil := HTA.out hE2
        obtain ⟨E2, hE2'⟩ : ∃ E, (parseL text.data.toList).2 = E := ⟨_, rfl⟩
        rw [hE2'] at hE2 HPT
        rw [hnil] at HPT
        have d0 : (E2 == 0) = false := by simpa using hE2
        clear hnil hE2' HTA HTB
        go_wp2_with fail
        go_at_call 11
        refine (HPT.out _ HB3.out).mono ?_
        rintro e V6 ⟨ta', tn, tc, ts, rfl, hn, hte, _, hb6⟩
        have hn0 : tn = 0 := by rw [hn, List.map_eq_nil_iff.1 hte]; rfl
        subst hn0
        have HB6 := hid (HB3.out.trans (hb6.mono HB3.out.size))
        clear hb6 hte hn HB3
        go_wp2_with fail
        go_ret
        exact ⟨rfl, HB6.out⟩
end Go.Proofs.YtghppkfopglgaaaGreatDoor
namespace Go.Proofs.YtghppkfopglgaaaGreatDoor
open Go.ChangeShapes Go.WideShapes Go.ChangeAt Go.RowKit Go.Deep
open Go.ChangeMaps (open_string shut_string)
set_option linter.unusedVariables false
set_option linter.unusedSimpArgs false
theorem cells55 : Tryz.prog.cellsOf 55 = 11 := by kernel_rfl
theorem cells97 : Tryz.prog.cellsOf 97 = 2 := by kernel_rfl
theorem cells2' : Tryz.prog.cellsOf 2 = 1 := by kernel_rfl
theorem cells3 : Tryz.prog.cellsOf 3 = 1 := by kernel_rfl
theorem cells4 : Tryz.prog.cellsOf 4 = 1 := by kernel_rfl
theorem cells53 : Tryz.prog.cellsOf 53 = 1 := by kernel_rfl
theorem bytes97 : Tryz.prog.bytesOf 97 = 16 := by kernel_rfl
def intOf' : Value → Int
  | .int _ n => n
  | _ => 0
theorem bulk_one {H : Type} (d : DataW H) : 1 ≤ Rows.uptoBulk d := by
  cases d with
  | lit l => cases l <;> simp [Rows.uptoBulk]
  | nil => simp [Rows.uptoBulk]
  | ptr d => simp [Rows.uptoBulk]
  | slice elems spare => simp [Rows.uptoBulk]
  | agg parts => simp [Rows.uptoBulk]
  | iface t d => simp [Rows.uptoBulk]
  | map entries => simp [Rows.uptoBulk]
  | held h => simp [Rows.uptoBulk]
theorem bulkAll_len {H : Type} (ds : List (DataW H)) : ds.length ≤ Rows.uptoBulkAll ds := by
  induction ds with
  | nil => simp [Rows.uptoBulkAll]
  | cons d r ih =>
    have := bulk_one d
    simp only [Rows.uptoBulkAll, List.length_cons]
    omega

/-- params among the arguments -/
theorem open_params_upto {H : Type} {enc : TypeId × Value → H} {W : World} {v : Value} {n : Nat} {x : DataW H × List MemPlace} (h : DataW.trod enc Tryz.prog W 0 (fun _ => true) true n 53 [v] = some x) (hsz : ∀ n ∈ x.1.weights Tryz.prog 53, n ≤ reachBytes) :
    ∃ ps, InP W v ps ∧ ps.length * 16 ≤ 140737488351232 ∧ ps.length ≤ Rows.uptoBulk x.1 ∧ ∀ p ∈ ps, I64 p.1 ∧ I64 p.2 := by
  rcases open_slice_pairs Tryz.underlying53 Tryz.underlying97 cells97 rfl rfl cells3 cells2' h with ⟨hc, _⟩ | ⟨a, len, cap, m, k, V0, V1, D0, D1, P0, P1, hc, _, hl, hm, hmm, hx, hall⟩
  · simp only [List.cons.injEq, and_true] at hc
    exact ⟨[], .inl ⟨⟨none, 0, hc⟩, rfl⟩, by simp, by simp, fun p hp => absurd hp (by simp)⟩
  · simp only [List.cons.injEq, and_true] at hc
    simp only [if_true] at hmm
    subst hmm
    have hw : len * 16 ≤ 140737488351232 := by
      have := hsz (((List.range len).map fun i => DataW.agg [D0 i, D1 i]).length * 16 + ((List.range (m - len)).map fun j => DataW.agg [D0 (len + j), D1 (len + j)]).length * 16) (by
        rw [hx]
        simp only [DataW.weights, Tryz.underlying53, bytes97, List.mem_cons]
        exact .inl (by rw [Nat.add_mul]))
      simp only [List.length_map, List.length_range, reachBytes] at this
      omega
    by_cases h0 : len = 0
    · subst h0
      exact ⟨[], .inl ⟨⟨some a, m, hc⟩, rfl⟩, by simp, by simp, fun p hp => absurd hp (by simp)⟩
    · obtain ⟨B, off, spot⟩ := a
      obtain ⟨z0, _⟩ := hall 0 (by omega)
      have hsp : spot = none := by
        have := spot_none z0
        simpa [Addr.add] using this
      subst hsp
      have hbk : len ≤ Rows.uptoBulk x.1 := by
        rw [hx]
        have := bulkAll_len ((List.range len).map fun i => DataW.agg [D0 i, D1 i])
        simp only [List.length_map, List.length_range] at this
        simp only [Rows.uptoBulk]
        omega
      refine ⟨(List.range len).map fun i => (intOf' (V0 i), intOf' (V1 i)), .inr ⟨B, off, m, ?_, ?_, ?_, ?_, ?_⟩, ?_, by simpa using hbk, ?_⟩
      · rw [hc]; simp
      · simpa using hl
      · unfold maxLen at hm; omega
      · have := World.block_lt_of_cell? _ _ z0
        simpa [Addr.add] using this
      · intro i p hp
        have hi' : i < len := by have := (List.getElem?_eq_some_iff.1 hp).1; simpa using this
        obtain ⟨c0, c1, t0, t1⟩ := hall i (by omega)
        obtain ⟨n0, e0, _⟩ := DataW.trod_int Tryz.underlying3 t0
        obtain ⟨n1, e1, _⟩ := DataW.trod_int Tryz.underlying2 t1
        simp only [List.cons.injEq, and_true] at e0 e1
        rw [e0] at c0
        rw [e1] at c1
        rw [List.getElem?_map, List.getElem?_range hi', Option.map_some, Option.some.injEq] at hp
        subst hp
        simp only [e0, e1, intOf']
        rw [Addr.add_lit] at c0 c1
        exact ⟨c0, by rw [Nat.add_assoc]; exact c1⟩
      · simpa using hw
      · intro p hp
        obtain ⟨i, hi, rfl⟩ := List.mem_map.1 hp
        have hi' : i < len := List.mem_range.1 hi
        obtain ⟨c0, c1, t0, t1⟩ := hall i (by omega)
        obtain ⟨n0, e0, _, y0⟩ := DataW.trod_int Tryz.underlying3 t0
        obtain ⟨n1, e1, _, y1⟩ := DataW.trod_int Tryz.underlying2 t1
        simp only [List.cons.injEq, and_true] at e0 e1
        simp only [e0, e1, intOf']
        exact ⟨wf_I64 y0, wf_I64 y1⟩

set_option maxRecDepth 20000 in
theorem open_frame_upto {H : Type} {enc : TypeId × Value → H} {W : World} {v : Value} {d : DataW H} {p : List MemPlace} {b0 : Nat} (hval : Value.okWide Tryz.prog W .any b0 55 v) (h : DataW.Trod enc Tryz.prog W 0 (fun _ => true) true 55 v d p) (hsz : ∀ n ∈ d.weights Tryz.prog 55, n ≤ reachBytes) (hbk : Rows.uptoBulk d ≤ 1048576) :
    ∃ (f : Fm) (v' : Value), v = .agg (fmA f v') ∧ InP W v' f.ps ∧ f.Ok ∧ f.ps.length + f.da.size ≤ 1048576 := by
  obtain ⟨cs, rfl, hcs⟩ := okWide_struct Tryz.underlying55 hval
  rw [cells55] at hcs
  obtain ⟨fuel, hf0⟩ := h
  obtain ⟨xs, k', hk, hxy, _, hxl, hf⟩ := DataW.trod_struct Tryz.underlying55 hf0
  have hlen : cs.toList.length = 11 := by simpa using hcs
  obtain ⟨l⟩ := cs
  match xs, hxl, l, hlen with
  | [y0, y1, y2, y3, y4, y5, y6, y7, y8, y9, y10], _, [v0, v1, v2, v3, v4, v5, v6, v7, v8, v9, v10], _ =>
    have g0 := hf 0 _ rfl
    have g1 := hf 1 _ rfl
    have g2 := hf 2 _ rfl
    have g3 := hf 3 _ rfl
    have g4 := hf 4 _ rfl
    have g5 := hf 5 _ rfl
    have g6 := hf 6 _ rfl
    have g7 := hf 7 _ rfl
    have g8 := hf 8 _ rfl
    have g9 := hf 9 _ rfl
    have g10 := hf 10 _ rfl
    simp [cells3, cells4, cells9, cells2', cells53, Value.cells] at g0 g1 g2 g3 g4 g5 g6 g7 g8 g9 g10
    obtain ⟨n0, e0, q0, w0⟩ := DataW.trod_int Tryz.underlying3 g0
    obtain ⟨n1, e1, q1, w1⟩ := DataW.trod_int Tryz.underlying3 g1
    obtain ⟨n2, e2, q2, w2⟩ := DataW.trod_int Tryz.underlying2 g2
    obtain ⟨s3, e3, q3, _⟩ := DataW.trod_string Tryz.underlying9 g3
    obtain ⟨n4, e4, q4, w4⟩ := DataW.trod_int Tryz.underlying3 g4
    obtain ⟨n5, e5, q5, w5⟩ := DataW.trod_int Tryz.underlying2 g5
    obtain ⟨b6, e6, q6⟩ := DataW.trod_bool Tryz.underlying4 g6
    obtain ⟨n7, e7, q7, w7⟩ := DataW.trod_int Tryz.underlying3 g7
    obtain ⟨n8, e8, q8, w8⟩ := DataW.trod_int Tryz.underlying2 g8
    obtain ⟨n9, e9, q9, w9⟩ := DataW.trod_int Tryz.underlying2 g9
    simp only [List.cons.injEq, and_true] at e0 e1 e2 e3 e4 e5 e6 e7 e8 e9
    subst e0 e1 e2 e3 e4 e5 e6 e7 e8 e9
    have hd : d = .agg ([y0, y1, y2, y3, y4, y5, y6, y7, y8, y9, y10].map (·.1)) := congrArg Prod.fst hxy
    have hw3 : s3.size ≤ 140737488351232 := by
      have := hsz s3.size (by
        rw [hd, q3]
        simp [DataW.weights, Tryz.underlying55, DataW.weightsEach])
      simpa [reachBytes] using this
    obtain ⟨ps, hP, hl, hbl, hpo⟩ := open_params_upto g10 (fun n hn => hsz n (by
      rw [hd]
      simp only [DataW.weights, Tryz.underlying55, List.map_cons, List.map_nil, DataW.weightsEach, List.mem_append]
      simp [hn]))
    obtain ⟨pb, pl, pc, hv10⟩ : ∃ pb pl pc, v10 = .slice pb pl pc := by
      rcases hP with ⟨⟨b, cap, rfl⟩, _⟩ | ⟨B, off, cap, rfl, _⟩
      · exact ⟨_, _, _, rfl⟩
      · exact ⟨_, _, _, rfl⟩
    subst hv10
    refine ⟨⟨n0, n1, n2, s3, n4, n5, b6, n7, n8, n9, ps⟩, .slice pb pl pc, rfl, hP, ⟨wf_I64 w0, wf_I64 w1, wf_I64 w2, wf_I64 w4, wf_I64 w5, wf_I64 w7, wf_I64 w8, wf_I64 w9, hpo⟩, ?_⟩
    rw [hd] at hbk
    simp only [List.map_cons, List.map_nil, Rows.uptoBulk, Rows.uptoBulkAll, q3] at hbk
    have hq : s3.data.toList.length = s3.size := by simp
    show ps.length + s3.size ≤ 1048576
    omega
end Go.Proofs.YtghppkfopglgaaaGreatDoor
