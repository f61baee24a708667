/- read, of a list that is long enough. -/
import Derived.Test.YtcadlpmopplkeaaDoorAa
namespace Go.Proofs.YtcadlpmopplkeaaDoor
open Go.RowKit Go.Maps
set_option linter.unusedVariables false
set_option linter.unusedSimpArgs false

theorem Below.ofGrown {w w' : World} {b B : Nat} (h : w.grownBy w' (some b)) (hB : B ≤ b) (hs : B ≤ w.heap.size) : Below B w w' :=
  ⟨h.os, h.tape, h.output, h.size, fun k hk => h.block k (by omega) (by simp; omega)⟩

theorem In.below' {α : Type} {E : El α} {w w' : World} {v : Value} {l : List α} (h : In E w v l) (hb : Below w.heap.size w w') : In E w' v l := h.below hb

set_option maxHeartbeats 20000000 in
set_option maxRecDepth 100000 in
theorem read_long (B off sc : Nat) (t : SV) (l : List Fd) (names : List ByteArray) (w : World) (hI : In EFd w (.slice (some ⟨B, off, none⟩) l.length sc) l) (hN : In ES w (sv t) names) (h64 : l.length ≤ 64) (hw : l.any wrongB = false) (hm : names.length ≤ l.length) (hm1 : 1 ≤ names.length)
    (hz : ∀ f ∈ l, f.n.size ≤ 140737488355328) (hzn : ∀ s ∈ names, s.size ≤ 140737488355328) (sub : SV)
    (hsub : (sc = names.length ∧ sub = (some ⟨B, off, none⟩, l.length - names.length, sc - names.length)) ∨ (sc ≠ names.length ∧ sub = (some ⟨B, off + names.length * 3, none⟩, l.length - names.length, sc - names.length))) :
    Calls Tryd.prog 64 #[.slice (some ⟨B, off, none⟩) l.length sc, sv t] w fun e w' => RdPost l names w e w' := by
  have hW : Hid (Calls Tryd.prog 78 #[.slice (some ⟨B, off, none⟩) l.length sc, .func (.func 79) #[] #[]] w fun e w' => e = .returned (.bool false) ∧ Below w.heap.size w w') := by
    have := containsFunc_any 79 wrongB wrong_any en74 (some ⟨B, off, none⟩, l.length, sc) l w hI
    rw [hw] at this
    exact this
  have hId := In.drop okFd hI names.length hm
  have hcap : l.length ≤ sc ∧ sc ≤ 9223372036854775807 := by obtain ⟨_, _, e, q1, q2⟩ := hI.slice; injection e with _ _ e; subst e; exact ⟨q1, q2⟩
  obtain ⟨hcap1, hcap2⟩ := hcap
  have hIs : In EFd w (sv sub) (l.drop names.length) := by
    rcases hsub with ⟨h, rfl⟩ | ⟨h, rfl⟩
    · exact hId.2 h
    · exact hId.1 h
  have hD : Hid (∀ W, Below w.heap.size w W → Calls Tryd.prog 78 #[sv sub, .func (.func 80) #[] #[]] W fun e w' => e = .returned (.bool ((l.drop names.length).any nofB)) ∧ Below w.heap.size w w') := fun W hb => by
    refine (containsFunc_any 80 nofB nof_any en75 sub _ W (hIs.below hb)).mono ?_
    rintro e w' ⟨rfl, hb'⟩
    exact ⟨rfl, hb.trans (hb'.mono hb.size)⟩
  have HIs : Hid (In EFd w (sv sub) (l.drop names.length)) := hIs
  have HI : Hid (In EFd w (.slice (some ⟨B, off, none⟩) l.length sc) l) := hI
  obtain ⟨tb, tl, tc⟩ := t
  have HN : Hid (In ES w (sv (tb, tl, tc)) names) := hN
  have et : tl = names.length := by obtain ⟨_, _, e, _⟩ := hN.slice; simp only [sv] at e; injection e
  subst et
  have hfin : Hid (rdE l names ≠ 0 → ∀ w', Below w.heap.size w w' → RdPost l names w (.returned (.tuple #[.slice none 0 0, .slice none 0 0, .int .i64 (rdE l names)])) w') := fun h0 w' hb => ⟨(none, 0, 0), (none, 0, 0), rfl, hb, fun h => absurd h h0⟩
  have HZ : Hid ((∀ f ∈ l, f.n.size ≤ 140737488355328) ∧ (∀ s ∈ names, s.size ≤ 140737488355328)) := ⟨hz, hzn⟩
  obtain ⟨m, hmm⟩ : ∃ m, names.length = m := ⟨_, rfl⟩
  have HM : Hid (names.length = m) := hmm
  have a1 : ¬ (64 : Int) < (l.length : Int) := by omega
  have HE : Hid (rdE l names = if (l.drop names.length).any nofB = true then 131 else match vals l names.length names with | none => 131 | some _ => 0) := by
    show _ = _
    unfold rdE
    rw [if_neg (by omega), if_neg (by rw [hw]; decide), if_neg (by omega)]
    rfl
  simp only [sv] at HN
  rw [hmm] at hsub hm hm1 HN HE
  rw [hmm] at hD HIs
  have a2 : ¬ (l.length : Int) < (m : Int) := by omega
  have a3 : (m : Int) ≤ (l.length : Int) := by omega
  have a4 : (m : Int) ≤ (sc : Int) := by omega
  have a5 : (l.length : Int) ≤ (sc : Int) := by omega
  simp only [sv]
  rw [hmm]
  clear hI hIs hN hId hz hzn hw hmm
  cases hnf : (l.drop m).any nofB
  · rw [hnf] at hD HE
    simp only [if_false, Bool.false_eq_true] at HE
    clear hnf
    have hmm := @run_makeMap Tryd.prog
    rcases hsub with ⟨hsc, rfl⟩ | ⟨hsc, rfl⟩
    · obtain rfl : m = sc := hsc.symm
      simp only [sv, Nat.sub_self] at hD HIs
      rw [show l.length - m = 0 by omega] at hD HIs
      clear hsc
      go_enter Tryd.func64, Tryd.ntmps64
      go_wp2_with fail
      go_at_call 78
      refine hW.out.mono ?_
      rintro e w1 ⟨rfl, hb1⟩
      replace hb1 : Hid (Below w.heap.size w w1) := hb1
      clear hW
      go_wp2_with fail
      go_at_call 78
      refine (hD.out _ hb1.out).mono ?_
      rintro e w2 ⟨rfl, hb2⟩
      have M2 : Hid (Mp (w2.alloc (.map #[] 0)) w2.heap.size l 0 ∧ Below w.heap.size w (w2.alloc (.map #[] 0)) ∧ w.heap.size ≤ w2.heap.size) := ⟨Mp.start w2 l, hb2.trans ((bel1 w2 _).mono hb2.size), hb2.size⟩
      clear hD hb1 hb2
      go_wp2_with fail
      clear hmm
      go_loopw [8, 9, 38] (fun _ _ kv wr => ∃ k : Nat, kv = .int .i64 (k : Int) ∧ k ≤ m ∧ Hid (Mp wr w2.heap.size l k ∧ Below w.heap.size w wr)) (fun _ _ kv _ => m - (intOf kv).toNat)
      case atStart => exact ⟨0, rfl, by omega, M2.out.1, M2.out.2.1⟩
      case round =>
        obtain ⟨k, rfl, hk, hinv⟩ := hrel
        by_cases hlt : k < m
        · have hkl : k < l.length := by omega
          obtain ⟨B', off', cap', e, hc⟩ := HI.out.fd k hkl
          injection e with e1 e2 e3
          injection e1 with e1
          injection e1 with e1 e4
          subst e1 e4
          clear e2 e3
          obtain ⟨c0, c1, c2⟩ := hc wr hinv.out.2
          obtain ⟨x, hx⟩ : ∃ x, l[k] = x := ⟨_, rfl⟩
          rw [hx] at c0 c1 c2
          have Hx : Hid (l[k]'hkl = x) := hx
          have hxs : x.n.size ≤ maxLen := by
            have := HZ.out.1 x (by rw [← hx]; exact List.getElem_mem hkl)
            unfold maxLen
            omega
          obtain ⟨n, D, hown, hn, hat⟩ := (hinv.out.1.below (bel1 wr (.cells #[.string x.n, .string x.v, .bool x.nv] 44))).ex
          have hkey : keyOf Tryd.prog 9 (.string x.n) = some (.string x.n.data.toList) := WideMaps.keyOf_string_mk Tryd.underlying9 hxs
          have hval : plainElem (H := Unit) Tryd.prog 3 (.int .i64 (k : Int)) = some (.lit (.int .i64 (k : Int)), []) := plainElem_int Tryd.underlying3 (WalkArith.wf_i64 (by omega))
          have HAT : Hid (n ≤ k ∧ ∀ s z, D.atKey (.string s) z = match plc l k ⟨s.toArray⟩ with | some i => .lit (.int .i64 (i : Int)) | none => z) := ⟨hn, hat⟩
          replace hown : Hid _ := hown
          replace hkey : Hid _ := hkey
          replace hval : Hid _ := hval
          have hbel : Hid (Below w.heap.size w (wr.alloc (.cells #[.string x.n, .string x.v, .bool x.nv] 44)) ∧ w.heap.size ≤ w2.heap.size) := ⟨hinv.out.2.trans ((bel1 wr _).mono hinv.out.2.size), M2.out.2.2⟩
          have hnm : n < maxLen := by unfold maxLen; omega
          clear hat hc hx hinv hn
          go_wp2_with (at_mapUpdate; refine wpList_mapUpdate_own _ rfl _ _ _ 128 rfl 9 3 law9 Tryd.underlying128 _ w2.heap.size _ _ rfl hown.out hnm _ _ _ rfl rfl hkey.out _ [] hval.out ?_; intro w3 hown3 hg3)
          go_roundw
          case rel =>
            refine ⟨k + 1, by simp, by omega, Mp.put hkl hown.out HAT.out.1 HAT.out.2 (by rw [Hx.out]; exact hown3), hbel.out.1.trans (Below.ofGrown hg3 hbel.out.2 hbel.out.1.size)⟩
          case measure => simp [intOf]; omega
        · obtain rfl : k = m := by omega
          have hlt' : ¬ (k : Int) < (k : Int) := by omega
          clear hlt hk
          go_wp2_with fail
          go_loopw [4, 5, 11, 12, 13, 50] (fun vv pv _ _ _ jv wr => ∃ (j : Nat) (vb : Option Addr) (vc : Nat), pv = .slice none 0 0 ∧ jv = .int .i64 (j : Int) ∧ j ≤ k ∧ vv = .slice vb j vc ∧ Hid (∃ vs, vals l k (names.take j) = some vs ∧ R ES wr (.slice vb j vc) vs ∧ ∀ i, (Value.slice vb j vc).ownBlock = some i → w.heap.size ≤ i) ∧ Hid (Mp wr w2.heap.size l k ∧ Below w.heap.size w wr)) (fun _ _ _ _ _ jv _ => k - (intOf jv).toNat)
          case atStart => exact ⟨0, none, 0, rfl, rfl, by omega, rfl, ⟨[], rfl, R.nil _ _, fun i hi => by simp [Value.ownBlock] at hi⟩, hinv.out⟩
          case round =>
            clear hinv M2
            obtain ⟨j, vb, vc, rfl, rfl, hj, rfl, hvs, hmp⟩ := hrel
            obtain ⟨vs, hv1, hv2, hv3⟩ := hvs.out
            by_cases hjl : j < k
            · have hjn : j < names.length := by rw [HM.out]; exact hjl
              obtain ⟨nb, no, nc, e, nB, nd⟩ := HN.out.get okS j hjn
              injection e with e1 e2 e3
              subst e1
              clear e2 e3
              obtain ⟨nm, hnm⟩ : ∃ nm, names[j] = nm := ⟨_, rfl⟩
              rw [hnm] at nd
              have hc0 : wr.cell? ⟨nb, no + j, none⟩ = some (.string nm) := (hmp.out.2.cell nB).trans (by have := nd 0 _ rfl; simp only [ES, Nat.mul_one, Nat.add_zero] at this; exact this)
              have hns : nm.size ≤ maxLen := by
                have := HZ.out.2 nm (by rw [← hnm]; exact List.getElem_mem hjn)
                unfold maxLen
                omega
              have hfind := hmp.out.1.find nm hns
              have Hn : Hid (names[j]'hjn = nm) := hnm
              clear nd hnm
              cases hp : plc l k nm with
              | none =>
                rw [hp] at hfind
                simp only [Option.getD_none, Option.isSome_none] at hfind
                have HV : Hid (rdE l names = 131) := by
                  show _ = _
                  have h0 : vals l k names = none := vals_none (j := j + 1) (by rw [vals_succ l k names j hjn, hv1, Hn.out]; simp [one1, hp])
                  rw [HE.out, h0]
                rw [HV.out] at hfin
                clear hp HV
                go_wp2_with fail
                go_ret3
                exact hfin.out (by decide) _ hmp.out.2
              | some i =>
                rw [hp] at hfind
                simp only [Option.getD_some, Option.isSome_some] at hfind
                have hik := plc_lt hp
                have hil : i < l.length := by omega
                obtain ⟨B', off', cap', e, hc⟩ := HI.out.fd i hil
                injection e with e1 e2 e3
                injection e1 with e1
                injection e1 with e1 e4
                subst e1 e4
                clear e2 e3
                obtain ⟨c0, c1, c2⟩ := hc wr hmp.out.2
                obtain ⟨x, hx⟩ : ∃ x, l[i] = x := ⟨_, rfl⟩
                rw [hx] at c0 c1 c2
                have hvl : vs.length = j := vals_len l k names j vs (by omega) hv1
                have hV2 : Hid (vals l k (names.take (j + 1)) = some (vs ++ [x.v])) := by
                  show _ = _
                  rw [vals_succ l k names j hjn, hv1, Hn.out]
                  simp [one1, hp, List.getElem?_eq_getElem hil, hx]
                have hin : In ES (wr.alloc (.cells #[.string x.v] 9)) (.slice (some ⟨wr.heap.size, 0, none⟩) 1 1) [x.v] := in_one _ _ _ #[.string x.v] 9 (0, 0) (by rw [heap_al, if_pos rfl]) rfl
                obtain ⟨ab, ac, w5, g1, g2, g3⟩ := app okS (wr.alloc (.cells #[.string x.v] 9)) (.slice vb j vc) vs (hv2.below (bel1 wr _)) _ _ hin (by rw [hvl]; simp [ES]; omega)
                rw [hvl] at g1 g2 g3
                simp only [List.length_cons, List.length_nil, Nat.zero_add] at g1 g2 g3
                have hbl : Below w.heap.size w (wr.alloc (.cells #[.string x.v] 9)) := hmp.out.2.trans ((bel1 wr _).mono hmp.out.2.size)
                have hno : ∀ i, (Value.slice vb j vc).ownBlock = some i → i ≠ w2.heap.size := fun i hi e => by
                  obtain ⟨c, hc⟩ := hv2.ty i hi
                  obtain ⟨n, D, ⟨es, clock, h3, h4⟩, _⟩ := hmp.out.1.ex
                  rw [e, h3] at hc
                  cases hc
                have HNX : Hid (R ES w5 (.slice ab (j + 1) ac) (vs ++ [x.v]) ∧ (∀ i, (Value.slice ab (j + 1) ac).ownBlock = some i → w.heap.size ≤ i) ∧ Mp w5 w2.heap.size l k ∧ Below w.heap.size w w5) := by
                  refine ⟨g2, fun i hi => ?_, (hmp.out.1.below (bel1 wr _)).stays (g3.block _ (by have := hmp.out.1.lt; simp; omega) fun e => hno _ e rfl), hbl.trans (g3.belowB hbl.size hv3)⟩
                  rcases g3.own i hi with e | e
                  · exact hv3 i e
                  · exact Nat.le_trans hbl.size e
                replace g1 : Hid _ := g1
                clear hp hx hc hv1 hv2 hv3 hvs g2 g3 hin hbl hno hvl
                go_wp2_with (at_builtin; refine Lib.wpList_append_run _ rfl _ _ _ _ rfl _ _ rfl rfl _ _ g1.out ?_)
                go_roundw
                case rel => exact ⟨j + 1, ab, ac, rfl, by simp, by omega, rfl, ⟨_, hV2.out, HNX.out.1, HNX.out.2.1⟩, HNX.out.2.2⟩
                case measure => simp [intOf]; omega
            · obtain rfl : j = k := by omega
              have hjl' : ¬ (j : Int) < (j : Int) := by omega
              have hvn : Hid (vals l j names = some vs ∧ vs.length = j ∧ rdE l names = 0) := by
                have h0 : vals l j names = some vs := by rw [← hv1, ← HM.out, List.take_length]
                exact ⟨h0, vals_len l j names j vs (by rw [HM.out]; exact Nat.le_refl _) hv1, by rw [HE.out, h0]⟩
              obtain ⟨pb, pc, w6, g1, g2, g3⟩ := app okFd wr (.slice none 0 0) [] (R.nil _ _) _ _ (HIs.out.below' hmp.out.2) (by simp [EFd]; omega)
              simp only [List.length_nil, Nat.zero_add, List.nil_append, List.length_drop] at g1 g2 g3
              have HF : Hid (RdPost l names w (.returned (.tuple #[.slice vb j vc, .slice pb (l.length - j) pc, .int .i64 0])) w6) := by
                refine ⟨(vb, j, vc), (pb, l.length - j, pc), by rw [hvn.out.2.2]; rfl, hmp.out.2.trans (g3.fresh.mono hmp.out.2.size), fun _ => ⟨vs, by rw [HM.out]; exact hvn.out.1, by rw [HM.out]; exact hvn.out.2.1, hv2.below g3.fresh, by rw [HM.out]; exact g2, hv3, fun i hi => Nat.le_trans hmp.out.2.size (g3.new i hi)⟩⟩
              replace g1 : Hid _ := g1
              clear g2 g3 hvn hv1 hv2 hv3 hvs hmp hfin
              go_wp2_with (at_builtin; refine Lib.wpList_append_run _ rfl _ _ _ _ rfl _ _ rfl rfl _ _ g1.out ?_)
              go_ret3
              first | exact HF.out | (have hf := HF.out; rw [show l.length - j = 0 by omega] at hf; exact hf)
    · simp only [sv] at hD HIs
      have hsc' : ¬ (sc : Int) = (m : Int) := by omega
      clear hsc
      go_enter Tryd.func64, Tryd.ntmps64
      go_wp2_with fail
      go_at_call 78
      refine hW.out.mono ?_
      rintro e w1 ⟨rfl, hb1⟩
      replace hb1 : Hid (Below w.heap.size w w1) := hb1
      clear hW
      go_wp2_with fail
      go_at_call 78
      refine (hD.out _ hb1.out).mono ?_
      rintro e w2 ⟨rfl, hb2⟩
      have M2 : Hid (Mp (w2.alloc (.map #[] 0)) w2.heap.size l 0 ∧ Below w.heap.size w (w2.alloc (.map #[] 0)) ∧ w.heap.size ≤ w2.heap.size) := ⟨Mp.start w2 l, hb2.trans ((bel1 w2 _).mono hb2.size), hb2.size⟩
      clear hD hb1 hb2
      go_wp2_with fail
      clear hmm
      go_loopw [8, 9, 38] (fun _ _ kv wr => ∃ k : Nat, kv = .int .i64 (k : Int) ∧ k ≤ m ∧ Hid (Mp wr w2.heap.size l k ∧ Below w.heap.size w wr)) (fun _ _ kv _ => m - (intOf kv).toNat)
      case atStart => exact ⟨0, rfl, by omega, M2.out.1, M2.out.2.1⟩
      case round =>
        obtain ⟨k, rfl, hk, hinv⟩ := hrel
        by_cases hlt : k < m
        · have hkl : k < l.length := by omega
          obtain ⟨B', off', cap', e, hc⟩ := HI.out.fd k hkl
          injection e with e1 e2 e3
          injection e1 with e1
          injection e1 with e1 e4
          subst e1 e4
          clear e2 e3
          obtain ⟨c0, c1, c2⟩ := hc wr hinv.out.2
          obtain ⟨x, hx⟩ : ∃ x, l[k] = x := ⟨_, rfl⟩
          rw [hx] at c0 c1 c2
          have Hx : Hid (l[k]'hkl = x) := hx
          have hxs : x.n.size ≤ maxLen := by
            have := HZ.out.1 x (by rw [← hx]; exact List.getElem_mem hkl)
            unfold maxLen
            omega
          obtain ⟨n, D, hown, hn, hat⟩ := (hinv.out.1.below (bel1 wr (.cells #[.string x.n, .string x.v, .bool x.nv] 44))).ex
          have hkey : keyOf Tryd.prog 9 (.string x.n) = some (.string x.n.data.toList) := WideMaps.keyOf_string_mk Tryd.underlying9 hxs
          have hval : plainElem (H := Unit) Tryd.prog 3 (.int .i64 (k : Int)) = some (.lit (.int .i64 (k : Int)), []) := plainElem_int Tryd.underlying3 (WalkArith.wf_i64 (by omega))
          have HAT : Hid (n ≤ k ∧ ∀ s z, D.atKey (.string s) z = match plc l k ⟨s.toArray⟩ with | some i => .lit (.int .i64 (i : Int)) | none => z) := ⟨hn, hat⟩
          replace hown : Hid _ := hown
          replace hkey : Hid _ := hkey
          replace hval : Hid _ := hval
          have hbel : Hid (Below w.heap.size w (wr.alloc (.cells #[.string x.n, .string x.v, .bool x.nv] 44)) ∧ w.heap.size ≤ w2.heap.size) := ⟨hinv.out.2.trans ((bel1 wr _).mono hinv.out.2.size), M2.out.2.2⟩
          have hnm : n < maxLen := by unfold maxLen; omega
          clear hat hc hx hinv hn
          go_wp2_with (at_mapUpdate; refine wpList_mapUpdate_own _ rfl _ _ _ 128 rfl 9 3 law9 Tryd.underlying128 _ w2.heap.size _ _ rfl hown.out hnm _ _ _ rfl rfl hkey.out _ [] hval.out ?_; intro w3 hown3 hg3)
          go_roundw
          case rel =>
            refine ⟨k + 1, by simp, by omega, Mp.put hkl hown.out HAT.out.1 HAT.out.2 (by rw [Hx.out]; exact hown3), hbel.out.1.trans (Below.ofGrown hg3 hbel.out.2 hbel.out.1.size)⟩
          case measure => simp [intOf]; omega
        · obtain rfl : k = m := by omega
          have hlt' : ¬ (k : Int) < (k : Int) := by omega
          clear hlt hk
          go_wp2_with fail
          go_loopw [4, 5, 11, 12, 13, 50] (fun vv pv _ _ _ jv wr => ∃ (j : Nat) (vb : Option Addr) (vc : Nat), pv = .slice none 0 0 ∧ jv = .int .i64 (j : Int) ∧ j ≤ k ∧ vv = .slice vb j vc ∧ Hid (∃ vs, vals l k (names.take j) = some vs ∧ R ES wr (.slice vb j vc) vs ∧ ∀ i, (Value.slice vb j vc).ownBlock = some i → w.heap.size ≤ i) ∧ Hid (Mp wr w2.heap.size l k ∧ Below w.heap.size w wr)) (fun _ _ _ _ _ jv _ => k - (intOf jv).toNat)
          case atStart => exact ⟨0, none, 0, rfl, rfl, by omega, rfl, ⟨[], rfl, R.nil _ _, fun i hi => by simp [Value.ownBlock] at hi⟩, hinv.out⟩
          case round =>
            clear hinv M2
            obtain ⟨j, vb, vc, rfl, rfl, hj, rfl, hvs, hmp⟩ := hrel
            obtain ⟨vs, hv1, hv2, hv3⟩ := hvs.out
            by_cases hjl : j < k
            · have hjn : j < names.length := by rw [HM.out]; exact hjl
              obtain ⟨nb, no, nc, e, nB, nd⟩ := HN.out.get okS j hjn
              injection e with e1 e2 e3
              subst e1
              clear e2 e3
              obtain ⟨nm, hnm⟩ : ∃ nm, names[j] = nm := ⟨_, rfl⟩
              rw [hnm] at nd
              have hc0 : wr.cell? ⟨nb, no + j, none⟩ = some (.string nm) := (hmp.out.2.cell nB).trans (by have := nd 0 _ rfl; simp only [ES, Nat.mul_one, Nat.add_zero] at this; exact this)
              have hns : nm.size ≤ maxLen := by
                have := HZ.out.2 nm (by rw [← hnm]; exact List.getElem_mem hjn)
                unfold maxLen
                omega
              have hfind := hmp.out.1.find nm hns
              have Hn : Hid (names[j]'hjn = nm) := hnm
              clear nd hnm
              cases hp : plc l k nm with
              | none =>
                rw [hp] at hfind
                simp only [Option.getD_none, Option.isSome_none] at hfind
                have HV : Hid (rdE l names = 131) := by
                  show _ = _
                  have h0 : vals l k names = none := vals_none (j := j + 1) (by rw [vals_succ l k names j hjn, hv1, Hn.out]; simp [one1, hp])
                  rw [HE.out, h0]
                rw [HV.out] at hfin
                clear hp HV
                go_wp2_with fail
                go_ret3
                exact hfin.out (by decide) _ hmp.out.2
              | some i =>
                rw [hp] at hfind
                simp only [Option.getD_some, Option.isSome_some] at hfind
                have hik := plc_lt hp
                have hil : i < l.length := by omega
                obtain ⟨B', off', cap', e, hc⟩ := HI.out.fd i hil
                injection e with e1 e2 e3
                injection e1 with e1
                injection e1 with e1 e4
                subst e1 e4
                clear e2 e3
                obtain ⟨c0, c1, c2⟩ := hc wr hmp.out.2
                obtain ⟨x, hx⟩ : ∃ x, l[i] = x := ⟨_, rfl⟩
                rw [hx] at c0 c1 c2
                have hvl : vs.length = j := vals_len l k names j vs (by omega) hv1
                have hV2 : Hid (vals l k (names.take (j + 1)) = some (vs ++ [x.v])) := by
                  show _ = _
                  rw [vals_succ l k names j hjn, hv1, Hn.out]
                  simp [one1, hp, List.getElem?_eq_getElem hil, hx]
                have hin : In ES (wr.alloc (.cells #[.string x.v] 9)) (.slice (some ⟨wr.heap.size, 0, none⟩) 1 1) [x.v] := in_one _ _ _ #[.string x.v] 9 (0, 0) (by rw [heap_al, if_pos rfl]) rfl
                obtain ⟨ab, ac, w5, g1, g2, g3⟩ := app okS (wr.alloc (.cells #[.string x.v] 9)) (.slice vb j vc) vs (hv2.below (bel1 wr _)) _ _ hin (by rw [hvl]; simp [ES]; omega)
                rw [hvl] at g1 g2 g3
                simp only [List.length_cons, List.length_nil, Nat.zero_add] at g1 g2 g3
                have hbl : Below w.heap.size w (wr.alloc (.cells #[.string x.v] 9)) := hmp.out.2.trans ((bel1 wr _).mono hmp.out.2.size)
                have hno : ∀ i, (Value.slice vb j vc).ownBlock = some i → i ≠ w2.heap.size := fun i hi e => by
                  obtain ⟨c, hc⟩ := hv2.ty i hi
                  obtain ⟨n, D, ⟨es, clock, h3, h4⟩, _⟩ := hmp.out.1.ex
                  rw [e, h3] at hc
                  cases hc
                have HNX : Hid (R ES w5 (.slice ab (j + 1) ac) (vs ++ [x.v]) ∧ (∀ i, (Value.slice ab (j + 1) ac).ownBlock = some i → w.heap.size ≤ i) ∧ Mp w5 w2.heap.size l k ∧ Below w.heap.size w w5) := by
                  refine ⟨g2, fun i hi => ?_, (hmp.out.1.below (bel1 wr _)).stays (g3.block _ (by have := hmp.out.1.lt; simp; omega) fun e => hno _ e rfl), hbl.trans (g3.belowB hbl.size hv3)⟩
                  rcases g3.own i hi with e | e
                  · exact hv3 i e
                  · exact Nat.le_trans hbl.size e
                replace g1 : Hid _ := g1
                clear hp hx hc hv1 hv2 hv3 hvs g2 g3 hin hbl hno hvl
                go_wp2_with (at_builtin; refine Lib.wpList_append_run _ rfl _ _ _ _ rfl _ _ rfl rfl _ _ g1.out ?_)
                go_roundw
                case rel => exact ⟨j + 1, ab, ac, rfl, by simp, by omega, rfl, ⟨_, hV2.out, HNX.out.1, HNX.out.2.1⟩, HNX.out.2.2⟩
                case measure => simp [intOf]; omega
            · obtain rfl : j = k := by omega
              have hjl' : ¬ (j : Int) < (j : Int) := by omega
              have hvn : Hid (vals l j names = some vs ∧ vs.length = j ∧ rdE l names = 0) := by
                have h0 : vals l j names = some vs := by rw [← hv1, ← HM.out, List.take_length]
                exact ⟨h0, vals_len l j names j vs (by rw [HM.out]; exact Nat.le_refl _) hv1, by rw [HE.out, h0]⟩
              obtain ⟨pb, pc, w6, g1, g2, g3⟩ := app okFd wr (.slice none 0 0) [] (R.nil _ _) _ _ (HIs.out.below' hmp.out.2) (by simp [EFd]; omega)
              simp only [List.length_nil, Nat.zero_add, List.nil_append, List.length_drop] at g1 g2 g3
              have HF : Hid (RdPost l names w (.returned (.tuple #[.slice vb j vc, .slice pb (l.length - j) pc, .int .i64 0])) w6) := by
                refine ⟨(vb, j, vc), (pb, l.length - j, pc), by rw [hvn.out.2.2]; rfl, hmp.out.2.trans (g3.fresh.mono hmp.out.2.size), fun _ => ⟨vs, by rw [HM.out]; exact hvn.out.1, by rw [HM.out]; exact hvn.out.2.1, hv2.below g3.fresh, by rw [HM.out]; exact g2, hv3, fun i hi => Nat.le_trans hmp.out.2.size (g3.new i hi)⟩⟩
              replace g1 : Hid _ := g1
              clear g2 g3 hvn hv1 hv2 hv3 hvs hmp hfin
              go_wp2_with (at_builtin; refine Lib.wpList_append_run _ rfl _ _ _ _ rfl _ _ rfl rfl _ _ g1.out ?_)
              go_ret3
              first | exact HF.out | (have hf := HF.out; rw [show l.length - j = 0 by omega] at hf; exact hf)
  · rw [hnf] at hD HE
    simp only [if_true] at HE
    rw [HE.out] at hfin
    clear hnf HE
    rcases hsub with ⟨hsc, rfl⟩ | ⟨hsc, rfl⟩
    · obtain rfl : m = sc := hsc.symm
      simp only [sv, Nat.sub_self] at hD HIs
      rw [show l.length - m = 0 by omega] at hD HIs
      clear hsc
      go_enter Tryd.func64, Tryd.ntmps64
      go_wp2_with fail
      go_at_call 78
      refine hW.out.mono ?_
      rintro e w1 ⟨rfl, hb1⟩
      replace hb1 : Hid (Below w.heap.size w w1) := hb1
      clear hW
      go_wp2_with fail
      go_at_call 78
      refine (hD.out _ hb1.out).mono ?_
      rintro e w2 ⟨rfl, hb2⟩
      replace hb2 : Hid (Below w.heap.size w w2) := hb2
      clear hD
      go_wp2_with fail
      go_ret3
      exact hfin.out (by decide) _ hb2.out
    · simp only [sv] at hD HIs
      have hsc' : ¬ (sc : Int) = (m : Int) := by omega
      clear hsc
      go_enter Tryd.func64, Tryd.ntmps64
      go_wp2_with fail
      go_at_call 78
      refine hW.out.mono ?_
      rintro e w1 ⟨rfl, hb1⟩
      replace hb1 : Hid (Below w.heap.size w w1) := hb1
      clear hW
      go_wp2_with fail
      go_at_call 78
      refine (hD.out _ hb1.out).mono ?_
      rintro e w2 ⟨rfl, hb2⟩
      replace hb2 : Hid (Below w.heap.size w w2) := hb2
      clear hD
      go_wp2_with fail
      go_ret3
      exact hfin.out (by decide) _ hb2.out

theorem read_any (s t : SV) (l : List Fd) (names : List ByteArray) (w : World) (hI : In EFd w (sv s) l) (hN : In ES w (sv t) names) (hm1 : 1 ≤ names.length) (hm2 : names.length ≤ 64)
    (hz : ∀ f ∈ l, f.n.size ≤ 140737488355328) (hzn : ∀ s ∈ names, s.size ≤ 140737488355328) : Calls Tryd.prog 64 #[sv s, sv t] w fun e w' => RdPost l names w e w' := by
  by_cases hbad : 64 < l.length ∨ l.any wrongB = true ∨ l.length < names.length
  · exact read_small s t l names w hI hN hbad hm2
  · have h1 : l.length ≤ 64 := by
      apply Classical.byContradiction
      intro h
      exact hbad (.inl (by omega))
    have h2 : l.any wrongB = false := by
      cases h : l.any wrongB
      · rfl
      · exact absurd (.inr (.inl h)) hbad
    have h3 : names.length ≤ l.length := by
      apply Classical.byContradiction
      intro h
      exact hbad (.inr (.inr (by omega)))
    obtain ⟨B, off, cap, e, _⟩ := hI.fd 0 (by omega)
    rw [e] at hI ⊢
    by_cases hc : cap = names.length
    · exact read_long B off cap t l names w hI hN h1 h2 h3 hm1 hz hzn _ (.inl ⟨hc, rfl⟩)
    · exact read_long B off cap t l names w hI hN h1 h2 h3 hm1 hz hzn _ (.inr ⟨hc, rfl⟩)
end Go.Proofs.YtcadlpmopplkeaaDoor
