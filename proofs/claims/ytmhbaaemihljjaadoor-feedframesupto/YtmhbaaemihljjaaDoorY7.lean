/- FeedFrames: the law. -/
import Derived.Test.YtmhbaaemihljjaaDoorYm
import Derived.Deep.CutRange
import Derived.Deep.RegionHeld3
namespace Go.Proofs.YtmhbaaemihljjaaDoor
open Go.RowKit
open EM (SV sv EF okF)
set_option linter.unusedVariables false
set_option linter.unusedSimpArgs false

theorem ff_box {w W : World} {f : Fr} {p : SV} (hB : Below (w.heap.size + 1) (w.alloc (.cells (fv f (sv p)) 28)) W) : FB W w.heap.size f (sv p) := by
  unfold FB
  rw [hB.block _ (by omega)]
  exact heap_alloc_new w _

/-- what is pushed of the last frame -/
def Pt (f : Fr) (ps : List (Int × Int)) (s t : ByteArray) : Prop :=
  rdL t.data.toList 65536 = ((Fr.zero, []), 0, 0, 0) ∧ t.size ≤ 65545 ∧ (t.size ≠ 0 → s = asmB f ps ∧ Right f ps ∧ (wholeB f ps).length ≤ 65536 ∧ t.size < s.size ∧ t = s.extract 0 t.size)
theorem tl_part {f : Fr} {ps : List (Int × Int)} {s : ByteArray} (h : s = asmB f ps ∧ Right f ps ∧ (wholeB f ps).length ≤ 65536) (r : Nat) (hr : r < s.size) (h2 : s.size ≤ 65545) : Pt f ps s (s.extract 0 r) := by
  have hz : (s.extract 0 r).size = r := by simp [ByteArray.size_extract]; omega
  refine ⟨by rw [h.1]; exact part_none f ps r (by rw [← h.1]; exact hr) h.2.2, by omega, fun _ => ⟨h.1, h.2.1, h.2.2, by omega, by rw [hz]⟩⟩
theorem tl_none (f : Fr) (ps : List (Int × Int)) (s : ByteArray) : Pt f ps s ⟨#[]⟩ := ⟨empty_none, by decide, fun h => absurd rfl h⟩
theorem pt_ne {t : ByteArray} (h : t.size ≠ 0) : t.toList.isEmpty = false := by
  rw [Lib.toList_data]
  cases h2 : t.data.toList with
  | nil => exact absurd (by rw [← ByteArray.size_data, ← Array.length_toList, h2]; rfl) h
  | cons => rfl
theorem pt_join {s t : ByteArray} {f : Fr} {x : SV} {ps : List (Int × Int)} (h : t = s.extract 0 t.size) (hs : s = asmB f ps) : t.data.toList ++ (s.extract t.size s.size).data.toList = asmL ((f, x), ps) := by
  have h1 : t.data.toList = s.data.toList.take t.size := by
    have := congrArg (fun x => x.data.toList) h
    simpa [ByteArray.data_extract, Array.toList_extract, List.extract_eq_take_drop] using this
  have h2 : (s.extract t.size s.size).data.toList = s.data.toList.drop t.size := by
    simp only [ByteArray.data_extract, Array.toList_extract, List.extract_eq_take_drop]
    exact List.take_of_length_le (by simp)
  rw [h1, h2, hs]
  exact List.take_append_drop _ _
theorem heap_lt {w : World} {b : Nat} {o : Obj} (h : w.heap[b]? = some o) : b < w.heap.size := (Array.getElem?_eq_some_iff.1 h).1
theorem ff_step {w W W' : World} (h : Below w.heap.size w W) (k : Below W.heap.size W W') : Below w.heap.size w W' := h.trans (k.mono h.size)
theorem allL_drop (es : List FP) (j : Nat) (hj : j < es.length) : allL (es.drop j) = asmL es[j] ++ allL (es.drop (j + 1)) := by
  rw [List.drop_eq_getElem_cons hj]; rfl

set_option maxRecDepth 100000 in
set_option maxHeartbeats 16000000 in
theorem feedFrames_any (server : Bool) (vb : Option Addr) (n vc : Nat) (l : List FP) (hn : l.length = n) (lf : Fr) (lb : Option Addr) (ln lc : Nat) (lps : List (Int × Int)) (cut : Int) (w : World) (hw : 1 ≤ w.heap.size) (hK : Kinds w)
    (hl : EM.In EF w (.slice vb n vc) (l.map (·.1))) (hp : ∀ e ∈ l, PIn w (sv e.1.2) e.2 ∧ 6 * e.2.length + e.1.1.data.size ≤ 30000000) (hlast : PIn w (.slice lb ln lc) lps) (hll : 6 * lps.length + lf.data.size ≤ 30000000) (hN : n ≤ 1000000) (hc1 : -9223372036854775808 ≤ cut) (hc2 : cut ≤ 9223372036854775807) :
    Calls Tryd.prog 7 #[.bool server, .slice vb n vc, .agg (fv lf (.slice lb ln lc)), .int .i64 cut] w fun e w' => e = .returned (.bool true) ∧ Below w.heap.size w w' := by
  have HL : Hid (EM.In EF w (.slice vb n vc) (l.map (·.1))) := hl
  have HP : Hid (∀ e ∈ l, PIn w (sv e.1.2) e.2 ∧ 6 * e.2.length + e.1.1.data.size ≤ 30000000) := hp
  have HN : Hid (l.length = n) := hn
  have HLA : Hid (PIn w (.slice lb ln lc) lps ∧ 6 * lps.length + lf.data.size ≤ 30000000) := ⟨hlast, hll⟩
  clear hl hp hn hlast hll
  have hb0 : Below w.heap.size w (w.alloc (.cells (fv lf (.slice lb ln lc)) 28)) := (Below.refl _ w).alloc (Nat.le_refl _) _
  have hh := head_any (w.alloc (.cells (fv lf (.slice lb ln lc)) 28)) (hK.of_eq (hb0.block 0 (by omega))) (Nat.le_trans hw hb0.size)
  have hsz : (w.alloc (.cells (fv lf (.slice lb ln lc)) 28)).heap.size = w.heap.size + 1 := size_al ..
  go_enter Tryd.func7, Tryd.ntmps7
  simp only [fv] at hh
  go_wp2_with fail
  refine hh.mono ?_
  clear hh
  rintro e w0 ⟨rfl, hB0⟩
  have H0 : Hid (All w w0 [] ∧ FB w0 w.heap.size lf (.slice lb ln lc)) := by
    refine ⟨((All.start hK hw).later hb0).later hB0, ?_⟩
    have : Below (w.heap.size + 1) (w.alloc (.cells (fv lf (sv (lb, ln, lc))) 28)) w0 := by rw [← hsz]; exact hB0
    exact ff_box this
  clear hB0 hb0 hsz
  go_wp2_with fail
  refine (new_all H0.out.1 server 65536).mono ?_
  rintro e w1 ⟨g, rfl, hA1, kt1⟩
  replace hA1 : Hid (All w w1 [(g, .slice none 0 0, ⟨if server then prefaceB else ⟨#[]⟩, [], 65536, 0⟩)] ∧ FB w1 w.heap.size lf (.slice lb ln lc)) := ⟨hA1, kt1.fb H0.out.2⟩
  clear H0 kt1
  go_upto_if 32 with fail
  go_cut [] from 26 (fun wx => Ff w g (none, 0, 0) [] (allL []) w.heap.size lf (lb, ln, lc) wx)
  case first =>
    cases server
    · have HF : Hid (Ff w g (none, 0, 0) [] (allL []) w.heap.size lf (lb, ln, lc) w1) :=
        ⟨⟨_, _, hA1.out.1, rfl, rfl, .inl ⟨rfl, rfl⟩⟩, EM.R.nil EF w1, fun k hk => by simp [sv, Value.ownBlock] at hk, hA1.out.2, fun _ h => (List.not_mem_nil h).elim⟩
      clear hA1
      go_wp2_with fail
      go_meet
      exact HF.out
    · go_wp2_with fail
      refine (push_all hA1.out.1 0 (g := g) (v := .slice none 0 0) (S := ⟨prefaceB, [], 65536, 0⟩) rfl prefaceB (by decide)).mono ?_
      rintro e w2 ⟨rfl, v2, hA2, kt2⟩
      have HF : Hid (Ff w g (none, 0, 0) [] (allL []) w.heap.size lf (lb, ln, lc) w2) :=
        ⟨⟨_, _, hA2, rfl, rfl, .inr ⟨rfl, rfl⟩⟩, EM.R.nil EF w2, fun k hk => by simp [sv, Value.ownBlock] at hk, kt2.fb hA1.out.2, fun _ h => (List.not_mem_nil h).elim⟩
      clear hA1 hA2 kt2
      go_wp2_with fail
      go_meet
      exact HF.out
  case rest =>
    have HF : Hid (Ff w g (none, 0, 0) [] (allL []) w.heap.size lf (lb, ln, lc) wc) := hcut
    clear hcut hA1
    go_wp2_with fail
    go_loopw [10, 11] (fun o i wr => ∃ (k : Nat) (rv : SV) (es : List FP), k ≤ n ∧ es.length ≤ k ∧ i = .int .i64 (k : Int) ∧ o = sv rv ∧ Hid (Ff w g rv es (allL es) w.heap.size lf (lb, ln, lc) wr)) (fun _ i _ => n - (intOf i).toNat)
    case atStart => exact ⟨0, (none, 0, 0), [], Nat.zero_le _, Nat.le_refl _, rfl, rfl, HF⟩
    case round =>
      obtain ⟨k, ⟨rb, rn, rc⟩, es, hk, hes, rfl, rfl, HR⟩ := hrel
      simp only [sv]
      clear HF
      by_cases hlt : k < n
      · have hlen := HN.out
        obtain ⟨e, he⟩ : ∃ e, l[k]'(by omega) = e := ⟨_, rfl⟩
        have hmem : e ∈ l := by rw [← he]; exact List.getElem_mem _
        obtain ⟨hpe, hpl⟩ := HP.out e hmem
        have hbel := HR.out.bel
        have hin := HL.out.get okF k (by simp; omega)
        obtain ⟨B, off, cap, hv, hBl, hd⟩ := hin
        injection hv with hv1 hv2 hv3
        have hg : (l.map (·.1))[k]'(by simp; omega) = e.1 := by simp [he]
        rw [hg] at hd
        obtain ⟨s, c, hWr, c18⟩ := HR.out.write hw hK e.1.1 e.2 e.1.2 hpe (by omega)
        subst hv1
        obtain ⟨⟨f, pb, pn, pc⟩, ps⟩ := e
        have hcell : Hid (∀ W, Below w.heap.size w W → W.cell? ⟨B, off + k * 11, none⟩ = some (.int .i64 f.ty) ∧ W.cell? ⟨B, off + k * 11 + 1, none⟩ = some (.int .i64 f.fl) ∧ W.cell? ⟨B, off + k * 11 + 2, none⟩ = some (.int .i64 f.st) ∧ W.cell? ⟨B, off + k * 11 + 3, none⟩ = some (.string f.data) ∧ W.cell? ⟨B, off + k * 11 + 4, none⟩ = some (.int .i64 f.pad) ∧ W.cell? ⟨B, off + k * 11 + 5, none⟩ = some (.int .i64 f.dep) ∧ W.cell? ⟨B, off + k * 11 + 6, none⟩ = some (.bool f.excl) ∧ W.cell? ⟨B, off + k * 11 + 7, none⟩ = some (.int .i64 f.wt) ∧ W.cell? ⟨B, off + k * 11 + 8, none⟩ = some (.int .i64 f.code) ∧ W.cell? ⟨B, off + k * 11 + 9, none⟩ = some (.int .i64 f.last) ∧ W.cell? ⟨B, off + k * 11 + 10, none⟩ = some (.slice pb pn pc)) := fun W hW => ⟨(hW.cell hBl).trans (hd 0 _ rfl), (hW.cell hBl).trans (hd 1 _ rfl), (hW.cell hBl).trans (hd 2 _ rfl), (hW.cell hBl).trans (hd 3 _ rfl), (hW.cell hBl).trans (hd 4 _ rfl), (hW.cell hBl).trans (hd 5 _ rfl), (hW.cell hBl).trans (hd 6 _ rfl), (hW.cell hBl).trans (hd 7 _ rfl), (hW.cell hBl).trans (hd 8 _ rfl), (hW.cell hBl).trans (hd 9 _ rfl), (hW.cell hBl).trans (hd 10 _ rfl)⟩
        have hki : (k : Int) < (n : Int) := by omega
        obtain ⟨e0, e1, e2, e3, e4, e5, e6, e7, e8, e9, e10⟩ := hcell.out wr hbel
        simp only [fv, sv] at c18
        simp only at hWr hpe hpl
        clear hd hg hv2 hv3 hbel hlen HR he
        go_wp2_with fail
        refine c18.mono ?_
        clear c18 e0 e1 e2 e3 e4 e5 e6 e7 e8 e9 e10
        rintro e w3 ⟨rfl, H3⟩
        replace H3 : Hid _ := H3
        obtain ⟨e0, e1, e2, e3, e4, e5, e6, e7, e8, e9, e10⟩ := hcell.out w3 H3.out.bel
        rcases hWr with ⟨rfl, hs, hR, hW⟩ | ⟨hc, hs⟩
        · have hgd : Gd w ((f, pb, pn, pc), ps) := ⟨hpe, hR, hW⟩
          obtain ⟨base, cap, w4, hrun, H4⟩ := (H3.out.below ((Below.refl _ w3).alloc (Nat.le_refl _) (.cells (fv f (.slice pb pn pc)) 28))).grow (Nat.le_refl _) _ hgd w3.heap.size _ _ _ (heap_alloc_new w3 _) rfl (by omega)
          have hY := allL_len H3.out.good
          have hal := asmL_len hgd
          have eY : allL (es ++ [((f, pb, pn, pc), ps)]) = allL es ++ s.data.toList := by rw [allL_app, hs]; simp [allL, asmL]
          have hss : s.size ≤ 65545 := by rw [hs]; simpa [asmL] using hal
          have hmul : es.length * 65545 ≤ 1000000 * 65545 := Nat.mul_le_mul_right _ (by omega)
          have c11 : Hid (Calls Tryd.prog 11 #[.pointer (some ⟨g, 0, none⟩), .string s] w4 fun e W' => e = .returned (.tuple #[]) ∧ Ff w g (base, es.length + 1, cap) (es ++ [((f, pb, pn, pc), ps)]) (allL (es ++ [((f, pb, pn, pc), ps)])) w.heap.size lf (lb, ln, lc) W') := by
            rw [eY]
            exact H4.push s (by omega)
          simp only [fv, sv, EF] at hrun
          replace hrun : Hid _ := hrun
          clear hs hR hW hgd hY hal eY hss hmul H3 H4 hcell hpe hpl
          go_wp2_with (at_builtin; refine Lib.wpList_append_run _ rfl (.tmp 51) (.tmp 56) 54 54 rfl _ _ rfl rfl _ _ hrun.out ?_)
          refine c11.out.mono ?_
          clear c11 hrun
          rintro e w5 ⟨rfl, H5⟩
          replace H5 : Hid _ := H5
          go_wp2_with fail
          go_roundw
          case rel => exact ⟨k + 1, (base, es.length + 1, cap), _, by omega, by simp; omega, by simp, rfl, H5⟩
          case measure => simp [intOf]; omega
        · have hc0 : c ≠ 0 := by omega
          clear hs
          go_wp2_with fail
          go_roundw
          case rel => exact ⟨k + 1, (rb, rn, rc), es, by omega, by omega, by simp, rfl, H3⟩
          case measure => simp [intOf]; omega
      · obtain rfl : k = n := by omega
        have hki : ¬ (k : Int) < (k : Int) := by omega
        obtain ⟨m, hm⟩ : ∃ m, es.length = m := ⟨_, rfl⟩
        have hrn : rn = m := by
          obtain ⟨_, _, e, _⟩ := HR.out.row.slice
          simp only [sv] at e
          injection e with _ e _
          rw [e, List.length_map, hm]
        subst hrn
        have HM : Hid (es.length = rn) := hm
        clear hm
        have hY := allL_len HR.out.good
        have hmul : es.length * 65545 ≤ 1000000 * 65545 := Nat.mul_le_mul_right _ (by omega)
        obtain ⟨s, c, hWr, c18⟩ := HR.out.write hw hK lf lps (lb, ln, lc) HLA.out.1 (by have := HLA.out.2; omega)
        obtain ⟨e0, e1, e2, e3, e4, e5, e6, e7, e8, e9, e10⟩ := HR.out.box.cells
        have HY : Hid ((allL es).length ≤ 65545000000) := Nat.le_trans hY (Nat.le_trans hmul (by decide))
        simp only [fv, sv] at c18 e10
        clear HR hY hmul
        go_wp2_with fail
        refine c18.mono ?_
        clear c18 e0 e1 e2 e3 e4 e5 e6 e7 e8 e9 e10
        rintro e w3 ⟨rfl, H3⟩
        replace H3 : Hid _ := H3
        have HWR : Hid (Wr lf lps s c) := hWr
        clear hWr
        go_upto_region 18 with fail
        go_cut [72] from 26 (fun x wx => ∃ tt, x = .bool tt ∧ (tt = true → s = asmB lf lps ∧ Right lf lps ∧ (wholeB lf lps).length ≤ 65536) ∧ s.size ≤ 65545 ∧ wx = w3)
        case first =>
          rcases HWR.out with ⟨rfl, hs, hR, hW⟩ | ⟨hc, hs⟩
          · have h9 : 9 ≤ s.size := by rw [hs, asmB_size]; omega
            have hs2 : s.size ≤ 65545 := by rw [hs, asmB_size]; omega
            have HG : Hid (s = asmB lf lps ∧ Right lf lps ∧ (wholeB lf lps).length ≤ 65536) := ⟨hs, hR, hW⟩
            clear hs hR hW
            have hpos : 0 < s.size := by omega
            go_wp2_with fail
            go_meet
            exact ⟨true, by simp [hpos], fun _ => HG.out, hs2, rfl⟩
          · have hc0 : (c == 0) = false := beq_eq_false_iff_ne.2 (by omega)
            have HS0 : Hid (s = ⟨#[]⟩) := hs
            clear hc hs
            go_wp2_with fail
            go_meet
            exact ⟨false, rfl, fun h => (by cases h), by rw [HS0.out]; exact (by decide : (0 : Nat) ≤ 65545), rfl⟩
        case rest =>
         obtain ⟨tt, rfl, htt, hss, rfl⟩ := hcut
         have HG : Hid (tt = true → s = asmB lf lps ∧ Right lf lps ∧ (wholeB lf lps).length ≤ 65536) := htt
         have HS : Hid (s.size ≤ 65545) := hss
         clear htt hss HWR
         go_upto_if 72 with fail
         go_cut [16] from 26 (fun x wx => ∃ t, x = .string t ∧ Pt lf lps s t ∧ wx = wc)
         case first =>
          cases tt
          · go_wp2_with fail
            go_meet
            exact ⟨⟨#[]⟩, rfl, tl_none lf lps s, rfl⟩
          · have HG1 : Hid (s = asmB lf lps ∧ Right lf lps ∧ (wholeB lf lps).length ≤ 65536) := HG.out (by first | rfl | trivial)
            have h9 : 9 ≤ s.size := by rw [HG1.out.1, asmB_size]; omega
            have hs2 : s.size ≤ 65545 := HS.out
            clear HG
            have hpos : 0 < s.size := by omega
            have hlt : (cut.tmod (s.size : Int)).natAbs < s.size := by
              rw [Int.natAbs_tmod]
              exact Nat.mod_lt _ (by omega)
            by_cases hneg : cut.tmod (s.size : Int) < 0
            · obtain ⟨r, hr⟩ : ∃ r : Nat, cut.tmod (s.size : Int) = -(r : Int) := ⟨(cut.tmod (s.size : Int)).natAbs, by omega⟩
              rw [hr] at hneg hlt
              have hrl : r < s.size := by omega
              have hrl2 : (r : Int) ≤ (s.size : Int) := by omega
              have hwr : wrap64 (r : Int) = (r : Int) := wrap64_small _ (by omega) (by omega)
              clear hlt
              go_wp2_with fail
              go_meet
              exact ⟨s.extract 0 r, rfl, tl_part HG1.out r hrl hs2, rfl⟩
            · obtain ⟨r, hr⟩ : ∃ r : Nat, cut.tmod (s.size : Int) = (r : Int) := ⟨(cut.tmod (s.size : Int)).natAbs, by omega⟩
              rw [hr] at hneg hlt
              have hrl : r < s.size := by omega
              have hrl2 : (r : Int) ≤ (s.size : Int) := by omega
              clear hlt
              go_wp2_with fail
              go_meet
              exact ⟨s.extract 0 r, rfl, tl_part HG1.out r hrl hs2, rfl⟩
         case rest =>
          clear HG
          obtain ⟨t, rfl, hT, rfl⟩ := hcut
          have HT : Hid (Pt lf lps s t) := hT
          clear hT
          go_wp2_with fail
          have c11 := H3.out.push t (by have := HY.out; have := HT.out.2.1; omega)
          refine c11.mono ?_
          clear c11 H3 HY
          rintro e w4 ⟨rfl, H4⟩
          replace H4 : Hid (Ff w g (rb, rn, rc) es (allL es ++ t.data.toList) w.heap.size lf (lb, ln, lc) w4) := H4
          go_wp2_with fail
          go_loopw [18] (fun i wr => ∃ j : Nat, j ≤ rn ∧ i = .int .i64 (j : Int) ∧ Hid (Ff w g (rb, rn, rc) es (allL (es.drop j) ++ t.data.toList) w.heap.size lf (lb, ln, lc) wr)) (fun i _ => rn - (intOf i).toNat)
          case atStart => exact ⟨0, Nat.zero_le _, rfl, H4⟩
          case round =>
            obtain ⟨j, hj, rfl, HJ⟩ := hrel
            clear H4
            by_cases hjn : j < rn
            · have hjm : j < es.length := by have := HM.out; omega
              obtain ⟨e, he⟩ : ∃ e, es[j]'hjm = e := ⟨_, rfl⟩
              have hmem : e ∈ es := he ▸ List.getElem_mem _
              have HGD : Hid (Gd w e) := HJ.out.good e hmem
              have hd : allL (es.drop j) ++ t.data.toList = asmL e ++ (allL (es.drop (j + 1)) ++ t.data.toList) := by rw [allL_drop es j hjm, he, List.append_assoc]
              rw [hd] at HJ
              have c12 := HJ.out.next e HGD.out
              obtain ⟨⟨f, pb, pn, pc⟩, ps⟩ := e
              have HE : Hid ((es.map (·.1))[j]'(by simp; exact hjm) = (f, pb, pn, pc)) := by unfold Hid; simp [he]
              have hji : (j : Int) < (rn : Int) := by omega
              have HJM : Hid (j < es.length) := hjm
              clear hd HJ hmem he
              simp only [fv] at c12
              go_wp2_with fail
              refine c12.mono ?_
              clear c12
              rintro r w5 ⟨xb, xc, rfl, hP5, H5⟩
              have HP5 : Hid (PRow w5 (.slice xb ps.length xc) ps) := hP5
              have H5' : Hid _ := H5
              have hb5 : Below w5.heap.size w5 ((w5.alloc (.cells (fv f (.slice xb ps.length xc)) 28)).alloc (.cells #[.int .i64 0, .int .i64 0] 30)) := ((Below.refl _ w5).alloc (Nat.le_refl _) _).alloc (by simp only [size_al]; omega) _
              have hx1 : ((w5.alloc (.cells (fv f (.slice xb ps.length xc)) 28)).alloc (.cells #[.int .i64 0, .int .i64 0] 30)).heap[w5.heap.size]? = some (.cells (fv f (.slice xb ps.length xc)) 28) := by rw [heap_al, if_neg (by simp), heap_al, if_pos rfl]
              have hx2 : ((w5.alloc (.cells (fv f (.slice xb ps.length xc)) 28)).alloc (.cells #[.int .i64 0, .int .i64 0] 30)).heap[w5.heap.size + 1]? = some (.cells #[.int .i64 0, .int .i64 0] 30) := by rw [heap_al, if_pos (by simp)]
              have HALL : Hid (Below w5.heap.size w5 _ ∧ _ ∧ _) := ⟨hb5, hx1, hx2⟩
              clear hP5 H5 hb5 hx1 hx2
              simp only [fv] at HALL
              go_upto_region 28 with fail
              generalize hW6 : (w5.alloc (.cells #[.int .i64 f.ty, .int .i64 f.fl, .int .i64 f.st, .string f.data, .int .i64 f.pad, .int .i64 f.dep, .bool f.excl, .int .i64 f.wt, .int .i64 f.code, .int .i64 f.last, .slice xb ps.length xc] 28)).alloc (.cells #[.int .i64 0, .int .i64 0] 30) = W6 at HALL ⊢
              clear hW6
              obtain ⟨q, hq⟩ : ∃ q, w5.heap.size = q := ⟨_, rfl⟩
              obtain ⟨y, hy⟩ : ∃ y, w5.heap.size + 1 = y := ⟨_, rfl⟩
              have H6 : Hid (Ff w g (rb, rn, rc) es (allL (es.drop (j + 1)) ++ t.data.toList) w.heap.size lf (lb, ln, lc) W6) := H5'.out.below HALL.out.1
              have HX1 : Hid (W6.heap[q]? = some (.cells #[.int .i64 f.ty, .int .i64 f.fl, .int .i64 f.st, .string f.data, .int .i64 f.pad, .int .i64 f.dep, .bool f.excl, .int .i64 f.wt, .int .i64 f.code, .int .i64 f.last, .slice xb ps.length xc] 28)) := hq ▸ HALL.out.2.1
              have HX2 : Hid (W6.heap[y]? = some (.cells #[.int .i64 0, .int .i64 0] 30)) := hy ▸ HALL.out.2.2
              have HP6 : Hid (PRow W6 (.slice xb ps.length xc) ps) := HP5.out.below fun k _ hk => HALL.out.1.block k hk
              rw [hy, hq]
              clear H5' HALL HP5 hq hy
              obtain ⟨B, off, cap, hv, hBl, hd⟩ := H6.out.row.isIn.get okF j (by simp; exact HJM.out)
              rw [HE.out] at hd
              simp only [sv] at hv
              injection hv with hv1 hv2 hv3
              subst hv1
              have HD : Hid (∀ i u, (EF.enc (f, pb, pn, pc))[i]? = some u → W6.cell? ⟨B, off + j * 11 + i, none⟩ = some u) := hd
              clear hd hv2 hv3 HE
              have HSAME : Hid (∀ W, Below W6.heap.size W6 W → Calls Tryd.prog 19 #[.agg #[.int .i64 f.ty, .int .i64 f.fl, .int .i64 f.st, .string f.data, .int .i64 f.pad, .int .i64 f.dep, .bool f.excl, .int .i64 f.wt, .int .i64 f.code, .int .i64 f.last, .slice xb ps.length xc], .agg #[.int .i64 f.ty, .int .i64 f.fl, .int .i64 f.st, .string f.data, .int .i64 f.pad, .int .i64 f.dep, .bool f.excl, .int .i64 f.wt, .int .i64 f.code, .int .i64 f.last, .slice pb pn pc]] W fun e w' => e = .returned (.bool true) ∧ Below W.heap.size W w') := fun W h =>
                same_eq_in f W xb ps.length xc pb pn pc ps (HP6.out.below fun k _ hk => h.block k hk) (HGD.out.1.below ((H6.out.below h).bel))
              go_cut [114] from 87 to 114 (fun x wx => x = .bool false ∧ Below W6.heap.size W6 wx)
              case first =>
                have held : Hid (∀ W, Below W6.heap.size W6 W → (W.cell? ⟨q, 0, none⟩ = some (.int .i64 f.ty) ∧ W.cell? ⟨q, 1, none⟩ = some (.int .i64 f.fl) ∧ W.cell? ⟨q, 2, none⟩ = some (.int .i64 f.st) ∧ W.cell? ⟨q, 3, none⟩ = some (.string f.data) ∧ W.cell? ⟨q, 4, none⟩ = some (.int .i64 f.pad) ∧ W.cell? ⟨q, 5, none⟩ = some (.int .i64 f.dep) ∧ W.cell? ⟨q, 6, none⟩ = some (.bool f.excl) ∧ W.cell? ⟨q, 7, none⟩ = some (.int .i64 f.wt) ∧ W.cell? ⟨q, 8, none⟩ = some (.int .i64 f.code) ∧ W.cell? ⟨q, 9, none⟩ = some (.int .i64 f.last) ∧ W.cell? ⟨q, 10, none⟩ = some (.slice xb ps.length xc)) ∧ (W.cell? ⟨y, 0, none⟩ = some (.int .i64 0) ∧ W.cell? ⟨y, 1, none⟩ = some (.int .i64 0)) ∧ (W.cell? ⟨B, off + j * 11, none⟩ = some (.int .i64 f.ty) ∧ W.cell? ⟨B, off + j * 11 + 1, none⟩ = some (.int .i64 f.fl) ∧ W.cell? ⟨B, off + j * 11 + 2, none⟩ = some (.int .i64 f.st) ∧ W.cell? ⟨B, off + j * 11 + 3, none⟩ = some (.string f.data) ∧ W.cell? ⟨B, off + j * 11 + 4, none⟩ = some (.int .i64 f.pad) ∧ W.cell? ⟨B, off + j * 11 + 5, none⟩ = some (.int .i64 f.dep) ∧ W.cell? ⟨B, off + j * 11 + 6, none⟩ = some (.bool f.excl) ∧ W.cell? ⟨B, off + j * 11 + 7, none⟩ = some (.int .i64 f.wt) ∧ W.cell? ⟨B, off + j * 11 + 8, none⟩ = some (.int .i64 f.code) ∧ W.cell? ⟨B, off + j * 11 + 9, none⟩ = some (.int .i64 f.last) ∧ W.cell? ⟨B, off + j * 11 + 10, none⟩ = some (.slice pb pn pc)) ∧ Below W6.heap.size W6 W) := fun W h =>
                  ⟨⟨(h.cell (heap_lt HX1.out)).trans (EM.cell_blk HX1.out 0), (h.cell (heap_lt HX1.out)).trans (EM.cell_blk HX1.out 1), (h.cell (heap_lt HX1.out)).trans (EM.cell_blk HX1.out 2), (h.cell (heap_lt HX1.out)).trans (EM.cell_blk HX1.out 3), (h.cell (heap_lt HX1.out)).trans (EM.cell_blk HX1.out 4), (h.cell (heap_lt HX1.out)).trans (EM.cell_blk HX1.out 5), (h.cell (heap_lt HX1.out)).trans (EM.cell_blk HX1.out 6), (h.cell (heap_lt HX1.out)).trans (EM.cell_blk HX1.out 7), (h.cell (heap_lt HX1.out)).trans (EM.cell_blk HX1.out 8), (h.cell (heap_lt HX1.out)).trans (EM.cell_blk HX1.out 9), (h.cell (heap_lt HX1.out)).trans (EM.cell_blk HX1.out 10)⟩, ⟨(h.cell (heap_lt HX2.out)).trans (EM.cell_blk HX2.out 0), (h.cell (heap_lt HX2.out)).trans (EM.cell_blk HX2.out 1)⟩, ⟨(h.cell hBl).trans (HD.out 0 _ rfl), (h.cell hBl).trans (HD.out 1 _ rfl), (h.cell hBl).trans (HD.out 2 _ rfl), (h.cell hBl).trans (HD.out 3 _ rfl), (h.cell hBl).trans (HD.out 4 _ rfl), (h.cell hBl).trans (HD.out 5 _ rfl), (h.cell hBl).trans (HD.out 6 _ rfl), (h.cell hBl).trans (HD.out 7 _ rfl), (h.cell hBl).trans (HD.out 8 _ rfl), (h.cell hBl).trans (HD.out 9 _ rfl), (h.cell hBl).trans (HD.out 10 _ rfl)⟩, h⟩
                go_region_held3 (fun W => (W.cell? ⟨q, 0, none⟩ = some (.int .i64 f.ty) ∧ W.cell? ⟨q, 1, none⟩ = some (.int .i64 f.fl) ∧ W.cell? ⟨q, 2, none⟩ = some (.int .i64 f.st) ∧ W.cell? ⟨q, 3, none⟩ = some (.string f.data) ∧ W.cell? ⟨q, 4, none⟩ = some (.int .i64 f.pad) ∧ W.cell? ⟨q, 5, none⟩ = some (.int .i64 f.dep) ∧ W.cell? ⟨q, 6, none⟩ = some (.bool f.excl) ∧ W.cell? ⟨q, 7, none⟩ = some (.int .i64 f.wt) ∧ W.cell? ⟨q, 8, none⟩ = some (.int .i64 f.code) ∧ W.cell? ⟨q, 9, none⟩ = some (.int .i64 f.last) ∧ W.cell? ⟨q, 10, none⟩ = some (.slice xb ps.length xc)) ∧ (W.cell? ⟨y, 0, none⟩ = some (.int .i64 0) ∧ W.cell? ⟨y, 1, none⟩ = some (.int .i64 0)) ∧ (W.cell? ⟨B, off + j * 11, none⟩ = some (.int .i64 f.ty) ∧ W.cell? ⟨B, off + j * 11 + 1, none⟩ = some (.int .i64 f.fl) ∧ W.cell? ⟨B, off + j * 11 + 2, none⟩ = some (.int .i64 f.st) ∧ W.cell? ⟨B, off + j * 11 + 3, none⟩ = some (.string f.data) ∧ W.cell? ⟨B, off + j * 11 + 4, none⟩ = some (.int .i64 f.pad) ∧ W.cell? ⟨B, off + j * 11 + 5, none⟩ = some (.int .i64 f.dep) ∧ W.cell? ⟨B, off + j * 11 + 6, none⟩ = some (.bool f.excl) ∧ W.cell? ⟨B, off + j * 11 + 7, none⟩ = some (.int .i64 f.wt) ∧ W.cell? ⟨B, off + j * 11 + 8, none⟩ = some (.int .i64 f.code) ∧ W.cell? ⟨B, off + j * 11 + 9, none⟩ = some (.int .i64 f.last) ∧ W.cell? ⟨B, off + j * 11 + 10, none⟩ = some (.slice pb pn pc)) ∧ Below W6.heap.size W6 W) (first | exact held.out _ (Below.refl _ _).drew | exact held.out _ (ff_step (And.right (And.right (And.right (by assumption)))) (by assumption))) (first | (go_at_call 19; refine (HSAME.out _ (And.right (And.right (And.right (by assumption))))).mono ?_; rintro e w7 ⟨rfl, hB7⟩))
                all_goals
                  rename_i hS
                  have hS2 := hS.2.2.2
                  clear hS
                  go_wp2_with fail
                  go_meet
                  exact ⟨rfl, hS2⟩
              case rest =>
                obtain ⟨rfl, hB7⟩ := hcut
                have H7 : Hid _ := H6.out.below hB7
                clear H6 HX1 HX2 HP6 HD HSAME hB7
                go_wp2_with fail
                go_roundw
                case rel => exact ⟨j + 1, by omega, by simp, H7⟩
                case measure => simp [intOf]; omega
            · obtain rfl : j = rn := by omega
              have hji : ¬ (j : Int) < (j : Int) := by omega
              have hd : allL (es.drop j) ++ t.data.toList = t.data.toList := by
                rw [List.drop_eq_nil_of_le (by have := HM.out; omega)]; rfl
              rw [hd] at HJ
              clear hd
              go_wp2_with fail
              refine (HJ.out.next_none HT.out.1).mono ?_
              rintro e w5 ⟨xb, xc, rfl, H5, v, S, hA, hWt, hpre⟩
              have hwl : S.wait.length = t.size := by
                rcases hWt.2.2 with ⟨_, h⟩ | ⟨h, _⟩
                · rw [h]; simp
                · rw [hpre] at h; exact absurd h (by decide)
              have hb5 : Below w5.heap.size w5 ((w5.alloc (.cells (fv Fr.zero (.slice xb 0 xc)) 28)).alloc (.cells #[.int .i64 0, .int .i64 0] 30)) := ((Below.refl _ w5).alloc (Nat.le_refl _) _).alloc (by simp only [size_al]; omega) _
              obtain ⟨hA6, -, hz6, -⟩ := box2 hA Fr.zero (.slice xb 0 xc) 0 0
              have c13 := wait_all hA6 0 (g := g) (v := v) (S := S) rfl
              rw [hwl] at c13
              have H6 : Hid (Ff w g (rb, j, rc) es t.data.toList w.heap.size lf (lb, ln, lc) ((w5.alloc (.cells (fv Fr.zero (.slice xb 0 xc)) 28)).alloc (.cells #[.int .i64 0, .int .i64 0] 30))) := H5.below hb5
              clear HJ H5 hA hA6 hWt hpre hwl hb5
              simp only [fv, Fr.zero] at c13 H6 hz6
              simp only [fv, Fr.zero]
              go_wp2_with fail
              generalize hW6 : (w5.alloc (.cells #[.int .i64 0, .int .i64 0, .int .i64 0, .string ⟨#[]⟩, .int .i64 0, .int .i64 0, .bool false, .int .i64 0, .int .i64 0, .int .i64 0, .slice xb 0 xc] 28)).alloc (.cells #[.int .i64 0, .int .i64 0] 30) = W6 at c13 H6 hz6 ⊢
              clear hW6
              refine c13.mono ?_
              clear c13
              rintro e w6 ⟨rfl, rfl⟩
              by_cases ht0 : t.size = 0
              · obtain rfl : t = ⟨#[]⟩ := ByteArray.size_eq_zero_iff.1 ht0
                have hbel : Hid (Below w.heap.size w w6) := H6.out.bel
                clear ht0 H6 hz6
                go_wp2_with fail
                go_ret
                exact ⟨rfl, hbel.out⟩
              · have HE : Hid _ := HT.out.2.2 ht0
                have htl := HE.out.2.2.2.1
                have htne : t ≠ ⟨#[]⟩ := fun h => ht0 (by rw [h]; rfl)
                have htl2 : (t.size : Int) ≤ (s.size : Int) := by omega
                have htl3 : t.size ≤ s.size := by omega
                have hti : t.toList.isEmpty = false := pt_ne ht0
                have c11 := H6.out.push' (s.extract t.size s.size) (by simp only [ByteArray.size_extract, Array.length_toList]; have := HT.out.2.1; have := HS.out; simp; omega)
                clear ht0 htl htne HT
                go_wp2_with fail
                refine c11.mono ?_
                clear c11 H6
                rintro e w7 ⟨rfl, H7, kt7⟩
                have hgd : Gd w ((lf, lb, ln, lc), lps) := ⟨HLA.out.1, HE.out.2.1, HE.out.2.2.1⟩
                rw [pt_join HE.out.2.2.2.2 (show s = asmB lf lps from HE.out.1)] at H7
                have hz7 := kt7 _ _ 30 hz6 (by decide) (by decide)
                have c12 := H7.next' ((lf, lb, ln, lc), lps) hgd
                clear H7 kt7 hz6 hgd
                go_wp2_with fail
                refine c12.mono ?_
                clear c12
                rintro e w8 ⟨yb, yc, rfl, hP8, H8, kt8, v8, S8, hA8, hw8⟩
                have hz8 := kt8 _ _ 30 hz7 (by decide) (by decide)
                clear hz7 kt8
                simp only [fv]
                obtain ⟨y, hy⟩ : ∃ y, w5.heap.size + 1 = y := ⟨_, rfl⟩
                rw [hy] at hz8
                try rw [hy]
                have z9 : (w8.alloc (.cells (fv lf (.slice yb lps.length yc)) 28)).heap[y]? = some (.cells #[.int .i64 0, .int .i64 0] 30 (0, 0)) := ((Below.refl _ w8).alloc (Nat.le_refl _) (.cells (fv lf (.slice yb lps.length yc)) 28)).block y (Array.getElem?_eq_some_iff.1 hz8).1 |>.trans hz8
                have s0 := setCell_same _ y 0 _ _ _ z9 (.int .i64 0) rfl
                have s1 := setCell_same _ y 1 _ _ _ z9 (.int .i64 0) rfl
                have b0 := EM.cell_blk z9 0
                have b1 := EM.cell_blk z9 1
                have f0 : (w8.alloc (.cells (fv lf (.slice yb lps.length yc)) 28)).frozen? ⟨y, 0, none⟩ = false := by simp [World.frozen?, z9]
                have f1 : (w8.alloc (.cells (fv lf (.slice yb lps.length yc)) 28)).frozen? ⟨y, 1, none⟩ = false := by simp [World.frozen?, z9]
                have hb9 : Below w8.heap.size w8 (w8.alloc (.cells (fv lf (.slice yb lps.length yc)) 28)) := (Below.refl _ w8).alloc (Nat.le_refl _) _
                obtain ⟨e0, e1, e2, e3, e4, e5, e6, e7, e8, e9, e10⟩ := (H8.box.below hb9).cells
                have c19 : Hid (Calls Tryd.prog 19 #[.agg (fv lf (.slice yb lps.length yc)), .agg (fv lf (.slice lb ln lc))] (w8.alloc (.cells (fv lf (.slice yb lps.length yc)) 28)) fun e w' => e = .returned (.bool true) ∧ Hid (All w w' [(g, v8, S8)])) := by
                  refine (same_eq_in lf _ yb lps.length yc lb ln lc lps (hP8.below fun k _ hk => hb9.block k hk) (HLA.out.1.below ((hA8.later hb9).bel))).mono ?_
                  rintro e w' ⟨rfl, hb⟩
                  exact ⟨rfl, (hA8.later hb9).later hb⟩
                have HW : Hid (S8.wait.length = 0) := hw8
                simp only [fv, sv] at s0 s1 b0 b1 z9 f0 f1 c19 e0 e1 e2 e3 e4 e5 e6 e7 e8 e9 e10
                clear hA8 hw8 hP8 H8 hz8 hb9 z9
                go_wp2_with fail
                refine c19.out.mono ?_
                clear c19 e0 e1 e2 e3 e4 e5 e6 e7 e8 e9 e10 s0 s1 b0 b1 f0 f1
                rintro e w10 ⟨rfl, H10⟩
                have c13 := wait_all H10.out 0 (g := g) (v := v8) (S := S8) rfl
                rw [HW.out] at c13
                go_wp2_with fail
                refine c13.mono ?_
                clear c13
                rintro e w11 ⟨rfl, rfl⟩
                have hbel : Hid (Below w.heap.size w w11) := H10.out.bel
                go_wp2_with fail
                go_ret
                exact ⟨rfl, hbel.out⟩

end Go.Proofs.YtmhbaaemihljjaaDoor
