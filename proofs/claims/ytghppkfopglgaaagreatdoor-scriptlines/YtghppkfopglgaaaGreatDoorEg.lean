/- ScriptLines. -/
import Derived.Test.YtghppkfopglgaaaGreatDoorKax
import Derived.Deep.CutRange
namespace Go.Proofs.YtghppkfopglgaaaGreatDoor
open Go.RowKit
set_option linter.unusedVariables false
set_option linter.unusedSimpArgs false
/-- how far the law's loop has come -/
structure XJ (ls : List (List UInt8)) (m : List UInt8) (f i : Nat) (X : ByteArray) (j p : Nat) : Prop where
  fr : f = (unl (ls.take j)).length
  at' : i = f + p
  le : j ≤ ls.length
  pl : ∀ h : j < ls.length, p ≤ (ls[j]'h).length
  pe : j = ls.length → p = 0
  x : X.data.toList = silX m (ls.take j)
theorem cells0 (a : Option Addr) (n c : Nat) (cs : List (Cm × CmS)) (W : World) (h : PR W (.slice a n c) cs) (hn : n = cs.length) : cs = [] → n = 0 := fun e => by rw [hn, e]; rfl
set_option maxRecDepth 100000 in
set_option maxHeartbeats 32000000 in
theorem lines_law (one two rm : ByteArray) (w : World) (hE : Env w) (h1 : one.size ≤ 140737488355327) (h2 : two.size ≤ 140737488355328) (h3 : rm.size ≤ 140737488355328) : Calls Tryz.prog 7 #[.string one, .string two, .string rm] w fun e w' => e = .returned (.bool true) ∧ Below w.heap.size w w' := by
  have HEV : Hid (∀ V, Below w.heap.size w V → Env V) := hid (fun V h => hE.of h.size fun k hk => h.block k (by have := hE.sz; omega))
  have HH := hid (head_any w hE)
  have HF1 := hid (fun V => few_any one V (by omega))
  have HF2 := hid (fun V => few_any two V h2)
  have HEN := hid (fun V => ended_any one V (by omega))
  have HP := hid (fun s hs V (h : Below w.heap.size w V) => parse_w s hs V (HEV.out V h))
  obtain ⟨mz, hmz⟩ : ∃ mz, rm.size = mz := ⟨_, rfl⟩
  have HMZ := hid hmz
  have HS1 := hid h1
  have HS2 := hid h2
  clear hE h1 h2 h3 hmz
  go_enter Tryz.func7, Tryz.ntmps7
  go_wp2_with fail
  go_at_call 9
  refine HH.out.mono ?_
  rintro e V0 ⟨rfl, hb0⟩
  have B0 := hid hb0
  clear hb0 HH
  cases hf1 : fewB one.data.toList with
  | false =>
    rw [hf1] at HF1
    go_wp2_with fail
    go_at_call 16
    refine (HF1.out _).mono ?_
    rintro e V ⟨rfl, e2⟩
    subst e2
    go_wp2_with fail
    go_ret
    exact ⟨rfl, B0.out⟩
  | true =>
    cases hf2 : fewB two.data.toList with
    | false =>
      rw [hf1] at HF1
      rw [hf2] at HF2
      go_wp2_with fail
      go_at_call 16
      refine (HF1.out _).mono ?_
      rintro e V ⟨rfl, e2⟩
      subst e2
      go_wp2_with fail
      go_at_call 16
      refine (HF2.out _).mono ?_
      rintro e V ⟨rfl, e2⟩
      subst e2
      go_wp2_with fail
      go_ret
      exact ⟨rfl, B0.out⟩
    | true =>
      have HB1 := hid hf1
      have HB2 := hid hf2
      rw [hf1] at HF1
      rw [hf2] at HF2
      clear hf1 hf2
      by_cases h20 : 20 < mz
      · have h20S : (20 : Int) < (rm.size : Int) := by have := HMZ.out; omega
        go_wp2_with fail
        go_at_call 16
        refine (HF1.out _).mono ?_
        rintro e V ⟨rfl, e2⟩
        subst e2
        go_wp2_with fail
        go_at_call 16
        refine (HF2.out _).mono ?_
        rintro e V ⟨rfl, e2⟩
        subst e2
        go_wp2_with fail
        go_ret
        exact ⟨rfl, B0.out⟩
      · have h20S : ¬ (20 : Int) < (rm.size : Int) := by have := HMZ.out; omega
        have hm20 : mz ≤ 20 := by omega
        go_wp2_with fail
        go_at_call 16
        refine (HF1.out _).mono ?_
        rintro e V ⟨rfl, e2⟩
        subst e2
        go_wp2_with fail
        go_at_call 16
        refine (HF2.out _).mono ?_
        rintro e V ⟨rfl, e2⟩
        subst e2
        go_wp2_with fail
        clear h20S h20
        go_loopw [7] (fun iv wr => ∃ i : Nat, iv = .int .i64 (i : Int) ∧ i ≤ mz ∧ Hid (Below w.heap.size w wr ∧ ∀ c ∈ rm.data.toList.take i, c ≠ 10)) (fun iv _ => mz - (intOf iv).toNat)
        case atStart => exact ⟨0, rfl, Nat.zero_le _, hid ⟨B0.out, fun c hc => absurd hc (by simp)⟩⟩
        case round =>
          obtain ⟨i, rfl, hi, HT⟩ := hrel
          by_cases hlt : i < mz
          · have hiS : i < rm.size := by have := HMZ.out; omega
            have hltS : (i : Int) < (rm.size : Int) := by omega
            obtain ⟨c, hc⟩ : ∃ c, rm[i]'hiS = c := ⟨_, rfl⟩
            by_cases h10 : c = 10
            · subst h10
              go_wp2_with fail
              go_ret
              exact ⟨rfl, HT.out.1⟩
            · have t1 : ((c.toNat : Int) == 10) = false := by simpa using fun e : (c.toNat : Int) = 10 => h10 (UInt8.toNat_inj.1 (by show c.toNat = 10; omega))
              have t2 : (c.toNat == 10) = false := by simpa using fun e => h10 (UInt8.toNat_inj.1 e)
              have HN : Hid (Below w.heap.size w wr ∧ ∀ c ∈ rm.data.toList.take (i + 1), c ≠ 10) := hid ⟨HT.out.1, fun d hd => by
                have hsi : i < rm.data.toList.length := by rw [← sz_eq]; exact hiS
                rw [List.take_add_one, List.getElem?_eq_getElem hsi] at hd
                rcases List.mem_append.1 hd with h | h
                · exact HT.out.2 d h
                · simp at h
                  rw [h]
                  have : rm.data.toList[i]'hsi = c := hc
                  rw [show rm.data[i] = c from hc]
                  exact h10⟩
              clear h10
              go_wp2_with fail
              go_roundw
              case rel => exact ⟨i + 1, by first | rfl | simp, by omega, HN⟩
              case measure => show mz - ((i : Int) + 1).toNat < mz - ((i : Nat) : Int).toNat; omega
          · have hnS : ¬ (i : Int) < (rm.size : Int) := by have := HMZ.out; omega
            have HFA := hid (lines_facts one.data.toList two.data.toList rm.data.toList HB1.out HB2.out (by rw [← sz_eq]; have := HMZ.out; omega) (by
              have := HT.out.2
              rw [List.take_of_length_le (by rw [← sz_eq]; have := HMZ.out; omega)] at this
              exact this))
            have HBx := hid HT.out.1
            clear HT hlt hi B0
            obtain ⟨⟨A, k1⟩, hPA⟩ : ∃ q, parseL one.data.toList = q := ⟨_, rfl⟩
            rw [hPA] at HFA
            have HPA := hid hPA
            obtain ⟨TB, hTB⟩ : ∃ T, bt (endL one.data.toList) = T := ⟨_, rfl⟩
            rw [hTB] at HEN
            obtain ⟨ls, hls⟩ : ∃ l, tls one.data.toList = l := ⟨_, rfl⟩
            rw [hls] at HFA
            have HTL : Hid (TB.data.toList = unl ls ∧ TB.data.toList = endL one.data.toList ∧ ∀ l ∈ ls, ∀ c ∈ l, c ≠ (10 : UInt8)) := hid ⟨by rw [← hTB, bt_toList, endL_unl, hls], by rw [← hTB, bt_toList], by rw [← hls]; exact tls_10s _⟩
            obtain ⟨tz, htz⟩ : ∃ n, TB.size = n := ⟨_, rfl⟩
            have htz9 : tz ≤ 30001 := by rw [← htz, sz_eq, HTL.out.2.1]; exact HFA.out.2.2.2.2.2.2
            have HTZ := hid htz
            clear hPA hTB hls htz
            go_wp2_with fail
            go_at_call 11
            refine (HP.out one (by have := HS1.out; omega) _ HBx.out).mono ?_
            rw [HPA.out]
            rintro e W1 ⟨a1, n1, c1, s1, rfl, hn1, hm1, hp1, hb1⟩
            have HP1 := hid hp1
            have HM1 := hid (And.intro hn1 hm1)
            have HB3 := hid (HBx.out.trans (hb1.mono HBx.out.size))
            clear hn1 hm1 hp1 hb1 HBx
            go_wp2_with fail
            go_at_call 17
            refine (HEN.out _).mono ?_
            rintro e V ⟨rfl, rfl⟩
            go_wp2_with fail
            go_at_call 11
            refine (HP.out TB (by have := HTZ.out; omega) _ HB3.out).mono ?_
            rw [HTL.out.2.1, HFA.out.1]
            rintro e W2 ⟨a2, n2, c2, s2, rfl, hn2, hm2, hp2, hb2⟩
            have HP2 := hid hp2
            have HP3 := hid (HP1.out.below hb2)
            have HE2 : Hid (s1.map (·.1) = s2.map (·.1)) := hid (HM1.out.2.trans hm2.symm)
            have HB4 := hid (HB3.out.trans (hb2.mono HB3.out.size))
            clear hn2 hm2 hp2 hb2 HB3 HP1
            go_wp2_with fail
            go_at_call 15
            refine (same_any _ _ s1 s2 _ HE2.out HP3.out.row HP2.out.row HP3.out.rd HP2.out.rd).mono ?_
            rintro e W3 ⟨rfl, hb3⟩
            have HP4 := hid (HP3.out.below hb3)
            have HB5 := hid (HB4.out.trans (hb3.mono HB4.out.size))
            clear hb3 HB4 HP3 HP2 HE2
            go_wp2_with fail
            go_at_call 17
            refine (HEN.out _).mono ?_
            rintro e V ⟨rfl, rfl⟩
            go_wp2_with fail
            have hmzA := hm20
            go_loopw [12, 13, 15] (fun xv fv iv wr => ∃ (X : ByteArray) (f i j p : Nat), xv = .string X ∧ fv = .int .i64 (f : Int) ∧ iv = .int .i64 (i : Int) ∧ i ≤ tz ∧ f ≤ i ∧ X.size ≤ 37000 ∧ Hid (XJ ls rm.data.toList f i X j p ∧ Below w.heap.size w wr ∧ PR wr (.slice a1 n1 c1) s1)) (fun _ _ iv _ => tz - (intOf iv).toNat)
            case atStart => exact ⟨⟨#[]⟩, 0, 0, 0, 0, rfl, rfl, rfl, Nat.zero_le _, Nat.le_refl _, by decide, hid ⟨⟨rfl, rfl, Nat.zero_le _, fun _ => Nat.zero_le _, fun _ => rfl, rfl⟩, HB5.out, HP4.out⟩⟩
            case round =>
              obtain ⟨X, f, i, j, p, rfl, rfl, rfl, hi, hfi, hX, HJ⟩ := hrel
              clear HB5 HP4
              have hJ := HJ.out.1
              have HBx := hid HJ.out.2.1
              have HPx := hid HJ.out.2.2
              by_cases hj : j < ls.length
              · have hp := hJ.pl hj
                have hin := unl_in ls j p hj hp
                have hget := unl_get ls HTL.out.2.2 j p hj hp hin
                have hit : i < tz := by rw [hJ.at', hJ.fr]; have := HTZ.out; rw [sz_eq, HTL.out.1] at this; omega
                have hiS : i < TB.size := by have := HTZ.out; omega
                have hltS : (i : Int) < (TB.size : Int) := by omega
                have hTi : TB[i]'hiS = (unl ls)[(unl (ls.take j)).length + p]'hin := by
                  have e1 : TB.data.toList[i]? = (unl ls)[(unl (ls.take j)).length + p]? := by rw [HTL.out.1, hJ.at', hJ.fr]
                  rw [List.getElem?_eq_getElem (by rw [← sz_eq]; exact hiS), List.getElem?_eq_getElem hin] at e1
                  exact Option.some.inj e1
                obtain ⟨c, hc⟩ : ∃ c, TB[i]'hiS = c := ⟨_, rfl⟩
                rw [← hTi, hc] at hget
                by_cases hpl : p < ls[j].length
                · have h10 := hget.1 hpl
                  have t1 : ((c.toNat : Int) == 10) = false := by simpa using fun e : (c.toNat : Int) = 10 => h10 (UInt8.toNat_inj.1 (by show c.toNat = 10; omega))
                  have t2 : (c.toNat == 10) = false := by simpa using fun e => h10 (UInt8.toNat_inj.1 e)
                  have HN : Hid (XJ ls rm.data.toList f (i + 1) X j (p + 1)) := hid ⟨hJ.fr, by rw [hJ.at']; omega, hJ.le, fun _ => by omega, fun e => by omega, hJ.x⟩
                  clear hJ hp hget hin hTi h10 HJ hpl
                  go_wp2_with fail
                  go_roundw
                  case rel => exact ⟨X, f, i + 1, j, p + 1, rfl, rfl, by first | rfl | simp, by omega, by omega, hX, hid ⟨HN.out, HBx.out, HPx.out⟩⟩
                  case measure => show tz - ((i : Int) + 1).toNat < tz - ((i : Nat) : Int).toNat; omega
                · have hpe : p = ls[j].length := by omega
                  have h10 := hget.2 hpe
                  subst h10
                  obtain ⟨E, hE⟩ : ∃ E, TB.extract f (i + 1) = E := ⟨_, rfl⟩
                  have hEl : E.data.toList = ls[j] ++ [10] := by
                    rw [← hE, Lib.extract_data, HTL.out.1, hJ.fr, hJ.at', hJ.fr, hpe]
                    rw [show (unl (ls.take j)).length + ls[j].length + 1 - (unl (ls.take j)).length = ls[j].length + 1 from by omega]
                    exact unl_cut ls j hj
                  obtain ⟨X2, hX2⟩ : ∃ X2, X ++ (⟨#[10, 35]⟩ : ByteArray) ++ rm ++ ⟨#[10]⟩ ++ E = X2 := ⟨_, rfl⟩
                  have hX2l : X2.data.toList = silX rm.data.toList (ls.take (j + 1)) := by
                    rw [silX_next _ _ _ hj, ← hX2]
                    simp only [ByteArray.data_append, Array.toList_append, hJ.x, hEl]
                    simp
                  have hX2s : X2.size ≤ 37000 := by
                    rw [sz_eq, hX2l]
                    exact Nat.le_trans (silX_le _ _ _) HFA.out.2.2.2.2.1
                  have hEs : E.size = ls[j].length + 1 := by rw [sz_eq, hEl, List.length_append]; rfl
                  have hEb : E.size ≤ 40000 := by
                    have : X2.size = X.size + 2 + rm.size + 1 + E.size := by
                      rw [← hX2]
                      simp only [ByteArray.size_append]
                      rfl
                    omega
                  have HN : Hid (XJ ls rm.data.toList (i + 1) (i + 1) X2 (j + 1) 0) := hid ⟨by rw [unl_next _ _ hj, hJ.at', hJ.fr, hpe]; simp only [List.length_append, List.length_cons, List.length_nil]; omega, rfl, by omega, fun _ => Nat.zero_le _, fun _ => rfl, hX2l⟩
                  have q1 : ¬ 9223372036854775807 < X.size + 2 := by omega
                  have q2 : ¬ 9223372036854775807 < X.size + 2 + rm.size := by have := HMZ.out; omega
                  have q3 : ¬ 9223372036854775807 < X.size + 2 + rm.size + 1 := by have := HMZ.out; omega
                  have q4 : ¬ 9223372036854775807 < X.size + 2 + rm.size + 1 + E.size := by have := HMZ.out; omega
                  have HX2 := hid hX2
                  have hb1 : (f : Int) ≤ (i : Int) + 1 := by omega
                  have hb2 : (i : Int) + 1 ≤ (TB.size : Int) := by omega
                  clear hJ hp hget hin hTi HJ hpl hpe hEl hX2l hEs hX2 hEb
                  go_wp2_with fail
                  go_roundw
                  case rel => exact ⟨X2, i + 1, i + 1, j + 1, 0, by rw [HX2.out], by first | rfl | simp, by first | rfl | simp, by omega, Nat.le_refl _, hX2s, hid ⟨HN.out, HBx.out, HPx.out⟩⟩
                  case measure => show tz - ((i : Int) + 1).toNat < tz - ((i : Nat) : Int).toNat; omega
              · have hjl : j = ls.length := by have := hJ.le; omega
                have hXl : X.data.toList = silX rm.data.toList ls := by rw [hJ.x, hjl, List.take_length]
                have hit : i = tz := by
                  have h1 := hJ.at'
                  have h2 := hJ.fr
                  have h3 := hJ.pe hjl
                  rw [hjl, List.take_length] at h2
                  have h4 := HTZ.out
                  rw [sz_eq, HTL.out.1] at h4
                  omega
                have hnS : ¬ (i : Int) < (TB.size : Int) := by have := HTZ.out; omega
                have hX6 : (X.size : Int) ≤ 60000 := by omega
                have HXL := hid hXl
                clear hJ hXl hjl HJ hit hj hfi
                go_wp2_with fail
                go_at_call 11
                refine (HP.out X (by omega) _ HBx.out).mono ?_
                rw [HXL.out, HFA.out.2.1]
                rintro e W4 ⟨a3, n3, c3, s3, rfl, hn3, hm3, hp3, hb3⟩
                have HP3 := hid hp3
                have HP5 := hid (HPx.out.below hb3)
                have HE3 : Hid (s1.map (·.1) = s3.map (·.1)) := hid (HM1.out.2.trans hm3.symm)
                have HB6 := hid (HBx.out.trans (hb3.mono HBx.out.size))
                clear hn3 hm3 hp3 hb3 HBx HPx
                go_wp2_with fail
                go_at_call 15
                refine (same_any _ _ s1 s3 _ HE3.out HP5.out.row HP3.out.row HP5.out.rd HP3.out.rd).mono ?_
                rintro e W5 ⟨rfl, hb4⟩
                have HP6 := hid (HP5.out.below hb4)
                have HB7 := hid (HB6.out.trans (hb4.mono HB6.out.size))
                clear hb4 HB6 HP5 HP3 HE3
                by_cases hk0 : k1 = 0
                · subst hk0
                  obtain ⟨⟨B, k2⟩, hPB⟩ : ∃ q, parseL two.data.toList = q := ⟨_, rfl⟩
                  have HPB := hid hPB
                  clear hPB
                  go_wp2_with fail
                  go_at_call 11
                  refine (HP.out two (by have := HS2.out; omega) _ HB7.out).mono ?_
                  rw [HPB.out]
                  rintro e W6 ⟨a4, n4, c4, s4, rfl, hn4, hm4, hp4, hb4⟩
                  have HP7 := hid (HP6.out.below hb4)
                  have HP8 := hid hp4
                  have HM4 := hid hm4
                  have HB8 := hid (HB7.out.trans (hb4.mono HB7.out.size))
                  clear hn4 hm4 hp4 hb4 HP6 HB7
                  by_cases hk2 : k2 = 0
                  · subst hk2
                    have ht2 : two.size ≤ 30000 := by rw [sz_eq]; exact (few_all HB2.out).1
                    have hz2 : ¬ 9223372036854775807 < TB.size + two.size := by have := HTZ.out; omega
                    have HBO : Hid (parseL (TB ++ two).data.toList = (A ++ B, 0)) := hid (by
                      rw [ByteArray.data_append, Array.toList_append, HTL.out.2.1]
                      exact HFA.out.2.2.2.1 A B rfl HPB.out)
                    have htb2 : (TB ++ two).size ≤ 140737488355328 := by rw [ByteArray.size_append]; have := HTZ.out; omega
                    have HTB2 := hid htb2
                    clear htb2
                    go_wp2_with fail
                    go_at_call 11
                    refine (HP.out (TB ++ two) HTB2.out _ HB8.out).mono ?_
                    rw [HBO.out]
                    rintro e W7 ⟨a5, n5, c5, s5, rfl, hn5, hm5, hp5, hb5⟩
                    have HP9 := hid (HP7.out.below hb5)
                    have HPa := hid (HP8.out.below hb5)
                    have HPb := hid hp5
                    have HB9 := hid (HB8.out.trans (hb5.mono HB8.out.size))
                    have hl1 : s1.length ≤ 1073741824 := by
                      have h5 := parse_count one
                      rw [HPA.out] at h5
                      have h6 := congrArg List.length HM1.out.2
                      rw [List.length_map] at h6
                      simp only at h5 h6
                      omega
                    have hl4 : s4.length ≤ 1073741824 := by
                      have h5 := parse_count two
                      rw [HPB.out] at h5
                      have h6 := congrArg List.length HM4.out
                      rw [List.length_map] at h6
                      simp only at h5 h6
                      omega
                    obtain ⟨b6, c6, W8, hr1, hR1, hG1⟩ := app okCm W7 (.slice none 0 0) [] (R.nil _ _) (.slice a1 n1 c1) s1 HP9.out.row.isIn (by rw [show ECm.by' = 488 from rfl]; simp only [List.length_nil]; omega)
                    have hb6 : Below W7.heap.size W7 W8 := hG1.fresh
                    obtain ⟨b7, c7, W9, hr2, hR2, hG2⟩ := app okCm W8 _ _ hR1 (.slice a4 n4 c4) s4 (HPa.out.below hb6).row.isIn (by rw [show ECm.by' = 488 from rfl]; simp only [List.length_append, List.length_nil]; omega)
                    have hb7 : Below W7.heap.size W7 W9 := hb6.trans (hG2.belowB hb6.size hG1.new)
                    have hq9 : ∀ q ∈ ([] : List (Cm × CmS)) ++ s1 ++ s4, CmRd W9 q := fun q hq => by
                      rcases List.mem_append.1 hq with h | h
                      · exact (HP9.out.rd q h).below hb7
                      · exact (HPa.out.rd q h).below hb7
                    have HE4 : Hid (s5.map (·.1) = (([] : List (Cm × CmS)) ++ s1 ++ s4).map (·.1)) := hid (by
                      rw [hm5, List.nil_append, List.map_append, HM1.out.2, HM4.out])
                    obtain ⟨N6, hN6⟩ : ∃ N, ([] : List (Cm × CmS)).length + s1.length = N := ⟨_, rfl⟩
                    obtain ⟨N7, hN7⟩ : ∃ N, ([] ++ s1).length + s4.length = N := ⟨_, rfl⟩
                    rw [hN6] at hr1 hr2
                    rw [hN7] at hr2 hR2
                    have HPc := hid (And.intro hR2 hq9)
                    have HPd := hid (HPb.out.below hb7)
                    have HBa := hid (HB9.out.trans (hb7.mono HB9.out.size))
                    have HR1 := hid hr1
                    have HR2 := hid hr2
                    clear hN6 hN7 hn5 hm5 hp5 hb5 hr1 hr2 hR1 hR2 hG1 hG2 hb6 hb7 hq9 hl1 hl4 HP7 HP8 HP9 HPa HPb HB8 HB9
                    go_wp2_with (first | (refine Lib.wpList_append_run _ rfl (.tmp 129) (.tmp 130) 25 25 rfl _ _ rfl rfl _ _ HR1.out ?_) | (refine Lib.wpList_append_run _ rfl (.tmp 131) (.tmp 132) 25 25 rfl _ _ rfl rfl _ _ HR2.out ?_))
                    go_at_call 15
                    refine (same_any _ _ s5 ([] ++ s1 ++ s4) _ HE4.out HPd.out.row HPc.out.1 HPd.out.rd HPc.out.2).mono ?_
                    rintro e Wf ⟨rfl, hbf⟩
                    have HBf := hid (HBa.out.trans (hbf.mono HBa.out.size))
                    clear hbf
                    go_wp2_with fail
                    go_ret
                    exact ⟨rfl, HBf.out⟩
                  · have hkb : (k2 == 0) = false := beq_eq_false_iff_ne.2 hk2
                    clear hk2
                    go_wp2_with fail
                    go_ret
                    exact ⟨rfl, HB8.out⟩
                · have hkb : (k1 == 0) = false := beq_eq_false_iff_ne.2 hk0
                  have hn0 : n1 = 0 := by
                    rcases HFA.out.2.2.1 with h | h
                    · exact absurd h hk0
                    · have h6 := congrArg List.length HM1.out.2
                      rw [List.length_map] at h6
                      try simp only at h6
                      try simp only at h
                      rw [h] at h6
                      rw [HM1.out.1, h6]
                      rfl
                  subst hn0
                  clear hk0
                  go_wp2_with fail
                  go_ret
                  exact ⟨rfl, HB7.out⟩
end Go.Proofs.YtghppkfopglgaaaGreatDoor
