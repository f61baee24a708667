/- MessageCuts: pieces, walked. -/
import Derived.Test.YtnbaojdildelmaaDoorQ1
namespace Go.Proofs.YtnbaojdildelmaaDoor
open Go.RowKit
set_option linter.unusedVariables false
set_option linter.unusedSimpArgs false
def PdPost (w0 W0 : World) (g : Nat) (x : Mg) (fl ql : List Fd) (B : ByteArray) (k : Nat) (e : Ending) (W' : World) : Prop :=
  (e = .returned (.int .i64 0) ∧ ∃ bs', Pw w0 W0 g x fl ql B k bs' W') ∨ (∃ r : Int, (r = 3 ∨ r = 140) ∧ e = .returned (.int .i64 r) ∧ PcPost w0 g x fl ql B W0 (.returned (.int .i64 r)) W')
theorem take_len (B : ByteArray) (k : Nat) (h : k ≤ B.size) : (B.data.toList.take k).length = k := by rw [List.length_take, ← Lib.size_eq]; omega
theorem Pw.data {w0 W0 : World} {g : Nat} {x : Mg} {fl ql : List Fd} {B : ByteArray} {fr : Nat} {bs : SV} {W : World} (h : Pw w0 W0 g x fl ql B fr bs W) (k : Nat) (hk : fr ≤ k) (hn : k ≤ B.size) (hB : B.size ≤ 140737488351232) :
    Calls Tryd.prog 14 #[.pointer (some ⟨g, 0, none⟩), .string (B.extract fr k), .bool false] W fun e W' => PdPost w0 W0 g x fl ql B k e W' := by
  have hs := ext_size B fr k hk hn
  have hl := take_len B fr (by omega)
  have hr : rfE x.fx x.ln (((B.data.toList.take fr).length : Int) + ((B.extract fr k).size : Int)) false = rfE x.fx x.ln (k : Int) false := by rw [hl, hs]; congr 1; omega
  by_cases h0 : rfE x.fx x.ln (k : Int) false = 0
  · refine (data_step (E := 0) (S := 0) (B := B.data.toList.take k) (B.extract fr k) false h.mw h.bel (by omega) ?_ ?_ ?_).mono ?_
    · unfold dtE; rw [if_neg (by simp)]; exact hr.trans h0
    · unfold dtS; rw [if_neg (by simp)]; show (if rfE x.fx x.ln _ false ≠ 0 then _ else _) = _; rw [hr, h0]; try rfl
    · unfold dtB; rw [if_neg (by simp)]; show (if rfE x.fx x.ln _ false ≠ 0 then _ else _) = _; rw [hr, h0, if_neg (by simp)]; exact take_ext B fr k hk hn
    · rintro e W' ⟨bs', rfl, k1, k2, k3, k4⟩
      refine .inl ⟨rfl, bs', k1, k2, ks_two h.ks h.ow k3, fun j hj => ?_⟩
      rcases k4 j hj with e | e
      · exact h.ow j e
      · exact .inr (Nat.le_trans h.ks.size e)
  · obtain ⟨b1, b2⟩ := rf_bad (en := false) hn h0
    refine (data_step (E := rfE x.fx x.ln (k : Int) false) (S := 2) (B := B.data.toList.take fr) (B.extract fr k) false h.mw h.bel (by omega) ?_ ?_ ?_).mono ?_
    · unfold dtE; rw [if_neg (by simp)]; exact hr
    · unfold dtS; rw [if_neg (by simp)]; show (if rfE x.fx x.ln _ false ≠ 0 then _ else _) = _; rw [hr, if_pos h0]
    · unfold dtB; rw [if_neg (by simp)]; show (if rfE x.fx x.ln _ false ≠ 0 then _ else _) = _; rw [hr, if_pos h0]
    · rintro e W' ⟨bs', rfl, k1, k2, k3, k4⟩
      have hc : rfE x.fx x.ln (k : Int) false = 3 ∨ rfE x.fx x.ln (k : Int) false = 140 := by
        rcases rfE_cases x.fx x.ln (k : Int) false with e | e
        · exact absurd e h0
        · exact e
      refine .inr ⟨_, hc, rfl, bs', _, 2, _, rfl, k1, k2, ks_two h.ks h.ow k3, fun j hj => ?_, (fun hg => (by rw [b1] at hg; cases hg)), fun _ => ⟨hc, rfl, b2⟩⟩
      rcases k4 j hj with e | e
      · exact h.ow j e
      · exact .inr (Nat.le_trans h.ks.size e)
def PlPost (w0 W0 : World) (g : Nat) (x : Mg) (fl ql : List Fd) (B : ByteArray) (e : Ending) (W' : World) : Prop :=
  ∃ r : Int, e = .returned (.int .i64 r) ∧ PcPost w0 g x fl ql B W0 (.returned (.int .i64 r)) W'
theorem Pw.done {w0 W0 : World} {g : Nat} {x : Mg} {fl ql : List Fd} {B : ByteArray} {fr : Nat} {bs : SV} {W W' : World} {e : Ending} (h : Pw w0 W0 g x fl ql B fr bs W) (E S : Int) (body : List UInt8)
    (hg : gdB x.fx x.ln B.size = true → E = 0 ∧ S = 1 ∧ body = B.data.toList) (hb : gdB x.fx x.ln B.size = false → (E = 3 ∨ E = 140) ∧ S = 2 ∧ (B.size ≤ 65536 → E = 140)) (hd : DsPost w0 g { x with st := 0, bs := bs } fl ql E S body W e W') : PlPost w0 W0 g x fl ql B e W' := by
  obtain ⟨bs', rfl, k1, k2, k3, k4⟩ := hd
  refine ⟨E, rfl, bs', E, S, body, rfl, k1, k2, ks_two h.ks h.ow k3, fun j hj => ?_, hg, hb⟩
  rcases k4 j hj with e | e
  · exact h.ow j e
  · exact .inr (Nat.le_trans h.ks.size e)
theorem Pw.last {w0 W0 : World} {g : Nat} {x : Mg} {fl ql : List Fd} {B : ByteArray} {fr : Nat} {bs : SV} {W : World} (h : Pw w0 W0 g x fl ql B fr bs W) (hn : fr ≤ B.size) (hB : B.size ≤ 140737488351232) :
    Calls Tryd.prog 14 #[.pointer (some ⟨g, 0, none⟩), .string (B.extract fr B.size), .bool true] W fun e W' => PlPost w0 W0 g x fl ql B e W' := by
  have hs := ext_size B fr B.size hn (Nat.le_refl _)
  have hl := take_len B fr hn
  have hr : rfE x.fx x.ln (((B.data.toList.take fr).length : Int) + ((B.extract fr B.size).size : Int)) true = rfE x.fx x.ln (B.size : Int) true := by rw [hl, hs]; congr 1; omega
  rcases rf_end x.fx x.ln B.size with ⟨g1, h0⟩ | ⟨g1, h0, h1⟩
  · refine (data_step (E := 0) (S := 1) (B := B.data.toList) (B.extract fr B.size) true h.mw h.bel (by omega) ?_ ?_ ?_).mono fun e W' hd => h.done 0 1 _ (fun _ => ⟨rfl, rfl, rfl⟩) (fun h => by rw [g1] at h; cases h) hd
    · unfold dtE; rw [if_neg (by simp)]; exact hr.trans h0
    · unfold dtS; rw [if_neg (by simp)]; show (if rfE x.fx x.ln _ true ≠ 0 then _ else _) = _; rw [hr, h0]; try rfl
    · unfold dtB; rw [if_neg (by simp)]; show (if rfE x.fx x.ln _ true ≠ 0 then _ else _) = _; rw [hr, h0, if_neg (by simp), take_ext B fr B.size hn (Nat.le_refl _), Lib.size_eq, List.take_length]
  · have hne : rfE x.fx x.ln (B.size : Int) true ≠ 0 := by rcases h0 with e | e <;> rw [e] <;> decide
    refine (data_step (E := rfE x.fx x.ln (B.size : Int) true) (S := 2) (B := B.data.toList.take fr) (B.extract fr B.size) true h.mw h.bel (by omega) ?_ ?_ ?_).mono fun e W' hd => h.done _ 2 _ (fun h => by rw [g1] at h; cases h) (fun _ => ⟨h0, rfl, h1⟩) hd
    · unfold dtE; rw [if_neg (by simp)]; exact hr
    · unfold dtS; rw [if_neg (by simp)]; show (if rfE x.fx x.ln _ true ≠ 0 then _ else _) = _; rw [hr, if_pos hne]
    · unfold dtB; rw [if_neg (by simp)]; show (if rfE x.fx x.ln _ true ≠ 0 then _ else _) = _; rw [hr, if_pos hne]
theorem Pw.fin {w0 W0 : World} {g : Nat} {x : Mg} {fl ql : List Fd} {B : ByteArray} {bs : SV} {W : World} (h : Pw w0 W0 g x fl ql B B.size bs W) :
    Calls Tryd.prog 15 #[.pointer (some ⟨g, 0, none⟩)] W fun e W' => PlPost w0 W0 g x fl ql B e W' := by
  have hl := take_len B B.size (Nat.le_refl _)
  have hr : rfE x.fx x.ln (((B.data.toList.take B.size).length : Int) + ((0 : Nat) : Int)) true = rfE x.fx x.ln (B.size : Int) true := by rw [hl]; congr 1
  rcases rf_end x.fx x.ln B.size with ⟨g1, h0⟩ | ⟨g1, h0, h1⟩
  · refine (end_step (E := 0) (S := 1) (B := B.data.toList) h.mw h.bel ?_ ?_ ?_).mono fun e W' hd => h.done 0 1 _ (fun _ => ⟨rfl, rfl, rfl⟩) (fun h => by rw [g1] at h; cases h) hd
    · unfold dtE; rw [if_neg (by simp)]; exact hr.trans h0
    · unfold dtS; rw [if_neg (by simp)]; show (if rfE x.fx x.ln _ true ≠ 0 then _ else _) = _; rw [hr, h0]; try rfl
    · unfold dtB; rw [if_neg (by simp)]; show (if rfE x.fx x.ln (((B.data.toList.take B.size).length : Int) + ((0 : Nat) : Int)) true ≠ 0 then _ else _) = _; rw [hr, h0, if_neg (by simp), Lib.size_eq, List.take_length]; try exact List.append_nil _
  · have hne : rfE x.fx x.ln (B.size : Int) true ≠ 0 := by rcases h0 with e | e <;> rw [e] <;> decide
    refine (end_step (E := rfE x.fx x.ln (B.size : Int) true) (S := 2) (B := B.data.toList.take B.size) h.mw h.bel ?_ ?_ ?_).mono fun e W' hd => h.done _ 2 _ (fun h => by rw [g1] at h; cases h) (fun _ => ⟨h0, rfl, h1⟩) hd
    · unfold dtE; rw [if_neg (by simp)]; exact hr
    · unfold dtS; rw [if_neg (by simp)]; show (if rfE x.fx x.ln _ true ≠ 0 then _ else _) = _; rw [hr, if_pos hne]
    · unfold dtB; rw [if_neg (by simp)]; show (if rfE x.fx x.ln (((B.data.toList.take B.size).length : Int) + ((0 : Nat) : Int)) true ≠ 0 then _ else _) = _; rw [hr, if_pos hne]
set_option maxHeartbeats 20000000 in
set_option maxRecDepth 100000 in
theorem pieces_any (w0 W0 : World) (g : Nat) (x : Mg) (fl ql : List Fd) (B : ByteArray) (cs : SV) (cuts : List Int) (ap : Bool) (h : Mw w0 W0 g x [] fl ql) (hst : x.st = 0) (hbel : Below w0.heap.size w0 W0) (hB : B.size ≤ 140737488351232) (hI : In EI w0 (sv cs) cuts) :
    Calls Tryd.prog 19 #[.pointer (some ⟨g, 0, none⟩), .string B, sv cs, .bool ap] W0 fun e W' => PcPost w0 g x fl ql B W0 e W' := by
  have P0 : Hid (Pw w0 W0 g x fl ql B 0 x.bs W0) := by
    refine ⟨?_, hbel, Ks.refl _ _, fun k hk => .inl hk⟩
    have e : { x with st := 0, bs := x.bs } = x := by cases x; simp only at hst; subst hst; rfl
    rw [e]
    exact h
  have HB : Hid (B.size ≤ 140737488351232) := hB
  have HI : Hid (In EI w0 (sv cs) cuts) := hI
  obtain ⟨cb, cn, cc⟩ := cs
  simp only [sv] at HI ⊢
  obtain ⟨q1, q2, q3⟩ := slice_len HI.out
  have EN : Hid (cn = cuts.length) := q1
  have hcc : cn ≤ cc := by omega
  clear h hst hbel hI q1 q2
  go_enter Tryd.func19, Tryd.ntmps19
  go_wp2_with fail
  go_loopw [9, 10, 11] (fun fv iv _ wr => ∃ (fr i : Nat) (bs : SV), fv = .int .i64 (fr : Int) ∧ iv = .int .i64 (i : Int) ∧ i ≤ cn ∧ fr ≤ B.size ∧ Hid (Pw w0 W0 g x fl ql B fr bs wr)) (fun _ iv _ _ => cn - (intOf iv).toNat)
  case atStart => exact ⟨0, 0, x.bs, rfl, rfl, by omega, by omega, P0.out⟩
  case round =>
    obtain ⟨fr, i, bs, rfl, rfl, hi, hfr, hP⟩ := hrel
    clear P0
    by_cases hlt : i < cn
    · have hlt' : (i : Int) < (cn : Int) := by omega
      obtain ⟨B1, o1, c1, e, c0⟩ := HI.out.int i (by have := EN.out; omega)
      injection e with e1 e2 e3
      subst e1
      clear e2 e3
      have x0 := c0 wr hP.out.bel
      obtain ⟨c, hc⟩ : ∃ c : Int, cuts[i]'(by have := EN.out; omega) = c := ⟨_, rfl⟩
      rw [hc] at x0
      clear c0 hc
      by_cases h1 : c < (fr : Int)
      · go_wp2_with fail
        go_roundw
        case rel => exact ⟨fr, i + 1, bs, rfl, by simp, by omega, hfr, hP.out⟩
        case measure => simp [intOf]; omega
      · by_cases h2 : c > (B.size : Int)
        · go_wp2_with fail
          go_roundw
          case rel => exact ⟨fr, i + 1, bs, rfl, by simp, by omega, hfr, hP.out⟩
          case measure => simp [intOf]; omega
        · obtain ⟨k, rfl⟩ : ∃ k : Nat, c = (k : Int) := ⟨c.toNat, by omega⟩
          have hk1 : fr ≤ k := by omega
          have hk2 : k ≤ B.size := by omega
          obtain ⟨V, hV⟩ : ∃ v, B.extract fr k = v := ⟨_, rfl⟩
          have HV : Hid (B.extract fr k = V) := hV
          have hd : Hid (Calls Tryd.prog 14 #[.pointer (some ⟨g, 0, none⟩), .string V, .bool false] wr fun e W' => PdPost w0 W0 g x fl ql B k e W') := by rw [← hV]; exact hP.out.data k hk1 hk2 HB.out
          clear hV
          go_wp2_with fail
          go_at_call 14
          try rw [HV.out]
          refine Calls.mono hd.out ?_
          rintro e w2 (⟨rfl, bs', k1⟩ | ⟨r, hr, rfl, k1⟩)
          · have B2 := k1.bel
            have x1 := (show w2.cell? ⟨B1, o1 + i, none⟩ = some (.int .i64 (k : Int)) from by
              obtain ⟨B3, o3, c3, e, c4⟩ := HI.out.int i (by have := EN.out; omega)
              injection e with e1 e2 e3
              injection e1 with e1
              injection e1 with e1 e4
              subst e1 e4
              have h5 := c4 w2 B2
              have h6 := c4 wr hP.out.bel
              rw [x0] at h6
              rw [h5, ← h6])
            have HK : Hid (Pw w0 W0 g x fl ql B k bs' w2) := k1
            clear k1 B2 hd hP x0 HV
            go_wp2_with fail
            go_roundw
            case rel => exact ⟨k, i + 1, bs', by first | rfl | simp, by simp, by omega, hk2, HK.out⟩
            case measure => simp [intOf]; omega
          · have HK : Hid (PcPost w0 g x fl ql B W0 (.returned (.int .i64 r)) w2) := k1
            clear k1 hd hP x0 HV
            rcases hr with rfl | rfl
            · go_wp2_with fail
              go_ret
              exact HK.out
            · go_wp2_with fail
              go_ret
              exact HK.out
    · obtain rfl : i = cn := by omega
      have hlt' : ¬ (i : Int) < (i : Int) := by omega
      obtain ⟨V, hV⟩ : ∃ v, B.extract fr B.size = v := ⟨_, rfl⟩
      have HV : Hid (B.extract fr B.size = V) := hV
      have hd1 : Hid (Calls Tryd.prog 14 #[.pointer (some ⟨g, 0, none⟩), .string V, .bool true] wr fun e W' => PlPost w0 W0 g x fl ql B e W') := by rw [← hV]; exact hP.out.last hfr HB.out
      have hd2 : Hid (Calls Tryd.prog 14 #[.pointer (some ⟨g, 0, none⟩), .string V, .bool false] wr fun e W' => PdPost w0 W0 g x fl ql B B.size e W') := by rw [← hV]; exact hP.out.data B.size hfr (Nat.le_refl _) HB.out
      clear hV hP
      cases ap with
      | false =>
        go_wp2_with fail
        go_at_call 14
        try rw [HV.out]
        refine Calls.mono hd1.out ?_
        rintro e w2 ⟨r, rfl, k1⟩
        have HK : Hid (PcPost w0 g x fl ql B W0 (.returned (.int .i64 r)) w2) := k1
        clear k1 hd1 hd2 HV
        go_wp2_with fail
        go_ret
        exact HK.out
      | true =>
        go_wp2_with fail
        go_at_call 14
        try rw [HV.out]
        refine Calls.mono hd2.out ?_
        rintro e w2 (⟨rfl, bs', k1⟩ | ⟨r, hr, rfl, k1⟩)
        · have hd3 : Hid (Calls Tryd.prog 15 #[.pointer (some ⟨g, 0, none⟩)] w2 fun e W' => PlPost w0 W0 g x fl ql B e W') := k1.fin
          clear k1 hd1 hd2 HV
          go_wp2_with fail
          go_at_call 15
          refine Calls.mono hd3.out ?_
          rintro e w3 ⟨r, rfl, k1⟩
          have HK : Hid (PcPost w0 g x fl ql B W0 (.returned (.int .i64 r)) w3) := k1
          clear k1 hd3
          go_wp2_with fail
          go_ret
          exact HK.out
        · have HK : Hid (PcPost w0 g x fl ql B W0 (.returned (.int .i64 r)) w2) := k1
          clear k1 hd1 hd2 HV
          rcases hr with rfl | rfl
          · go_wp2_with fail
            go_ret
            exact HK.out
          · go_wp2_with fail
            go_ret
            exact HK.out
end Go.Proofs.YtnbaojdildelmaaDoor
