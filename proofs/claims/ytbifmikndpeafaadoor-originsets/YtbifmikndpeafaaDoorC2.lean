/- Of. -/
import Derived.Test.YtbifmikndpeafaaDoorC1
namespace Go.Proofs.YtbifmikndpeafaaDoor
open Go.RowKit Go.Maps
set_option linter.unusedVariables false
set_option linter.unusedSimpArgs false
abbrev SV := Option Addr × Nat × Nat
def sv (x : SV) : Value := .slice x.1 x.2.1 x.2.2
def EO : El Og := ⟨35, 23, 3, 40, fun o => (ogv o).toList⟩
theorem okO : EO.Ok := ⟨Tryd.underlying35, by kernel_rfl, by decide, by decide, fun _ => rfl, fun a u hu => by
  simp only [EO, ogv, List.mem_cons, List.not_mem_nil, or_false] at hu
  rcases hu with rfl | rfl | rfl <;> rfl⟩
theorem In.og {w : World} {v : Value} {l : List Og} (h : In EO w v l) (k : Nat) (hk : k < l.length) : ∃ B off cap, v = .slice (some ⟨B, off, none⟩) l.length cap ∧ B < w.heap.size ∧ ∀ W, Below w.heap.size w W → W.cell? ⟨B, off + k * 3, none⟩ = some (.string l[k].s) ∧ W.cell? ⟨B, off + k * 3 + 1, none⟩ = some (.string l[k].h) ∧ W.cell? ⟨B, off + k * 3 + 2, none⟩ = some (.int .i64 l[k].p) := by
  obtain ⟨B, off, cap, e, hB, hc⟩ := h.get okO k hk
  refine ⟨B, off, cap, e, hB, fun W hW => ?_⟩
  have c0 := hc 0 (.string l[k].s) rfl
  have c1 := hc 1 (.string l[k].h) rfl
  have c2 := hc 2 (.int .i64 l[k].p) rfl
  exact ⟨(hW.cell hB).trans c0, (hW.cell hB).trans c1, (hW.cell hB).trans c2⟩
def ndB : List Og → Bool
  | [] => true
  | o :: r => !(r.any (ogD o)) && ndB r
theorem ndB_iff {l : List Og} : ndB l = true ↔ l.Nodup := by
  induction l with
  | nil => simp [ndB]
  | cons o r ih =>
    rw [ndB, Bool.and_eq_true, ih, List.nodup_cons]
    have : (!(r.any (ogD o))) = true ↔ o ∉ r := by
      rw [Bool.not_eq_true', List.any_eq_false]
      constructor
      · intro h hm
        exact h o hm (ogD_self o)
      · intro h x hx e
        exact h (by rw [ogD_iff.1 e]; exact hx)
    rw [this]
theorem ndB_not {l : List Og} (h : ¬ l.Nodup) : ndB l = false := by rw [← ndB_iff] at h; simpa using h
def ofE (l : List Og) : Int := if l.all rtB = true then (if ndB l = true then (if l.length ≤ 16 then 0 else 6) else 7) else 150
def ofB (l : List Og) : Prop := (∀ o ∈ l, rtB o = true) ∧ l.Nodup ∧ l.length ≤ 16
theorem ofE_ok {l : List Og} (h : ofB l) : ofE l = 0 := by
  unfold ofE
  rw [if_pos (List.all_eq_true.2 h.1), if_pos (ndB_iff.2 h.2.1), if_pos h.2.2]
theorem ofE_bad {l : List Og} {o : Og} (h1 : o ∈ l) (h2 : rtB o = false) : ofE l = 150 := by
  unfold ofE
  rw [if_neg]
  intro h
  have := List.all_eq_true.1 h o h1
  rw [h2] at this
  cases this
theorem ofE_twice {l : List Og} (h : ∀ o ∈ l, rtB o = true) (h2 : ¬ l.Nodup) : ofE l = 7 := by
  unfold ofE
  rw [if_pos (List.all_eq_true.2 h), if_neg (by rw [ndB_not h2]; simp)]
theorem ofE_full {l : List Og} (h : ∀ o ∈ l, rtB o = true) (h2 : l.Nodup) (h3 : ¬ l.length ≤ 16) : ofE l = 6 := by
  unfold ofE
  rw [if_pos (List.all_eq_true.2 h), if_pos (ndB_iff.2 h2), if_neg h3]
/-- a set made since w, or none -/
def OfPost (l : List Og) (w : World) (e : Ending) (w' : World) : Prop :=
  Below w.heap.size w w' ∧ ((ofE l = 0 ∧ ∃ p b, e = .returned (.tuple #[.pointer (some ⟨p, 0, none⟩), .int .i64 0]) ∧ Se w' w.heap.size p b l) ∨ (ofE l ≠ 0 ∧ e = .returned (.tuple #[.pointer none, .int .i64 (ofE l)])))
set_option maxHeartbeats 4000000 in
set_option maxRecDepth 100000 in
theorem of_any (x : SV) (l : List Og) (w : World) (hI : In EO w (sv x) l) (hz : ∀ o ∈ l, ow o) (hl : l.length ≤ 4611686018427387904) : Calls Tryd.prog 14 #[sv x] w (OfPost l w) := by
  have HI : Hid (In EO w (sv x) l) := hI
  have HZ : Hid (∀ o ∈ l, ow o) := hz
  obtain ⟨b, c, e, m1, m2⟩ := hI.slice
  obtain ⟨sb, sl, sc⟩ := x
  simp only [sv] at e HI ⊢
  injection e with e1 e2 e3
  subst e1 e2 e3
  obtain ⟨n, hn⟩ : ∃ n, w.heap.size = n := ⟨_, rfl⟩
  obtain ⟨W0, hW0⟩ : ∃ W, w.alloc (.map #[] 0) = W := ⟨_, rfl⟩
  have HB0 : Hid (Below n w W0) := by rw [← hW0, ← hn]; exact bel1 _ _
  have HO0 : Hid (W0.ownsMap Tryd.prog 23 hd n 0 (mO [])) := by rw [← hW0, ← hn]; exact World.ownsMap_made w Tryd.prog 23 hd
  have hmm := @run_makeMap Tryd.prog
  have HN : Hid (w.heap.size = n) := hn
  clear hI hz
  go_enter Tryd.func14, Tryd.ntmps14
  go_wp2_with fail
  clear hW0 hmm
  go_loopw [5, 6, 10] (fun _ _ kv wr => ∃ k : Nat, kv = .int .i64 (k : Int) ∧ k ≤ l.length ∧ Hid (∃ m, m ≤ k ∧ wr.ownsMap Tryd.prog 23 hd n m (mO (l.take k))) ∧ Hid (∀ o ∈ l.take k, rtB o = true) ∧ Hid (Below n w wr)) (fun _ _ kv _ => l.length - (intOf kv).toNat)
  case atStart => exact ⟨0, rfl, by omega, ⟨0, by omega, HO0.out⟩, fun o ho => by simp at ho, HB0.out⟩
  case round =>
    obtain ⟨k, rfl, hk, hO, hR, hb⟩ := hrel
    by_cases hlt : k < l.length
    · obtain ⟨Bk, off, cap, e, hBk, hc⟩ := HI.out.og k hlt
      injection e with e1 e2 e3
      clear e2 e3
      subst e1
      obtain ⟨c0, c1, c2⟩ := hc wr (by rw [HN.out]; exact hb.out)
      obtain ⟨y, hy⟩ : ∃ y, l[k] = y := ⟨_, rfl⟩
      rw [hy] at c0 c1 c2
      have Hy : Hid (l[k]'hlt = y) := hy
      have HY : Hid (y ∈ l) := by rw [← hy]; exact List.getElem_mem hlt
      have HRc : Hid (∀ W, Calls Tryd.prog 22 #[.agg (ogv y)] W fun e w' => e = .returned (.bool (rtB y)) ∧ Below W.heap.size W w') := fun W => right_any y W
      have HCp : Hid (∀ W, Calls Tryd.prog 28 #[.agg (ogv y)] W fun e w' => e = .returned (.agg (ogv y)) ∧ Below W.heap.size W w') := fun W => copied_any y W (HZ.out y HY.out).1
      unfold ogv at HRc HCp
      have hlt' : (k : Int) < (l.length : Int) := by omega
      clear hc hy
      obtain ⟨m, hm⟩ : ∃ m, wr.heap.size = m := ⟨_, rfl⟩
      have hnm : Hid (n < m) := by
        obtain ⟨_, _, ho⟩ := hO.out
        have := ho.lt
        show _ < _
        omega
      obtain ⟨V, hV⟩ : ∃ V, wr.alloc (.cells #[.string y.s, .string y.h, .int .i64 y.p] 23) = V := ⟨_, rfl⟩
      have BV : Hid (Below m wr V) := by rw [← hV, ← hm]; exact bel1 _ _
      have OV : Hid (OB V m y) := by show OB _ _ _; rw [← hV, ← hm]; unfold OB; rw [heap_al, if_pos rfl]; rfl
      have BW : Hid (Below n w V) := hb.out.trans (BV.out.mono (Nat.le_of_lt hnm.out))
      have MV : Hid (∃ m, m ≤ k ∧ V.ownsMap Tryd.prog 23 hd n m (mO (l.take k))) := by
        obtain ⟨q, hq, ho⟩ := hO.out
        exact ⟨q, hq, ownsMap_keep ho (BV.out.block n hnm.out)⟩
      obtain ⟨d0, d1, d2, _, _, _⟩ := OV.out.cells
      cases hr : rtB y
      · rw [hr] at HRc
        have HF : Hid (ofE l = 150) := ofE_bad HY.out hr
        clear hr hO
        go_wp2_with fail
        clear hV
        go_at_call 22
        refine (HRc.out _).mono ?_
        rintro e X ⟨rfl, bx⟩
        have BX : Hid (Below n w X) := BW.out.trans (bx.mono (Nat.le_trans (Nat.le_of_lt hnm.out) (Nat.le_of_lt OV.out.lt)))
        clear bx
        go_wp2_with fail
        go_ret2
        exact ⟨by rw [HN.out]; exact BX.out, .inr ⟨by rw [HF.out]; decide, by rw [HF.out]; rfl⟩⟩
      · rw [hr] at HRc
        have HRT : Hid (rtB y = true) := hr
        clear hr hO
        go_wp2_with fail
        clear hV
        go_at_call 22
        refine (HRc.out _).mono ?_
        rintro e X ⟨rfl, bx⟩
        have BX : Hid (Below n w X) := BW.out.trans (bx.mono (Nat.le_trans (Nat.le_of_lt hnm.out) (Nat.le_of_lt OV.out.lt)))
        have OX : Hid (OB X m y) := OV.out.below bx
        have MX : Hid (∃ m, m ≤ k ∧ X.ownsMap Tryd.prog 23 hd n m (mO (l.take k))) := by
          obtain ⟨q, hq, ho⟩ := MV.out
          exact ⟨q, hq, ownsMap_keep ho (bx.block n ho.lt)⟩
        clear bx d0 d1 d2
        obtain ⟨d0, d1, d2, _, _, _⟩ := OX.out.cells
        go_wp2_with fail
        go_at_call 28
        refine (HCp.out _).mono ?_
        rintro e Y ⟨rfl, bx⟩
        have BY : Hid (Below n w Y) := BX.out.trans (bx.mono (Nat.le_trans (Nat.le_of_lt hnm.out) (Nat.le_of_lt OX.out.lt)))
        have MY : Hid (∃ Z, (Instr.mapUpdate 60 (.map (some n)) (.agg #[.string y.s, .string y.h, .int .i64 y.p]) (.int .i64 (k : Int))).run Tryd.prog Y = .ok () Z ∧ (∃ m, m ≤ k + 1 ∧ Z.ownsMap Tryd.prog 23 hd n m (mO (l.take (k + 1)))) ∧ Below n w Z) := by
          obtain ⟨q, hq, ho⟩ := MX.out
          have ho2 := ownsMap_keep ho (bx.block n ho.lt)
          obtain ⟨Z, hrun, ho3, hg⟩ := ho2.update KO (t := 60) (e := 3) Tryd.underlying60 (by unfold maxLen; omega) (key_of y (HZ.out y HY.out)) (val := .int .i64 (k : Int)) (d := .held (.int .i64 (k : Int))) (ps := []) rfl
          refine ⟨Z, hrun, ⟨q + 1, by omega, ?_⟩, ?_⟩
          · rw [List.take_succ_eq_append_getElem hlt, Hy.out, mO_snoc]
            rw [show (l.take k).length = k by rw [List.length_take]; omega]
            exact ho3
          · refine BY.out.trans ⟨hg.os, hg.tape, hg.output, hg.size, fun i hi => hg.block i ?_ ?_⟩
            · have := BY.out.size; have := HN.out; omega
            · intro e; injection e with e; omega
        obtain ⟨Z, hrun, hMZ, hBZ⟩ := MY.out
        replace hMZ : Hid _ := hMZ
        replace hBZ : Hid _ := hBZ
        clear bx d0 d1 d2 MY
        go_wp2_with fail
        go_roundw
        case rel =>
          refine ⟨k + 1, by simp, by omega, hMZ.out, fun o ho => ?_, hBZ.out⟩
          rw [List.take_succ_eq_append_getElem hlt, Hy.out] at ho
          rcases List.mem_append.1 ho with ho | ho
          · exact hR.out o ho
          · rw [List.mem_singleton.1 ho]
            exact HRT.out
        case measure => simp [intOf]; omega
    · obtain rfl : k = l.length := by omega
      have hlt' : ¬ (l.length : Int) < (l.length : Int) := by omega
      have hRT : Hid (∀ o ∈ l, rtB o = true) := by have := hR.out; rw [List.take_length] at this; exact this
      have hOM : Hid (∃ m, m ≤ l.length ∧ wr.ownsMap Tryd.prog 23 hd n m (mO l)) := by have := hO.out; rw [List.take_length] at this; exact this
      have hOZ : Hid (OgZ l) := HZ.out
      obtain ⟨S, hS⟩ : ∃ S : Nat, size (mO l) = S := ⟨_, rfl⟩
      have HS : Hid (S ≤ l.length ∧ (S = l.length ↔ l.Nodup)) := by rw [← hS]; exact mO_size HZ.out
      have hlen : (Builtin.len_ #[60] 3 #[.map (some n)]).run Tryd.prog wr = .ok (.int .i64 (S : Int)) wr := by
        obtain ⟨q, hq, ho⟩ := hOM.out
        rw [← hS]
        exact ho.len Tryd.underlying60 3
      clear hR hO hS
      by_cases hnd : l.Nodup
      · have hSl : ¬ (S : Int) < (l.length : Int) := by have := HS.out.2.2 hnd; omega
        have HND : Hid l.Nodup := hnd
        clear hnd
        by_cases h16 : l.length ≤ 16
        · have h16' : ¬ (l.length : Int) > 16 := by omega
          have H16 : Hid (l.length ≤ 16) := h16
          have HFin : Hid (Below n w (wr.alloc (.cells #[.map (some n)] 62)) ∧ Se (wr.alloc (.cells #[.map (some n)] 62)) n wr.heap.size n l) := by
            obtain ⟨q, hq, ho⟩ := hOM.out
            refine ⟨hb.out.trans ((bel1 _ _).mono (by have := hb.out.size; have := HN.out; omega)), ⟨by rw [heap_al, if_pos rfl], ⟨q, hq, ho.alloc _⟩, hRT.out, HND.out, H16.out, by have := hb.out.size; have := HN.out; omega, Nat.le_refl _⟩⟩
          clear h16
          go_wp2_with fail
          go_ret2
          exact ⟨by rw [HN.out]; exact HFin.out.1, .inl ⟨ofE_ok ⟨hRT.out, HND.out, H16.out⟩, _, _, rfl, by rw [HN.out]; exact HFin.out.2⟩⟩
        · have h16' : (l.length : Int) > 16 := by omega
          have HF : Hid (ofE l = 6) := ofE_full hRT.out HND.out h16
          clear h16
          go_wp2_with fail
          go_ret2
          exact ⟨by rw [HN.out]; exact hb.out, .inr ⟨by rw [HF.out]; decide, by rw [HF.out]; rfl⟩⟩
      · have hSl : (S : Int) < (l.length : Int) := by
          have h1 := HS.out.1
          have h2 : S ≠ l.length := fun e => hnd (HS.out.2.1 e)
          omega
        have HF : Hid (ofE l = 7) := ofE_twice hRT.out hnd
        clear hnd
        go_wp2_with fail
        go_ret2
        exact ⟨by rw [HN.out]; exact hb.out, .inr ⟨by rw [HF.out]; decide, by rw [HF.out]; rfl⟩⟩
end Go.Proofs.YtbifmikndpeafaaDoor
