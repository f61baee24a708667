/- The program's small functions. -/
import Derived.Test.YtdgdjanchpfleaaS
namespace Go.Proofs.Ytdgdjanchpfleaa
open Go.RowKit
set_option linter.unusedVariables false
set_option linter.unusedSimpArgs false

set_option maxHeartbeats 1000000 in
theorem isHead_any (f : Fr) (p : Value) (w : World) :
    Calls Try.prog 23 #[.agg (fv f p)] w fun e w' => e = .returned (.bool (dH f.ty)) ∧ Below w.heap.size w w' := by
  have hb : Hid (Below w.heap.size w (w.alloc (.cells (fv f p) 24))) := bel1 w _
  by_cases h1 : f.ty = 1
  · have hd : dH f.ty = true := by simp [dH, h1]
    have e1 : (f.ty == 1) = true := by simp [h1]
    rw [hd]
    unfold fv at hb ⊢
    clear hd h1
    go_enter Try.func23, Try.ntmps23
    go_wp2
    go_ret
    exact ⟨rfl, hb.out⟩
  · have e1 : (f.ty == 1) = false := by simp [h1]
    have hd : dH f.ty = (f.ty == 5) := by
      by_cases h5 : f.ty = 5 <;> simp [dH, h1, h5]
    rw [hd]
    unfold fv at hb ⊢
    clear hd h1
    go_enter Try.func23, Try.ntmps23
    go_wp2
    go_ret
    exact ⟨rfl, hb.out⟩

set_option maxHeartbeats 1000000 in
theorem isPadded_any (f : Fr) (p : Value) (w : World) :
    Calls Try.prog 33 #[.agg (fv f p)] w fun e w' => e = .returned (.bool (bits .and .i64 f.fl 8 != 0)) ∧ Below w.heap.size w w' := by
  have hb : Hid (Below w.heap.size w (w.alloc (.cells (fv f p) 24))) := bel1 w _
  unfold fv at hb ⊢
  go_enter Try.func33, Try.ntmps33
  go_wp2
  go_ret
  exact ⟨rfl, hb.out⟩

set_option maxHeartbeats 1000000 in
theorem new_any (w : World) :
    Calls Try.prog 9 #[] w fun e w' => e = .returned (.pointer (some ⟨w.heap.size, 0, none⟩)) ∧ Jn w' w.heap.size (.slice none 0 0) .idle ∧ Below w.heap.size w w' := by
  have hb : Hid (Jn (w.alloc (.cells (jv Fr.zero (.slice none 0 0) (.slice none 0 0) 0) 51)) w.heap.size (.slice none 0 0) .idle ∧ Below w.heap.size w (w.alloc (.cells (jv Fr.zero (.slice none 0 0) (.slice none 0 0) 0) 51))) := ⟨⟨by unfold JB; rw [heap_al, if_pos rfl], rfl⟩, bel1 w _⟩
  unfold jv at hb
  simp only [Fr.zero] at hb
  go_enter Try.func9, Try.ntmps9
  go_wp2
  go_ret
  exact ⟨rfl, hb.out⟩

def busyB (st : Js) : Bool :=
  match st.v with
  | .inr (.inl _) => true
  | _ => false

/-- the head that a joiner keeps -/
def Js.hd (st : Js) : Fr :=
  match st.v with
  | .inr (.inl x) => x.1
  | _ => Fr.zero
theorem Jn.head {w : World} {b : Nat} {s : Value} {st : Js} (h : Jn w b s st) : ∃ (p : SV) (c : Int), JB w b st.hd (sv p) s c ∧ dH st.hd.ty = busyB st := by
  obtain ⟨_ | ⟨f, ps, l⟩ | c⟩ := st
  · exact ⟨(none, 0, 0), 0, by rw [h.2]; exact h.1, rfl⟩
  · obtain ⟨x, h1, h2, h3, h4, h5, h6⟩ := h
    exact ⟨x, 0, h1, dH_of h2⟩
  · exact ⟨(none, 0, 0), c, by rw [h.2.1]; exact h.1, rfl⟩

set_option maxHeartbeats 1000000 in
theorem busy_any (w : World) (b : Nat) (s : Value) (st : Js) (h : Jn w b s st) :
    Calls Try.prog 14 #[.pointer (some ⟨b, 0, none⟩)] w fun e w' => e = .returned (.bool (busyB st)) ∧ Below w.heap.size w w' := by
  obtain ⟨p, c, hj, hd⟩ := h.head
  rw [← hd]
  clear h hd
  obtain ⟨f, hf⟩ : ∃ f, st.hd = f := ⟨_, rfl⟩
  rw [hf] at hj ⊢
  have c0 := hj.cell 0
  have c1 := hj.cell 1
  have c2 := hj.cell 2
  have c3 := hj.cell 3
  have c4 := hj.cell 4
  have c5 := hj.cell 5
  have c6 := hj.cell 6
  have c7 := hj.cell 7
  have c8 := hj.cell 8
  have c9 := hj.cell 9
  have c10 := hj.cell 10
  simp only [jv, List.getElem?_toArray, List.getElem?_cons_succ, List.getElem?_cons_zero] at c0 c1 c2 c3 c4 c5 c6 c7 c8 c9 c10
  clear hj hf
  go_enter Try.func14, Try.ntmps14
  go_wp2_with fail
  go_at_call 23
  refine (isHead_any f (sv p) w).mono ?_
  rintro e w1 ⟨rfl, hb⟩
  go_wp2
  go_ret
  exact ⟨rfl, hb⟩

set_option maxHeartbeats 4000000 in
set_option maxRecDepth 100000 in
theorem slClone_any (s : ByteArray) (w : World) (hlim : s.size ≤ 281474976710656) :
    Calls Try.prog 35 #[.string s] w fun e w' => e = .returned (.string s) ∧ Below w.heap.size w w' := by
  by_cases h0 : s.size = 0
  · have hs : s = ⟨#[]⟩ := by
      apply ByteArray.ext
      exact Array.eq_empty_of_size_eq_zero h0
    subst hs
    go_enter Try.func35, Try.ntmps35
    go_wp2
    go_ret
    exact ⟨rfl, Below.refl _ _⟩
  · obtain ⟨i0, hi, hz0, hz1, hz2⟩ := info_parts info5
    have hinfo : (Try.prog.info? 5).map (·.size) = some 1 := by rw [hi]; simp [hz1]
    have hco : Try.prog.cellsOf 5 = 1 := by simp [Program.cellsOf, hi, hz1]
    obtain ⟨M, hM⟩ : ∃ M, M = madeCells (Value.int .u8 0).cells (((s.size : Nat) : Int).toNat * i0.size) := ⟨_, rfl⟩
    have hMs : M.size = s.size := by rw [hM, size_madeCells, hz1]; simp
    have hmk : ∀ W : World, (Instr.makeSlice 30 (.int .i64 (s.size : Int)) (.int .i64 (s.size : Int))).run Try.prog W = .ok (.slice (some ⟨W.heap.size, 0, none⟩) s.size s.size) (W.alloc (.cells M 5)) := fun W => by
      have h := run_make (P := Try.prog) W 30 5 i0 (.int .u8 0) Try.underlying30 hi hz0 .i64 .i64 (s.size : Int) (s.size : Int) (by omega) (by omega) (by rw [hz2]; omega) (by omega)
      rw [← hM] at h
      simpa using h
    clear hM
    have hcp := Lib.run_copy_row_string (P := Try.prog) (w.alloc (.cells M 5)) 30 9 3 5 w.heap.size 0 s.size s.size s M 5 Try.underlying30 hinfo (heap_alloc_new w _) (Nat.le_refl _) (by omega)
    obtain ⟨Y, hY⟩ : ∃ Y, Y = (M.toList.take 0 ++ Lib.byteCells s.data.toList ++ M.toList.drop (0 + s.size)).toArray := ⟨_, rfl⟩
    rw [← hY] at hcp
    have hYl : Y.toList = Lib.byteCells s.data.toList := by
      rw [hY, List.toList_toArray, List.take_zero, List.nil_append, List.drop_of_length_le (by rw [Array.length_toList]; omega), List.append_nil]
    have hYs : Y.size = s.size := by rw [← Array.length_toList, hYl, Lib.byteCells_length, ← Lib.size_eq]
    have hgY : ((w.alloc (.cells M 5)).setRow w.heap.size Y).heap[w.heap.size]? = some (.cells Y 5 (0, 0)) := setRow_heap _ _ M _ 5 (0, 0) (heap_alloc_new w _)
    have hne : s.data.toList ≠ [] := fun e => h0 (by rw [Lib.size_eq, e]; rfl)
    have hUS := Lib.run_unsafeString_row (P := Try.prog) ((w.alloc (.cells M 5)).setRow w.heap.size Y) 63 3 9 5 Try.underlying63 hco w.heap.size Y.size (by unfold World.shape?; rw [hgY]) s.data.toList hne (by rw [← Lib.size_eq]; omega) (by rw [← Lib.size_eq]; omega)
      (fun j x hx => Lib.cells_of_row hgY Y.size j _ (by rw [List.take_of_length_le (by rw [Array.length_toList]; exact Nat.le_refl _), hYl]; simp [Lib.byteCells, hx]))
    rw [← Lib.size_eq] at hUS
    clear hY
    go_enter Try.func35, Try.ntmps35
    go_wp2
    go_ret
    have hb1 : Below w.heap.size w (w.alloc (.cells M 5)) := (Below.refl _ w).alloc (Nat.le_refl _) _
    have hb2 : Below w.heap.size (w.alloc (.cells M 5)) ((w.alloc (.cells M 5)).setRow w.heap.size Y) := ⟨rfl, rfl, rfl, by simp, fun k hk => setRow_other _ _ _ _ (by omega)⟩
    exact ⟨rfl, Lib.below_freeze (hb1.trans hb2) (p := ⟨w.heap.size, 0, none⟩) (Nat.le_refl _) _⟩

set_option maxHeartbeats 400000 in
theorem clone_any (s : ByteArray) (w : World) (hlim : s.size ≤ 281474976710656) :
    Calls Try.prog 28 #[.string s] w fun e w' => e = .returned (.string s) ∧ Below w.heap.size w w' := by
  go_enter Try.func28, Try.ntmps28
  go_wp2_with (go_at_call 35; refine (slClone_any s w hlim).mono ?_; rintro e w' ⟨rfl, hb⟩)
  go_ret
  exact ⟨rfl, hb⟩

set_option maxHeartbeats 1000000 in
set_option maxRecDepth 100000 in
theorem sclone_any (w : World) (v : Value) (ps : List (Int × Int)) (hI : In EP w v ps) (hlen : ps.length * 16 ≤ 140737488355328) :
    Calls Try.prog 34 #[v] w fun r w' => ∃ x : SV, r = .returned (sv x) ∧ R EP w' (sv x) ps ∧ (∀ k, (sv x).ownBlock = some k → w.heap.size ≤ k) ∧ Below w.heap.size w w' := by
  have hI' := hI
  rcases hI with ⟨rfl, rfl⟩ | ⟨a, cap, rfl, h1, h2, hc⟩
  · clear hI'
    have hnil : ∀ w, (binOp .eql 22 (.slice none 0 0) (.slice none 0 0)).run Try.prog w = .ok (.bool true) w := fun w => by kernel_rfl
    go_enter Try.func34, Try.ntmps34
    go_wp2
    go_ret
    exact ⟨(none, 0, 0), rfl, R.nil _ _, by simp [sv, Value.ownBlock], Below.refl _ _⟩
  · have hR0 : R EP (w.alloc (.cells #[] 45)) (.slice (some ⟨w.heap.size, 0, none⟩) 0 0) [] := by
      refine ⟨rfl, .inr ⟨w.heap.size, 0, #[], rfl, Nat.zero_le _, heap_alloc_new w _, Nat.le_refl _, by decide, rfl, rfl⟩⟩
    obtain ⟨base, c2, w', hrun, hR, hG⟩ := app okP (w.alloc (.cells #[] 45)) _ [] hR0 (.slice (some a) ps.length cap) ps (hI'.below (bel1 w _)) (by simpa [EP] using hlen)
    simp only [List.length_nil, Nat.zero_add, List.nil_append] at hrun hR hG
    have hfin : Hid (R EP w' (.slice base ps.length c2) ps ∧ (∀ k, (Value.slice base ps.length c2).ownBlock = some k → w.heap.size ≤ k) ∧ Below w.heap.size w w') :=
      ⟨hR, fun k hk => (hG.own k hk).elim (fun e => by simp [Value.ownBlock] at e; omega) (fun e => by rw [size_al] at e; omega), (bel1 w _).trans (hG.belowB (by simp) fun k hk => by simp [Value.ownBlock] at hk; omega)⟩
    clear hR hG hR0 hI' hc
    have hnil : ∀ w, (binOp .eql 22 (.slice (some a) ps.length cap) (.slice none 0 0)).run Try.prog w = .ok (.bool false) w := fun w => by kernel_rfl
    go_enter Try.func34, Try.ntmps34
    go_wp2_with (at_builtin; refine Lib.wpList_append_run _ rfl _ _ _ _ rfl _ _ rfl rfl _ _ hrun ?_)
    go_ret
    exact ⟨(base, ps.length, c2), rfl, hfin.out⟩
end Go.Proofs.Ytdgdjanchpfleaa
