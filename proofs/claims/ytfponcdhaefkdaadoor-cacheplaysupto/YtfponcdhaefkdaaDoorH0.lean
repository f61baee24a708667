/- The document's New. -/
import Derived.Test.YtfponcdhaefkdaaDoorH1
namespace Go.Proofs.YtfponcdhaefkdaaDoor
open Go.RowKit
set_option linter.unusedVariables false
set_option linter.unusedSimpArgs false
theorem cfB_iff (a b c d : Int) : cfB a b c d = !(decide (a < 0) || (decide (64 < a) || (nbB b || (nbB c || nbB d)))) := by
  unfold cfB
  simp only [List.any_cons, List.any_nil, Bool.or_false]
  congr 1
  have e : nbB a = (decide (a < 0) || decide (1152921504606846976 < a)) := rfl
  rw [e]
  by_cases h1 : a < 0
  · rw [decide_eq_true h1]; simp
  · by_cases h2 : 64 < a
    · rw [decide_eq_true h2]; simp
    · rw [decide_eq_false h1, decide_eq_false h2, decide_eq_false (show ¬ 1152921504606846976 < a by omega)]
      simp
set_option maxHeartbeats 8000000 in
set_option maxRecDepth 100000 in
theorem rnew_any (a b c d : Int) (w : World) : Calls Tryd.prog 24 #[.agg #[.int .i64 a, .int .i64 b, .int .i64 c, .int .i64 d]] w fun e w' => Below w.heap.size w w' ∧ ((cfB a b c d = false ∧ e = .returned (.tuple #[.pointer none, .int .i64 1])) ∨ (cfB a b c d = true ∧ ∃ g, w.heap.size ≤ g ∧ e = .returned (.tuple #[.pointer (some ⟨g, 0, none⟩), .int .i64 0]) ∧ w'.heap[g]? = some (.cells #[.int .i64 a, .int .i64 b, .int .i64 c, .int .i64 d, .slice none 0 0, .int .i64 0] 100 (0, 0)))) := by
  obtain ⟨W, hW⟩ : ∃ V, w.alloc (.cells #[.int .i64 a, .int .i64 b, .int .i64 c, .int .i64 d] 36) = V := ⟨_, rfl⟩
  obtain ⟨r, hr⟩ : ∃ k, w.heap.size = k := ⟨_, rfl⟩
  have HB : Hid (Below w.heap.size w W) := by rw [← hW]; exact bel1 _ _
  have HB' : Hid (Below r w W) := by have := HB.out; rw [hr] at this; exact this
  have hC : W.heap[r]? = some (.cells #[.int .i64 a, .int .i64 b, .int .i64 c, .int .i64 d] 36 (0, 0)) := by rw [← hW, ← hr, heap_al, if_pos rfl]
  have p0 := cell_blk hC 0
  have p1 := cell_blk hC 1
  have p2 := cell_blk hC 2
  have p3 := cell_blk hC 3
  simp only [List.getElem?_toArray, List.getElem?_cons_succ, List.getElem?_cons_zero] at p0 p1 p2 p3
  have HU : Hid (∀ n, Calls Tryd.prog 47 #[.int .i64 n] W fun e w' => e = .returned (.bool (!nbB n)) ∧ w' = W) := fun n => upTo_any n W
  obtain ⟨x, hx⟩ : ∃ x, cfB a b c d = x := ⟨_, rfl⟩
  have HX : Hid (x = !(decide (a < 0) || (decide (64 < a) || (nbB b || (nbB c || nbB d))))) := by rw [← hx]; exact cfB_iff a b c d
  rw [hx]
  have HU1 : Hid (Calls Tryd.prog 47 #[.int .i64 b] W fun e w' => e = .returned (.bool (!nbB b)) ∧ w' = W) := HU.out b
  have HU2 : Hid (Calls Tryd.prog 47 #[.int .i64 c] W fun e w' => e = .returned (.bool (!nbB c)) ∧ w' = W) := HU.out c
  have HU3 : Hid (Calls Tryd.prog 47 #[.int .i64 d] W fun e w' => e = .returned (.bool (!nbB d)) ∧ w' = W) := HU.out d
  obtain ⟨xb, hxb⟩ : ∃ x, nbB b = x := ⟨_, rfl⟩
  obtain ⟨xc, hxc⟩ : ∃ x, nbB c = x := ⟨_, rfl⟩
  obtain ⟨xd, hxd⟩ : ∃ x, nbB d = x := ⟨_, rfl⟩
  rw [hxb] at HX HU1
  rw [hxc] at HX HU2
  rw [hxd] at HX HU3
  clear hx HU hC hxb hxc hxd
  by_cases h1 : a < 0
  · have HE : Hid (x = false) := by show _ = _; rw [HX.out, decide_eq_true h1]; rfl
    clear HX
    go_enter Tryd.func24, Tryd.ntmps24
    go_wp2_with fail
    go_ret2
    first | exact ⟨HB.out, .inl ⟨HE.out, rfl⟩⟩ | exact ⟨HB'.out, .inl ⟨HE.out, rfl⟩⟩
  · by_cases h2 : 64 < a
    · have HE : Hid (x = false) := by show _ = _; rw [HX.out, decide_eq_true h2]; simp
      clear HX
      go_enter Tryd.func24, Tryd.ntmps24
      go_wp2_with fail
      go_ret2
      first | exact ⟨HB.out, .inl ⟨HE.out, rfl⟩⟩ | exact ⟨HB'.out, .inl ⟨HE.out, rfl⟩⟩
    · cases xb
      · cases xc
        · cases xd
          · have HE : Hid (x = true) := by show _ = _; rw [HX.out, decide_eq_false h1, decide_eq_false h2]; rfl
            clear HX
            go_enter Tryd.func24, Tryd.ntmps24
            go_wp2_with first | (go_at_call 47; refine HU1.out.mono ?_; rintro e V ⟨rfl, rfl⟩) | (go_at_call 47; refine HU2.out.mono ?_; rintro e V ⟨rfl, rfl⟩) | (go_at_call 47; refine HU3.out.mono ?_; rintro e V ⟨rfl, rfl⟩)
            go_ret2
            refine ⟨HB.out.trans ((bel1 _ _).mono HB.out.size), .inr ⟨HE.out, _, HB.out.size, rfl, ?_⟩⟩
            rw [heap_al, if_pos rfl]
          · have HE : Hid (x = false) := by show _ = _; rw [HX.out]; simp
            clear HX
            go_enter Tryd.func24, Tryd.ntmps24
            go_wp2_with first | (go_at_call 47; refine HU1.out.mono ?_; rintro e V ⟨rfl, rfl⟩) | (go_at_call 47; refine HU2.out.mono ?_; rintro e V ⟨rfl, rfl⟩) | (go_at_call 47; refine HU3.out.mono ?_; rintro e V ⟨rfl, rfl⟩)
            go_ret2
            first | exact ⟨HB.out, .inl ⟨HE.out, rfl⟩⟩ | exact ⟨HB'.out, .inl ⟨HE.out, rfl⟩⟩
        · have HE : Hid (x = false) := by show _ = _; rw [HX.out]; simp
          clear HX
          go_enter Tryd.func24, Tryd.ntmps24
          go_wp2_with first | (go_at_call 47; refine HU1.out.mono ?_; rintro e V ⟨rfl, rfl⟩) | (go_at_call 47; refine HU2.out.mono ?_; rintro e V ⟨rfl, rfl⟩)
          go_ret2
          first | exact ⟨HB.out, .inl ⟨HE.out, rfl⟩⟩ | exact ⟨HB'.out, .inl ⟨HE.out, rfl⟩⟩
      · have HE : Hid (x = false) := by show _ = _; rw [HX.out]; simp
        clear HX
        go_enter Tryd.func24, Tryd.ntmps24
        go_wp2_with first | (go_at_call 47; refine HU1.out.mono ?_; rintro e V ⟨rfl, rfl⟩)
        go_ret2
        first | exact ⟨HB.out, .inl ⟨HE.out, rfl⟩⟩ | exact ⟨HB'.out, .inl ⟨HE.out, rfl⟩⟩
end Go.Proofs.YtfponcdhaefkdaaDoor
