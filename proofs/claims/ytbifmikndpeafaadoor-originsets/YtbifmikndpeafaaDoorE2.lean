/- OriginParses. -/
import Derived.Test.YtbifmikndpeafaaDoorD7
import Derived.Test.YtbifmikndpeafaaDoorC4
import Derived.Laws.StructEq
namespace Go.Proofs.YtbifmikndpeafaaDoor
open Go.RowKit
set_option linter.unusedVariables false
set_option linter.unusedSimpArgs false
theorem bytes_eq {a b : ByteArray} (h : a.toList = b.toList) : a = b := by
  rw [ByteArray.toList_eq, ByteArray.toList_eq] at h
  exact ByteArray.ext (Array.toList_inj.mp h)
theorem eql_og (a b : Og) (W : World) : (binOp .eql 23 (.agg #[.string a.s, .string a.h, .int .i64 a.p]) (.agg #[.string b.s, .string b.h, .int .i64 b.p])).run Tryd.prog W = .ok (.bool (ogD a b)) W := by
  obtain ⟨a1, ah, ap⟩ := a
  obtain ⟨bs, bh, bp⟩ := b
  by_cases h1 : a1 = bs
  · subst h1
    by_cases h2 : ah = bh
    · subst h2
      by_cases h3 : ap = bp
      · subst h3
        simp [go_sem, ogD]
      · simp [go_sem, ogD, h3]
    · have h4 : ¬ ah.toList = bh.toList := fun e => h2 (bytes_eq e)
      simp [go_sem, ogD, h2, h4]
  · have h4 : ¬ a1.toList = bs.toList := fun e => h1 (bytes_eq e)
    simp [go_sem, ogD, h1, h4]
theorem neq_og (a b : Og) (W : World) : (binOp .neq 23 (.agg #[.string a.s, .string a.h, .int .i64 a.p]) (.agg #[.string b.s, .string b.h, .int .i64 b.p])).run Tryd.prog W = .ok (.bool (!ogD a b)) W := by
  obtain ⟨a1, ah, ap⟩ := a
  obtain ⟨bs, bh, bp⟩ := b
  by_cases h1 : a1 = bs
  · subst h1
    by_cases h2 : ah = bh
    · subst h2
      by_cases h3 : ap = bp
      · subst h3
        simp [go_sem, ogD]
      · simp [go_sem, ogD, h3]
    · have h4 : ¬ ah.toList = bh.toList := fun e => h2 (bytes_eq e)
      simp [go_sem, ogD, h2, h4]
  · have h4 : ¬ a1.toList = bs.toList := fun e => h1 (bytes_eq e)
    simp [go_sem, ogD, h1, h4]
set_option maxHeartbeats 4000000 in
set_option maxRecDepth 100000 in
theorem originParses_any (t : ByteArray) (w : World) (he : Env w) (h2 : t.size < 4294967281) : Calls Tryd.prog 7 #[.string t] w fun e w' => e = .returned (.bool true) ∧ Below w.heap.size w w' := by
  obtain ⟨O, hO⟩ : ∃ O, paO t = O := ⟨_, rfl⟩
  obtain ⟨Y, hY⟩ : ∃ Y, paE t = Y := ⟨_, rfl⟩
  have hV : paV t = .tuple #[.agg #[.string O.s, .string O.h, .int .i64 O.p], .int .i64 Y] := by unfold paV; rw [hO, hY]; rfl
  have H1 : Hid (∀ W, Env W → Calls Tryd.prog 12 #[.string t] W fun e w' => e = .returned (.tuple #[.agg #[.string O.s, .string O.h, .int .i64 O.p], .int .i64 Y]) ∧ Below W.heap.size W w') := fun W hW => by rw [← hV]; exact parse_any t W hW h2
  have H2 : Hid (∀ W, Calls Tryd.prog 18 #[.string t] W fun e w' => e = .returned (.tuple #[.agg #[.string O.s, .string O.h, .int .i64 O.p], .int .i64 Y]) ∧ Below W.heap.size W w') := fun W => by rw [← hV]; exact rparse_any t W (by omega)
  have HE : Hid (Env w) := he
  have hq := eql_og O O
  rw [ogD_self] at hq
  clear he hV hO hY h2
  go_enter Tryd.func7, Tryd.ntmps7
  go_wp2_with fail
  go_at_call 12
  refine (H1.out _ HE.out).mono ?_
  rintro e W1 ⟨rfl, b1⟩
  go_wp2_with fail
  obtain ⟨n, hn⟩ : ∃ n, W1.heap.size = n := ⟨_, rfl⟩
  obtain ⟨V1, hV1⟩ : ∃ V, W1.alloc (.cells #[.string O.s, .string O.h, .int .i64 O.p] 23) = V := ⟨_, rfl⟩
  have O1 : Hid (OB V1 n O) := by show OB _ _ _; rw [← hV1, ← hn]; unfold OB; rw [heap_al, if_pos rfl]; rfl
  have B1 : Hid (Below w.heap.size w V1) := by rw [← hV1]; exact b1.trans ((bel1 _ _).mono b1.size)
  rw [hV1, hn]
  clear b1 hV1 hn
  go_at_call 18
  refine (H2.out _).mono ?_
  rintro e W2 ⟨rfl, b2⟩
  go_wp2_with fail
  obtain ⟨m, hm⟩ : ∃ n, W2.heap.size = n := ⟨_, rfl⟩
  obtain ⟨V2, hV2⟩ : ∃ V, W2.alloc (.cells #[.string O.s, .string O.h, .int .i64 O.p] 23) = V := ⟨_, rfl⟩
  have b3 : Below V1.heap.size V1 V2 := by rw [← hV2]; exact b2.trans ((bel1 _ _).mono b2.size)
  have O2 : Hid (OB V2 m O) := by show OB _ _ _; rw [← hV2, ← hm]; unfold OB; rw [heap_al, if_pos rfl]; rfl
  have O3 : Hid (OB V2 n O) := O1.out.below b3
  have B2 : Hid (Below w.heap.size w V2) := B1.out.trans (b3.mono B1.out.size)
  rw [hV2, hm]
  clear b2 b3 hV2 hm
  go_at_call 9
  refine (first_any _ (HE.out.below B2.out)).mono ?_
  rintro e W3 ⟨rfl, b3⟩
  have B3 : Hid (Below w.heap.size w W3) := B2.out.trans (b3.mono B2.out.size)
  have O4 : Hid (OB W3 m O) := O2.out.below b3
  have O5 : Hid (OB W3 n O) := O3.out.below b3
  clear b3
  obtain ⟨d0, d1, d2, _, _, _⟩ := O4.out.cells
  obtain ⟨e0, e1, e2, _, _, _⟩ := O5.out.cells
  go_wp2_with fail
  go_ret
  exact ⟨by first | rfl | simp, B3.out⟩
end Go.Proofs.YtbifmikndpeafaaDoor
