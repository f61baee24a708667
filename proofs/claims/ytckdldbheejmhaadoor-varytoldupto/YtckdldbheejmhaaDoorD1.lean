/- Which requests are alike: plain facts. -/
import Derived.Test.YtckdldbheejmhaaDoorC2
namespace Go.Proofs.YtckdldbheejmhaaDoor
open Go.RowKit
set_option linter.unusedVariables false
set_option linter.unusedSimpArgs false

theorem eqB_iff {a b : List ByteArray} : eqB a b = true ↔ a = b := by unfold eqB; simp
theorem mtB_iff {p q : Rq} {P Q : List Fd} {l : List ByteArray} : mtB p q P Q l = true ↔ hdL p = hdL q ∧ ∀ x ∈ l, vsL P x = vsL Q x := by
  unfold mtB mtL
  rw [Bool.and_eq_true, eqB_iff, List.all_eq_true]
  constructor
  · rintro ⟨h1, h2⟩
    exact ⟨h1, fun x hx => eqB_iff.1 (h2 x hx)⟩
  · rintro ⟨h1, h2⟩
    exact ⟨h1, fun x hx => eqB_iff.2 (h2 x hx)⟩
theorem mtB_refl (p : Rq) (P : List Fd) (l : List ByteArray) : mtB p p P P l = true := mtB_iff.2 ⟨rfl, fun _ _ => rfl⟩
theorem mtB_eq {p q p' q' : Rq} {P Q P' Q' : List Fd} {l l' : List ByteArray} (h : mtB p q P Q l = true ↔ mtB p' q' P' Q' l' = true) : mtB p q P Q l = mtB p' q' P' Q' l' := by
  cases h1 : mtB p q P Q l <;> cases h2 : mtB p' q' P' Q' l' <;> simp_all
theorem mtB_symm (p q : Rq) (P Q : List Fd) (l : List ByteArray) : mtB q p Q P l = mtB p q P Q l := mtB_eq (by
  rw [mtB_iff, mtB_iff]
  exact ⟨fun h => ⟨h.1.symm, fun x hx => (h.2 x hx).symm⟩, fun h => ⟨h.1.symm, fun x hx => (h.2 x hx).symm⟩⟩)
theorem mtB_trans {p q r : Rq} {P Q R' : List Fd} {l : List ByteArray} (h1 : mtB p q P Q l = true) (h2 : mtB q r Q R' l = true) : mtB p r P R' l = true := by
  rw [mtB_iff] at *
  exact ⟨h1.1.trans h2.1, fun x hx => (h1.2 x hx).trans (h2.2 x hx)⟩
theorem mtB_mem {p q : Rq} {P Q : List Fd} {l l' : List ByteArray} (h : ∀ x, x ∈ l ↔ x ∈ l') : mtB p q P Q l = mtB p q P Q l' := mtB_eq (by
  rw [mtB_iff, mtB_iff]
  exact ⟨fun g => ⟨g.1, fun x hx => g.2 x ((h x).2 hx)⟩, fun g => ⟨g.1, fun x hx => g.2 x ((h x).1 hx)⟩⟩)
theorem mtB_take {p q : Rq} {P Q : List Fd} {l : List ByteArray} (k : Nat) (h : mtB p q P Q l = true) : mtB p q P Q (l.take k) = true := by
  rw [mtB_iff] at *
  exact ⟨h.1, fun x hx => h.2 x (List.mem_of_mem_take hx)⟩
/-- names from the last on, each twice -/
def tnD (l : List ByteArray) (j : Nat) : List ByteArray := (l.drop j).reverse.flatMap fun x => [x, x]
theorem tnD_step (l : List ByteArray) (j : Nat) (h : j < l.length) : tnD l j = tnD l (j + 1) ++ [l[j], l[j]] := by
  unfold tnD
  rw [List.drop_eq_getElem_cons h, List.reverse_cons, List.flatMap_append]
  simp
theorem tnD_end (l : List ByteArray) : tnD l l.length = [] := by simp [tnD]
theorem two_len : ∀ l : List ByteArray, (l.flatMap fun x => [x, x]).length = 2 * l.length
  | [] => rfl
  | x :: r => by
    rw [List.flatMap_cons, List.length_append, two_len r]
    simp
    omega
theorem tnD_len (l : List ByteArray) (j : Nat) : (tnD l j).length ≤ 2 * l.length := by
  unfold tnD
  rw [two_len, List.length_reverse, List.length_drop]
  omega
theorem tnD_mem (l : List ByteArray) (x : ByteArray) : x ∈ tnD l 0 ↔ x ∈ l := by
  unfold tnD
  simp
end Go.Proofs.YtckdldbheejmhaaDoor
