/- Records that came in. -/
import Derived.Test.YtjaoaikcmbfnmaaRw
namespace Go.Proofs.Ytjaoaikcmbfnmaa
set_option linter.unusedSimpArgs false
set_option linter.unusedVariables false
open Go.RowKit

/-- A record as a value: its Kind, its Data, where they lie. -/
structure Rv where
  k : UInt8
  d : List UInt8
  A : Option Addr
  c : Nat
/-- Its cells. -/
def Rv.cells (x : Rv) : List Value := [.int .u8 (x.k.toNat : Int), .slice x.A x.d.length x.c]
/-- Its Data read, below block top. -/
def Rv.ok (w : World) (top : Nat) (x : Rv) : Prop := Rd w top x.A x.d.length x.c x.d
/-- The record alone. -/
def Rv.r (x : Rv) : UInt8 × List UInt8 := (x.k, x.d)
/-- The slice (A, n, c) reads, in w, as the records l, and lies below block top. -/
def Rs (w : World) (top : Nat) (A : Option Addr) (n c : Nat) (l : List Rv) : Prop :=
  l.length = n ∧ n ≤ c ∧ (∀ x ∈ l, x.ok w top) ∧ (0 < n → ∃ ad, A = some ad ∧ ad.block < top ∧ ∀ (j : Nat) x, l[j]? = some x → ∀ (i : Nat) v, x.cells[i]? = some v → w.cell? (ad.add (j * 2 + i)) = some v)
section
variable {w w' : World} {top n c : Nat} {A : Option Addr} {l : List Rv}
theorem Rv.ok.below {x : Rv} (h : x.ok w top) (hb : Below top w w') : x.ok w' top := Rd.below h hb
theorem Rv.ok.more {x : Rv} {top' : Nat} (h : x.ok w top) (ht : top ≤ top') : x.ok w top' := Rd.more h ht
theorem Rs.nil (w : World) (top c : Nat) (A : Option Addr) : Rs w top A 0 c [] := ⟨rfl, Nat.zero_le _, by simp, fun h => absurd h (by omega)⟩
theorem Rs.below (h : Rs w top A n c l) (hb : Below top w w') : Rs w' top A n c l :=
  ⟨h.1, h.2.1, fun x hx => (h.2.2.1 x hx).below hb, fun hn => by
    obtain ⟨ad, e, ht, hc⟩ := h.2.2.2 hn
    exact ⟨ad, e, ht, fun j x hx i v hv => (hb.cell (by rw [add_block]; exact ht)).trans (hc j x hx i v hv)⟩⟩
theorem Rs.more {top' : Nat} (h : Rs w top A n c l) (ht : top ≤ top') : Rs w top' A n c l :=
  ⟨h.1, h.2.1, fun x hx => (h.2.2.1 x hx).more ht, fun hn => by
    obtain ⟨ad, e, hb, hc⟩ := h.2.2.2 hn
    exact ⟨ad, e, by omega, hc⟩⟩
theorem Rs.lift (h : Rs w w.heap.size A n c l) (hb : Below w.heap.size w w') : Rs w' w'.heap.size A n c l := (h.below hb).more hb.size
theorem Rs.at_ (h : Rs w top A n c l) {k : Nat} (hk : k < n) : ∃ ad x, A = some ad ∧ l[k]? = some x ∧ x ∈ l ∧ x.ok w top ∧ w.cell? (ad.add (k * 2)) = some (.int .u8 (x.k.toNat : Int)) ∧ w.cell? ⟨(ad.add (k * 2)).block, (ad.add (k * 2)).off + 1, none⟩ = some (.slice x.A x.d.length x.c) := by
  obtain ⟨ad, e, ht, hc⟩ := h.2.2.2 (by omega)
  have hl : k < l.length := by have := h.1; omega
  exact ⟨ad, l[k], e, List.getElem?_eq_getElem hl, List.getElem_mem hl, h.2.2.1 _ (List.getElem_mem hl), hc k _ (List.getElem?_eq_getElem hl) 0 _ rfl,
    by have := hc k _ (List.getElem?_eq_getElem hl) 1 _ rfl; rw [← add_add] at this; exact this⟩
end
end Go.Proofs.Ytjaoaikcmbfnmaa
