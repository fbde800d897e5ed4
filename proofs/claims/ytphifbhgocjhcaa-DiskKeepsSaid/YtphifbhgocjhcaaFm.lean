/- Calls that are gone through: how a slice of them reads; are they few. -/
import Derived.Test.YtphifbhgocjhcaaFk
import Derived.Test.YtphifbhgocjhcaaFh
namespace Go.Proofs.Ytphifbhgocjhcaa
set_option linter.unusedSimpArgs false
set_option linter.unusedVariables false
open Go.RowKit Go.Maps

/-- A call, and where its keep lies. -/
structure Av where
  a : Act_
  K : Option Addr
  kc : Nat
/-- Its cells. -/
def Av.cells (x : Av) : List Value := [.int .i64 x.a.kind, .int .i64 x.a.at_, .int .u8 (x.a.b.toNat : Int), .bool x.a.long, .slice x.K x.a.keep.length x.kc]
/-- Its keep reads, below block top. -/
def Av.ok (w : World) (top : Nat) (x : Av) : Prop := Bi w top x.K x.a.keep.length x.kc x.a.keep
/-- The slice (A, n, c) reads, in w, as the calls l, and lies below block top. -/
def Ai (w : World) (top : Nat) (A : Option Addr) (n c : Nat) (l : List Av) : Prop :=
  l.length = n ∧ n ≤ c ∧ (∀ x ∈ l, x.ok w top) ∧ (0 < n → ∃ ad, A = some ad ∧ ad.block < top ∧ ∀ (j : Nat) x, l[j]? = some x → ∀ (i : Nat) v, x.cells[i]? = some v → w.cell? (ad.add (j * 5 + i)) = some v)
section
variable {w w' : World} {top n c : Nat} {A : Option Addr} {l : List Av}
theorem Av.ok.below {x : Av} (h : x.ok w top) (hb : Below top w w') : x.ok w' top := Bi.below h hb
theorem Ai.below (h : Ai w top A n c l) (hb : Below top w w') : Ai w' top A n c l :=
  ⟨h.1, h.2.1, fun x hx => (h.2.2.1 x hx).below hb, fun hn => by
    obtain ⟨ad, e, ht, hc⟩ := h.2.2.2 hn
    exact ⟨ad, e, ht, fun j x hx i v hv => (hb.cell (by rw [add_block]; exact ht)).trans (hc j x hx i v hv)⟩⟩
theorem Ai.at_ (h : Ai w top A n c l) {k : Nat} (hk : k < n) : ∃ ad x, A = some ad ∧ l[k]? = some x ∧ x ∈ l ∧ x.ok w top ∧ w.cell? (ad.add (k * 5)) = some (.int .i64 x.a.kind) ∧ w.cell? ⟨(ad.add (k * 5)).block, (ad.add (k * 5)).off + 1, none⟩ = some (.int .i64 x.a.at_) ∧
    w.cell? ⟨(ad.add (k * 5)).block, (ad.add (k * 5)).off + 2, none⟩ = some (.int .u8 (x.a.b.toNat : Int)) ∧ w.cell? ⟨(ad.add (k * 5)).block, (ad.add (k * 5)).off + 3, none⟩ = some (.bool x.a.long) ∧ w.cell? ⟨(ad.add (k * 5)).block, (ad.add (k * 5)).off + 4, none⟩ = some (.slice x.K x.a.keep.length x.kc) := by
  obtain ⟨ad, e, ht, hc⟩ := h.2.2.2 (by omega)
  have hl : k < l.length := by have := h.1; omega
  exact ⟨ad, l[k], e, List.getElem?_eq_getElem hl, List.getElem_mem hl, h.2.2.1 _ (List.getElem_mem hl), hc k _ (List.getElem?_eq_getElem hl) 0 _ rfl,
    by have := hc k _ (List.getElem?_eq_getElem hl) 1 _ rfl; rw [← add_add] at this; exact this, by have := hc k _ (List.getElem?_eq_getElem hl) 2 _ rfl; rw [← add_add] at this; exact this,
    by have := hc k _ (List.getElem?_eq_getElem hl) 3 _ rfl; rw [← add_add] at this; exact this, by have := hc k _ (List.getElem?_eq_getElem hl) 4 _ rfl; rw [← add_add] at this; exact this⟩
end
/-- Few calls. -/
def few (l : List Av) : Prop := l.length ≤ 80 ∧ ∀ x ∈ l, x.a.keep.length ≤ 80
instance (l : List Av) : Decidable (few l) := inferInstanceAs (Decidable (_ ∧ _))

theorem few_more {l : List Av} {i : Nat} {x : Av} (h : ∀ x ∈ l.take i, x.a.keep.length ≤ 80) (hx : l[i]? = some x) (hk : x.a.keep.length ≤ 80) : ∀ x ∈ l.take (i + 1), x.a.keep.length ≤ 80 := by
  intro y hy
  rw [List.take_add_one, hx] at hy
  rcases List.mem_append.1 hy with hy | hy
  · exact h y hy
  · simp at hy
    subst hy
    exact hk
set_option maxRecDepth 100000 in
theorem small_any (w : World) {top n c : Nat} {A : Option Addr} {l : List Av} (h : Ai w top A n c l) : Calls Try.prog 18 #[.slice A n c] w fun e w' => e = .returned (.bool (decide (few l))) ∧ w' = w := by
  have HA := Lib.hid h
  have hlen := Lib.hid h.1
  clear h
  go_enter Try.func18, Try.ntmps18
  go_wp2
  go_loopw [3] (fun v wr => ∃ i : Nat, i ≤ 81 ∧ i ≤ n ∧ v = .int .i64 (i : Int) ∧ Hid (∀ x ∈ l.take i, x.a.keep.length ≤ 80) ∧ wr = w) (fun v _ => 81 - (RowKit.intOf v).toNat)
  case atStart => exact ⟨0, by omega, by omega, rfl, Lib.hid (by simp), rfl⟩
  case round =>
    obtain ⟨i, hi, hin, rfl, HF, rfl⟩ := hrel
    by_cases hlt : i < n
    · by_cases h81 : i < 81
      · obtain ⟨ad, x, rfl, hx, hm, ho, _, _, _, _, c4⟩ := HA.out.at_ hlt
        have HX := Lib.hid hx
        have HM := Lib.hid hm
        clear hx hm ho
        by_cases hk : x.a.keep.length ≤ 80
        · go_wp2
          go_roundw
          case rel => exact ⟨i + 1, by omega, by omega, by go_num, Lib.hid (few_more HF.out HX.out hk), trivial⟩
          case measure => simp [RowKit.intOf]; omega
        · go_wp2
          go_ret
          exact ⟨by rw [show decide (few l) = false from decide_eq_false (fun h => hk (h.2 x HM.out))]; rfl, rfl⟩
      · go_wp2
        go_ret
        have h8 : ¬ ((n : Int) ≤ 80) := by omega
        exact ⟨by rw [show decide (few l) = false from decide_eq_false (fun h => by have := h.1; have := hlen.out; omega), ← decide_eq_false h8]; rfl, rfl⟩
    · obtain rfl : i = n := by omega
      go_wp2
      go_ret
      refine ⟨?_, rfl⟩
      have hl := hlen.out
      have ht : l.take i = l := List.take_of_length_le (by omega)
      have hf := HF.out
      rw [ht] at hf
      by_cases h8 : i ≤ 80
      · have h9 : (i : Int) ≤ 80 := by omega
        rw [show decide (few l) = true from decide_eq_true (show few l from ⟨by omega, hf⟩), ← decide_eq_true h9]
        rfl
      · have h9 : ¬ ((i : Int) ≤ 80) := by omega
        rw [show decide (few l) = false from decide_eq_false (fun h => by have := h.1; omega), ← decide_eq_false h9]
        rfl
end Go.Proofs.Ytphifbhgocjhcaa
