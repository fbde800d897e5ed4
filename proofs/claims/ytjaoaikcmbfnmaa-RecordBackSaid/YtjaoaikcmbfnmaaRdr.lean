/- octet: the reader. -/
import Derived.Test.YtjaoaikcmbfnmaaOctb
namespace Go.Proofs.Ytjaoaikcmbfnmaa
open Go.RowKit

/-- Block g is a reader that was made: it has the bytes l ahead, and the first error e. -/
def Rdr (w : World) (g : Nat) (l : List UInt8) (e : Int) : Prop :=
  ∃ A n c, w.heap[g]? = some (.cells #[.bool true, .slice A n c, .int .i64 e] 77 (0, 0)) ∧ Rd w g A n c l

/-- The pointer to block g. -/
def at0 (g : Nat) : Value := .pointer (some ⟨g, 0, none⟩)

section
variable {w w' : World} {g : Nat} {l : List UInt8} {e : Int}
theorem Rdr.lt (h : Rdr w g l e) : g < w.heap.size := by
  obtain ⟨_, _, _, hg, _⟩ := h
  exact (Array.getElem?_eq_some_iff.1 hg).1
theorem Rdr.below (h : Rdr w g l e) (hb : Below w.heap.size w w') : Rdr w' g l e := by
  have hlt := h.lt
  obtain ⟨A, n, c, hg, hr⟩ := h
  exact ⟨A, n, c, (hb.block g hlt).trans hg, hr.below (hb.mono (by omega))⟩
/-- A slice of bytes does not lie in a reader's block. -/
theorem Rd.apart {top n c : Nat} {A : Option Addr} {l' : List UInt8} (h : Rd w top A n c l') (hR : Rdr w g l e) (hn : 0 < n) : ∀ ad, A = some ad → ad.block ≠ g := by
  obtain ⟨ad, rfl, _, u, _, hc⟩ := h.at_ hn
  intro ad' he hb
  injection he with he
  subst he
  obtain ⟨A2, n2, c2, hg, _⟩ := hR
  rw [show ad.add 0 = ad from rfl, World.cell?, hb, hg] at hc
  simp only at hc
  split at hc
  · cases hc
  · rcases hoff : ad.off with _ | _ | _ | k <;> rw [hoff] at hc <;> simp [B8] at hc
theorem Rd.beside {top n c : Nat} {A : Option Addr} {l' : List UInt8} (h : Rd w top A n c l') (hR : Rdr w g l e) (ho : Only g w w') (ht : top ≤ w.heap.size) : Rd w' top A n c l' := by
  refine ⟨h.1, h.2.1, fun hn => ?_⟩
  obtain ⟨ad, ha, hb, hc⟩ := h.2.2 hn
  have hne := h.apart hR hn ad ha
  exact ⟨ad, ha, hb, fun j u hu => (ho.cell (p := ad.add j) (by rw [add_block]; omega) (by rw [add_block]; exact hne)).trans (hc j u hu)⟩
/-- One reader, while another one is used. -/
theorem Rdr.beside {g2 : Nat} {l2 : List UInt8} {e2 : Int} (h : Rdr w g l e) (hR : Rdr w g2 l2 e2) (ho : Only g2 w w') (hne : g ≠ g2) : Rdr w' g l e := by
  have hlt := h.lt
  obtain ⟨A, n, c, hg, hr⟩ := h
  exact ⟨A, n, c, (ho.block g hlt (fun e => hne (by injection e))).trans hg, hr.beside hR ho (by omega)⟩
/-- The cells of a reader. -/
theorem cells3 {a b c : Value} {t : TypeId} (hg : w.heap[g]? = some (.cells #[a, b, c] t (0, 0))) :
    w.cell? ⟨g, 0, none⟩ = some a ∧ w.cell? ⟨g, 1, none⟩ = some b ∧ w.cell? ⟨g, 2, none⟩ = some c ∧ (∀ o, w.frozen? ⟨g, o, none⟩ = false) :=
  ⟨cell_of_row w g 0 _ t (0, 0) hg, cell_of_row w g 1 _ t (0, 0) hg, cell_of_row w g 2 _ t (0, 0) hg, fun o => by simp [World.frozen?, hg]⟩
theorem set_at {cs : Array Value} {t : TypeId} (hg : w.heap[g]? = some (.cells cs t (0, 0))) (o : Nat) (u : Value) : (w.setCell ⟨g, o, none⟩ u).heap[g]? = some (.cells (cs.setIfInBounds o u) t (0, 0)) := by
  simp [World.setCell, Array.getElem?_modify, hg]
end

set_option maxHeartbeats 400000 in
theorem Err_nil (w : World) : Calls Try.prog 36 #[.pointer none] w fun e w' => e = .returned (.int .i64 1) ∧ w = w' := by
  go_enter Try.func36, Try.ntmps36
  go_wp2
  go_ret
  exact ⟨rfl, rfl⟩

set_option maxHeartbeats 400000 in
theorem Err_any {w : World} {g : Nat} {l : List UInt8} {e : Int} (h : Rdr w g l e) : Calls Try.prog 36 #[.pointer (some ⟨g, 0, none⟩)] w fun x w' => x = .returned (.int .i64 e) ∧ w = w' := by
  obtain ⟨A, n, c, hg, hr⟩ := h
  obtain ⟨c0, c1, c2, cf⟩ := cells3 hg
  clear hg
  go_enter Try.func36, Try.ntmps36
  go_wp2
  go_ret
  exact ⟨rfl, rfl⟩

set_option maxHeartbeats 400000 in
theorem Read_any {A : Option Addr} {k c : Nat} {l : List UInt8} (w : World) (hr : Rd w w.heap.size A k c l) (_hk : k ≤ 4294967296) :
    Calls Try.prog 24 #[.slice A k c] w fun x w' => ∃ g, x = .returned (.pointer (some ⟨g, 0, none⟩)) ∧ w.heap.size ≤ g ∧ Rdr w' g l 0 ∧ Below w.heap.size w w' := by
  have hl := hr.len
  have hc := hr.cap
  go_enter Try.func24, Try.ntmps24
  go_wp2
  go_ret
  refine ⟨_, rfl, Nat.le_refl _, ⟨A, k, k, heap_alloc_new w _, ?_⟩, (Below.refl _ _).alloc (Nat.le_refl _) _⟩
  exact ((hr.below ((Below.refl _ _).alloc (Nat.le_refl _) _))).recap (Nat.le_refl _)

/-- What stepping over n bytes comes to: the bytes, what is left, the error. -/
def tk (n : Nat) (l : List UInt8) (e : Int) : List UInt8 × List UInt8 × Int :=
  if e = 0 then (if n ≤ l.length then (l.take n, l.drop n, 0) else ([], l, 5)) else ([], l, e)

/-- A slice is answered that reads as p, in the reader's own memory; the reader is left with l, e. -/
def Took (w : World) (g : Nat) (r : List UInt8 × List UInt8 × Int) (x : Ending) (w' : World) : Prop :=
  ∃ A n c, x = .returned (.slice A n c) ∧ Rd w' g A n c r.1 ∧ Rdr w' g r.2.1 r.2.2 ∧ Only g w w'

set_option maxHeartbeats 400000 in
theorem take_any {w : World} {g : Nat} {l : List UInt8} {e : Int} (hR : Rdr w g l e) (n : Int) (h0 : 0 ≤ n) (h1 : n ≤ 18446744073709551615) (hl : l.length ≤ 4294967296) :
    Calls Try.prog 45 #[.pointer (some ⟨g, 0, none⟩), .int .u64 n] w (Took w g (tk n.toNat l e)) := by
  obtain ⟨A, k, c, hg, hr⟩ := id hR
  obtain ⟨c0, c1, c2, cf⟩ := cells3 hg
  have H := Lib.hid hg
  have hlen := hr.len
  clear hg
  by_cases he : e = 0
  · subst he
    by_cases hn : n ≤ (k : Int)
    · have hk2 : n.toNat ≤ l.length := by omega
      have hcap := hr.cap
      have hnc : n ≤ (c : Int) := by omega
      go_enter Try.func45, Try.ntmps45
      go_wp2_with fail
      refine (Err_any hR).mono ?_; rintro x w' ⟨rfl, rfl⟩
      go_wp2
      all_goals
        go_ret
        refine ⟨A, n.toNat, _, rfl, ?_, ?_, Only.set _ _ _⟩
        · rw [tk, if_pos rfl, if_pos hk2]
          exact ((hr.take_ (k := n.toNat) (by omega)).only (Only.set w 1 _) (Nat.le_of_lt hR.lt) (Nat.le_refl _)).recap (by omega)
        · rw [tk, if_pos rfl, if_pos hk2]
          refine ⟨_, _, _, set_at H.out 1 _, ?_⟩
          have hd := hr.drop_ (k := n.toNat) (by omega)
          first | rw [if_pos (by assumption)] at hd | rw [if_neg (by assumption)] at hd
          exact (hd.only (Only.set w 1 _) (Nat.le_of_lt hR.lt) (Nat.le_refl _)).recap (by omega)
    · have hk2 : ¬ n.toNat ≤ l.length := by omega
      go_enter Try.func45, Try.ntmps45
      go_wp2_with fail
      refine (Err_any hR).mono ?_; rintro x w' ⟨rfl, rfl⟩
      go_wp2
      go_ret
      refine ⟨none, 0, 0, rfl, ?_, ?_, Only.set _ _ _⟩
      · rw [tk, if_pos rfl, if_neg hk2]; exact Rd.nil _ _ _ _
      · rw [tk, if_pos rfl, if_neg hk2]
        exact ⟨_, _, _, set_at H.out 2 _, hr.only (Only.set w 2 _) (Nat.le_of_lt hR.lt) (Nat.le_refl _)⟩
  · have hd : (e == 0) = false := by simpa using he
    go_enter Try.func45, Try.ntmps45
    go_wp2_with fail
    refine (Err_any hR).mono ?_; rintro x w' ⟨rfl, rfl⟩
    go_wp2
    go_ret
    refine ⟨none, 0, 0, rfl, ?_, ?_, Only.refl _ _⟩
    · rw [tk, if_neg he]; exact Rd.nil _ _ _ _
    · rw [tk, if_neg he]; exact hR

/-- How many bytes the number ahead has, by its first byte. -/
def sizeAt : List UInt8 → Nat
  | [] => 1
  | u :: _ => 9 - Lib.bitLen (255 - u.toNat)

theorem xor255 : ∀ m : Fin 256, bits BinOp.xor IntKind.u8 IntKind.u8.max (m.val : Int) = ((255 - m.val : Nat) : Int) := by decide +kernel

set_option maxHeartbeats 400000 in
theorem sizeTold_any {w : World} {top k c : Nat} {A : Option Addr} {l : List UInt8} (hr : Rd w top A k c l) :
    Calls Try.prog 46 #[.slice A k c] w fun x w' => x = .returned (.int .u64 (sizeAt l)) ∧ w = w' := by
  have hlen := hr.len
  by_cases hk : 0 < k
  · obtain ⟨ad, rfl, hb, u, hu, hcell⟩ := hr.at_ hk
    have hlt : u.toNat < 256 := u.toNat_lt
    rw [show ad.add 0 = ad from rfl, B8] at hcell
    have hx := xor255 ⟨u.toNat, hlt⟩
    have hx' : bits BinOp.xor IntKind.u8 IntKind.u8.max (u.toNat : Int) = ((255 - u.toNat : Nat) : Int) := hx
    clear hx
    have hk0 : ((k : Int) == 0) = false := by simp; omega
    have hbl := Lib.bitLen_le8 ⟨255 - u.toNat, by omega⟩
    have hz : sizeAt l = 9 - Lib.bitLen (255 - u.toNat) := by
      cases l with
      | nil => simp at hu
      | cons y t => simp at hu; subst hu; rfl
    have HZ := Lib.hid hz
    clear hz hu hlen
    go_enter Try.func46, Try.ntmps46
    go_wp2_with fail
    refine (Try.bits_LeadingZeros8 _ _ (by omega) (by omega)).mono ?_; rintro e w' ⟨rfl, rfl⟩
    rw [Int.toNat_natCast]
    go_wp2
    go_ret
    exact ⟨Oret_int (by rw [HZ.out]; omega), rfl⟩
  · obtain rfl : k = 0 := by omega
    have hl : l = [] := List.eq_nil_of_length_eq_zero hlen
    subst hl
    clear hlen
    go_enter Try.func46, Try.ntmps46
    go_wp2
    go_ret
    exact ⟨rfl, rfl⟩

/-- The number that bytes come to behind acc, the first one without d's bits. -/
def numAcc : Nat → Nat → List UInt8 → Nat
  | acc, _, [] => acc
  | acc, d, u :: t => numAcc (acc * 256 % 18446744073709551616 + (u.toNat &&& (255 - d))) 0 t
/-- The number that bytes are read as. -/
def numOf (l : List UInt8) : Nat := numAcc 0 (leadOf l.length) l

theorem num_step (acc u d : Nat) (hu : u < 256) (hd : d ≤ 255) :
    bits BinOp.or IntKind.u64 (IntKind.u64.wrap ((acc : Int) * 256)) (IntKind.u64.wrap (bits BinOp.andNot IntKind.u8 (u : Int) (d : Int))) = ((acc * 256 % 18446744073709551616 + (u &&& (255 - d)) : Nat) : Int) := by
  have hlt : u &&& (255 - d) < 256 := Nat.lt_of_le_of_lt Nat.and_le_left hu
  rw [u8_andNot_nat u d hu (by omega)]
  rw [show IntKind.u64.wrap ((u &&& (255 - d) : Nat) : Int) = ((u &&& (255 - d) : Nat) : Int) from by simp [IntKind.wrap, IntKind.bits, IntKind.signed]; omega]
  rw [show IntKind.u64.wrap ((acc : Int) * 256) = ((acc * 256 % 18446744073709551616 : Nat) : Int) from by simp [IntKind.wrap, IntKind.bits, IntKind.signed]]
  rw [u64_or_nat _ _ (Nat.mod_lt _ (by decide)) (by omega), nat_join 8 _ _ (by omega) (by omega)]

set_option maxHeartbeats 400000 in
theorem numberOf_any {w : World} {top k c : Nat} {A : Option Addr} {l : List UInt8} (hr : Rd w top A k c l) (hk : k ≤ 4294967296) :
    Calls Try.prog 47 #[.slice A k c] w fun x w' => x = .returned (.int .u64 (numOf l)) ∧ w = w' := by
  have hlen := hr.len
  have hl := leadOf_bd k
  go_enter Try.func47, Try.ntmps47
  go_wp2_with fail
  refine (lead_any _ _ (by omega) (by omega)).mono ?_; rintro e w' ⟨rfl, rfl⟩
  rw [Int.toNat_natCast]
  go_wp2
  go_loop [3, 4, 12] (fun vn vd vi => ∃ (i acc d : Nat), i ≤ k ∧ vi = .int .i64 (i : Int) ∧ vn = .int .u64 (acc : Int) ∧ acc < 18446744073709551616 ∧ vd = .int .u8 (d : Int) ∧ d ≤ 255 ∧ Hid (numAcc acc d (l.drop i) = numOf l)) (fun _ _ vi => k - (intOf vi).toNat)
  case atStart => exact ⟨0, 0, _, by omega, rfl, rfl, by omega, rfl, hl, by rw [numOf, hlen]; exact Lib.hid rfl⟩
  case round =>
    obtain ⟨i, acc, d, hi, rfl, rfl, ha, rfl, hd, hn⟩ := hrel
    by_cases hlt : i < k
    · obtain ⟨ad, rfl, hb, u, hu, hcell⟩ := hr.at_ hlt
      have hub : u.toNat < 256 := u.toNat_lt
      rw [B8] at hcell
      have HU := Lib.hid hu
      clear hu hlen
      go_wp2
      have hdrop : l.drop i = u :: l.drop (i + 1) := by
        have hli : i < l.length := by rw [hr.len]; exact hlt
        rw [List.drop_eq_getElem_cons hli, show l[i] = u from by have := HU.out; rw [List.getElem?_eq_getElem hli] at this; simpa using this]
      go_round
      case rel =>
        refine ⟨i + 1, _, 0, by omega, by go_num, congrArg (Value.int IntKind.u64) (num_step acc u.toNat d hub hd), ?_, rfl, by omega, ?_⟩
        · have : u.toNat &&& (255 - d) ≤ 255 := Nat.le_trans Nat.and_le_left (by omega)
          omega
        · have := hn.out
          rw [hdrop, numAcc] at this
          exact Lib.hid this
      case measure => simp [intOf]; omega
    · go_wp2
      go_ret
      have := hn.out
      rw [List.drop_eq_nil_of_le (by omega), numAcc] at this
      exact ⟨Oret_int (by rw [this]), rfl⟩
end Go.Proofs.Ytjaoaikcmbfnmaa
