/- Texts of this claim, one behind the other: Octb, Rdr, Rdm. -/
import Derived.Test.YtgpfognglpfmoaaGreatDoorZ00
set_option linter.unusedSimpArgs false
set_option linter.unusedVariables false
section
/- octet: room, putNumber. -/
namespace Go.Proofs.YtgpfognglpfmoaaGreatDoor
open Go.RowKit

/-- What every call that answers new bytes leaves. -/
def OGives (w : World) (l : List UInt8) (e : Ending) (w' : World) : Prop := ∃ v, e = .returned v ∧ Ow w' w.heap.size v l ∧ Below w.heap.size w w'

set_option maxHeartbeats 400000 in
theorem room_any {A : Option Addr} {k c : Nat} {l : List UInt8} (n : Int) (w : World) (hr : Rd w w.heap.size A k c l) (hk : k ≤ 4294967296) (h0 : 0 ≤ n) (h1 : n ≤ 4294967296) :
    Calls Tryz.prog 118 #[.slice A k c, .int .i64 n] w (OGives w l) := by
  go_enter Tryz.func118, Tryz.ntmps118
  go_wp2_with (first | (at_make; refine wpList_make rfl _ _ rfl _ rfl rfl (by omega) (by omega) (Nat.le_refl _) ?_; intro v1 w1 ho1 hb1 hz1) | (at_builtin; refine wpList_app rfl _ _ rfl rfl ho1 rfl (hr.below hb1) (by simp; omega) (by omega) ?_; intro v2 w2 ho2 hg2 _))
  go_ret
  refine ⟨_, rfl, ?_, ?_⟩
  · simpa using ho2
  · exact hb1.trans (((Below.refl _ _).grown hg2 (Nat.le_of_lt hz1) (fun k hk => (World.ownsRow.lt ho1 k hk).1)))

/-- The bytes of n from place r - 1 down to 0, the first one with f's bits. -/
def putB (n : Nat) : Nat → Nat → List UInt8
  | _, 0 => []
  | f, r + 1 => UInt8.ofNat (f ||| n / 2 ^ (8 * r) % 256) :: putB n 0 r
/-- A number's bytes. -/
def numB (n : Nat) : List UInt8 := putB n (leadOf (numSize n)) (numSize n)

theorem putB_length (n : Nat) : ∀ r f, (putB n f r).length = r
  | 0, _ => rfl
  | r + 1, f => by simp [putB, putB_length n r]
theorem numSize_bd (n : Nat) : 1 ≤ numSize n ∧ numSize n ≤ 9 := by unfold numSize; omega
theorem leadOf_bd (k : Nat) : leadOf k ≤ 255 := Nat.sub_le _ _

theorem or8 (f : Nat) (x : Int) (hf : f ≤ 255) (h0 : 0 ≤ x) (h1 : x < 256) :
    0 ≤ bits .or .u8 (f : Int) x ∧ bits .or .u8 (f : Int) x < 256 ∧ (bits .or .u8 (f : Int) x).toNat = f ||| x.toNat := by
  obtain ⟨y, rfl⟩ := Int.eq_ofNat_of_zero_le h0
  rw [u8_or_nat f y (by omega) (by omega)]
  have : f ||| y < 2 ^ 8 := Nat.or_lt_two_pow (by omega) (by omega)
  refine ⟨by omega, by omega, by simp⟩

theorem Obyte_at (n i : Int) (h0 : 0 ≤ n) : (n / 2 ^ (8 * i).toNat % 256).toNat = n.toNat / 2 ^ (8 * i).toNat % 256 := by
  obtain ⟨m, rfl⟩ := Int.eq_ofNat_of_zero_le h0
  have : ((m : Int) / 2 ^ (8 * i).toNat % 256) = ((m / 2 ^ (8 * i).toNat % 256 : Nat) : Int) := by simp
  rw [this]
  exact Int.toNat_natCast _

set_option maxHeartbeats 400000 in
theorem putNumber_any (v : Value) (n : Int) (w : World) (base : Nat) (xs : List UInt8) (hown : Ow w base v xs) (hbase : base ≤ w.heap.size) (hx : xs.length ≤ 8589934592) (h0 : 0 ≤ n) (h1 : n ≤ 18446744073709551615) :
    Calls Tryz.prog 117 #[v, .int .u64 n] w fun e w' => ∃ v', e = .returned v' ∧ Ow w' base v' (xs ++ numB n.toNat) ∧ Below base w w' := by
  have hs := numSize_bd n.toNat
  have hl := leadOf_bd (numSize n.toNat)
  go_enter Tryz.func117, Tryz.ntmps117
  go_wp2_with (first | (go_at_call 119; refine (numberSize_any _ _ (by omega) (by omega)).mono ?_; rintro e w' ⟨rfl, rfl⟩) | (go_at_call 141; refine (lead_any _ _ (by omega) (by omega)).mono ?_; rintro e w' ⟨rfl, rfl⟩))
  go_loopw [0, 6, 7] (fun vb vf vi wr => ∃ (i : Int) (f : Nat) (ys : List UInt8), -1 ≤ i ∧ i < numSize n.toNat ∧ vi = .int .i64 i ∧ vf = .int .u8 (f : Int) ∧ f ≤ 255 ∧ Ow wr base vb ys ∧ base ≤ wr.heap.size ∧ Hid (ys ++ putB n.toNat f (i + 1).toNat = xs ++ numB n.toNat) ∧ Below base w wr) (fun _ _ vi _ => (intOf vi + 1).toNat)
  case atStart => exact ⟨_, _, _, by omega, by omega, rfl, rfl, hl, hown, hbase, by rw [show ((numSize n.toNat : Int) - 1 + 1).toNat = numSize n.toNat from by omega]; exact Lib.hid rfl, Below.refl _ _⟩
  case round =>
    obtain ⟨i, f, ys, hr, hr2, rfl, rfl, hf, ho, hb, he, hbl⟩ := hrel
    by_cases hi : 0 ≤ i
    · have hlen : ys.length + (i + 1).toNat = xs.length + numSize n.toNat := by
        have := congrArg List.length he.out
        simpa [putB_length, numB] using this
      have hlen' : ys.length ≤ 8589934601 := by omega
      clear hlen
      have hx0 : 0 ≤ n / 2 ^ (8 * i).toNat % 256 := Int.emod_nonneg _ (by omega)
      have hx1 : n / 2 ^ (8 * i).toNat % 256 < 256 := Int.emod_lt_of_pos _ (by omega)
      obtain ⟨o0, o1, o2⟩ := or8 f _ hf hx0 hx1
      have hstep : Hid (ys ++ [UInt8.ofNat (bits .or .u8 (f : Int) (n / 2 ^ (8 * i).toNat % 256)).toNat] ++ putB n.toNat 0 i.toNat = xs ++ numB n.toNat) := by
        have := he.out
        rw [show (i + 1).toNat = i.toNat + 1 from by omega, putB] at this
        rw [o2, Obyte_at n i h0, show (8 * i).toNat = 8 * i.toNat from by omega, ← this]
        exact Lib.hid (by simp)
      clear o2 he
      go_wp2_with (at_builtin; refine wpList_app rfl _ _ rfl rfl (ho.alloc _) rfl (Rd.lit1 wr _ o0 o1) (by omega) (by simp; omega) ?_; intro v2 w2 ho2 hg2 hv2)
      go_roundw
      case rel => exact ⟨_, 0, _, by omega, by omega, rfl, rfl, by omega, ho2, (by have := hg2.size; simp at this; omega), by rw [show (i - 1 + 1).toNat = i.toNat from by omega]; exact hstep, hbl.trans (((Below.refl _ _).alloc hb _).grown hg2 (by simp; omega) (fun k hk => (World.ownsRow.lt ho k hk).1))⟩
      case measure => simp [intOf]; omega
    · go_wp2
      go_ret
      have := he.out
      rw [show (i + 1).toNat = 0 from by omega, putB, List.append_nil] at this
      subst this
      exact ⟨_, rfl, ho, hbl⟩

theorem OGives.mk {w w' : World} {l : List UInt8} {v : Value} (h : Ow w' w.heap.size v l) (hb : Below w.heap.size w w') : OGives w l (.returned v) w' := ⟨v, rfl, h, hb⟩

set_option maxHeartbeats 400000 in
theorem Number_any {A : Option Addr} {k c : Nat} {l : List UInt8} (n : Int) (w : World) (hr : Rd w w.heap.size A k c l) (hk : k ≤ 4294967296) (h0 : 0 ≤ n) (h1 : n ≤ 18446744073709551615) :
    Calls Tryz.prog 89 #[.slice A k c, .int .u64 n] w (OGives w (l ++ numB n.toNat)) := by
  have hs := numSize_bd n.toNat
  have hl := hr.len
  go_enter Tryz.func89, Tryz.ntmps89
  go_wp2_with fail
  refine (numberSize_any _ _ (by omega) (by omega)).mono ?_; rintro e w' ⟨rfl, rfl⟩
  go_wp2_with fail
  refine (room_any _ _ hr hk (by omega) (by omega)).mono ?_; rintro e w1 ⟨v1, rfl, ho1, hb1⟩
  go_wp2_with fail
  refine (putNumber_any _ _ _ w.heap.size _ ho1 hb1.size (by omega) h0 h1).mono ?_; rintro e w2 ⟨v2, rfl, ho2, hb2⟩
  go_wp2
  go_ret
  exact OGives.mk ho2 (hb1.trans hb2)

set_option maxHeartbeats 400000 in
theorem Block_any {A A2 : Option Addr} {k c k2 c2 : Nat} {l l2 : List UInt8} (w : World) (hr : Rd w w.heap.size A k c l) (hk : k ≤ 2147483648) (hr2 : Rd w w.heap.size A2 k2 c2 l2) (hk2 : k2 ≤ 2147483648) :
    Calls Tryz.prog 143 #[.slice A k c, .slice A2 k2 c2] w (OGives w (l ++ (numB l2.length ++ l2))) := by
  have hs := numSize_bd k2
  have hl := hr.len
  have hl2 := hr2.len
  go_enter Tryz.func143, Tryz.ntmps143
  go_wp2_with fail
  refine (numberSize_any _ _ (by omega) (by omega)).mono ?_; rintro e w' ⟨rfl, rfl⟩
  go_wp2_with fail
  refine (room_any _ _ hr (by omega) (by omega) (by omega)).mono ?_; rintro e w1 ⟨v1, rfl, ho1, hb1⟩
  go_wp2_with fail
  refine (putNumber_any _ _ _ w.heap.size _ ho1 hb1.size (by omega) (by omega) (by omega)).mono ?_; rintro e w2 ⟨v2, rfl, ho2, hb2⟩
  rw [show ((k2 : Int)).toNat = k2 from rfl] at ho2
  have hn : (numB k2).length ≤ 9 := by rw [numB, putB_length]; omega
  go_wp2_with (at_builtin; refine wpList_app rfl _ _ rfl rfl ho2 rfl ((hr2.below hb1).below hb2) (by simp; omega) (Nat.le_trans hb1.size hb2.size) ?_; intro v3 w3 ho3 hg3 hv3)
  go_ret
  rw [List.append_assoc] at ho3
  rw [hl2]
  exact OGives.mk ho3 (hb1.trans (hb2.trans ((Below.refl _ _).grown hg3 (Nat.le_trans hb1.size hb2.size) (fun k hk => (World.ownsRow.lt ho2 k hk).1))))

/-- The low r bytes of n, the low one first, from place i on. -/
def OwordB (n : Nat) (k : Nat) : List UInt8 := (List.range k).map fun i => UInt8.ofNat (n / 2 ^ (8 * i) % 256)

set_option maxHeartbeats 400000 in
theorem OWord_any {A : Option Addr} {k c : Nat} {l : List UInt8} (n m : Int) (w : World) (hr : Rd w w.heap.size A k c l) (hk : k ≤ 2147483648) (h0 : 0 ≤ n) (_h1 : n ≤ 18446744073709551615) :
    Calls Tryz.prog 98 #[.slice A k c, .int .u64 n, .int .i64 m] w (OGives w (l ++ OwordB n.toNat (min (max m 1) 8).toNat)) := by
  have hl := hr.len
  obtain ⟨j, hj, hj1, hj8⟩ : ∃ j : Nat, (j : Int) = min (max m 1) 8 ∧ 1 ≤ j ∧ j ≤ 8 := ⟨(min (max m 1) 8).toNat, by omega, by omega, by omega⟩
  rw [← hj]
  have hJ := Lib.hid hj
  clear hj
  go_enter Tryz.func98, Tryz.ntmps98
  go_wp2_with fail
  refine (wordSize_any _ _).mono ?_; rintro e w' ⟨rfl, rfl⟩
  rw [← hJ.out]
  go_wp2_with fail
  refine (room_any _ _ hr (by omega) (by omega) (by omega)).mono ?_; rintro e w1 ⟨v1, rfl, ho1, hb1⟩
  go_wp2
  go_loopw [7, 15] (fun v i wr => ∃ t : Nat, t ≤ j ∧ i = .int .i64 (t : Int) ∧ Ow wr w.heap.size v (l ++ OwordB n.toNat t) ∧ Below w.heap.size w wr) (fun _ i _ => j - (intOf i).toNat)
  case atStart => exact ⟨0, by omega, rfl, by simpa [OwordB] using ho1, hb1⟩
  case round =>
    obtain ⟨t, ht, rfl, ho, hb⟩ := hrel
    by_cases hlt : t < j
    · have hx0 : 0 ≤ n / 2 ^ (8 * (t : Int)).toNat % 256 := Int.emod_nonneg _ (by omega)
      have hx1 : n / 2 ^ (8 * (t : Int)).toNat % 256 < 256 := Int.emod_lt_of_pos _ (by omega)
      have hstep : Hid (l ++ OwordB n.toNat t ++ [UInt8.ofNat (n / 2 ^ (8 * (t : Int)).toNat % 256).toNat] = l ++ OwordB n.toNat (t + 1)) := by
        rw [Obyte_at n t h0, show (8 * (t : Int)).toNat = 8 * t from by omega, OwordB, OwordB, List.range_succ, List.map_append, List.append_assoc]
        exact Lib.hid rfl
      have hw : (OwordB n.toNat t).length = t := by simp [OwordB]
      go_wp2_with (at_builtin; refine wpList_app rfl _ _ rfl rfl (ho.alloc _) rfl (Rd.lit1 wr _ hx0 hx1) (by simp; omega) (by have := hb.size; simp; omega) ?_; intro v2 w2 ho2 hg2 hv2)
      go_roundw
      case rel => exact ⟨t + 1, by omega, by go_num, by rw [← hstep.out]; exact ho2, hb.trans (((Below.refl _ _).alloc hb.size _).grown hg2 (by have := hb.size; simp; omega) (fun k hk => (World.ownsRow.lt ho k hk).1))⟩
      case measure => simp [intOf]; omega
    · go_wp2
      go_ret
      obtain rfl : t = j := by omega
      exact OGives.mk ho hb

set_option maxHeartbeats 400000 in
theorem OOwn_any {A : Option Addr} {k c : Nat} {l : List UInt8} (w : World) (hr : Rd w w.heap.size A k c l) (hk : k ≤ 4294967296) :
    Calls Tryz.prog 23 #[.slice A k c] w (OGives w l) := by
  have hl := hr.len
  go_enter Tryz.func23, Tryz.ntmps23
  go_wp2_with (at_builtin; refine wpList_app rfl _ _ rfl rfl (Ow.lit w #[] [] rfl (by simp)) rfl (hr.below ((Below.refl _ _).alloc (Nat.le_refl _) _)) (by simp; omega) (by simp) ?_; intro v2 w2 ho2 hg2 hv2)
  go_ret
  exact OGives.mk ho2 (((Below.refl _ _).alloc (Nat.le_refl _) _).grown hg2 (by simp) (fun g hg => (World.ownsRow.lt (Ow.lit w #[] [] rfl (by simp)) g hg).1))
end Go.Proofs.YtgpfognglpfmoaaGreatDoor
end
section
/- octet: the reader. -/
namespace Go.Proofs.YtgpfognglpfmoaaGreatDoor
open Go.RowKit

/-- Block g is a reader that was made: it has the bytes l ahead, and the first error e. -/
def Rdr (w : World) (g : Nat) (l : List UInt8) (e : Int) : Prop :=
  ∃ A n c, w.heap[g]? = some (.cells #[.bool true, .slice A n c, .int .i64 e] 180 (0, 0)) ∧ Rd w g A n c l

/-- The pointer to block g. -/
def at0 (g : Nat) : Value := .pointer (some ⟨g, 0, none⟩)

section
variable {w w' : World} {g : Nat} {l : List UInt8} {e : Int}
theorem Rdr.lt (h : Rdr w g l e) : g < w.heap.size := by
  obtain ⟨_, _, _, hg, _⟩ := h
  exact (Array.getElem?_eq_some_iff.1 hg).1
theorem Rdr.below (h : Rdr w g l e) (hb : Below w.heap.size w w') : Rdr w' g l e := by
  have hlt := h.lt
  obtain ⟨A, n, c, hg, hr⟩ := h
  exact ⟨A, n, c, (hb.block g hlt).trans hg, hr.below (hb.mono (by omega))⟩
/-- A slice of bytes does not lie in a reader's block. -/
theorem Rd.apart {top n c : Nat} {A : Option Addr} {l' : List UInt8} (h : Rd w top A n c l') (hR : Rdr w g l e) (hn : 0 < n) : ∀ ad, A = some ad → ad.block ≠ g := by
  obtain ⟨ad, rfl, _, u, _, hc⟩ := h.at_ hn
  intro ad' he hb
  injection he with he
  subst he
  obtain ⟨A2, n2, c2, hg, _⟩ := hR
  rw [show ad.add 0 = ad from rfl, World.cell?, hb, hg] at hc
  simp only at hc
  split at hc
  · cases hc
  · rcases hoff : ad.off with _ | _ | _ | k <;> rw [hoff] at hc <;> simp [B8] at hc
theorem Rd.beside {top n c : Nat} {A : Option Addr} {l' : List UInt8} (h : Rd w top A n c l') (hR : Rdr w g l e) (ho : Only g w w') (ht : top ≤ w.heap.size) : Rd w' top A n c l' := by
  refine ⟨h.1, h.2.1, fun hn => ?_⟩
  obtain ⟨ad, ha, hb, hc⟩ := h.2.2 hn
  have hne := h.apart hR hn ad ha
  exact ⟨ad, ha, hb, fun j u hu => (ho.cell (p := ad.add j) (by rw [add_block]; omega) (by rw [add_block]; exact hne)).trans (hc j u hu)⟩
/-- One reader, while another one is used. -/
theorem Rdr.beside {g2 : Nat} {l2 : List UInt8} {e2 : Int} (h : Rdr w g l e) (hR : Rdr w g2 l2 e2) (ho : Only g2 w w') (hne : g ≠ g2) : Rdr w' g l e := by
  have hlt := h.lt
  obtain ⟨A, n, c, hg, hr⟩ := h
  exact ⟨A, n, c, (ho.block g hlt (fun e => hne (by injection e))).trans hg, hr.beside hR ho (by omega)⟩
/-- The cells of a reader. -/
theorem cells3 {a b c : Value} {t : TypeId} (hg : w.heap[g]? = some (.cells #[a, b, c] t (0, 0))) :
    w.cell? ⟨g, 0, none⟩ = some a ∧ w.cell? ⟨g, 1, none⟩ = some b ∧ w.cell? ⟨g, 2, none⟩ = some c ∧ (∀ o, w.frozen? ⟨g, o, none⟩ = false) :=
  ⟨cell_of_row w g 0 _ t (0, 0) hg, cell_of_row w g 1 _ t (0, 0) hg, cell_of_row w g 2 _ t (0, 0) hg, fun o => by simp [World.frozen?, hg]⟩
theorem set_at {cs : Array Value} {t : TypeId} (hg : w.heap[g]? = some (.cells cs t (0, 0))) (o : Nat) (u : Value) : (w.setCell ⟨g, o, none⟩ u).heap[g]? = some (.cells (cs.setIfInBounds o u) t (0, 0)) := by
  simp [World.setCell, Array.getElem?_modify, hg]
end

set_option maxHeartbeats 400000 in
theorem Err_nil (w : World) : Calls Tryz.prog 165 #[.pointer none] w fun e w' => e = .returned (.int .i64 1) ∧ w = w' := by
  go_enter Tryz.func165, Tryz.ntmps165
  go_wp2
  go_ret
  exact ⟨rfl, rfl⟩

set_option maxHeartbeats 400000 in
theorem Err_any {w : World} {g : Nat} {l : List UInt8} {e : Int} (h : Rdr w g l e) : Calls Tryz.prog 165 #[.pointer (some ⟨g, 0, none⟩)] w fun x w' => x = .returned (.int .i64 e) ∧ w = w' := by
  obtain ⟨A, n, c, hg, hr⟩ := h
  obtain ⟨c0, c1, c2, cf⟩ := cells3 hg
  clear hg
  go_enter Tryz.func165, Tryz.ntmps165
  go_wp2
  go_ret
  exact ⟨rfl, rfl⟩

set_option maxHeartbeats 400000 in
theorem Read_any {A : Option Addr} {k c : Nat} {l : List UInt8} (w : World) (hr : Rd w w.heap.size A k c l) (_hk : k ≤ 4294967296) :
    Calls Tryz.prog 113 #[.slice A k c] w fun x w' => ∃ g, x = .returned (.pointer (some ⟨g, 0, none⟩)) ∧ w.heap.size ≤ g ∧ Rdr w' g l 0 ∧ Below w.heap.size w w' := by
  have hl := hr.len
  have hc := hr.cap
  go_enter Tryz.func113, Tryz.ntmps113
  go_wp2
  go_ret
  refine ⟨_, rfl, Nat.le_refl _, ⟨A, k, k, heap_alloc_new w _, ?_⟩, (Below.refl _ _).alloc (Nat.le_refl _) _⟩
  exact ((hr.below ((Below.refl _ _).alloc (Nat.le_refl _) _))).recap (Nat.le_refl _)

/-- What stepping over n bytes comes to: the bytes, what is left, the error. -/
def tk (n : Nat) (l : List UInt8) (e : Int) : List UInt8 × List UInt8 × Int :=
  if e = 0 then (if n ≤ l.length then (l.take n, l.drop n, 0) else ([], l, 5)) else ([], l, e)

/-- A slice is answered that reads as p, in the reader's own memory; the reader is left with l, e. -/
def Took (w : World) (g : Nat) (r : List UInt8 × List UInt8 × Int) (x : Ending) (w' : World) : Prop :=
  ∃ A n c, x = .returned (.slice A n c) ∧ Rd w' g A n c r.1 ∧ Rdr w' g r.2.1 r.2.2 ∧ Only g w w'

set_option maxHeartbeats 400000 in
theorem take_any {w : World} {g : Nat} {l : List UInt8} {e : Int} (hR : Rdr w g l e) (n : Int) (h0 : 0 ≤ n) (h1 : n ≤ 18446744073709551615) (hl : l.length ≤ 4294967296) :
    Calls Tryz.prog 140 #[.pointer (some ⟨g, 0, none⟩), .int .u64 n] w (Took w g (tk n.toNat l e)) := by
  obtain ⟨A, k, c, hg, hr⟩ := id hR
  obtain ⟨c0, c1, c2, cf⟩ := cells3 hg
  have H := Lib.hid hg
  have hlen := hr.len
  clear hg
  by_cases he : e = 0
  · subst he
    by_cases hn : n ≤ (k : Int)
    · have hk2 : n.toNat ≤ l.length := by omega
      have hcap := hr.cap
      have hnc : n ≤ (c : Int) := by omega
      go_enter Tryz.func140, Tryz.ntmps140
      go_wp2_with fail
      refine (Err_any hR).mono ?_; rintro x w' ⟨rfl, rfl⟩
      go_wp2
      all_goals
        go_ret
        refine ⟨A, n.toNat, _, rfl, ?_, ?_, Only.set _ _ _⟩
        · rw [tk, if_pos rfl, if_pos hk2]
          exact ((hr.take_ (k := n.toNat) (by omega)).only (Only.set w 1 _) (Nat.le_of_lt hR.lt) (Nat.le_refl _)).recap (by omega)
        · rw [tk, if_pos rfl, if_pos hk2]
          refine ⟨_, _, _, set_at H.out 1 _, ?_⟩
          have hd := hr.drop_ (k := n.toNat) (by omega)
          first | rw [if_pos (by assumption)] at hd | rw [if_neg (by assumption)] at hd
          exact (hd.only (Only.set w 1 _) (Nat.le_of_lt hR.lt) (Nat.le_refl _)).recap (by omega)
    · have hk2 : ¬ n.toNat ≤ l.length := by omega
      go_enter Tryz.func140, Tryz.ntmps140
      go_wp2_with fail
      refine (Err_any hR).mono ?_; rintro x w' ⟨rfl, rfl⟩
      go_wp2
      go_ret
      refine ⟨none, 0, 0, rfl, ?_, ?_, Only.set _ _ _⟩
      · rw [tk, if_pos rfl, if_neg hk2]; exact Rd.nil _ _ _ _
      · rw [tk, if_pos rfl, if_neg hk2]
        exact ⟨_, _, _, set_at H.out 2 _, hr.only (Only.set w 2 _) (Nat.le_of_lt hR.lt) (Nat.le_refl _)⟩
  · have hd : (e == 0) = false := by simpa using he
    go_enter Tryz.func140, Tryz.ntmps140
    go_wp2_with fail
    refine (Err_any hR).mono ?_; rintro x w' ⟨rfl, rfl⟩
    go_wp2
    go_ret
    refine ⟨none, 0, 0, rfl, ?_, ?_, Only.refl _ _⟩
    · rw [tk, if_neg he]; exact Rd.nil _ _ _ _
    · rw [tk, if_neg he]; exact hR

/-- How many bytes the number ahead has, by its first byte. -/
def sizeAt : List UInt8 → Nat
  | [] => 1
  | u :: _ => 9 - Lib.bitLen (255 - u.toNat)

theorem xor255 : ∀ m : Fin 256, bits BinOp.xor IntKind.u8 IntKind.u8.max (m.val : Int) = ((255 - m.val : Nat) : Int) := by decide +kernel

set_option maxHeartbeats 400000 in
theorem sizeTold_any {w : World} {top k c : Nat} {A : Option Addr} {l : List UInt8} (hr : Rd w top A k c l) :
    Calls Tryz.prog 180 #[.slice A k c] w fun x w' => x = .returned (.int .u64 (sizeAt l)) ∧ w = w' := by
  have hlen := hr.len
  by_cases hk : 0 < k
  · obtain ⟨ad, rfl, hb, u, hu, hcell⟩ := hr.at_ hk
    have hlt : u.toNat < 256 := u.toNat_lt
    rw [show ad.add 0 = ad from rfl, B8] at hcell
    have hx := xor255 ⟨u.toNat, hlt⟩
    have hx' : bits BinOp.xor IntKind.u8 IntKind.u8.max (u.toNat : Int) = ((255 - u.toNat : Nat) : Int) := hx
    clear hx
    have hk0 : ((k : Int) == 0) = false := by simp; omega
    have hbl := Lib.bitLen_le8 ⟨255 - u.toNat, by omega⟩
    have hz : sizeAt l = 9 - Lib.bitLen (255 - u.toNat) := by
      cases l with
      | nil => simp at hu
      | cons y t => simp at hu; subst hu; rfl
    have HZ := Lib.hid hz
    clear hz hu hlen
    go_enter Tryz.func180, Tryz.ntmps180
    go_wp2_with fail
    refine (Tryz.bits_LeadingZeros8 _ _ (by omega) (by omega)).mono ?_; rintro e w' ⟨rfl, rfl⟩
    rw [Int.toNat_natCast]
    go_wp2
    go_ret
    exact ⟨Oret_int (by rw [HZ.out]; omega), rfl⟩
  · obtain rfl : k = 0 := by omega
    have hl : l = [] := List.eq_nil_of_length_eq_zero hlen
    subst hl
    clear hlen
    go_enter Tryz.func180, Tryz.ntmps180
    go_wp2
    go_ret
    exact ⟨rfl, rfl⟩

/-- The number that bytes come to behind acc, the first one without d's bits. -/
def numAcc : Nat → Nat → List UInt8 → Nat
  | acc, _, [] => acc
  | acc, d, u :: t => numAcc (acc * 256 % 18446744073709551616 + (u.toNat &&& (255 - d))) 0 t
/-- The number that bytes are read as. -/
def numOf (l : List UInt8) : Nat := numAcc 0 (leadOf l.length) l

theorem num_step (acc u d : Nat) (hu : u < 256) (hd : d ≤ 255) :
    bits BinOp.or IntKind.u64 (IntKind.u64.wrap ((acc : Int) * 256)) (IntKind.u64.wrap (bits BinOp.andNot IntKind.u8 (u : Int) (d : Int))) = ((acc * 256 % 18446744073709551616 + (u &&& (255 - d)) : Nat) : Int) := by
  have hlt : u &&& (255 - d) < 256 := Nat.lt_of_le_of_lt Nat.and_le_left hu
  rw [u8_andNot_nat u d hu (by omega)]
  rw [show IntKind.u64.wrap ((u &&& (255 - d) : Nat) : Int) = ((u &&& (255 - d) : Nat) : Int) from by simp [IntKind.wrap, IntKind.bits, IntKind.signed]; omega]
  rw [show IntKind.u64.wrap ((acc : Int) * 256) = ((acc * 256 % 18446744073709551616 : Nat) : Int) from by simp [IntKind.wrap, IntKind.bits, IntKind.signed]]
  rw [u64_or_nat _ _ (Nat.mod_lt _ (by decide)) (by omega), nat_join 8 _ _ (by omega) (by omega)]

set_option maxHeartbeats 400000 in
theorem numberOf_any {w : World} {top k c : Nat} {A : Option Addr} {l : List UInt8} (hr : Rd w top A k c l) (hk : k ≤ 4294967296) :
    Calls Tryz.prog 181 #[.slice A k c] w fun x w' => x = .returned (.int .u64 (numOf l)) ∧ w = w' := by
  have hlen := hr.len
  have hl := leadOf_bd k
  go_enter Tryz.func181, Tryz.ntmps181
  go_wp2_with fail
  refine (lead_any _ _ (by omega) (by omega)).mono ?_; rintro e w' ⟨rfl, rfl⟩
  rw [Int.toNat_natCast]
  go_wp2
  go_loop [3, 4, 12] (fun vn vd vi => ∃ (i acc d : Nat), i ≤ k ∧ vi = .int .i64 (i : Int) ∧ vn = .int .u64 (acc : Int) ∧ acc < 18446744073709551616 ∧ vd = .int .u8 (d : Int) ∧ d ≤ 255 ∧ Hid (numAcc acc d (l.drop i) = numOf l)) (fun _ _ vi => k - (intOf vi).toNat)
  case atStart => exact ⟨0, 0, _, by omega, rfl, rfl, by omega, rfl, hl, by rw [numOf, hlen]; exact Lib.hid rfl⟩
  case round =>
    obtain ⟨i, acc, d, hi, rfl, rfl, ha, rfl, hd, hn⟩ := hrel
    by_cases hlt : i < k
    · obtain ⟨ad, rfl, hb, u, hu, hcell⟩ := hr.at_ hlt
      have hub : u.toNat < 256 := u.toNat_lt
      rw [B8] at hcell
      have HU := Lib.hid hu
      clear hu hlen
      go_wp2
      have hdrop : l.drop i = u :: l.drop (i + 1) := by
        have hli : i < l.length := by rw [hr.len]; exact hlt
        rw [List.drop_eq_getElem_cons hli, show l[i] = u from by have := HU.out; rw [List.getElem?_eq_getElem hli] at this; simpa using this]
      go_round
      case rel =>
        refine ⟨i + 1, _, 0, by omega, by go_num, congrArg (Value.int IntKind.u64) (num_step acc u.toNat d hub hd), ?_, rfl, by omega, ?_⟩
        · have : u.toNat &&& (255 - d) ≤ 255 := Nat.le_trans Nat.and_le_left (by omega)
          omega
        · have := hn.out
          rw [hdrop, numAcc] at this
          exact Lib.hid this
      case measure => simp [intOf]; omega
    · go_wp2
      go_ret
      have := hn.out
      rw [List.drop_eq_nil_of_le (by omega), numAcc] at this
      exact ⟨Oret_int (by rw [this]), rfl⟩
end Go.Proofs.YtgpfognglpfmoaaGreatDoor
end
section
/- octet: the reader's methods. -/
namespace Go.Proofs.YtgpfognglpfmoaaGreatDoor
open Go.RowKit

/-- A number read: it, what is left, the error. -/
def rdNum (l : List UInt8) (e : Int) : Nat × List UInt8 × Int :=
  if e = 0 then
    if sizeAt l ≤ l.length then
      if numSize (numOf (l.take (sizeAt l))) < sizeAt l then (0, l, 4) else (numOf (l.take (sizeAt l)), l.drop (sizeAt l), 0)
    else (0, l, 5)
  else (0, l, e)

theorem sizeAt_bd (l : List UInt8) : 1 ≤ sizeAt l ∧ sizeAt l ≤ 9 := by
  cases l with
  | nil => simp [sizeAt]
  | cons u t =>
    have h := Lib.bitLen_le8 ⟨255 - u.toNat, by omega⟩
    simp only [sizeAt] at *
    omega

theorem numAcc_lt : ∀ (l : List UInt8) (acc d : Nat), acc < 18446744073709551616 → numAcc acc d l < 18446744073709551616
  | [], acc, _, h => h
  | u :: t, acc, d, h => by
    rw [numAcc]
    have : u.toNat &&& (255 - d) ≤ 255 := Nat.le_trans Nat.and_le_left (by have := u.toNat_lt; omega)
    exact numAcc_lt t _ _ (by omega)
theorem numOf_lt (l : List UInt8) : numOf l < 18446744073709551616 := numAcc_lt l _ _ (by decide)

/-- A plain value is answered; the reader is left with l, e. -/
def Left (w : World) (g : Nat) (v : Value) (l : List UInt8) (e : Int) (x : Ending) (w' : World) : Prop :=
  x = .returned v ∧ Rdr w' g l e ∧ Only g w w'

set_option maxHeartbeats 400000 in
theorem RNumber_any {w : World} {g : Nat} {l : List UInt8} {e : Int} (hR : Rdr w g l e) (hl : l.length ≤ 4294967296) :
    Calls Tryz.prog 167 #[.pointer (some ⟨g, 0, none⟩)] w (Left w g (.int .u64 (rdNum l e).1) (rdNum l e).2.1 (rdNum l e).2.2) := by
  obtain ⟨A, k, c, hg, hr⟩ := id hR
  obtain ⟨c0, c1, c2, cf⟩ := cells3 hg
  have H := Lib.hid hg
  have hlen := Lib.hid hr.len
  have hs := sizeAt_bd l
  clear hg
  by_cases he : e = 0
  · subst he
    go_enter Tryz.func167, Tryz.ntmps167
    go_wp2_with fail
    refine (Err_any hR).mono ?_; rintro x w' ⟨rfl, rfl⟩
    go_wp2_with fail
    refine (sizeTold_any hr).mono ?_; rintro x w' ⟨rfl, rfl⟩
    go_wp2_with fail
    refine (take_any hR _ (by omega) (by omega) hl).mono ?_; rintro x w1 ⟨A1, n1, k1, rfl, hr1, hR1, hO1⟩
    rw [Int.toNat_natCast] at hr1 hR1
    go_wp2_with fail
    by_cases hsl : sizeAt l ≤ l.length
    · have ht : tk (sizeAt l) l 0 = (l.take (sizeAt l), l.drop (sizeAt l), 0) := by rw [tk, if_pos rfl, if_pos hsl]
      rw [ht] at hr1 hR1
      clear ht
      have hn1 : n1 = sizeAt l := by rw [← hr1.len, List.length_take]; omega
      subst hn1
      have hno := numOf_lt (l.take (sizeAt l))
      have hns := numSize_bd (numOf (l.take (sizeAt l)))
      refine (numberOf_any hr1 (by omega)).mono ?_; rintro x w' ⟨rfl, rfl⟩
      go_wp2_with fail
      refine (numberSize_any _ _ (by omega) (by omega)).mono ?_; rintro x w' ⟨rfl, rfl⟩
      rw [Int.toNat_natCast]
      by_cases hb : numSize (numOf (l.take (sizeAt l))) < sizeAt l
      · obtain ⟨A2, k2, c2', hg2, hr2⟩ := id hR1
        obtain ⟨d0, d1, d2, df⟩ := cells3 hg2
        have H2 := Lib.hid hg2
        clear hg2
        go_wp2
        go_ret
        rw [rdNum, if_pos rfl, if_pos hsl, if_pos hb]
        have hO := hO1.trans ((Only.set w1 2 (.int .i64 4)).trans (Only.set _ 1 (.slice A k c)))
        exact ⟨rfl, ⟨A, k, c, set_at (set_at H2.out 2 _) 1 _, hr.only hO (Nat.le_of_lt hR.lt) (Nat.le_refl _)⟩, hO⟩
      · go_wp2
        go_ret
        rw [rdNum, if_pos rfl, if_pos hsl, if_neg hb]
        exact ⟨rfl, hR1, hO1⟩
    · have ht : tk (sizeAt l) l 0 = ([], l, 5) := by rw [tk, if_pos rfl, if_neg hsl]
      rw [ht] at hr1 hR1
      clear ht
      obtain rfl : n1 = 0 := hr1.len.symm
      refine (numberOf_any hr1 (by omega)).mono ?_; rintro x w' ⟨rfl, rfl⟩
      go_wp2_with fail
      refine (numberSize_any _ _ (by omega) (by decide)).mono ?_; rintro x w' ⟨rfl, rfl⟩
      go_wp2
      go_ret
      rw [rdNum, if_pos rfl, if_neg hsl]
      exact ⟨rfl, hR1, hO1⟩
  · have hd : (e == 0) = false := by simpa using he
    go_enter Tryz.func167, Tryz.ntmps167
    go_wp2_with fail
    refine (Err_any hR).mono ?_; rintro x w' ⟨rfl, rfl⟩
    go_wp2
    go_ret
    rw [rdNum, if_neg he]
    exact ⟨rfl, hR, Only.refl _ _⟩

/-- A new slice of bytes is answered; the reader is left with l, e. -/
def Gave (w : World) (g : Nat) (r : List UInt8 × List UInt8 × Int) (x : Ending) (w' : World) : Prop :=
  ∃ v, x = .returned v ∧ Ow w' w.heap.size v r.1 ∧ Rdr w' g r.2.1 r.2.2 ∧ Only g w w'

set_option maxHeartbeats 400000 in
theorem take_nil (n : Int) (w : World) : Calls Tryz.prog 140 #[.pointer none, .int .u64 n] w fun x w' => x = .returned (.slice none 0 0) ∧ w = w' := by
  go_enter Tryz.func140, Tryz.ntmps140
  go_wp2_with fail
  refine (Err_nil _).mono ?_; rintro x w' ⟨rfl, rfl⟩
  go_wp2
  go_ret
  exact ⟨rfl, rfl⟩

set_option maxHeartbeats 400000 in
theorem RTake_any {w : World} {g : Nat} {l : List UInt8} {e : Int} (hR : Rdr w g l e) (n : Int) (hn : n ≤ 9223372036854775807) (hl : l.length ≤ 4294967296) :
    Calls Tryz.prog 168 #[.pointer (some ⟨g, 0, none⟩), .int .i64 n] w (Gave w g (tk n.toNat l e)) := by
  have hm : (0 : Int) ≤ max n 0 := by omega
  have hm2 : max n 0 ≤ 9223372036854775807 := by omega
  go_enter Tryz.func168, Tryz.ntmps168
  go_wp2_with fail
  refine (take_any hR _ (by omega) (by omega) hl).mono ?_; rintro x w1 ⟨A1, n1, k1, rfl, hr1, hR1, hO1⟩
  rw [show (max n 0).toNat = n.toNat from by omega] at hr1 hR1
  have hlen : n1 ≤ 4294967296 := by
    rw [← hr1.len, tk]; split
    · split
      · simp only [List.length_take]; omega
      · simp
    · simp
  go_wp2_with fail
  refine (room_any _ _ (hr1.more (Nat.le_of_lt hR1.lt)) hlen (by omega) (by omega)).mono ?_
  rintro x w2 ⟨v, rfl, ho, hb⟩
  go_wp2
  go_ret
  exact ⟨_, rfl, ho.lower hO1.size, hR1.below hb, hO1.trans (Only.of_below hb)⟩

set_option maxHeartbeats 400000 in
theorem RLeft_any {w : World} {g : Nat} {l : List UInt8} {e : Int} (hR : Rdr w g l e) (he : e ≠ 1) :
    Calls Tryz.prog 147 #[.pointer (some ⟨g, 0, none⟩)] w fun x w' => x = .returned (.int .i64 (l.length : Int)) ∧ w = w' := by
  obtain ⟨A, k, c, hg, hr⟩ := id hR
  obtain ⟨c0, c1, c2, cf⟩ := cells3 hg
  have hlen := Lib.hid hr.len
  have hd : (e == 1) = false := by simpa using he
  clear hg
  go_enter Tryz.func147, Tryz.ntmps147
  go_wp2_with fail
  refine (Err_any hR).mono ?_; rintro x w' ⟨rfl, rfl⟩
  go_wp2
  go_ret
  exact ⟨by rw [hlen.out]; rfl, rfl⟩

/-- What End tells. -/
def rdEnd (l : List UInt8) (e : Int) : Int := if e = 0 then (if 0 < l.length then 4 else 0) else e

/-- The number of bytes, the low one first. -/
def leNat : List UInt8 → Nat
  | [] => 0
  | u :: t => u.toNat + 256 * leNat t

theorem leNat_snoc : ∀ (l : List UInt8) (u : UInt8), leNat (l ++ [u]) = leNat l + u.toNat * 2 ^ (8 * l.length)
  | [], u => by simp [leNat]
  | x :: t, u => by
    rw [List.cons_append, leNat, leNat, leNat_snoc t u, List.length_cons, show 8 * (t.length + 1) = 8 + 8 * t.length from by omega, Nat.pow_add]
    rw [Nat.mul_add, ← Nat.mul_assoc 256, Nat.mul_comm 256 u.toNat, Nat.mul_assoc u.toNat, Nat.add_assoc]
theorem leNat_lt : ∀ (l : List UInt8), leNat l < 2 ^ (8 * l.length)
  | [] => by simp [leNat]
  | x :: t => by
    have h := leNat_lt t
    have hx : x.toNat < 256 := x.toNat_lt
    rw [leNat, List.length_cons, show 8 * (t.length + 1) = 8 + 8 * t.length from by omega, Nat.pow_add]
    omega

/-- How many bytes a word of size k has. -/
def wordLen (k : Int) : Nat := (min (max k 1) 8).toNat

theorem word_step (acc u t : Nat) (ha : acc < 2 ^ (8 * t)) (hu : u < 256) (ht : t ≤ 7) :
    bits BinOp.or IntKind.u64 (acc : Int) (IntKind.u64.wrap ((u : Int) * 2 ^ (8 * t))) = ((acc + u * 2 ^ (8 * t) : Nat) : Int) := by
  have hp : 2 ^ (8 * t) ≤ 2 ^ 56 := Nat.pow_le_pow_right (by decide) (by omega)
  have hb : u * 2 ^ (8 * t) ≤ 255 * 2 ^ 56 := Nat.mul_le_mul (by omega) hp
  have hw : IntKind.u64.wrap ((u : Int) * 2 ^ (8 * t)) = ((u * 2 ^ (8 * t) : Nat) : Int) := by
    rw [show ((u : Int) * 2 ^ (8 * t)) = ((u * 2 ^ (8 * t) : Nat) : Int) from by simp, IntKind.wrap_u64]
    omega
  rw [hw, u64_or_nat _ _ (by omega) (by omega), Nat.or_comm, nat_join (8 * t) _ _ (Nat.mul_mod_left _ _) ha, Nat.add_comm]

set_option maxHeartbeats 400000 in
theorem RWord_any {w : World} {g : Nat} {l : List UInt8} {e : Int} (hR : Rdr w g l e) (k : Int) (hl : l.length ≤ 4294967296) :
    Calls Tryz.prog 114 #[.pointer (some ⟨g, 0, none⟩), .int .i64 k] w (Left w g (.int .u64 (leNat (tk (wordLen k) l e).1)) (tk (wordLen k) l e).2.1 (tk (wordLen k) l e).2.2) := by
  have hm : (1 : Int) ≤ min (max k 1) 8 := by omega
  have hm2 : min (max k 1) 8 ≤ 8 := by omega
  go_enter Tryz.func114, Tryz.ntmps114
  go_wp2_with fail
  refine (wordSize_any _ _).mono ?_; rintro x w' ⟨rfl, rfl⟩
  go_wp2_with fail
  refine (take_any hR _ (by omega) (by omega) hl).mono ?_; rintro x w1 ⟨A1, n1, k1, rfl, hr1, hR1, hO1⟩
  rw [show (min (max k 1) 8).toNat = wordLen k from rfl] at hr1 hR1
  have hlen : n1 ≤ 8 := by
    rw [← hr1.len, tk]; split
    · split
      · simp only [List.length_take, wordLen]; omega
      · simp
    · simp
  generalize htk : tk (wordLen k) l e = r at *
  clear htk
  go_wp2
  go_loop [5, 14] (fun vn vi => ∃ t : Nat, t ≤ n1 ∧ vi = .int .i64 (t : Int) ∧ vn = .int .u64 (leNat (r.1.take t) : Int)) (fun _ vi => n1 - (intOf vi).toNat)
  case atStart => exact ⟨0, by omega, rfl, rfl⟩
  case round =>
    obtain ⟨t, ht, rfl, rfl⟩ := hrel
    by_cases hlt : t < n1
    · obtain ⟨ad, rfl, hb, u, hu, hcell⟩ := hr1.at_ hlt
      have hub : u.toNat < 256 := u.toNat_lt
      rw [B8] at hcell
      have HU := Lib.hid hu
      clear hu
      go_wp2
      have htl : t < r.1.length := by rw [hr1.len]; exact hlt
      have htake : r.1.take (t + 1) = r.1.take t ++ [u] := by
        rw [List.take_succ_eq_append_getElem htl, show r.1[t] = u from by have := HU.out; rw [List.getElem?_eq_getElem htl] at this; simpa using this]
      have hlt8 := leNat_lt (r.1.take t)
      have hll : (r.1.take t).length = t := by rw [List.length_take]; omega
      rw [hll] at hlt8
      go_round
      case rel =>
        refine ⟨t + 1, by omega, by go_num, congrArg (Value.int IntKind.u64) ?_⟩
        rw [word_step _ _ t hlt8 hub (by omega), htake, leNat_snoc, hll]
      case measure => simp [intOf]; omega
    · go_wp2
      go_ret
      refine ⟨Oret_int ?_, hR1, hO1⟩
      rw [List.take_of_length_le (by rw [hr1.len]; omega)]

/-- What Block reads. -/
def rdBlk (l : List UInt8) (e : Int) : List UInt8 × List UInt8 × Int :=
  if e = 0 then
    if (tk (rdNum l 0).1 (rdNum l 0).2.1 (rdNum l 0).2.2).2.2 = 0 then tk (rdNum l 0).1 (rdNum l 0).2.1 (rdNum l 0).2.2
    else ([], l, (tk (rdNum l 0).1 (rdNum l 0).2.1 (rdNum l 0).2.2).2.2)
  else ([], l, e)

theorem rdNum_lt (l : List UInt8) (e : Int) : (rdNum l e).1 < 18446744073709551616 := by
  unfold rdNum
  have := numOf_lt (l.take (sizeAt l))
  split
  · split
    · split
      · exact (by decide : 0 < 18446744073709551616)
      · exact this
    · exact (by decide : 0 < 18446744073709551616)
  · exact (by decide : 0 < 18446744073709551616)
theorem rdNum_len (l : List UInt8) (e : Int) : (rdNum l e).2.1.length ≤ l.length := by
  unfold rdNum
  split
  · split
    · split
      · exact Nat.le_refl _
      · simp
    · exact Nat.le_refl _
  · exact Nat.le_refl _
theorem tk_len (n : Nat) (l : List UInt8) (e : Int) : (tk n l e).1.length ≤ l.length := by
  unfold tk
  split
  · split
    · simp only [List.length_take]; omega
    · simp
  · simp

end Go.Proofs.YtgpfognglpfmoaaGreatDoor
end
