/- Eight words put as bytes: signs. -/
import Derived.Test.YtjaoaikcmbfnmaaAr2
import Derived.Test.YtjaoaikcmbfnmaaPw
namespace Go.Proofs.Ytjaoaikcmbfnmaa
open Go.RowKit

theorem signs_take (st : List UInt64) (t : Nat) (h : t < st.length) : signsOf (st.take (t + 1)) = signsOf (st.take t) ++ wordB 8 st[t] := by
  rw [List.take_succ_eq_append_getElem h, signsOf, List.flatMap_append]; simp [signsOf]
theorem signs_length : ∀ st : List UInt64, (signsOf st).length = 8 * st.length
  | [] => rfl
  | n :: st => by
    have := signs_length st
    simp only [signsOf, List.flatMap_cons, List.length_append, wordB_length, List.length_cons] at this ⊢
    omega

set_option maxHeartbeats 400000 in
theorem signs_any (st : List UInt64) (hs : st.length = 8) (w : World) : Calls Try.prog 44 #[.agg (cs64 st).toArray] w fun e w' => e = .returned (.agg (cs8 (signsOf st)).toArray) ∧ Below w.heap.size w w' := by
  have HL := Lib.hid (show (cs64 st).length = 8 by rw [cs64_length, hs])
  go_enter Try.func44, Try.ntmps44
  go_wp2_with (first | (refine wpList_alloc_z rfl 70 rfl z33 zero33 ?_) | (at_make; refine wpList_make (base := w.heap.size + 2) rfl _ _ rfl _ rfl rfl (by omega) (by omega) (by simp) ?_; intro v1 w1 ho1 hb1 hz1) | (refine wpList_load_at rfl 66 _ rfl _ rfl (cs64 st) _ ((((Bk.new w (cs64 st) 66).old _).keep hb1).at_) Try.underlying66 rfl (by rw [HL.out]; exact info38) ?_))
  have hk1 : Bk w1 (w.heap.size + 1) z33 := by
    have := (Bk.new (w.alloc (.cells (cs64 st).toArray 66)) z33 70).keep hb1
    simpa using this
  have hB1 : Below w.heap.size w w1 := ((bl_alloc (bl_alloc (bl0 w) _) _).trans (hb1.mono (by simp; omega)))
  have hs1 : w.heap.size + 2 ≤ w1.heap.size := by have := hb1.size; simp at this; omega
  clear hb1 hz1
  go_loopw [3, 8] (fun v i wr => ∃ t : Nat, t ≤ 8 ∧ i = .int .i64 (t : Int) ∧ Ow wr (w.heap.size + 2) v (signsOf (st.take t)) ∧ w.heap.size + 2 ≤ wr.heap.size ∧ Bk wr (w.heap.size + 1) z33 ∧ Below w.heap.size w wr) (fun _ i _ => 8 - (intOf i).toNat)
  case atStart => exact ⟨0, by omega, rfl, by simpa [signsOf] using ho1, hs1, hk1, hB1⟩
  case round =>
    obtain ⟨t, ht, rfl, ho, hsz, hk, hb⟩ := hrel
    by_cases hlt : t < 8
    · have hc : (cs64 st).toArray[t]? = some (.int .u64 ((st[t]'(by omega)).toNat : Int)) := by simp [cs64, hs, hlt, B64]
      have hx := run_index64 Try.underlying66 hlt hc
      have HN := Lib.hid (signs_take st t (by omega))
      have hlen : (signsOf (st.take t)).length ≤ 64 := by rw [signs_length, List.length_take]; omega
      generalize st[t]'(by omega) = n at hc hx HN
      generalize signsOf (st.take t) = X at ho HN hlen ⊢
      have hnn : n.toNat < 18446744073709551616 := n.toNat_lt
      clear hc
      go_wp2_with fail
      refine (putWord_any _ n _ (w.heap.size + 2) _ ho hsz (by omega)).mono ?_; rintro e w2 ⟨v2, rfl, ho2, hb2⟩
      go_wp2
      go_roundw
      case rel => exact ⟨t + 1, by omega, by go_num, by rw [HN.out]; exact ho2, by have := hb2.size; omega, hk.below hb2 (by omega), hb.trans (hb2.mono (by omega))⟩
      case measure => simp [intOf]; omega
    · obtain rfl : t = 8 := by omega
      rw [List.take_of_length_le (by omega)] at ho
      have hl64 : (signsOf st).length = 64 := by rw [signs_length, hs]
      obtain ⟨A, c, rfl, hr⟩ := ho.rdN hl64
      obtain ⟨ad, rfl, _, _⟩ := hr.2.2 (by omega)
      have HC := Lib.hid (hr.cells (by omega))
      have HS := Lib.hid (show (cs8 (signsOf st)).length = 64 by rw [cs8_length, hl64])
      have HK := Lib.hid hk
      clear hr ho hk ho1 hk1
      have hAA := run_arrayAt (n := 64) (c := c) (A := some ad) Try.underlying70 (Nat.le_refl 64)
      go_wp2_with (first | (refine wpList_load_at rfl 70 _ rfl ad rfl (cs8 (signsOf st)) _ HC.out Try.underlying70 rfl (by rw [HS.out]; exact info33) ?_) | (refine wpList_store_bk rfl 70 _ _ rfl (w.heap.size + 1) rfl (cs8 (signsOf st)) z33 rfl HK.out (by rw [HS.out]; exact info33) (by rw [HS.out]; exact len_z33) (cs8_all _) ?_))
      exact ret_bk rfl (w.heap.size + 1) _ _ rfl rfl (HK.out.setRow _) Try.underlying70 rfl (by rw [HS.out]; exact info33) ⟨rfl, bl_setRow hb (by omega) _⟩
end Go.Proofs.Ytjaoaikcmbfnmaa
