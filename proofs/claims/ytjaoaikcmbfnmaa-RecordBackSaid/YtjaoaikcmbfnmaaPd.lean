/- What stands behind the bytes: padding. -/
import Derived.Test.YtjaoaikcmbfnmaaAr2
import Derived.Test.YtjaoaikcmbfnmaaPw
import Derived.Laws.OwnMore
namespace Go.Proofs.Ytjaoaikcmbfnmaa
open Go.RowKit

/-- make([]byte, L, C). -/
theorem wpList_makeN {w : World} {ops : Array Oper} {rest : List Oper} {o : Oper} {a : Act} {Q : Exit → Act → World → Prop} (hgd : o.guard = none) (l c : Operand)
    (ho : o.op = Op.makeSlice 26 l c) {kl kc : IntKind} (L C : Nat) (hl : a.eval l = .int kl (L : Int)) (hc : a.eval c = .int kc (C : Int)) (h0 : L ≤ C) (h1 : C ≤ 140737488355328)
    (hL : 0 < L) (h : ∀ w', Ow (w'.setCell ⟨w.heap.size, 0, none⟩ (.int .u8 128)) w.heap.size (.slice (some ⟨w.heap.size, 0, none⟩) L C) (128 :: List.replicate (L - 1) 0) → Below w.heap.size w (w'.setCell ⟨w.heap.size, 0, none⟩ (.int .u8 128)) →
      w'.cell? ⟨w.heap.size, 0, none⟩ = some (.int .u8 0) → w'.frozen? ⟨w.heap.size, 0, none⟩ = false → wpList Try.prog ops Q rest (a.put o.dst (.slice (some ⟨w.heap.size, 0, none⟩) L C)) w') : wpList Try.prog ops Q (o :: rest) a w := by
  obtain ⟨i, hi, hz0, hz1, hz2⟩ := info_parts info_u8
  refine wpList_plain hgd fun K hK => ?_
  have hm : (maxLen : Int) = 9223372036854775807 := by simp [maxLen]
  have hr := run_make (P := Try.prog) w 26 5 i (.int .u8 0) Try.underlying26 hi hz0 kl kc L C (by omega) (by omega) (by rw [hz2]; omega) (by omega)
  rw [Int.toNat_natCast, Int.toNat_natCast] at hr
  unfold Oper.wp execOp
  simp only [ho, hl, hc, hr, Sem.run_bind, Result.andThen_ok, Sem.run_pure]
  have hO : (w.alloc (.cells (madeCells (Value.int .u8 0).cells (C * i.size)) 5)).ownsRow w.heap.size 5 1 (.slice (some ⟨w.heap.size, 0, none⟩) L C) L (cs8 (List.replicate L 0)) := by
    refine ⟨by simp [cs8], .inr ⟨w.heap.size, C, _, rfl, Nat.le_refl _, heap_alloc_new w _, h0, by simp only [maxLen]; omega, by rw [size_madeCells, hz1], ?_⟩⟩
    rw [hz1]
    simp only [Value.cells, Nat.mul_one, toList_madeCells_one, cs8, List.map_replicate]
    rw [List.take_replicate, Nat.min_eq_left h0]
    rfl
  have hB : Below w.heap.size w (w.alloc (.cells (madeCells (Value.int .u8 0).cells (C * i.size)) 5)) := (Below.refl _ _).alloc (Nat.le_refl _) _
  generalize w.alloc (.cells (madeCells (Value.int .u8 0).cells (C * i.size)) 5) = W at hO hB ⊢
  refine hK _ _ (h _ ?_ ?_ ?_ (World.ownsRow.frozenAt hO 0))
  · have := (World.ownsRow.stored hO 0 (B8 128)).1
    obtain ⟨M, rfl⟩ : ∃ M, L = M + 1 := ⟨L - 1, by omega⟩
    unfold Ow
    rw [show Value.int .u8 128 = B8 128 from rfl]
    simpa [cs8, List.replicate_succ] using this
  · exact hB.trans ((Below.refl _ _).grown (World.ownsRow.stored hO 0 (B8 128)).2 hB.size (fun g hg => by injection hg with hg; omega))
  · rw [World.ownsRow.cellAt hO 0 (by omega)]
    obtain ⟨M, rfl⟩ : ∃ M, L = M + 1 := ⟨L - 1, by omega⟩
    simp [cs8, List.replicate_succ, B8]

theorem noughts_of (size : Nat) : (IntKind.u64.wrap (111 - (size : Int))).tmod 128 = (((239 - size % 128) % 128 : Nat) : Int) := by
  rw [wrapU, Int.tmod_eq_emod_of_nonneg (Int.emod_nonneg _ (by omega))]
  omega

set_option maxHeartbeats 400000 in
theorem padding_any (size : Nat) (h : size < 18446744073709551616) (w : World) : Calls Try.prog 43 #[.int .u64 (size : Int)] w (Gives w (padB size)) := by
  have hn := noughts_of size
  have hq : (239 - size % 128) % 128 < 128 := Nat.mod_lt _ (by omega)
  have HP := Lib.hid (show padB size = 128 :: List.replicate ((239 - size % 128) % 128) 0 ++ wordB 8 (UInt64.ofNat (size * 8 / 18446744073709551616)) ++ wordB 8 (UInt64.ofNat (size * 8 % 18446744073709551616)) from rfl)
  generalize (239 - size % 128) % 128 = q at hn hq HP
  go_enter Try.func43, Try.ntmps43
  go_wp2_with (at_make; refine wpList_makeN rfl _ _ rfl (1 + q) (1 + q + 16) rfl rfl (by omega) (by omega) (by omega) ?_; intro w1 ho1 hb1 hc1 hf1; have ho1 := Lib.hid ho1; have hb1 := Lib.hid hb1)
  have ho1 := ho1.out
  have hb1 := hb1.out
  refine (Try.bits_Mul64 size 8 h (by omega) _).mono ?_; rintro e w2 ⟨rfl, rfl⟩
  have hh : size * 8 / 18446744073709551616 < 18446744073709551616 := by omega
  have hl : size * 8 % 18446744073709551616 < 18446744073709551616 := by omega
  have th := toNat_of hh
  have tl := toNat_of hl
  generalize UInt64.ofNat (size * 8 / 18446744073709551616) = H at th HP
  generalize UInt64.ofNat (size * 8 % 18446744073709551616) = L at tl HP
  rw [← th, ← tl]
  have hH : H.toNat < 18446744073709551616 := H.toNat_lt
  have hLn : L.toNat < 18446744073709551616 := L.toNat_lt
  clear th tl hh hl
  go_wp2_with fail
  refine (putWord_any _ H _ w.heap.size _ ho1 hb1.size (by simp; omega)).mono ?_; rintro e w2 ⟨v2, rfl, ho2, hb2⟩
  go_wp2_with fail
  refine (putWord_any _ L _ w.heap.size _ ho2 (Nat.le_trans hb1.size hb2.size) (by simp [wordB_length]; omega)).mono ?_; rintro e w3 ⟨v3, rfl, ho3, hb3⟩
  go_wp2
  go_ret
  rw [HP.out]
  refine Gives.mk ?_ ((hb1.trans hb2).trans hb3)
  simpa using ho3

theorem padB_length (n : Nat) : (padB n).length = 17 + (239 - n % 128) % 128 := by
  simp [padB, wordB_length]; omega

set_option maxHeartbeats 400000 in
theorem Own_any {A : Option Addr} {k c : Nat} {l : List UInt8} (w : World) (hr : Rd w w.heap.size A k c l) (hk : k ≤ 4294967296) :
    Calls Try.prog 10 #[.slice A k c] w (Gives w l) := by
  have hl := hr.len
  go_enter Try.func10, Try.ntmps10
  go_wp2_with (at_builtin; refine wpList_app rfl _ _ rfl rfl (Ow.lit w #[] [] rfl (by simp)) rfl (hr.below ((Below.refl _ _).alloc (Nat.le_refl _) _)) (by simp; omega) (by simp) ?_; intro v2 w2 ho2 hg2 hv2)
  go_ret
  exact Gives.mk ho2 (((Below.refl _ _).alloc (Nat.le_refl _) _).grown hg2 (by simp) (fun g hg => (World.ownsRow.lt (Ow.lit w #[] [] rfl (by simp)) g hg).1))
end Go.Proofs.Ytjaoaikcmbfnmaa
