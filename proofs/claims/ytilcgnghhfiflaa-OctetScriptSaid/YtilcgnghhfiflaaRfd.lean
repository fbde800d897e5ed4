/- The document's own reader: the rest of what it reads; Pick. -/
import Derived.Test.YtilcgnghhfiflaaRfn
import Derived.Test.YtilcgnghhfiflaaBak
namespace Go.Proofs.Ytilcgnghhfiflaa
open Go.RowKit

set_option maxHeartbeats 400000 in
theorem refEnd_any {w : World} {g : Nat} {l : List UInt8} {e : Int} (hR : Rfr w g l e) :
    Calls Try.prog 33 #[.pointer (some ⟨g, 0, none⟩)] w fun x w' => x = .returned (.int .i64 (rdEnd l e)) ∧ w = w' := by
  obtain ⟨A, k, c, hg, hr⟩ := id hR
  obtain ⟨c0, c1, cf⟩ := cells2 hg
  have hlen := hr.len
  clear hg
  by_cases he : e = 0
  · subst he
    by_cases hk : 0 < k
    · have hz : rdEnd l 0 = 4 := by rw [rdEnd, if_pos rfl, if_pos (by omega)]
      rw [hz]
      go_enter Try.func33, Try.ntmps33
      go_wp2
      go_ret
      exact ⟨rfl, rfl⟩
    · have hz : rdEnd l 0 = 0 := by rw [rdEnd, if_pos rfl, if_neg (by omega)]
      rw [hz]
      go_enter Try.func33, Try.ntmps33
      go_wp2
      go_ret
      exact ⟨rfl, rfl⟩
  · have hd : (e == 0) = false := by simpa using he
    have hz : rdEnd l e = e := by rw [rdEnd, if_neg he]
    rw [hz]
    go_enter Try.func33, Try.ntmps33
    go_wp2
    go_ret
    exact ⟨rfl, rfl⟩

theorem drop_at {l : List UInt8} {u : UInt8} {i : Nat} (h : l[i]? = some u) : l.drop i = u :: l.drop (i + 1) := by
  have hi : i < l.length := (List.getElem?_eq_some_iff.1 h).1
  rw [List.drop_eq_getElem_cons hi]
  congr 1
  exact (List.getElem?_eq_some_iff.1 h).2

set_option maxHeartbeats 400000 in
theorem refWord2_any {w : World} {g : Nat} {l : List UInt8} {e : Int} (hR : Rfr w g l e) (k : Int) (hl : l.length ≤ 4294967296) :
    Calls Try.prog 29 #[.pointer (some ⟨g, 0, none⟩), .int .i64 k] w (LeftR w g (.int .u64 (leNat (tk (wordLen k) l e).1)) (tk (wordLen k) l e).2.1 (tk (wordLen k) l e).2.2) := by
  have hm : (1 : Int) ≤ min (max k 1) 8 := by omega
  have hm2 : min (max k 1) 8 ≤ 8 := by omega
  go_enter Try.func29, Try.ntmps29
  go_wp2_with fail
  refine (refTake_any hR _ hl).mono ?_; rintro x w1 ⟨v, rfl, ho1, hR1, hO1⟩
  rw [show (min (max k 1) 8).toNat = wordLen k from rfl] at ho1 hR1
  have hlen : (tk (wordLen k) l e).1.length ≤ 8 := by
    rw [tk]; split
    · split
      · simp only [List.length_take, wordLen]; omega
      · simp
    · simp
  generalize htk : tk (wordLen k) l e = r at *
  clear htk
  obtain ⟨A1, c1, rfl, hr1⟩ := ho1.rdN (n := r.1.length) rfl
  generalize hN : r.1.length = N at *
  have HN := Lib.hid hN
  clear hN
  go_wp2
  go_loop [6, 7] (fun vn vi => ∃ t : Nat, t ≤ N ∧ vi = .int .i64 ((t : Int) - 1) ∧ vn = .int .u64 (leNat (r.1.drop t) : Int)) (fun _ vi => (intOf vi + 1).toNat)
  case atStart => exact ⟨N, Nat.le_refl _, by go_num, by rw [List.drop_eq_nil_of_le (by rw [HN.out]; exact Nat.le_refl _)]; rfl⟩
  case round =>
    obtain ⟨t, ht, rfl, rfl⟩ := hrel
    rcases t with _ | i
    · go_wp2
      go_ret
      exact ⟨rfl, hR1, hO1⟩
    · obtain ⟨ad, rfl, hb, u, hu, hcell⟩ := hr1.at_ (k := i) (by omega)
      have hub : u.toNat < 256 := u.toNat_lt
      rw [B8] at hcell
      have HU := Lib.hid hu
      clear hu
      have hlt8 := leNat_lt (r.1.drop (i + 1))
      have hll : (r.1.drop (i + 1)).length ≤ 7 := by rw [List.length_drop, HN.out]; omega
      have hlt7 : leNat (r.1.drop (i + 1)) < 2 ^ 56 := Nat.lt_of_lt_of_le hlt8 (Nat.pow_le_pow_right (by decide) (by omega))
      clear hlt8
      rw [show (((i + 1 : Nat) : Int) - 1) = (i : Int) from by omega]
      go_wp2
      refine ⟨⟨i, by omega, by go_num, congrArg (Value.int IntKind.u64) ?_⟩, by simp [intOf]⟩
      rw [drop_at HU.out, leNat]
      omega

set_option maxHeartbeats 800000 in
theorem refBlock2_any {w : World} {g : Nat} {l : List UInt8} {e : Int} (hR : Rfr w g l e) (hl : l.length ≤ 4294967296) :
    Calls Try.prog 28 #[.pointer (some ⟨g, 0, none⟩)] w (GaveR w g (rdBlk l e)) := by
  obtain ⟨A, k, c, hg, hr⟩ := id hR
  obtain ⟨c0, c1, cf⟩ := cells2 hg
  have hlen := Lib.hid hr.len
  have hlt0 := hR.lt
  clear hg
  by_cases he : e = 0
  · subst he
    have hlt := rdNum_lt l 0
    have hln := rdNum_len l 0
    have hback : (rdNum l 0).2.2 ≠ 0 → (rdNum l 0).2.1 = l := by
      unfold rdNum
      rw [if_pos rfl]
      split
      · split
        · exact fun _ => rfl
        · exact fun h => absurd rfl h
      · exact fun _ => rfl
    have hz : rdBlk l 0 = if (tk (rdNum l 0).1 (rdNum l 0).2.1 (rdNum l 0).2.2).2.2 = 0 then tk (rdNum l 0).1 (rdNum l 0).2.1 (rdNum l 0).2.2
      else ([], l, (tk (rdNum l 0).1 (rdNum l 0).2.1 (rdNum l 0).2.2).2.2) := by rw [rdBlk, if_pos rfl]
    generalize rdBlk l 0 = out at *
    have hnum := refNum_any hR hl
    generalize rdNum l 0 = q at *
    obtain ⟨n, l1, e1⟩ := q
    simp only at hlt hln hz hback
    have HZ := Lib.hid hz
    have HN := Lib.hid hnum
    have HB := Lib.hid hback
    clear hz hnum hback
    go_enter Try.func28, Try.ntmps28
    go_wp2_with fail
    refine HN.out.mono ?_; rintro x w1 ⟨rfl, hR1, hO1⟩
    obtain ⟨A1, k1, c1', hg1, hr1⟩ := id hR1
    obtain ⟨d0, d1, df⟩ := cells2 hg1
    have H1 := Lib.hid hg1
    have hlen1 := hr1.len
    clear hg1
    by_cases h1 : e1 = 0
    · subst h1
      by_cases hn : n ≤ k1
      · have hni : (n : Int) ≤ (k1 : Int) := by omega
        go_wp2_with fail
        refine (refTake_any hR1 _ (by omega)).mono ?_; rintro x w2 ⟨v, rfl, ho2, hR2, hO2⟩
        rw [Int.toNat_natCast] at ho2 hR2
        have ht : (tk n l1 0).2.2 = 0 := by rw [tk, if_pos rfl, if_pos (by omega)]
        have HT := Lib.hid ht
        clear ht
        go_wp2
        go_ret
        rw [HZ.out, if_pos HT.out]
        exact ⟨_, rfl, ho2.lower hO1.size, hR2, hO1.trans hO2⟩
      · have hni : (k1 : Int) < (n : Int) := by omega
        have ht : tk n l1 0 = ([], l1, 5) := by rw [tk, if_pos rfl, if_neg (by omega)]
        have HT := Lib.hid ht
        clear ht
        go_wp2
        go_ret
        rw [HZ.out, HT.out]
        have hO := hO1.trans ((Only.set w1 1 (.int .i64 5)).trans (Only.set _ 0 (.slice A k c)))
        exact ⟨_, rfl, World.ownsRow_nil _ _ _ _, ⟨A, k, c, set_at (set_at H1.out 1 _) 0 _, hr.only hO (Nat.le_of_lt hlt0) (Nat.le_refl _)⟩, hO⟩
    · have hd : (e1 == 0) = false := by simpa using h1
      obtain rfl := HB.out h1
      have ht : tk n l1 e1 = ([], l1, e1) := by rw [tk, if_neg h1]
      have HT := Lib.hid ht
      clear ht
      go_wp2
      go_ret
      rw [HZ.out, HT.out]
      simp only [if_neg h1]
      exact ⟨_, rfl, World.ownsRow_nil _ _ _ _, hR1, hO1⟩
  · have hd : (e == 0) = false := by simpa using he
    have hz : rdBlk l e = ([], l, e) := by rw [rdBlk, if_neg he]
    have hnum := refNum_any hR hl
    rw [rdNum, if_neg he] at hnum
    rw [hz]
    have HN := Lib.hid hnum
    clear hnum
    go_enter Try.func28, Try.ntmps28
    go_wp2_with fail
    refine HN.out.mono ?_; rintro x w1 ⟨rfl, hR1, hO1⟩
    obtain ⟨A1, k1, c1', hg1, hr1⟩ := id hR1
    obtain ⟨d0, d1, df⟩ := cells2 hg1
    clear hg1
    go_wp2
    go_ret
    exact ⟨_, rfl, World.ownsRow_nil _ _ _ _, hR1, hO1⟩

set_option maxHeartbeats 400000 in
theorem refDigest_any {w : World} {g : Nat} {l : List UInt8} {e : Int} (hR : Rfr w g l e) (hl : l.length ≤ 4294967296) :
    Calls Try.prog 32 #[.pointer (some ⟨g, 0, none⟩)] w (LeftR w g (.agg (cs8 (pad32 (tk 32 l e).1)).toArray) (tk 32 l e).2.1 (tk 32 l e).2.2) := by
  have hlt := hR.lt
  generalize hq : tk 32 l e = q
  have htk : ∀ W : World, Rfr W g l e → Calls Try.prog 31 #[.pointer (some ⟨g, 0, none⟩), .int .i64 32] W (GaveR W g q) := fun W h => by
    have := refTake_any h 32 hl
    rw [show (32 : Int).toNat = 32 from rfl, hq] at this
    exact this
  have hq32 : q.1.length ≤ 32 := by
    rw [← hq, tk]
    split
    · split
      · simp only [List.length_take]; omega
      · simp
    · simp
  clear hq
  obtain ⟨p, l2, e2⟩ := q
  simp only at hq32 ⊢
  have hpl : (cs8 (pad32 p)).length = 32 := by rw [cs8_length, pad32]; simp; omega
  go_enter Try.func32, Try.ntmps32
  go_wp2_with fail
  rw [zero32]
  generalize hz : (cs8 (List.replicate 32 0)).toArray = Z
  have hR2 : Rfr ((w.alloc (.cells Z 33)).alloc (.cells Z 33)).drew g l e := hR.below (((Below.refl _ _).alloc (Nat.le_refl _) _).alloc (by simp) _).drew
  have HZ := Lib.hid hz
  have HT := Lib.hid (htk _ hR2)
  clear hz hR2 htk
  have hZ : ∀ (W : World), Only g ((w.alloc (.cells Z 33)).alloc (.cells Z 33)).drew W → W.heap[w.heap.size + 1]? = some (.cells (cs8 (List.replicate 32 0)).toArray 33 (0, 0)) ∧ W.heap[w.heap.size]? = some (.cells Z 33 (0, 0)) := fun W h => by
    have n1 : some (w.heap.size + 1) ≠ some g := by simp; omega
    have n2 : some w.heap.size ≠ some g := by simp; omega
    refine ⟨(h.block (w.heap.size + 1) (by simp only [World.drew, World.size_alloc]; omega) n1).trans ?_, (h.block w.heap.size (by simp only [World.drew, World.size_alloc]; omega) n2).trans ?_⟩
    · rw [HZ.out]; exact heap_alloc2_new w _ _
    · exact heap_alloc2_old w _ _
  have HZ2 := Lib.hid hZ
  clear hZ
  go_region_law (first | (go_simp; go_at_call 31; refine HT.out.mono ?_; rintro x w1 ⟨v, rfl, ho1, hR1, hO1⟩; obtain ⟨A1, k1, rfl, hr1⟩ := ho1.rdN (n := p.length) rfl) | (refine step_copy_splice rfl (.tmp 4) (.tmp 6) 24 24 rfl 5 Try.underlying24 size5 _ _ _ _ _ _ rfl rfl (w.heap.size + 1) 0 (cs8 (List.replicate 32 0)) 33 (HZ2.out w1 hO1).1 (cs8 p) (by rw [cs8_length]; exact (Nat.min_eq_left (by omega)).symm) (fun hp => ⟨rfl, hr1.src hp⟩) (by rw [Nat.zero_add, cs8_length, cs8_length]; simpa using hq32) (cs8_one p) _ _ (Below.refl _ _) (Nat.le_refl _) ?_; intro w2 hw2 hb2))
  rw [splice_pad] at hw2
  have hz2 : Hid (w2.heap[w.heap.size]? = some (.cells Z 33 (0, 0))) := Lib.hid ((hb2.block w.heap.size (by omega)).trans (HZ2.out w1 hO1).2)
  have hsz : (cs8 (pad32 p)).toArray.size = 32 := by simpa using hpl
  have hzs : Z.size = 32 := by rw [← HZ.out]; simp [cs8_length]
  have HS := Lib.hid hsz
  have HZS := Lib.hid hzs
  have HPL := Lib.hid hpl
  clear hsz hzs hpl
  go_wp2_with (first | (refine wpList_load_row rfl 33 _ rfl (w.heap.size + 1) rfl 33 _ _ _ hw2.out Try.underlying33 rfl (by rw [HS.out]; exact info33) ?_) | (refine wpList_store_row rfl 33 _ _ rfl w.heap.size rfl _ rfl 33 _ hz2.out (by rw [HS.out, HZS.out]) (by rw [HS.out]; exact info33) (cs8_one _) ?_))
  refine bodyPost_ret (results_cell_row rfl _ _ w.heap.size 33 (cs8 (pad32 p)).toArray (0, 0) _ rfl (setRow_heap w2 w.heap.size _ _ 33 (0, 0) hz2.out) Try.underlying33 rfl (by rw [HS.out]; exact info33)) rfl ?_
  have hb3 := below_setRow (Below.refl w.heap.size w2) (Nat.le_refl _) (cs8 (pad32 p)).toArray
  refine ⟨rfl, ((hR1.belowB hb2 (by omega)).belowB hb3 hlt), ?_⟩
  have hO0 : Only g w ((w.alloc (.cells Z 33)).alloc (.cells Z 33)).drew := Only.of_below (((Below.refl _ _).alloc (Nat.le_refl _) _).alloc (by simp) _).drew
  exact (((hO0.trans hO1).trans_below hb2 (by omega)).trans_below hb3 (Nat.le_refl _))

/-- Which of five it is. -/
theorem pick5_any (n : Int) (w : World) : Calls Try.prog 26 #[.int .i64 n, .int .i64 5] w fun x w' => x = .returned (.int .i64 (n % 5)) ∧ w = w' := by
  have ht : (n.tmod 5 < 0 ∧ n.tmod 5 = n % 5 - 5) ∨ (0 ≤ n.tmod 5 ∧ n.tmod 5 = n % 5) := by
    have h := Int.tmod_eq_emod (a := n) (b := 5)
    by_cases hc : 0 ≤ n ∨ (5 : Int) ∣ n
    · rw [if_pos hc] at h
      exact Or.inr ⟨by omega, by omega⟩
    · rw [if_neg hc] at h
      simp only [Int.natAbs, Int.cast_ofNat_Int] at h
      exact Or.inl ⟨by omega, by omega⟩
  by_cases h : n.tmod 5 < 0
  · have hq : n.tmod 5 = n % 5 - 5 := by omega
    clear ht
    go_enter Try.func26, Try.ntmps26
    go_wp2
    go_ret
    exact ⟨rfl, rfl⟩
  · have hq : n.tmod 5 = n % 5 := by omega
    clear ht
    go_enter Try.func26, Try.ntmps26
    go_wp2
    go_ret
    exact ⟨rfl, rfl⟩
end Go.Proofs.Ytilcgnghhfiflaa
