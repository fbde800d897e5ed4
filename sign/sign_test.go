package sign

import (
	"bytes"
	"crypto/ed25519"
	"crypto/sha512"
	"encoding/hex"
	"math/big"
	"slices"
	"sync"
	"testing"

	"headwater/api"
	"headwater/curve"
	"headwater/scalar"
)

// thrown are bytes of which all bits are thrown about.
func thrown(i int) [32]byte { return sha512.Sum512_256([]byte{byte(i), byte(i >> 8), 6}) }

func seeds() [][32]byte {
	full := [32]byte(bytes.Repeat([]byte{255}, 32))
	list := [][32]byte{{}, {1}, {31: 1}, {31: 128}, full}
	for i := range 12 {
		list = append(list, thrown(i))
	}
	return list
}

// texts are of all lengths at which a sum's pieces change, behind 0, 32 and 64 bytes, and beside these.
func texts() [][]byte {
	var list [][]byte
	for _, n := range []int{0, 1, 2, 15, 16, 46, 47, 48, 49, 63, 64, 65, 79, 80, 95, 96, 111, 112, 127, 128, 129, 175, 176, 511, 512, 5000} {
		b := make([]byte, n)
		for i := range b {
			b[i] = byte(i*i + n)
		}
		list = append(list, b)
	}
	return list
}

func private(seed [32]byte) ed25519.PrivateKey { return ed25519.NewKeyFromSeed(seed[:]) }

// number is what bytes are, the low one first.
func number(b []byte) *big.Int {
	b = slices.Clone(b)
	slices.Reverse(b)
	return new(big.Int).SetBytes(b)
}

func num(n *big.Int) api.Num {
	b := n.FillBytes(make([]byte, 32))
	slices.Reverse(b)
	return api.Num(b)
}

func order() *big.Int {
	n, _ := new(big.Int).SetString("27742317777372353535851937790883648493", 10)
	return n.Add(n, new(big.Int).Lsh(big.NewInt(1), 252))
}

// challenged is the k of the chapter.
func challenged(first, k api.Key, b []byte) api.Num {
	h := sha512.Sum512(slices.Concat(first[:], k[:], b))
	return num(new(big.Int).Mod(number(h[:]), order()))
}

func together(first api.Key, number api.Num) api.Sig {
	return api.Sig(slices.Concat(first[:], number[:]))
}

func bytesOf(t *testing.T, p api.Point) api.Key {
	t.Helper()
	b, fault := curve.Bytes(p)
	if fault != api.OK {
		t.Fatalf("no point: %x", p)
	}
	return api.Key(b)
}

// smalls are the eight points of which eight are nought: the multiples of one of which fewer are not.
func smalls(t *testing.T) []api.Point {
	t.Helper()
	for i := range 40 {
		p, fault := curve.Read(thrown(i))
		if p = curve.Mul(scalar.L(), p); fault != api.OK || curve.Mul(api.Num{4}, p) == curve.Zero() {
			continue
		}
		list := []api.Point{curve.Zero()}
		for range 7 {
			list = append(list, curve.Add(list[len(list)-1], p))
		}
		return list
	}
	t.Fatal("no point of order 8")
	return nil
}

// noPoints are bytes that are no point's: no X, a Y that is not canonical, an X of 0 that is said to be Odd.
func noPoints(t *testing.T) []api.Key {
	t.Helper()
	p := new(big.Int).Sub(new(big.Int).Lsh(big.NewInt(1), 255), big.NewInt(19))
	list := []api.Key{{0: 2}, {0: 2, 31: 128}, {0: 1, 31: 128}, api.Key(bytes.Repeat([]byte{255}, 32))}
	for i := range int64(19) {
		n := api.Key(num(new(big.Int).Add(p, big.NewInt(i))))
		list = append(list, n)
		n[31] |= 128
		list = append(list, n)
	}
	lastZero := api.Key(num(new(big.Int).Sub(p, big.NewInt(1))))
	lastZero[31] |= 128
	list = append(list, lastZero)
	for _, k := range list {
		if _, fault := curve.Read(k); fault == api.OK {
			t.Fatalf("a point: %x", k)
		}
	}
	return list
}

func unhex(t *testing.T, s string) []byte {
	t.Helper()
	b, err := hex.DecodeString(s)
	if err != nil {
		t.Fatal(err)
	}
	return b
}

func TestExamples(t *testing.T) {
	abc := sha512.Sum512([]byte("abc"))
	for _, x := range []struct{ seed, key, text, sig string }{
		{"9d61b19deffd5a60ba844af492ec2cc44449c5697b326919703bac031cae7f60", "d75a980182b10ab7d54bfed3c964073a0ee172f3daa62325af021a68f707511a", "", "e5564300c360ac729086e2cc806e828a84877f1eb8e5d974d873e065224901555fb8821590a33bacc61e39701cf9b46bd25bf5f0595bbe24655141438e7a100b"},
		{"4ccd089b28ff96da9db6c346ec114e0f5b8a319f35aba624da8cf6ed4fb8a6fb", "3d4017c3e843895a92b70aa74d1b7ebc9c982ccf2ec4968cc0cd55f12af4660c", "72", "92a009a9f0d4cab8720e820b5f642540a2b27b5416503f8fb3762223ebdb69da085ac1e43e15996e458f3613d0f11d8c387b2eaeb4302aeeb00d291612bb0c00"},
		{"c5aa8df43f9f837bedb7442f31dcb7b166d38535076f094b85ce3a2e0b4458f7", "fc51cd8e6218a1a38da47ed00230f0580816ed13ba3303ac5deb911548908025", "af82", "6291d657deec24024827e69c3abe01a30ce548a284743a445e3680d7db5ac3ac18ff9b538d16f290ae67f760984dc6594a7c15e9716ed28dc027beceea1ec40a"},
		{"833fe62409237b9d62ec77587520911e9a759cec1d19755b7da901b96dca3d42", "ec172b93ad5e563bf4932c70e1245034c35467ef2efd4d64ebf819683467e2bf", hex.EncodeToString(abc[:]), "dc2a4459e7369633a52b1bf277839a00201009a3efbf3ecb69bea2186c26b58909351fc9ac90b3ecfdfbc7c66431e0303dca179c138ac17ad9bef1177331a704"},
	} {
		seed, text := [32]byte(unhex(t, x.seed)), unhex(t, x.text)
		k, s := Key(seed), Sign(seed, text)
		if hex.EncodeToString(k[:]) != x.key || hex.EncodeToString(s[:]) != x.sig {
			t.Errorf("%s: %x %x", x.seed, k, s)
		}
		if !Good(k, text, s) || !Valid(k) {
			t.Errorf("%s: not good, or not valid", x.seed)
		}
	}
}

func TestP61Secret(t *testing.T) {
	for _, seed := range seeds() {
		h := sha512.Sum512(seed[:])
		want := api.Num(h[:32])
		want[0] = want[0] / 8 * 8
		want[31] = want[31]%64 + 64
		if got := Secret(seed); got != want {
			t.Errorf("%x: %x, want %x", seed, got, want)
		}
	}
}

func TestP61Key(t *testing.T) {
	for _, seed := range seeds() {
		want := api.Key(private(seed).Public().(ed25519.PublicKey))
		if got := Key(seed); got != want {
			t.Errorf("%x: %x, want %x", seed, got, want)
		}
		if times := bytesOf(t, curve.Mul(Secret(seed), curve.Base())); times != want {
			t.Errorf("%x: the base times its secret number is %x", seed, times)
		}
		if !Valid(want) {
			t.Errorf("%x: its key isn't valid", seed)
		}
	}
}

func TestP61Sign(t *testing.T) {
	all := seeds()
	for i, text := range texts() {
		for _, seed := range [][32]byte{all[i%len(all)], thrown(100 + i)} {
			want := api.Sig(ed25519.Sign(private(seed), text))
			if got := Sign(seed, text); got != want {
				t.Errorf("%x, %d bytes: %x, want %x", seed, len(text), got, want)
			}
			if !Good(Key(seed), text, want) {
				t.Errorf("%x, %d bytes: not good", seed, len(text))
			}
		}
	}
}

func TestP62SeedAndBytesAlone(t *testing.T) {
	seed, text := thrown(1), []byte("some bytes")
	s := Sign(seed, text)
	Sign(thrown(2), text)
	Good(Key(thrown(2)), nil, api.Sig{})
	if Sign(seed, text) != s {
		t.Error("another signature of the same")
	}
	if Sign(seed, nil) != Sign(seed, []byte{}) {
		t.Error("nil is not as empty bytes")
	}
	if !Good(Key(seed), nil, Sign(seed, []byte{})) || !Good(Key(seed), []byte{}, Sign(seed, nil)) {
		t.Error("not good of nil, or of empty bytes")
	}
}

func TestP62EveryBitCounts(t *testing.T) {
	seed, text := thrown(3), []byte{1, 2, 3}
	k, s := Key(seed), Sign(seed, text)
	for i := range 8 * len(s) {
		other := s
		other[i/8] ^= 1 << (i % 8)
		if Good(k, text, other) {
			t.Errorf("good with bit %d of the signature changed", i)
		}
	}
	for i := range 8 * len(k) {
		other := k
		other[i/8] ^= 1 << (i % 8)
		if Good(other, text, s) {
			t.Errorf("good with bit %d of the key changed", i)
		}
	}
	for i := range 8 * len(text) {
		other := slices.Clone(text)
		other[i/8] ^= 1 << (i % 8)
		if Good(k, other, s) {
			t.Errorf("good with bit %d of the bytes changed", i)
		}
	}
	for _, other := range [][]byte{nil, {1, 2}, {1, 2, 3, 0}, {0, 1, 2, 3}} {
		if Good(k, other, s) {
			t.Errorf("good of %v", other)
		}
	}
}

func TestP62NumberIsCanonical(t *testing.T) {
	for i := range 8 {
		seed := thrown(i)
		k, s := Key(seed), Sign(seed, nil)
		n := number(s[32:])
		for times := int64(1); ; times++ {
			more := new(big.Int).Add(n, new(big.Int).Mul(order(), big.NewInt(times)))
			if more.BitLen() > 256 {
				break
			}
			if Good(k, nil, together(api.Key(s[:32]), num(more))) {
				t.Errorf("good with S and %d L together", times)
			}
		}
	}
}

// TestP62NumberAtTheEdge: with a key that is nought any S is good, as long as it is canonical.
func TestP62NumberAtTheEdge(t *testing.T) {
	nought := api.Key{1}
	for by := int64(-3); by <= 3; by++ {
		s := num(new(big.Int).Add(order(), big.NewInt(by)))
		first := bytesOf(t, curve.Mul(s, curve.Base()))
		if got := Good(nought, []byte("any"), together(first, s)); got != (by < 0) {
			t.Errorf("S of L and %d: %v", by, got)
		}
	}
	if !Good(nought, nil, together(nought, api.Num{})) {
		t.Error("S 0 isn't good")
	}
}

// TestP62SmallParts: keys and first parts to which Small points were added; held against the chapter's words and the library.
func TestP62SmallParts(t *testing.T) {
	secret, r := Secret(thrown(4)), scalar.Mul(api.Num(thrown(5)), api.Num{1})
	list := smalls(t)
	base := curve.Base()
	found := map[bool]int{}
	for i, ofKey := range list {
		for j, ofFirst := range list {
			k := bytesOf(t, curve.Add(curve.Mul(secret, base), ofKey))
			first := bytesOf(t, curve.Add(curve.Mul(r, base), ofFirst))
			for b := range 4 {
				text := []byte{byte(b)}
				c := challenged(first, k, text)
				s := together(first, scalar.MulAdd(c, secret, r))
				want := curve.Add(ofFirst, curve.Mul(c, ofKey)) == curve.Zero()
				if got := Good(k, text, s); got != want || ed25519.Verify(k[:], text, s[:]) != want {
					t.Errorf("Small points %d and %d, text %d: %v, want %v", i, j, b, got, want)
				}
				found[want]++
			}
		}
	}
	if found[true] < 10 || found[false] < 10 {
		t.Errorf("not both kinds: %v", found)
	}
}

// TestP62ByChance: a Small key's signature is good for other bytes just where k is the same modulo the key's order.
func TestP62ByChance(t *testing.T) {
	r := scalar.Mul(api.Num(thrown(6)), api.Num{1})
	first := bytesOf(t, curve.Mul(r, curve.Base()))
	s := together(first, r)
	for i, p := range smalls(t) {
		k := bytesOf(t, p)
		for b := range 24 {
			text := []byte{byte(b), byte(i)}
			c := challenged(first, k, text)
			if want := i*int(c[0])%8 == 0; Good(k, text, s) != want {
				t.Errorf("%d times a point of order 8, text %d: not %v", i, b, want)
			}
		}
	}
}

func TestP61GoodOfNoPoint(t *testing.T) {
	seed := thrown(7)
	k, s := Key(seed), Sign(seed, nil)
	for _, bad := range noPoints(t) {
		if Good(bad, nil, s) {
			t.Errorf("good for the key %x", bad)
		}
		if Good(k, nil, together(bad, api.Num(s[32:]))) {
			t.Errorf("good with R %x", bad)
		}
		if Good(bad, nil, together(bad, api.Num{})) {
			t.Errorf("good for the key and with R %x", bad)
		}
	}
}

// otherBytes are bytes that a loose reader takes for points: nought and the point of order 2, each in another way.
func otherBytes(t *testing.T) map[api.Key]api.Key {
	t.Helper()
	p := new(big.Int).Sub(new(big.Int).Lsh(big.NewInt(1), 255), big.NewInt(19))
	minus := api.Key(num(new(big.Int).Sub(p, big.NewInt(1))))
	odd := minus
	odd[31] |= 128
	oddNought := api.Key{0: 1, 31: 128}
	above := api.Key(num(new(big.Int).Add(p, big.NewInt(1))))
	oddAbove := above
	oddAbove[31] |= 128
	return map[api.Key]api.Key{odd: minus, oddNought: {1}, above: {1}, oddAbove: {1}}
}

func TestP61GoodIsStrict(t *testing.T) {
	for loose, strict := range otherBytes(t) {
		for _, first := range []api.Key{{1}, bytesOf(t, curve.Base())} {
			for b := range 8 {
				text := []byte{byte(b)}
				if Good(loose, text, together(first, api.Num{})) || Good(loose, text, together(first, api.Num{1})) {
					t.Errorf("good for the key %x", loose)
				}
			}
		}
		for b := range 8 {
			text := []byte{byte(b)}
			if Good(strict, text, together(loose, api.Num{})) || Good(api.Key{1}, text, together(loose, api.Num{})) {
				t.Errorf("good with R %x", loose)
			}
		}
	}
}

// TestP61GoodAsTheLibrary: of keys that are points' bytes the library asks for the same.
func TestP61GoodAsTheLibrary(t *testing.T) {
	for i := range 60 {
		seed, text := thrown(i%5), thrown(i)
		k, s := Key(seed), Sign(seed, text[:i%33])
		asked := text[:]
		if i%3 == 0 {
			asked = text[:i%33]
		}
		if i%4 == 1 {
			k = Key(thrown(i%7 + 1))
		}
		if want := ed25519.Verify(k[:], asked, s[:]); Good(k, asked, s) != want {
			t.Errorf("%d: not %v", i, want)
		}
	}
}

func TestP61Valid(t *testing.T) {
	for i, p := range smalls(t) {
		if Valid(bytesOf(t, p)) {
			t.Errorf("%d times a point of order 8 is valid", i)
		}
		if !Valid(bytesOf(t, curve.Add(curve.Base(), p))) {
			t.Errorf("the base and %d times a point of order 8 is not valid", i)
		}
	}
	for _, k := range noPoints(t) {
		if Valid(k) {
			t.Errorf("no point is valid: %x", k)
		}
	}
	for loose := range otherBytes(t) {
		if Valid(loose) {
			t.Errorf("%x is valid", loose)
		}
	}
	found := map[bool]int{}
	for i := range 60 {
		k := api.Key(thrown(i))
		_, fault := curve.Read(k)
		if Valid(k) != (fault == api.OK) {
			t.Errorf("%x: not %v", k, fault == api.OK)
		}
		found[Valid(k)]++
	}
	if len(found) < 2 {
		t.Errorf("not both kinds: %v", found)
	}
}

func TestMemoryLooksOnce(t *testing.T) {
	m := newMemory()
	for _, k := range []api.Key{Key(thrown(1)), {2}, {0: 1, 31: 128}, {1}} {
		p, fault := curve.Read(k)
		for range 2 {
			if q, f := m.read(k); q != p || f != fault {
				t.Errorf("%x: %x, %d, want %x, %d", k, q, f, p, fault)
			}
		}
		if m.found[k] != (finding{p, fault}) {
			t.Errorf("%x was not remembered", k)
		}
		other := curve.Add(curve.Base(), p)
		m.found[k] = finding{point: other, fault: api.ErrState}
		if q, f := m.read(k); q != other || f != api.ErrState {
			t.Errorf("%x was looked at again", k)
		}
	}
	if len(newMemory().found) != 0 {
		t.Error("one memory shows in another one")
	}
}

// TestNothingIsChanged: what is handed in stays as it is, its spare room too.
func TestNothingIsChanged(t *testing.T) {
	whole := bytes.Repeat([]byte{7}, 300)
	for _, n := range []int{0, 1, 64, 128, 200} {
		s := Sign(thrown(1), whole[:n])
		if !Good(Key(thrown(1)), whole[:n:n], s) {
			t.Errorf("%d: spare room counts", n)
		}
	}
	if !bytes.Equal(whole, bytes.Repeat([]byte{7}, 300)) {
		t.Error("the bytes were changed")
	}
}

func TestT6AnyArguments(t *testing.T) {
	kinds := []byte{0, 1, 127, 128, 255}
	for _, x := range kinds {
		for _, y := range kinds {
			seed := [32]byte(bytes.Repeat([]byte{x}, 32))
			s := api.Sig(slices.Concat(bytes.Repeat([]byte{x}, 32), bytes.Repeat([]byte{y}, 32)))
			Good(api.Key(seed), nil, s)
			Good(api.Key(bytes.Repeat([]byte{y}, 32)), seed[:], s)
			Valid(api.Key(seed))
			if !Good(Key(seed), s[:], Sign(seed, s[:])) || Secret(seed) == (api.Num{}) {
				t.Errorf("%d, %d: not good", x, y)
			}
		}
	}
}

func TestT6ManyAtOnce(t *testing.T) {
	var all sync.WaitGroup
	for i := range 8 {
		all.Go(func() {
			seed := thrown(i % 3)
			k, s := Key(seed), Sign(seed, seed[:])
			for range 4 {
				if !Good(k, seed[:], s) || Good(k, nil, s) {
					t.Errorf("%d: another answer", i)
				}
			}
		})
	}
	all.Wait()
}
