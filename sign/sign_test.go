package sign

import (
	"bytes"
	"crypto/sha256"
	"encoding/hex"
	"math/big"
	"testing"

	"pawl/curve"
	"pawl/field"
)

func plain(s string) []byte {
	p, err := hex.DecodeString(s)
	if err != nil {
		panic(err)
	}
	return p
}

// filler has n bytes of which no two neighbours are alike.
func filler(n int) []byte {
	p := make([]byte, n)
	for i := range p {
		p[i] = byte(11*i + i>>8)
	}
	return p
}

// counting has n bytes: 0, 1 and so on.
func counting(n int) []byte {
	p := make([]byte, n)
	for i := range p {
		p[i] = byte(i)
	}
	return p
}

// hashed is the number that the chapter makes of some parts, without this package.
func hashed(parts ...string) *big.Int {
	var wide []byte
	for i := range 2 {
		h := sha256.New()
		h.Write([]byte{byte(i)})
		for _, p := range parts {
			h.Write([]byte(p))
		}
		wide = h.Sum(wide)
	}
	return new(big.Int).Mod(read(wide), count())
}

// times returns p multiplied by n, modulo the order of curve.Start.
func times(p curve.Point, n *big.Int) curve.Point {
	return curve.Times(p, [32]byte(little(new(big.Int).Mod(n, count()), 32)))
}

func start(n *big.Int) curve.Point { return times(curve.Start(), n) }

// signature joins a point and a number.
func signature(r curve.Point, s *big.Int) []byte {
	return append(curve.Bytes(r), little(s, 32)...)
}

// signed returns the signature by the secret number a, with the key and the point of the signature moved by what is given.
func signed(a, k *big.Int, moveKey, movePoint curve.Point, msg string) (public, sig []byte) {
	public = curve.Bytes(curve.Add(start(a), moveKey))
	r := curve.Add(start(k), movePoint)
	h := hashed("challenge", string(curve.Bytes(r)), string(public), msg)
	s := new(big.Int).Mul(h, a)
	return public, signature(r, s.Mod(s.Add(s, k), count()))
}

func challenge(public, sig []byte, msg string) *big.Int {
	return hashed("challenge", string(sig[:32]), string(public), msg)
}

// eighth is a point that 8 times is Origin, and no fewer times.
func eighth() curve.Point {
	p, ok := curve.Read(plain("c7176a703d4dd84fba3c0b760d10670f2a2053fa2c39ccc64ec7fd7792ac037a"))
	if !ok {
		panic("no point")
	}
	return p
}

// TestKnown has values of another program, which computes with the two numbers of a point by the formulas of the chapter.
func TestKnown(t *testing.T) {
	late := make([]byte, 1000)
	for i := range late {
		late[i] = byte(255 - i)
	}
	for _, r := range []struct {
		seed, msg           []byte
		public, first, last string
	}{
		{
			nil, nil,
			"ae6c31108f9881cf9206622f1aca3e9f4b7de389ac6d963aa2f4bad21f44415c",
			"d99fb0dfc4bb286e25102df742ffa6b7ce2b1c7d86bebbaf775e4fb812440aa4",
			"68b3c8eac7a4c69e2d69a724742f38ae25b7e4a84421230e9e76caf8bbb83305",
		},
		{
			[]byte("seed"), nil,
			"c0c9af86a607d6e8aa9f940d66482cf5c2fef1abc26bff4d3ebbf37cc5f4f2a5",
			"e0c73f58e462ef3dd19c4621c08cab389678073241c968d44350be0ec42c79cb",
			"f16a3b7d7c5454984a1bab770ec6df755dec0e64623734a21c0afdbeb351840d",
		},
		{
			nil, []byte("message"),
			"ae6c31108f9881cf9206622f1aca3e9f4b7de389ac6d963aa2f4bad21f44415c",
			"2f6ebe146e61fa49fefe3a6b43859f9256f564372ab300f36263213bd0c5dd54",
			"d2e890859d3df52c62b5859f6e79f7eb6b762a5fa5abeb3a9260e5a78d6cc002",
		},
		{
			counting(32), []byte("abc"),
			"76557fdda8583679a7b4636dcbfbbdd07947a49b826b21e3db61dd84ac5ee36f",
			"c3ae125762fc6eb9e08d74f54ec1119b65e5e5843c3cfcd8de13bc9c1f787a7b",
			"7e709f964df2fd12506ca22b02e2afcd4a3ad80b913c2687cdb09149b896a405",
		},
		{
			counting(100), late,
			"4e137c14d9e5ad6c3fbf2bd2dace948c4ea89f5899ee094bb64e12f36d198868",
			"336d6eeae2343005aa2f87683b8ccf6426f626002685357e9ff7c6e86b29ae90",
			"a92907ff8aeea74e4202e7bc16e9851493b78213386405d289860a874f82db0d",
		},
	} {
		if got := Public(r.seed); !bytes.Equal(got, plain(r.public)) {
			t.Errorf("Public(%x) = %x", r.seed, got)
		}
		sig := plain(r.first + r.last)
		if got := Sign(r.seed, r.msg); !bytes.Equal(got, sig) {
			t.Errorf("Sign(%x, %x) = %x", r.seed, r.msg, got)
		}
		if !Check(plain(r.public), r.msg, sig) {
			t.Errorf("the signature of %x by %x is refused", r.msg, r.seed)
		}
	}
}

// TestSign is held against the chapter's equation with math/big; Check is to take what Sign made (P6.2).
func TestSign(t *testing.T) {
	var publics, sigs [][]byte
	lengths := []int{0, 1, 31, 32, 33, 55, 64, 100, 300}
	for i, n := range lengths {
		for k, m := range lengths {
			seed, msg := filler(n), filler(m)
			a := hashed("secret", string(seed))
			public, want := signed(a, hashed("nonce", string(seed), string(msg)), curve.Origin(), curve.Origin(), string(msg))
			if got := Public(seed); !bytes.Equal(got, public) {
				t.Fatalf("Public of %d bytes = %x", n, got)
			}
			sig := Sign(seed, msg)
			if !bytes.Equal(sig, want) {
				t.Fatalf("Sign by %d bytes, of %d = %x", n, m, sig)
			}
			if !Check(public, msg, sig) {
				t.Fatalf("the signature by %d bytes, of %d is refused", n, m)
			}
			if i == k {
				publics, sigs = append(publics, public), append(sigs, sig)
			}
		}
	}
	for i, public := range publics {
		for k, sig := range sigs {
			for m, n := range lengths {
				if want := i == k && k == m; Check(public, filler(n), sig) != want {
					t.Errorf("Check of the key %d, the message %d, the signature %d = %v", i, m, k, !want)
				}
			}
		}
	}
}

func TestEmptyIsNil(t *testing.T) {
	none := []byte{}
	if !bytes.Equal(Public(nil), Public(none)) || !bytes.Equal(Sign(nil, nil), Sign(none, none)) {
		t.Error("nil and empty are unlike")
	}
	if !Check(Public(nil), none, Sign(none, nil)) {
		t.Error("an empty message is refused")
	}
	if Check(nil, nil, nil) || Check(none, none, none) || Check(nil, nil, Sign(nil, nil)) || Check(Public(nil), nil, nil) {
		t.Error("nothing is taken")
	}
}

// TestTurnedBits turns each bit of what Check is given.
func TestTurnedBits(t *testing.T) {
	public, msg, sig := Public([]byte("seed")), []byte("a message"), Sign([]byte("seed"), []byte("a message"))
	if !Check(public, msg, sig) {
		t.Fatal("the signature is refused")
	}
	for _, p := range [][]byte{public, msg, sig} {
		for i := range 8 * len(p) {
			p[i/8] ^= 1 << (i % 8)
			if Check(public, msg, sig) {
				t.Errorf("the bit %d of %d bytes is turned", i, len(p))
			}
			p[i/8] ^= 1 << (i % 8)
		}
	}
	if !Check(public, msg, sig) {
		t.Error("Check is another one the next time")
	}
}

func TestOtherLengths(t *testing.T) {
	msg := []byte("a message")
	public, sig := Public(nil), Sign(nil, msg)
	longKey, long := append(bytes.Clone(public), public...), append(bytes.Clone(sig), sig...)
	for n := range len(long) + 1 {
		if Check(public, msg, long[:n]) != (n == 64) {
			t.Errorf("a signature of %d bytes", n)
		}
	}
	for n := range len(longKey) + 1 {
		if Check(longKey[:n], msg, sig) != (n == 32) {
			t.Errorf("a key of %d bytes", n)
		}
	}
	for n := range len(msg) {
		if Check(public, msg[:n], sig) {
			t.Errorf("the first %d bytes of the message", n)
		}
	}
	if Check(public, append(bytes.Clone(msg), 0), sig) {
		t.Error("a message with a byte more")
	}
}

// TestNumberTooGreat has the same numbers modulo n, from n on.
func TestNumberTooGreat(t *testing.T) {
	seeds := [][]byte{nil, []byte("a"), []byte("b"), []byte("seed")}
	for _, seed := range seeds {
		public, sig := Public(seed), Sign(seed, nil)
		for i := range int64(15) {
			s := new(big.Int).Add(read(sig[32:]), new(big.Int).Mul(count(), whole(i)))
			p := append(bytes.Clone(sig[:32]), little(s, 32)...)
			if Check(public, nil, p) != (i == 0) {
				t.Errorf("a number and n %d times", i)
			}
		}
	}
}

// TestNumberAroundLimit has signatures whose number is 0, n - 1 and so on: by the origin as a key, the number and its multiple of curve.Start are one.
func TestNumberAroundLimit(t *testing.T) {
	public := curve.Bytes(curve.Origin())
	for i := int64(-3); i <= 3; i++ {
		s := new(big.Int).Add(count(), whole(i))
		if Check(public, nil, signature(start(s), s)) != (i < 0) {
			t.Errorf("the number n and %d", i)
		}
		if i >= 0 && !Check(public, nil, signature(start(whole(i)), whole(i))) {
			t.Errorf("the number %d", i)
		}
	}
	for _, bit := range []uint{253, 254, 255} {
		s := new(big.Int).Lsh(whole(1), bit)
		if Check(public, nil, signature(start(s), s)) {
			t.Errorf("the number 2 to the %d", bit)
		}
	}
}

// TestNoPoint has keys and signatures that are no points, though the equation holds for the points with the same numbers.
func TestNoPoint(t *testing.T) {
	origin := curve.Bytes(curve.Origin())
	zero := make([]byte, 32)
	if !Check(origin, nil, append(bytes.Clone(origin), zero...)) {
		t.Error("the origin is a point")
	}
	odd := bytes.Clone(origin)
	odd[31] |= 0x80
	beyond := bytes.Repeat([]byte{0xff}, 32) // p + 1
	beyond[0], beyond[31] = 0xee, 0x7f
	for _, p := range [][]byte{odd, beyond} {
		if Check(p, nil, append(bytes.Clone(origin), zero...)) {
			t.Errorf("the key %x is taken", p)
		}
		if Check(origin, nil, append(bytes.Clone(p), zero...)) {
			t.Errorf("the point %x is taken", p)
		}
	}
	public, sig := Public(nil), Sign(nil, nil)
	for y := range byte(20) {
		p := append([]byte{y}, make([]byte, 31)...)
		if _, ok := curve.At(field.Num(uint32(y)), false); ok {
			continue
		}
		if Check(p, nil, sig) || Check(public, nil, append(p, sig[32:]...)) {
			t.Errorf("there is no point with the y %d", y)
		}
	}
}

// TestSmallOrder moves the key, the point of the signature, or both, by a point of small order: the equation is to hold as it stands, and with the challenge modulo n.
func TestSmallOrder(t *testing.T) {
	var small []curve.Point
	for i := range 8 {
		small = append(small, curve.Times(eighth(), [32]byte{byte(i)}))
	}
	a, taken, refused := whole(1234567), 0, 0
	for i, p := range small {
		for k, q := range small {
			public, sig := signed(a, whole(int64(98765+8*i+k)), p, q, "text")
			h := challenge(public, sig, "text")
			// s B = k B + h a B; the moves must come to nothing: q + h p.
			rest := new(big.Int).Mul(h, whole(int64(i)))
			want := rest.Add(rest, whole(int64(k))).Mod(rest, whole(8)).Sign() == 0
			if want {
				taken++
			} else {
				refused++
			}
			if Check(public, []byte("text"), sig) != want {
				t.Errorf("the key moved by %d eighths, the point by %d: %v", i, k, !want)
			}
		}
	}
	if taken < 5 || refused < 30 {
		t.Errorf("too few of a kind: %d, %d", taken, refused)
	}
}

// TestForged has signatures that hold for another challenge.
func TestForged(t *testing.T) {
	a, k, msg := hashed("secret", "seed"), whole(77), "text"
	public := Public([]byte("seed"))
	r := curve.Bytes(start(k))
	for i, h := range []*big.Int{
		whole(0), whole(1), hashed("challenge", string(r), msg), hashed("challenge", string(public), msg),
		hashed("challenge", string(public), string(r), msg), hashed("challenge", string(r), string(public)),
		hashed(string(r), string(public), msg), hashed("nonce", string(r), string(public), msg),
	} {
		s := new(big.Int).Mul(h, a)
		if Check(public, []byte(msg), signature(start(k), s.Mod(s.Add(s, k), count()))) {
			t.Errorf("the challenge %d is taken", i)
		}
	}
	if _, sig := signed(a, k, curve.Origin(), curve.Origin(), msg); !Check(public, []byte(msg), sig) {
		t.Error("any nonce is as good as the one that Sign takes")
	}
}

// TestOnlyArguments holds P2 and the rule of memory against this package.
func TestOnlyArguments(t *testing.T) {
	all := filler(200)
	seed, msg := all[:32], all[40:90]
	answers := func() [][]byte { return [][]byte{Public(seed), Sign(seed, msg)} }
	first := answers()
	for i, p := range answers() {
		if !bytes.Equal(p, first[i]) || cap(p) != len(p) {
			t.Errorf("answer %d is another one the next time, or can grow", i)
		}
		clear(p)
	}
	given := append(bytes.Clone(first[0]), first[1]...)
	kept := bytes.Clone(given)
	if !Check(given[:32], msg, given[32:]) || !bytes.Equal(given, kept) || !bytes.Equal(all, filler(200)) {
		t.Error("Check, or an argument was changed")
	}
	clear(all)
	if !bytes.Equal(append(bytes.Clone(first[0]), first[1]...), kept) {
		t.Error("an answer changed with an argument or with another answer")
	}
}
