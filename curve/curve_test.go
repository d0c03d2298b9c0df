package curve

import (
	"bytes"
	"crypto/ecdh"
	"math/big"
	"math/rand"
	"testing"

	"pawl/field"
)

func TestClamp(t *testing.T) {
	ones := bytes.Repeat([]byte{0xff}, 40)
	rows := []struct {
		p    []byte
		want string
	}{
		{nil, "0000000000000000000000000000000000000000000000000000000000000040"},
		{[]byte{}, "0000000000000000000000000000000000000000000000000000000000000040"},
		{[]byte{7}, "0000000000000000000000000000000000000000000000000000000000000040"},
		{[]byte{8, 7, 0xff}, "0807ff0000000000000000000000000000000000000000000000000000000040"},
		{ones[:31], "f8ffffffffffffffffffffffffffffffffffffffffffffffffffffffffffff40"},
		{ones[:32], "f8ffffffffffffffffffffffffffffffffffffffffffffffffffffffffffff7f"},
		{ones, "f8ffffffffffffffffffffffffffffffffffffffffffffffffffffffffffff7f"},
		{append(make([]byte, 31), 0x80, 0xff), "0000000000000000000000000000000000000000000000000000000000000040"},
		{append(make([]byte, 31), 0x3f), "000000000000000000000000000000000000000000000000000000000000007f"},
	}
	for _, r := range rows {
		got := Clamp(r.p)
		same(t, "Clamp", got[:], r.want)
	}
}

// TestKnown has the values of RFC 7748, sections 5.2 and 6.1.
func TestKnown(t *testing.T) {
	same(t, "Mul", Mul(
		plain("a546e36bf0527c9d3b16154b82465edd62144c0ac1fc5a18506a2244ba449ac4"),
		plain("e6db6867583030db3594c1a424b15f7c726624ec26b3353b10a903a6d0ab1c4c")),
		"c3da55379de9c6908e94ea4df28d084f32eccf03491c71f754b4075577a28552")
	same(t, "Mul", Mul(
		plain("4b66e9d4d1b4673c5ad22691957d6af5c11b6421e0ea01d42ca4169e7918ba0d"),
		plain("e5210f12786811d3f4b7959d0538ae2c31dbe7106fc03c3efc4cd549c715a493")),
		"95cbde9476e8907d7aade45cb4b873f88b595a68799fa152e6f8f7647aac7957")

	alice := plain("77076d0a7318a57d3c16c17251b26645df4c2f87ebc0992ab177fba51db92c2a")
	bob := plain("5dab087e624a8a4b79e17f8b83800ee66f3bb1292618b6fd1c2f8b27ff88e0eb")
	same(t, "Base", Base(alice), "8520f0098930a754748b7ddcb43ef75a0dbf3a0d26381af4eba4a98eaa9b4e6a")
	same(t, "Base", Base(bob), "de9edb7d7b7dc1b4d35b61c2ece435373f8343c85b78674dadfc7e146f882b4f")
	both := "4a5d9d5ba4ce2de1728e3bf480350f25e07e21c947d19e3376f09b3c1e161742"
	same(t, "Mul", Mul(alice, Base(bob)), both)
	same(t, "Mul", Mul(bob, Base(alice)), both)
}

// TestRepeated has the values of RFC 7748, section 5.2, for repeated calls.
func TestRepeated(t *testing.T) {
	secret, point := append([]byte{9}, make([]byte, 31)...), append([]byte{9}, make([]byte, 31)...)
	for i := range 1000 {
		secret, point = Mul(secret, point), secret
		if i == 0 {
			same(t, "once", secret, "422c8e7a6227d7bca1350b3e2bb7279f7897b87bb6854b783c60e80311ae3079")
		}
	}
	same(t, "1000 times", secret, "684cf59ba83309552800ef566f2f4d3c1c3887c49360e3875f2eb94d99532c51")
}

// points has points of every kind: on the curve and on its twist, near the modulus, with the highest bit, of small order.
func points(source *rand.Rand) [][]byte {
	var l [][]byte
	add := func(n *big.Int) {
		p := little(n)
		l = append(l, bytes.Clone(p[:]))
		p[31] ^= 0x80
		l = append(l, bytes.Clone(p[:]))
	}
	for i := int64(-4); i < 19; i++ {
		add(new(big.Int).Add(modulus(), whole(i)))
	}
	for i := range int64(12) {
		add(whole(i))
	}
	for _, s := range []string{
		"e0eb7a7c3b41b8ae1656e3faf19fc46ada098deb9c32b1fd866205165f49b800",
		"5f9c95bca3508c24b1d0b1559c83ef5b04445cc4581c8e86d8224eddd09f1157",
	} {
		add(number(plain(s)))
	}
	for range 60 {
		p := make([]byte, 32)
		source.Read(p)
		l = append(l, p)
	}
	return l
}

// TestMul is held against the Go library, which refuses what comes to 0.
func TestMul(t *testing.T) {
	source := rand.New(rand.NewSource(11))
	zeros := 0
	for _, point := range points(source) {
		secret := make([]byte, 32)
		source.Read(secret)
		key, err := ecdh.X25519().NewPrivateKey(secret)
		if err != nil {
			t.Fatal(err)
		}
		public, err := ecdh.X25519().NewPublicKey(point)
		if err != nil {
			t.Fatal(err)
		}
		want, err := key.ECDH(public)
		if err != nil {
			zeros++
			want = make([]byte, 32)
		}
		if got := Mul(secret, point); !bytes.Equal(got, want) {
			t.Errorf("Mul(%x, %x) = %x, not %x", secret, point, got, want)
		}
		if got := Base(secret); !bytes.Equal(got, key.PublicKey().Bytes()) {
			t.Errorf("Base(%x) = %x", secret, got)
		}
	}
	if zeros < 8 {
		t.Errorf("only %d points of small order", zeros)
	}
}

func TestPointOfOtherLength(t *testing.T) {
	secret, zero := []byte("any secret"), make([]byte, 32)
	long := bytes.Repeat([]byte{9}, 40)
	for n := range long {
		got := Mul(secret, long[:n])
		if bytes.Equal(got, zero) != (n != 32) || len(got) != 32 {
			t.Errorf("Mul with a point of %d bytes = %x", n, got)
		}
	}
	if got := Mul(secret, nil); !bytes.Equal(got, zero) {
		t.Errorf("Mul with no point = %x", got)
	}
}

func TestSecretOfOtherLength(t *testing.T) {
	long := bytes.Repeat([]byte{0xa7}, 40)
	point := plain("e6db6867583030db3594c1a424b15f7c726624ec26b3353b10a903a6d0ab1c4c")
	for _, n := range []int{0, 1, 5, 31, 32, 33, 40} {
		secret := make([]byte, 32)
		copy(secret, long[:n])
		if !bytes.Equal(Mul(long[:n], point), Mul(secret, point)) || !bytes.Equal(Base(long[:n]), Base(secret)) {
			t.Errorf("a secret of %d bytes", n)
		}
		clamped := Clamp(long[:n])
		if !bytes.Equal(Mul(long[:n], point), Mul(clamped[:], point)) {
			t.Errorf("a secret of %d bytes, clamped", n)
		}
	}
	if !bytes.Equal(Base(nil), Base(make([]byte, 32))) || !bytes.Equal(Base([]byte{8}), Base([]byte{15})) {
		t.Error("Base of a secret that is not clamped")
	}
}

// TestOnlyArguments holds P2 and the rule of memory against this package.
func TestOnlyArguments(t *testing.T) {
	given := bytes.Repeat([]byte{0x66}, 40)
	answers := func() [][]byte {
		clamped := Clamp(given)
		p, _ := Read(given[:32])
		return [][]byte{
			clamped[:], Mul(given, given[:32]), Base(given), Bytes(p),
			Bytes(Times(p, clamped)), Bytes(Add(p, Start())), Bytes(Neg(p)), Bytes(Origin()),
		}
	}
	first := answers()
	for i, p := range answers() {
		if !bytes.Equal(p, first[i]) || len(p) != 32 {
			t.Errorf("answer %d is another one the next time", i)
		}
		clear(p)
	}
	for i, p := range answers() {
		if !bytes.Equal(p, first[i]) {
			t.Errorf("answer %d changed with one given before", i)
		}
	}
	if !bytes.Equal(given, bytes.Repeat([]byte{0x66}, 40)) {
		t.Error("an argument was changed")
	}
	p, _ := Read(given[:32])
	kept := Bytes(p)
	clear(given)
	if !bytes.Equal(Bytes(p), kept) {
		t.Error("a point changed with the bytes it was read from")
	}
}

// TestForeignPoints holds P1 against this package: also a point that no function made is taken without a panic.
func TestForeignPoints(t *testing.T) {
	const most = ^uint64(0)
	great := field.Elem{most, most, most, most, most}
	for _, p := range []Point{{}, {X: great}, {Z: great}, {great, great, great, great}} {
		for _, q := range []Point{p, Start(), Origin()} {
			Same(p, q)
			for _, r := range []Point{Add(p, q), Add(q, p), Neg(p), Times(p, [32]byte{5, 31: 0x80})} {
				if len(Bytes(r)) != 32 {
					t.Errorf("of %x and %x: %x", p, q, r)
				}
			}
		}
		At(p.X, true)
		At(p.X, false)
	}
}
