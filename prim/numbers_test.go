package prim

import (
	"bytes"
	"crypto/ecdh"
	"crypto/hkdf"
	"crypto/sha256"
	"encoding/binary"
	"encoding/hex"
	"math/rand"
	"testing"

	"pawl/api"
	"pawl/chacha"
	"pawl/sign"
)

func plain(s string) []byte {
	p, err := hex.DecodeString(s)
	if err != nil {
		panic(err)
	}
	return p
}

// key32 is what the chapter makes of a key, without this package.
func key32(key []byte) []byte {
	return append(bytes.Clone(key), make([]byte, 32)...)[:32]
}

var lengths = []int{0, 1, 31, 32, 33, 63, 64, 65, 100}

// TestKnown has values of another program.
func TestKnown(t *testing.T) {
	for _, r := range []struct {
		seed string
		i    int
		want string
	}{
		{"", 1, "45600c39e6745d45b787199060c58a46a56bf62a8320d170918a65c561eb83cd"},
		{"", 2, "561a3dbd37fad9ed5fb177a7f042a042b957637ef2958d3465c7966654a832dd"},
		{"", 256, "4ee84cb13362376f228615c716639a97eaec2c3e047af5467409a6b44b4f25a6"},
		{"seed", 1, "ffffa0ffa3381092cf1b95c279ad285ff8d8ae331e3223e86476a52fc84055a9"},
		{"seed", 2, "a0cd790615c9d5bc353b2388f3cc2140908615facc7cbe6cd2083794b8f1276b"},
		{"seed", 256, "fc6fd513829cd68451cddef1d5d421621dd2d6067af23c51ef5022d4f98c4752"},
	} {
		p, _ := New(api.Real, []byte(r.seed))
		for range r.i - 1 {
			p.Fresh()
		}
		expectBytes(t, "Fresh of "+r.seed, p.Fresh(), plain(r.want))
	}
	p := start(t, api.Real)
	expectBytes(t, "Derive", p.Derive([]byte("k"), nil, "", 1)[0], plain("f6c899821e53a5f2fcf47bddabf65afccd4cadde4ae44a2df4893fb3abf3260e"))
	var key, long []byte
	for i := range byte(40) {
		key, long = append(key, i), append(long, 100+i)
	}
	two := p.Derive(key, [][]byte{[]byte("ab"), nil, long}, "root", 2)
	expectBytes(t, "Derive 0", two[0], plain("66081bd39007079e76ed86901a4771a99b1481acc8574d3892bfdf6d76f11dc5"))
	expectBytes(t, "Derive 1", two[1], plain("8694436945c437504d78c65767d9b24767fb225eb618ed01f3a6adfba650d04c"))
	expectBytes(t, "Name", p.Name(), plain("e3b0c44298fc1c149afbf4c8996fb92427ae41e4649b934ca495991b7852b855"))
	expectBytes(t, "Name", p.Name([]byte("ab"), nil), plain("bd9027e9dbf27167f8c3e2fbc1e42491e1cf15a54dd6fa6caa99f5e12b4c0750"))
	expectBytes(t, "Name", p.Name([]byte("session"), make([]byte, 12)), plain("3f40b3f9818e1355df469ee3067fa72f1146efe35eff67fea09e64e7e6d33011"))
}

// expand is HKDF of the Go library.
func expand(t *testing.T, salt, secret []byte, info string, n int) []byte {
	t.Helper()
	out, err := hkdf.Key(sha256.New, secret, salt, info, n)
	if err != nil {
		t.Fatal(err)
	}
	return out
}

func TestFreshOfSeed(t *testing.T) {
	for _, n := range lengths {
		p, _ := New(api.Real, filler(n))
		for i := range 300 {
			info := string(binary.LittleEndian.AppendUint64([]byte("key"), uint64(i+1)))
			expectBytes(t, "Fresh", p.Fresh(), expand(t, nil, filler(n), info, 32))
		}
	}
	a, _ := New(api.Real, nil)
	b, _ := New(api.Real, []byte{})
	expectBytes(t, "Fresh of no seed", a.Fresh(), b.Fresh())
}

func TestFreshNumbers(t *testing.T) {
	s := numbers{source: filler(32)}
	for _, n := range []int{1, 255, 256, 1 << 16, 1 << 31, 1<<32 + 5, 1<<62 + 3} {
		info := string(binary.LittleEndian.AppendUint64([]byte("key"), uint64(n)))
		want, _ := hkdf.Expand(sha256.New, filler(32), info, 32)
		expectBytes(t, "the key of a great number", s.fresh(n), want)
	}
}

func TestPublicAndAgree(t *testing.T) {
	p := start(t, api.Real)
	for _, n := range lengths {
		secret, err := ecdh.X25519().NewPrivateKey(key32(filler(n)))
		if err != nil {
			t.Fatal(err)
		}
		expectBytes(t, "Public", p.Public(filler(n)), secret.PublicKey().Bytes())
		for _, m := range lengths[1:] { // no bytes are the point 0, which the library refuses
			other := filler(m)
			other[0] = 9
			public, err := ecdh.X25519().NewPublicKey(key32(other))
			if err != nil {
				t.Fatal(err)
			}
			want, err := secret.ECDH(public)
			if err != nil {
				t.Fatal(err)
			}
			expectBytes(t, "Agree", p.Agree(filler(n), other), want)
		}
		expectBytes(t, "Agree with no bytes", p.Agree(filler(n), nil), make([]byte, 32))
	}
}

func TestSignatures(t *testing.T) {
	p := start(t, api.Real)
	for _, n := range lengths {
		secret, msg := filler(n), filler(2*n)
		public, sig := sign.Public(key32(secret)), sign.Sign(key32(secret), msg)
		expectBytes(t, "SignKey", p.SignKey(secret), public)
		expectBytes(t, "Sign", p.Sign(secret, msg), sig)
		if !p.Check(public, msg, sig) || !p.Check(append(bytes.Clone(public), 1, 2, 3), msg, sig) {
			t.Errorf("the signature by %d bytes is refused", n)
		}
		if p.Check(public[:31], msg, sig) {
			t.Errorf("the signature by %d bytes: a shorter key", n)
		}
	}
}

// TestCheckOfPaddedKey looks for a key that ends with a zero byte: it is the same one without that byte.
func TestCheckOfPaddedKey(t *testing.T) {
	p := start(t, api.Real)
	for range 5000 {
		secret := p.Fresh()
		if public := p.SignKey(secret); public[31] == 0 {
			if !p.Check(public[:31], nil, p.Sign(secret, nil)) {
				t.Error("a key that is to be padded is refused")
			}
			return
		}
	}
	t.Error("no such key")
}

func TestDerive(t *testing.T) {
	p := start(t, api.Real)
	r := rand.New(rand.NewSource(1))
	for range 300 {
		key, label := filler(lengths[r.Intn(len(lengths))]), string(filler(r.Intn(20)))
		var with [][]byte
		var secret []byte
		for range r.Intn(6) {
			with = append(with, filler(lengths[r.Intn(len(lengths))]))
			secret = append(secret, key32(with[len(with)-1])...)
		}
		want := expand(t, key32(key), secret, label, 256)
		got := p.Derive(key, with, label, 8)
		if len(got) != 8 {
			t.Fatalf("%d keys", len(got))
		}
		for i, k := range got {
			expectBytes(t, "Derive", k, want[32*i:32*i+32])
		}
	}
}

func TestSealIsChacha(t *testing.T) {
	p := start(t, api.Real)
	for _, n := range lengths {
		for _, m := range []int{0, 1, 16, 64, 65, 1000} {
			key, with, text := filler(n), filler(m/3), filler(m)
			want := chacha.Seal(key32(key), make([]byte, 12), with, text)
			expectBytes(t, "Seal", p.Seal(key, with, text), want)
			if got, ok := p.Open(key32(key), with, want); !ok || !bytes.Equal(got, text) {
				t.Errorf("Open = %x, %v", got, ok)
			}
		}
	}
}

func TestKeysAreFitted(t *testing.T) {
	p := start(t, api.Real)
	for _, n := range lengths {
		key, fitted := filler(n), key32(filler(n))
		expectBytes(t, "fit", fit(key), fitted)
		expectBytes(t, "Public", p.Public(key), p.Public(fitted))
		expectBytes(t, "SignKey", p.SignKey(key), p.SignKey(fitted))
		expectBytes(t, "Agree by", p.Agree(key, p.Public(key)), p.Agree(fitted, p.Public(key)))
		expectBytes(t, "Agree with", p.Agree(filler(32), key), p.Agree(filler(32), fitted))
		expectBytes(t, "Derive by", p.Derive(key, nil, "", 1)[0], p.Derive(fitted, nil, "", 1)[0])
		expectBytes(t, "Derive with", p.Derive(nil, [][]byte{key}, "", 1)[0], p.Derive(nil, [][]byte{fitted}, "", 1)[0])
		expectBytes(t, "Seal", p.Seal(key, nil, nil), p.Seal(fitted, nil, nil))
		expectBytes(t, "Sign", p.Sign(key, nil), p.Sign(fitted, nil))
	}
}

// TestOneAndTwoKeys: an empty key counts in Derive, as 32 zero bytes.
func TestOneAndTwoKeys(t *testing.T) {
	p := start(t, api.Real)
	zero := make([]byte, 32)
	expectBytes(t, "Derive", p.Derive(nil, [][]byte{nil, nil}, "", 1)[0], p.Derive(zero, [][]byte{zero, zero}, "", 1)[0])
	if bytes.Equal(p.Derive(nil, [][]byte{nil}, "", 1)[0], p.Derive(nil, nil, "", 1)[0]) {
		t.Error("an empty key is none")
	}
}

// TestFreshAlone: the other functions do not change which keys Fresh makes.
func TestFreshAlone(t *testing.T) {
	p, q := start(t, api.Real), start(t, api.Real)
	for range 20 {
		k := p.Fresh()
		expectBytes(t, "Fresh", q.Fresh(), k)
		q.Seal(k, k, k)
		q.Sign(k, k)
		q.Derive(k, [][]byte{k}, "key", 8)
		q.Name(q.Public(k), q.Agree(k, k))
	}
}
