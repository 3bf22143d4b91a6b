package tests

import (
	"bytes"
	"math"
	"sort"
	"strings"
	"testing"

	"loop.example/g00199/impl"
)

// rfcLens is the document's table of lengths, the end at last.
var rfcLens = [257]int{
	13, 23, 28, 28, 28, 28, 28, 28, 28, 24, 30, 28, 28, 30, 28, 28,
	28, 28, 28, 28, 28, 28, 30, 28, 28, 28, 28, 28, 28, 28, 28, 28,
	6, 10, 10, 12, 13, 6, 8, 11, 10, 10, 8, 11, 8, 6, 6, 6,
	5, 5, 5, 6, 6, 6, 6, 6, 6, 6, 7, 8, 15, 6, 12, 10,
	13, 6, 7, 7, 7, 7, 7, 7, 7, 7, 7, 7, 7, 7, 7, 7,
	7, 7, 7, 7, 7, 7, 7, 7, 8, 7, 8, 13, 19, 13, 14, 6,
	15, 5, 6, 5, 6, 5, 6, 6, 6, 5, 7, 7, 6, 6, 6, 5,
	6, 7, 6, 5, 5, 6, 7, 7, 7, 7, 7, 15, 11, 14, 13, 28,
	20, 22, 20, 20, 22, 22, 22, 23, 22, 23, 23, 23, 23, 23, 24, 23,
	24, 24, 22, 23, 24, 23, 23, 23, 23, 21, 22, 23, 22, 23, 23, 24,
	22, 21, 20, 22, 22, 23, 23, 21, 23, 22, 22, 24, 21, 22, 23, 23,
	21, 21, 22, 21, 23, 22, 23, 23, 20, 22, 22, 22, 23, 22, 22, 23,
	26, 26, 20, 19, 22, 23, 22, 25, 26, 26, 26, 27, 27, 26, 24, 25,
	19, 21, 26, 27, 27, 26, 27, 24, 21, 21, 26, 26, 28, 27, 27, 27,
	20, 24, 20, 21, 22, 21, 21, 23, 22, 22, 25, 25, 24, 24, 26, 23,
	26, 27, 26, 26, 27, 27, 27, 27, 27, 28, 27, 27, 27, 27, 27, 26,
	30,
}

// rfcCodes is the table of RFC 7541, appendix B, the end at last.
var rfcCodes = [257]int{
	0x1ff8, 0x7fffd8, 0xfffffe2, 0xfffffe3, 0xfffffe4, 0xfffffe5, 0xfffffe6, 0xfffffe7,
	0xfffffe8, 0xffffea, 0x3ffffffc, 0xfffffe9, 0xfffffea, 0x3ffffffd, 0xfffffeb, 0xfffffec,
	0xfffffed, 0xfffffee, 0xfffffef, 0xffffff0, 0xffffff1, 0xffffff2, 0x3ffffffe, 0xffffff3,
	0xffffff4, 0xffffff5, 0xffffff6, 0xffffff7, 0xffffff8, 0xffffff9, 0xffffffa, 0xffffffb,
	0x14, 0x3f8, 0x3f9, 0xffa, 0x1ff9, 0x15, 0xf8, 0x7fa,
	0x3fa, 0x3fb, 0xf9, 0x7fb, 0xfa, 0x16, 0x17, 0x18,
	0x0, 0x1, 0x2, 0x19, 0x1a, 0x1b, 0x1c, 0x1d,
	0x1e, 0x1f, 0x5c, 0xfb, 0x7ffc, 0x20, 0xffb, 0x3fc,
	0x1ffa, 0x21, 0x5d, 0x5e, 0x5f, 0x60, 0x61, 0x62,
	0x63, 0x64, 0x65, 0x66, 0x67, 0x68, 0x69, 0x6a,
	0x6b, 0x6c, 0x6d, 0x6e, 0x6f, 0x70, 0x71, 0x72,
	0xfc, 0x73, 0xfd, 0x1ffb, 0x7fff0, 0x1ffc, 0x3ffc, 0x22,
	0x7ffd, 0x3, 0x23, 0x4, 0x24, 0x5, 0x25, 0x26,
	0x27, 0x6, 0x74, 0x75, 0x28, 0x29, 0x2a, 0x7,
	0x2b, 0x76, 0x2c, 0x8, 0x9, 0x2d, 0x77, 0x78,
	0x79, 0x7a, 0x7b, 0x7ffe, 0x7fc, 0x3ffd, 0x1ffd, 0xffffffc,
	0xfffe6, 0x3fffd2, 0xfffe7, 0xfffe8, 0x3fffd3, 0x3fffd4, 0x3fffd5, 0x7fffd9,
	0x3fffd6, 0x7fffda, 0x7fffdb, 0x7fffdc, 0x7fffdd, 0x7fffde, 0xffffeb, 0x7fffdf,
	0xffffec, 0xffffed, 0x3fffd7, 0x7fffe0, 0xffffee, 0x7fffe1, 0x7fffe2, 0x7fffe3,
	0x7fffe4, 0x1fffdc, 0x3fffd8, 0x7fffe5, 0x3fffd9, 0x7fffe6, 0x7fffe7, 0xffffef,
	0x3fffda, 0x1fffdd, 0xfffe9, 0x3fffdb, 0x3fffdc, 0x7fffe8, 0x7fffe9, 0x1fffde,
	0x7fffea, 0x3fffdd, 0x3fffde, 0xfffff0, 0x1fffdf, 0x3fffdf, 0x7fffeb, 0x7fffec,
	0x1fffe0, 0x1fffe1, 0x3fffe0, 0x1fffe2, 0x7fffed, 0x3fffe1, 0x7fffee, 0x7fffef,
	0xfffea, 0x3fffe2, 0x3fffe3, 0x3fffe4, 0x7ffff0, 0x3fffe5, 0x3fffe6, 0x7ffff1,
	0x3ffffe0, 0x3ffffe1, 0xfffeb, 0x7fff1, 0x3fffe7, 0x7ffff2, 0x3fffe8, 0x1ffffec,
	0x3ffffe2, 0x3ffffe3, 0x3ffffe4, 0x7ffffde, 0x7ffffdf, 0x3ffffe5, 0xfffff1, 0x1ffffed,
	0x7fff2, 0x1fffe3, 0x3ffffe6, 0x7ffffe0, 0x7ffffe1, 0x3ffffe7, 0x7ffffe2, 0xfffff2,
	0x1fffe4, 0x1fffe5, 0x3ffffe8, 0x3ffffe9, 0xffffffd, 0x7ffffe3, 0x7ffffe4, 0x7ffffe5,
	0xfffec, 0xfffff3, 0xfffed, 0x1fffe6, 0x3fffe9, 0x1fffe7, 0x1fffe8, 0x7ffff3,
	0x3fffea, 0x3fffeb, 0x1ffffee, 0x1ffffef, 0xfffff4, 0xfffff5, 0x3ffffea, 0x7ffff4,
	0x3ffffeb, 0x7ffffe6, 0x3ffffec, 0x3ffffed, 0x7ffffe7, 0x7ffffe8, 0x7ffffe9, 0x7ffffea,
	0x7ffffeb, 0xffffffe, 0x7ffffec, 0x7ffffed, 0x7ffffee, 0x7ffffef, 0x7fffff0, 0x3ffffee,
	0x3fffffff,
}

// fillers are texts by how many bits of their last byte are filled.
var fillers = [8]string{"00000000", "F", "-", "0", "#", "0-", "00", "00000"}

// bitsFor tells the codes of these symbols as digits 0 and 1, after the RFC's own table.
func bitsFor(syms ...int) string {
	out := []byte{}
	for _, sym := range syms {
		for place := rfcLens[sym] - 1; place >= 0; place-- {
			out = append(out, byte('0'+rfcCodes[sym]>>place&1))
		}
	}
	return string(out)
}

func bitsForText(s string) string {
	syms := []int{}
	for i := range len(s) {
		syms = append(syms, int(s[i]))
	}
	return bitsFor(syms...)
}

// packBits makes bytes of digits 0 and 1, eight a byte.
func packBits(t *testing.T, digits string) []byte {
	t.Helper()
	if len(digits)%8 != 0 {
		t.Fatalf("%d bits are no bytes", len(digits))
	}
	out := make([]byte, len(digits)/8)
	for i := range len(digits) {
		out[i/8] = out[i/8]<<1 | (digits[i] - '0')
	}
	return out
}

// freeBits is how many bits of the last byte are free behind so many.
func freeBits(count int) int {
	return (8 - count%8) % 8
}

// packFilled makes bytes of digits 0 and 1, the last byte filled with 1.
func packFilled(t *testing.T, digits string) []byte {
	t.Helper()
	return packBits(t, digits+strings.Repeat("1", freeBits(len(digits))))
}

func checkHuffComesBack(t *testing.T, s string) {
	t.Helper()
	want := packFilled(t, bitsForText(s))
	b := impl.Huff(s)
	if !bytes.Equal(b, want) {
		t.Errorf("Huff(%q) = %x, not %x", s, b, want)
	}
	if n := impl.HuffLen(s); n != len(want) {
		t.Errorf("HuffLen(%q) = %d, not %d", s, n, len(want))
	}
	if got, ok := impl.UnHuff(want); !ok || got != s {
		t.Errorf("UnHuff(%x) = %q, %v, not %q", want, got, ok, s)
	}
}

func checkNoHuff(t *testing.T, b []byte) {
	t.Helper()
	if s, ok := impl.UnHuff(b); ok || s != "" {
		t.Errorf("UnHuff(%x) = %q, %v", b, s, ok)
	}
}

func TestCodesOfTheRfc(t *testing.T) {
	for sym := 0; sym <= 256; sym++ {
		if got := impl.CodeLen(sym); got != rfcLens[sym] {
			t.Errorf("CodeLen(%d) = %d, not %d", sym, got, rfcLens[sym])
		}
		if got := impl.CodeOf(sym); got != rfcCodes[sym] {
			t.Errorf("CodeOf(%d) = %#x, not %#x", sym, got, rfcCodes[sym])
		}
	}
}

func TestCodesAtTheEdges(t *testing.T) {
	for _, x := range []struct{ sym, length, code int }{
		{-1, 0, 0}, {0, 13, 0x1ff8}, {1, 23, 0x7fffd8}, {'0', 5, 0}, {'1', 5, 1}, {'a', 5, 3},
		{254, 27, 0x7fffff0}, {255, 26, 0x3ffffee}, {256, 30, 0x3fffffff}, {257, 0, 0},
		{-2, 0, 0}, {-256, 0, 0}, {258, 0, 0}, {512, 0, 0}, {1 << 16, 0, 0}, {1 << 32, 0, 0}, {1<<32 + '0', 0, 0},
		{math.MinInt, 0, 0}, {math.MinInt + 1, 0, 0}, {math.MaxInt, 0, 0}, {math.MaxInt - 1, 0, 0},
	} {
		if length, code := impl.CodeLen(x.sym), impl.CodeOf(x.sym); length != x.length || code != x.code {
			t.Errorf("CodeLen, CodeOf(%d) = %d, %#x, not %d, %#x", x.sym, length, code, x.length, x.code)
		}
	}
}

func TestCodesGoUp(t *testing.T) {
	order := make([]int, 257)
	for i := range order {
		order[i] = i
	}
	sort.SliceStable(order, func(i, j int) bool { return impl.CodeLen(order[i]) < impl.CodeLen(order[j]) })
	if sym := order[0]; impl.CodeOf(sym) != 0 || sym != '0' {
		t.Errorf("the first code, of %d, is %#x", sym, impl.CodeOf(sym))
	}
	for i, sym := range order[1:] {
		ahead := order[i]
		want := (impl.CodeOf(ahead) + 1) << (impl.CodeLen(sym) - impl.CodeLen(ahead))
		if got := impl.CodeOf(sym); got != want {
			t.Errorf("CodeOf(%d), behind that of %d, is %#x, not %#x", sym, ahead, got, want)
		}
	}
}

func TestNoCodeBeginsAnother(t *testing.T) {
	for one := 0; one <= 256; one++ {
		length, code := impl.CodeLen(one), impl.CodeOf(one)
		if length < 5 || length > 30 || code < 0 || code >= 1<<length {
			t.Errorf("the code of %d: %#x of %d bits", one, code, length)
		}
		for two := 0; two <= 256; two++ {
			longer := impl.CodeLen(two) - length
			if one != two && longer >= 0 && impl.CodeOf(two)>>longer == code {
				t.Errorf("the code of %d begins with that of %d", two, one)
			}
		}
	}
}

func TestHuffOfKnownTexts(t *testing.T) {
	for _, x := range []struct{ s, b string }{
		{"", ""},
		// The examples of RFC 7541, C.4 and C.6.
		{"www.example.com", "\xf1\xe3\xc2\xe5\xf2\x3a\x6b\xa0\xab\x90\xf4\xff"},
		{"no-cache", "\xa8\xeb\x10\x64\x9c\xbf"},
		{"custom-key", "\x25\xa8\x49\xe9\x5b\xa9\x7d\x7f"},
		{"custom-value", "\x25\xa8\x49\xe9\x5b\xb8\xe8\xb4\xbf"},
		{"302", "\x64\x02"},
		{"private", "\xae\xc3\x77\x1a\x4b"},
		{"307", "\x64\x0e\xff"},
		{"gzip", "\x9b\xd9\xab"},
		{"0", "\x07"},
		{"00", "\x00\x3f"},
		{"\x00", "\xff\xc7"},
		{"\n", "\xff\xff\xff\xf3"},
		{"\x16", "\xff\xff\xff\xfb"},
		{"\xff", "\xff\xff\xfb\xbf"},
		{"\xc3\xa4", "\xff\xfe\x3f\xff\xee\x7f"},
	} {
		if got := string(impl.Huff(x.s)); got != x.b {
			t.Errorf("Huff(%q) = %x, not %x", x.s, got, x.b)
		}
		if got := impl.HuffLen(x.s); got != len(x.b) {
			t.Errorf("HuffLen(%q) = %d, not %d", x.s, got, len(x.b))
		}
		if got, ok := impl.UnHuff([]byte(x.b)); !ok || got != x.s {
			t.Errorf("UnHuff(%x) = %q, %v, not %q", x.b, got, ok, x.s)
		}
	}
}

func TestHuffOfTheEmptyText(t *testing.T) {
	if b, n := impl.Huff(""), impl.HuffLen(""); len(b) != 0 || n != 0 {
		t.Errorf("Huff and HuffLen of nothing: %x, %d", b, n)
	}
	empty, _ := roomy("", 20)
	for _, b := range [][]byte{nil, {}, empty} {
		if s, ok := impl.UnHuff(b); !ok || s != "" {
			t.Errorf("UnHuff of nothing = %q, %v", s, ok)
		}
	}
}

// Promise 3: a text comes back of its code.
func TestTextsOfOneByteComeBack(t *testing.T) {
	for one := 0; one <= 255; one++ {
		for count := 1; count <= 9; count++ {
			checkHuffComesBack(t, strings.Repeat(string([]byte{byte(one)}), count))
		}
	}
}

func TestTextsOfTwoBytesComeBack(t *testing.T) {
	for one := 0; one <= 255; one++ {
		for two := 0; two <= 255; two++ {
			checkHuffComesBack(t, string([]byte{byte(one), byte(two)}))
		}
	}
}

func TestLongTextsComeBack(t *testing.T) {
	up, down := []byte{}, []byte{}
	for i := 0; i <= 255; i++ {
		up, down = append(up, byte(i)), append(down, byte(255-i))
	}
	for _, s := range []string{
		string(up), string(down), string(up) + string(down), strings.Repeat(string(up), 20),
		strings.Repeat("/up/a1 upload-offset: 24;", 200), strings.Repeat("\n\r\x16", 500), strings.Repeat("\xff", 4000),
	} {
		checkHuffComesBack(t, s)
	}
	// Each byte is reached from the one ahead by a fixed rule, so that every run is the same.
	for length := 0; length <= 300; length++ {
		s := make([]byte, length)
		at := uint32(length)
		for i := range s {
			at = at*1664525 + 1013904223
			s[i] = byte(at >> 24)
		}
		checkHuffComesBack(t, string(s))
	}
}

func TestHowTheLastByteIsFilled(t *testing.T) {
	for free, s := range fillers {
		digits := bitsForText(s)
		if freeBits(len(digits)) != free {
			t.Fatalf("%q leaves %d bits, not %d", s, freeBits(len(digits)), free)
		}
		checkHuffComesBack(t, s)
		b := impl.Huff(s)
		if low := 1<<free - 1; len(b) != (len(digits)+7)/8 || int(b[len(b)-1])&low != low {
			t.Errorf("Huff(%q) = %x does not end with %d bits 1", s, b, free)
		}
	}
}

func TestLastByteFilledWrong(t *testing.T) {
	for free, s := range fillers {
		digits := bitsForText(s)
		for low := range 1<<free - 1 {
			b := impl.Huff(s)
			b[len(b)-1] = b[len(b)-1]>>free<<free | byte(low)
			// Five bits or more might be a code themselves: then it is the longer text's.
			if got, ok := impl.UnHuff(b); ok && (free < 5 || !bytes.Equal(packFilled(t, bitsForText(got)), b) || len(got) <= len(s)) {
				t.Errorf("UnHuff(%x), %d bits behind %q, = %q", b, free, s, got)
			} else if !ok && got != "" {
				t.Errorf("UnHuff(%x) = %q, false", b, got)
			}
		}
		if free > 0 {
			checkNoHuff(t, packBits(t, digits+strings.Repeat("1", free-1)+"0"))
		}
	}
}

// A byte more than must be is filled: that is no text's.
func TestWholeByteBehindTheLastCode(t *testing.T) {
	for more := 1; more <= 20; more++ {
		ones := bytes.Repeat([]byte{255}, more)
		checkNoHuff(t, ones)
		for _, s := range fillers {
			checkNoHuff(t, append(impl.Huff(s), ones...))
		}
		for _, s := range []string{"a", "www.example.com", "\n", "\x16", "\xff", "\x00"} {
			checkNoHuff(t, append(impl.Huff(s), ones...))
		}
	}
}

func TestCodeOfTheEnd(t *testing.T) {
	checkNoHuff(t, packFilled(t, bitsFor(256)))
	checkNoHuff(t, packFilled(t, bitsFor(256, 256)))
	checkNoHuff(t, packFilled(t, bitsFor(256, 256, 256, 256)))
	for sym := 0; sym <= 255; sym++ {
		for _, syms := range [][]int{{256, sym}, {sym, 256}, {sym, 256, sym}, {256, sym, sym}, {sym, sym, 256}, {sym, 256, 256, sym}} {
			checkNoHuff(t, packFilled(t, bitsFor(syms...)))
		}
	}
}

// What is cut within a code is a text's only where less than a byte of bits 1 is left of that code.
func TestCutCodes(t *testing.T) {
	for sym := 0; sym <= 256; sym++ {
		for _, s := range fillers {
			digits := bitsForText(s)
			whole := digits + bitsFor(sym)
			for cut := (len(digits)/8 + 1) * 8; cut < len(whole); cut += 8 {
				rest := whole[len(digits):cut]
				b := packBits(t, whole[:cut])
				if len(rest) >= 8 || strings.Contains(rest, "0") {
					checkNoHuff(t, b)
				} else if got, ok := impl.UnHuff(b); !ok || got != s {
					t.Errorf("UnHuff(%x) = %q, %v, not %q", b, got, ok, s)
				}
			}
		}
	}
	checkNoHuff(t, []byte("\xf1\xe3\xc2\xe5\xf2\x3a\x6b\xa0\xab\x90\xf4"))
	checkNoHuff(t, []byte{0x64})
	checkNoHuff(t, []byte{0})
	checkNoHuff(t, []byte{0xfe})
}

// shortTexts puts all texts whose codes have at most room bits into found, by their bytes.
func shortTexts(t *testing.T, found map[string]string, s string, room int) {
	found[string(packFilled(t, bitsForText(s)))] = s
	for sym := 0; sym <= 255; sym++ {
		if rfcLens[sym] <= room {
			shortTexts(t, found, s+string([]byte{byte(sym)}), room-rfcLens[sym])
		}
	}
}

// Of all lists of at most two bytes those are taken that are the Huff of a text, and no others.
func TestAllShortLists(t *testing.T) {
	found := map[string]string{}
	shortTexts(t, found, "", 16)
	lists := []string{""}
	for one := 0; one <= 255; one++ {
		lists = append(lists, string([]byte{byte(one)}))
		for two := 0; two <= 255; two++ {
			lists = append(lists, string([]byte{byte(one), byte(two)}))
		}
	}
	for _, list := range lists {
		want, there := found[list]
		if got, ok := impl.UnHuff([]byte(list)); ok != there || got != want {
			t.Errorf("UnHuff(%x) = %q, %v, not %q, %v", list, got, ok, want, there)
		}
	}
}

func TestHuffAnswersAreNewMemory(t *testing.T) {
	for _, s := range append(fillers[:], "", "a", "www.example.com") {
		one, two := impl.Huff(s), impl.Huff(s)
		answer := string(one)
		turnAll(two)
		if string(one) != answer || string(impl.Huff(s)) != answer {
			t.Errorf("Huff(%q): its answers share memory", s)
		}
	}
}

func TestUnHuffLeavesItsArgumentAlone(t *testing.T) {
	lists := []string{"", "\xff", "\x64", "\xff\xff\xff\xff", "\xff\xff\xff\xfc", "\x07\xff"}
	for _, s := range append(fillers[:], "a", "www.example.com") {
		lists = append(lists, string(impl.Huff(s)))
	}
	for _, data := range lists {
		want, there := impl.UnHuff([]byte(data))
		for _, spare := range []int{0, 1, 3, 20} {
			b, all := roomy(data, spare)
			before := string(all)
			got, ok := impl.UnHuff(b)
			if string(all) != before {
				t.Errorf("UnHuff(%x with %d spare) wrote into its argument: %x", data, spare, all)
			}
			turnAll(all)
			if ok != there || got != want {
				t.Errorf("UnHuff(%x with %d spare) = %q, %v, not %q, %v", data, spare, got, ok, want, there)
			}
		}
	}
}

// What lies behind the list's length is not read, even if it would make the code whole.
func TestUnHuffDoesNotReadTheSpareRoom(t *testing.T) {
	whole := impl.Huff("www.example.com")
	for cut := range len(whole) {
		got, ok := impl.UnHuff(whole[:cut])
		want, there := impl.UnHuff(append([]byte{}, whole[:cut]...))
		if got != want || ok != there || ok && !bytes.Equal(impl.Huff(got), whole[:cut]) {
			t.Errorf("UnHuff(%x of %x) = %q, %v, not %q, %v", whole[:cut], whole, got, ok, want, there)
		}
	}
}
