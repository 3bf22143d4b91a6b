package tests

import (
	"bytes"
	"fmt"
	"math"
	"slices"
	"strings"
	"testing"

	"loop.example/g00199/impl"
)

func sameGather(a impl.Gather, b impl.Gather) bool {
	return a.Stream == b.Stream && a.End == b.End && bytes.Equal(a.Buf, b.Buf)
}

func gatherTitle(g impl.Gather) string {
	return fmt.Sprintf("stream %d, end %v, %d bytes %.10q", g.Stream, g.End, len(g.Buf), g.Buf)
}

// checkFeed asks for all that Feed answers.
func checkFeed(t *testing.T, g impl.Gather, f impl.Frame, next impl.Gather, block string, code int) {
	t.Helper()
	got, b, c := impl.Feed(g, f)
	if !sameGather(got, next) || string(b) != block || c != code {
		t.Errorf("Feed of (%s) and (%s):\n(%s), %d bytes %.10q, code %d, not\n(%s), %d bytes %.10q, code %d",
			gatherTitle(g), frameTitle(f), gatherTitle(got), len(b), b, c, gatherTitle(next), len(block), block, code)
	}
}

// checkNoFeed asks for a fault: the Gather as it was, no block, and the code.
func checkNoFeed(t *testing.T, g impl.Gather, f impl.Frame, code int) {
	t.Helper()
	checkFeed(t, g, f, g, "", code)
}

func headFrame(stream int, flags int, body string) impl.Frame {
	return impl.Frame{Kind: impl.FrHeaders, Flags: flags, Stream: stream, Body: []byte(body)}
}

func moreFrame(stream int, flags int, body string) impl.Frame {
	return impl.Frame{Kind: impl.FrMore, Flags: flags, Stream: stream, Body: []byte(body)}
}

func begun(stream int, end bool, buf string) impl.Gather {
	return impl.Gather{Stream: stream, End: end, Buf: []byte(buf)}
}

// wrongGathers are Gathers that are not GatherOk, each with one fault or several.
func wrongGathers() []impl.Gather {
	long := strings.Repeat("b", 3001)
	return []impl.Gather{
		{End: true}, {Buf: []byte("a")}, {End: true, Buf: []byte("a")}, {Buf: []byte(long)}, {End: true, Buf: []byte(long)}, {Buf: make([]byte, 3000)},
		{Stream: -1}, {Stream: -3, End: true, Buf: []byte("abc")}, {Stream: math.MinInt}, {Stream: -1 << 31},
		{Stream: 1 << 31}, {Stream: 1<<31 + 1, Buf: []byte("abc")}, {Stream: 1<<32 + 1}, {Stream: math.MaxInt, End: true},
		{Stream: 1, Buf: []byte(long)}, {Stream: 3, End: true, Buf: []byte(long)}, {Stream: topStream, Buf: []byte(long)}, {Stream: -1, Buf: []byte(long)},
	}
}

// goodOfKind is a frame of this kind that is FrameGood.
func goodOfKind(kind int, flags int, stream int) impl.Frame {
	f := impl.Frame{Kind: kind, Flags: flags, Stream: stream}
	switch kind {
	case impl.FrPriority:
		f.Body = make([]byte, 5)
	case impl.FrReset, impl.FrWindow:
		f.Body = make([]byte, 4)
	case impl.FrPing, impl.FrGoAway:
		f.Body = make([]byte, 8)
	}
	switch kind {
	case impl.FrSettings, impl.FrPing, impl.FrGoAway:
		f.Stream = 0
	}
	return f
}

func TestConstantsOfGathers(t *testing.T) {
	got := []int{impl.MaxBlock, impl.GatherGood, impl.GatherDone, impl.GatherOrder, impl.GatherPad, impl.GatherBig}
	if !slices.Equal(got, []int{3000, 0, 1, 2, 3, 4}) {
		t.Errorf("the constants are %v", got)
	}
}

func TestGatherOk(t *testing.T) {
	for _, stream := range triedStreams {
		for _, end := range []bool{false, true} {
			for _, length := range []int{0, 1, 2, 1000, 1001, 2999, 3000, 3001, 3002, 9000} {
				g := impl.Gather{Stream: stream.n, End: end, Buf: make([]byte, length)}
				want := stream.ok && length <= 3000
				if stream.n == 0 {
					want = !end && length == 0
				}
				if got := impl.GatherOk(g); got != want {
					t.Errorf("GatherOk of %s: %v", gatherTitle(g), got)
				}
			}
		}
	}
	for g, want := range map[*impl.Gather]bool{
		{}: true, {Buf: []byte{}}: true, {End: true}: false, {Buf: []byte{0}}: false, {End: true, Buf: []byte{0}}: false,
		{Stream: -1}: false, {Stream: 1}: true, {Stream: 2}: true, {Stream: 1<<31 - 1}: true, {Stream: 1 << 31}: false,
		{Stream: 1, End: true}: true, {Stream: 1, Buf: make([]byte, 3000)}: true, {Stream: 1, Buf: make([]byte, 3001)}: false,
	} {
		if got := impl.GatherOk(*g); got != want {
			t.Errorf("GatherOk of %s: %v", gatherTitle(*g), got)
		}
	}
	for _, g := range wrongGathers() {
		if impl.GatherOk(g) {
			t.Errorf("GatherOk of %s: true", gatherTitle(g))
		}
	}
}

// The room behind Buf counts for nothing.
func TestGatherOkDoesNotCountTheSpareRoom(t *testing.T) {
	for _, spare := range []int{1, 10, 3001} {
		none, _ := roomy("", spare)
		full, _ := roomy(strings.Repeat("f", 3000), spare)
		if !impl.GatherOk(impl.Gather{Buf: none}) || !impl.GatherOk(impl.Gather{Stream: 1, Buf: full}) {
			t.Errorf("%d bytes of spare room are counted", spare)
		}
	}
}

func TestFeed(t *testing.T) {
	none := impl.Gather{}
	checkFeed(t, none, headFrame(3, 0, "abc"), begun(3, false, "abc"), "", impl.GatherGood)
	checkFeed(t, none, headFrame(3, impl.FlagEnd, "abc"), begun(3, true, "abc"), "", impl.GatherGood)
	checkFeed(t, none, headFrame(3, impl.FlagHead, "abc"), none, "abc", impl.GatherDone)
	checkFeed(t, none, headFrame(3, impl.FlagHead|impl.FlagEnd, "abc"), none, "abc", impl.GatherDone)
	checkFeed(t, begun(3, true, "abc"), moreFrame(3, 0, "def"), begun(3, true, "abcdef"), "", impl.GatherGood)
	checkFeed(t, begun(3, false, "abc"), moreFrame(3, 0, "def"), begun(3, false, "abcdef"), "", impl.GatherGood)
	checkFeed(t, begun(3, true, "abc"), moreFrame(3, impl.FlagHead, "def"), none, "abcdef", impl.GatherDone)
	checkFeed(t, begun(3, false, "abc"), moreFrame(3, impl.FlagHead, "def"), none, "abcdef", impl.GatherDone)
	// Frames of no byte are parts, too, and so is a block of none.
	checkFeed(t, none, headFrame(3, 0, ""), begun(3, false, ""), "", impl.GatherGood)
	checkFeed(t, none, headFrame(3, impl.FlagHead, ""), none, "", impl.GatherDone)
	checkFeed(t, begun(3, true, ""), moreFrame(3, 0, ""), begun(3, true, ""), "", impl.GatherGood)
	checkFeed(t, begun(3, false, ""), moreFrame(3, impl.FlagHead, ""), none, "", impl.GatherDone)
	checkFeed(t, begun(3, false, "abc"), moreFrame(3, impl.FlagHead, ""), none, "abc", impl.GatherDone)
	checkFeed(t, begun(3, false, ""), moreFrame(3, impl.FlagHead, "abc"), none, "abc", impl.GatherDone)
	for _, stream := range []int{1, 2, topStream - 1, topStream} {
		checkFeed(t, none, headFrame(stream, 0, "a"), begun(stream, false, "a"), "", impl.GatherGood)
		checkFeed(t, begun(stream, false, "a"), moreFrame(stream, 0, "b"), begun(stream, false, "ab"), "", impl.GatherGood)
		checkFeed(t, begun(stream, false, "a"), moreFrame(stream, impl.FlagHead, "b"), none, "ab", impl.GatherDone)
	}
}

func TestFeedOfAWrongGather(t *testing.T) {
	for _, g := range wrongGathers() {
		stream := min(max(g.Stream, 1), topStream)
		for kind := range 12 {
			for _, flags := range []int{0, impl.FlagHead} {
				checkNoFeed(t, g, goodOfKind(kind, flags, stream), impl.GatherOrder)
			}
		}
		checkNoFeed(t, g, impl.Frame{Kind: impl.FrWindow, Body: make([]byte, 4)}, impl.GatherOrder)
		checkNoFeed(t, g, headFrame(stream, impl.FlagHead, "abc"), impl.GatherOrder)
		checkNoFeed(t, g, moreFrame(stream, impl.FlagHead, "abc"), impl.GatherOrder)
		checkNoFeed(t, g, moreFrame(g.Stream, impl.FlagHead, "abc"), impl.GatherOrder)
		checkNoFeed(t, g, impl.Frame{Kind: -1}, impl.GatherOrder)
	}
}

// What FrameCode refuses is refused here, whatever its kind, and whether a block has begun or not.
func TestFeedOfAWrongFrame(t *testing.T) {
	for _, f := range []impl.Frame{
		{Kind: -1}, {Kind: 256}, {Kind: impl.FrData}, {Kind: impl.FrData, Stream: -1}, {Kind: impl.FrData, Stream: 1 << 31},
		{Kind: impl.FrData, Stream: 1, Flags: 256}, {Kind: impl.FrData, Stream: 1, Body: make([]byte, 1001)},
		{Kind: impl.FrPriority, Stream: 1}, {Kind: impl.FrReset, Stream: 1}, {Kind: impl.FrPush}, {Kind: impl.FrPing, Body: make([]byte, 7)},
		{Kind: impl.FrPing, Stream: 1, Body: make([]byte, 8)}, {Kind: impl.FrSettings, Stream: 1}, {Kind: impl.FrSettings, Body: make([]byte, 5)},
		{Kind: impl.FrGoAway, Body: make([]byte, 7)}, {Kind: impl.FrWindow, Body: make([]byte, 3)}, {Kind: 77, Flags: -1}, {Kind: 77, Body: make([]byte, 1001)},
		headFrame(0, 0, "abc"), headFrame(-1, 0, "abc"), headFrame(1<<31, 0, "abc"), headFrame(1, -1, "abc"), headFrame(1, 256|impl.FlagHead, "abc"),
		headFrame(1, 0, strings.Repeat("a", 1001)), headFrame(1, impl.FlagHead, strings.Repeat("a", 1001)),
		headFrame(1, impl.FlagHead, strings.Repeat("a", 3000)), headFrame(1, impl.FlagHead, strings.Repeat("a", 3001)),
		// What is unpadded would be short enough.
		headFrame(1, impl.FlagPad, "\xff"+strings.Repeat("a", 1000)), headFrame(1, impl.FlagPrio, strings.Repeat("a", 1001)),
		moreFrame(0, 0, "abc"), moreFrame(-1, 0, "abc"), moreFrame(1<<31, 0, "abc"), moreFrame(1, -1, "abc"), moreFrame(1, 256|impl.FlagHead, "abc"),
		moreFrame(1, 0, strings.Repeat("a", 1001)), moreFrame(1, impl.FlagHead, strings.Repeat("a", 1001)), moreFrame(1, 0, strings.Repeat("a", 3001)),
	} {
		for _, g := range []impl.Gather{{}, begun(1, false, ""), begun(1, true, "abc"), begun(3, false, "abc"), begun(topStream, false, "abc")} {
			checkNoFeed(t, g, f, impl.GatherOrder)
		}
	}
}

func TestEachKindWhileNoBlockHasBegun(t *testing.T) {
	for kind := range 256 {
		for _, stream := range []int{1, 2, 3, topStream} {
			for _, flags := range []int{0, 1, 2, impl.FlagHead, impl.FlagHead | impl.FlagEnd, 16, 64, 128} {
				f := goodOfKind(kind, flags, stream)
				switch {
				case kind == impl.FrMore:
					checkNoFeed(t, impl.Gather{}, f, impl.GatherOrder)
				case kind != impl.FrHeaders:
					checkFeed(t, impl.Gather{}, f, impl.Gather{}, "", impl.GatherGood)
				case flags&impl.FlagHead != 0:
					checkFeed(t, impl.Gather{}, f, impl.Gather{}, "", impl.GatherDone)
				default:
					checkFeed(t, impl.Gather{}, f, begun(stream, flags&impl.FlagEnd != 0, ""), "", impl.GatherGood)
				}
			}
		}
	}
	for _, stream := range []int{0, 1} {
		checkFeed(t, impl.Gather{}, impl.Frame{Kind: impl.FrWindow, Stream: stream, Body: make([]byte, 4)}, impl.Gather{}, "", impl.GatherGood)
		checkFeed(t, impl.Gather{}, impl.Frame{Kind: 99, Flags: 255, Stream: stream, Body: []byte("abc")}, impl.Gather{}, "", impl.GatherGood)
	}
	// Of frames of another kind neither their flags nor their padding is asked.
	for _, kind := range []int{impl.FrData, impl.FrPush, 10, 255} {
		for _, flags := range []int{impl.FlagHead, impl.FlagPad, 255} {
			checkFeed(t, impl.Gather{}, impl.Frame{Kind: kind, Flags: flags, Stream: 1, Body: []byte("\xff")}, impl.Gather{}, "", impl.GatherGood)
		}
	}
}

// Nothing comes between the frames of a block but what goes on with it.
func TestEachKindWhileABlockHasBegun(t *testing.T) {
	for _, g := range []impl.Gather{begun(3, false, "abc"), begun(3, true, "abc"), begun(3, false, "")} {
		for kind := range 256 {
			for _, stream := range []int{1, 2, 3, 4, 5, topStream} {
				for _, flags := range []int{0, 1, impl.FlagHead, impl.FlagHead | impl.FlagEnd, 128} {
					f := goodOfKind(kind, flags, stream)
					switch {
					case kind != impl.FrMore || stream != 3:
						checkNoFeed(t, g, f, impl.GatherOrder)
					case flags&impl.FlagHead != 0:
						checkFeed(t, g, f, impl.Gather{}, string(g.Buf), impl.GatherDone)
					default:
						checkFeed(t, g, f, g, "", impl.GatherGood)
					}
				}
			}
		}
		for _, stream := range []int{0, 3} {
			checkNoFeed(t, g, impl.Frame{Kind: impl.FrWindow, Stream: stream, Body: make([]byte, 4)}, impl.GatherOrder)
			checkNoFeed(t, g, impl.Frame{Kind: 99, Stream: stream}, impl.GatherOrder)
		}
	}
}

func TestFlagsOfHeaders(t *testing.T) {
	for flags := range 256 {
		body, want := "the block", "the block"
		if flags&impl.FlagPrio != 0 {
			body = "12345" + body
		}
		if flags&impl.FlagPad != 0 {
			body = string(impl.Pad([]byte(body), 7))
		}
		for _, stream := range []int{1, topStream} {
			f := headFrame(stream, flags, body)
			if flags&impl.FlagHead != 0 {
				checkFeed(t, impl.Gather{}, f, impl.Gather{}, want, impl.GatherDone)
			} else {
				checkFeed(t, impl.Gather{}, f, begun(stream, flags&impl.FlagEnd != 0, want), "", impl.GatherGood)
			}
		}
	}
}

func TestPaddingOfHeadersThatIsNotThereWhole(t *testing.T) {
	for _, x := range []struct {
		flags      int
		body, want string
		ok         bool
	}{
		{impl.FlagPad, "", "", false}, {impl.FlagPad, "\x00", "", true}, {impl.FlagPad, "\x01", "", false}, {impl.FlagPad, "\x09", "", false},
		{impl.FlagPad, "\x01a", "", true}, {impl.FlagPad, "\x02a", "", false}, {impl.FlagPad, "\x02abc", "a", true}, {impl.FlagPad, "\x03abc", "", true}, {impl.FlagPad, "\x04abc", "", false},
		{impl.FlagPad, "\xff" + strings.Repeat("p", 254), "", false}, {impl.FlagPad, "\xff" + strings.Repeat("p", 255), "", true},
		{impl.FlagPrio, "", "", false}, {impl.FlagPrio, "1234", "", false}, {impl.FlagPrio, "12345", "", true}, {impl.FlagPrio, "12345a", "a", true},
		{bothFlags, "", "", false}, {bothFlags, "\x001234", "", false}, {bothFlags, "\x0012345", "", true}, {bothFlags, "\x0112345", "", false},
		{bothFlags, "\x0112345a", "", true}, {bothFlags, "\x0112345ab", "a", true}, {bothFlags, "\x0312345ab", "", false}, {bothFlags, "\x0812345ab", "", false},
	} {
		for _, more := range []int{0, impl.FlagEnd, impl.FlagHead, impl.FlagEnd | impl.FlagHead, 128} {
			f := headFrame(5, x.flags|more, x.body)
			switch {
			case !x.ok:
				checkNoFeed(t, impl.Gather{}, f, impl.GatherPad)
			case more&impl.FlagHead != 0:
				checkFeed(t, impl.Gather{}, f, impl.Gather{}, x.want, impl.GatherDone)
			default:
				checkFeed(t, impl.Gather{}, f, begun(5, more&impl.FlagEnd != 0, x.want), "", impl.GatherGood)
			}
		}
	}
}

// Of FrMore, FlagHead alone means something: its Body goes behind as it is, and whether the stream ends was told ahead.
func TestFlagsOfMore(t *testing.T) {
	for flags := range 256 {
		for _, body := range []string{"", "\x00", "\x01", "\xff", "1234", "\x0112345a", "\x02abc"} {
			for _, end := range []bool{false, true} {
				g, f := begun(7, end, "begun"), moreFrame(7, flags, body)
				if flags&impl.FlagHead != 0 {
					checkFeed(t, g, f, impl.Gather{}, "begun"+body, impl.GatherDone)
				} else {
					checkFeed(t, g, f, begun(7, end, "begun"+body), "", impl.GatherGood)
				}
			}
		}
	}
}

func TestMoreThanMaxBlock(t *testing.T) {
	for _, have := range []int{0, 1, 1999, 2000, 2001, 2500, 2998, 2999, 3000} {
		for _, add := range []int{0, 1, 2, 499, 500, 501, 999, 1000} {
			buf, body := strings.Repeat("h", have), strings.Repeat("a", add)
			for _, end := range []bool{false, true} {
				g := begun(9, end, buf)
				if have+add > 3000 {
					checkNoFeed(t, g, moreFrame(9, 0, body), impl.GatherBig)
					checkNoFeed(t, g, moreFrame(9, impl.FlagHead, body), impl.GatherBig)
					checkNoFeed(t, g, moreFrame(9, 255, body), impl.GatherBig)
					continue
				}
				checkFeed(t, g, moreFrame(9, 0, body), begun(9, end, buf+body), "", impl.GatherGood)
				checkFeed(t, g, moreFrame(9, impl.FlagHead, body), impl.Gather{}, buf+body, impl.GatherDone)
			}
		}
	}
	// FrHeaders alone has at most MaxBody bytes, and these are never too many.
	for _, length := range []int{999, 1000} {
		body := strings.Repeat("a", length)
		checkFeed(t, impl.Gather{}, headFrame(9, 0, body), begun(9, false, body), "", impl.GatherGood)
		checkFeed(t, impl.Gather{}, headFrame(9, impl.FlagHead, body), impl.Gather{}, body, impl.GatherDone)
	}
}

func TestTheFirstFaultOfAFrameCounts(t *testing.T) {
	full, long := strings.Repeat("f", 3000), strings.Repeat("a", 1001)
	for _, x := range []struct {
		g    impl.Gather
		f    impl.Frame
		code int
	}{
		// Padding that is not there whole, and the order.
		{begun(1, false, "abc"), headFrame(1, impl.FlagPad, ""), impl.GatherOrder},
		{begun(1, false, "abc"), headFrame(3, impl.FlagPad, "\x09"), impl.GatherOrder},
		{begun(1, false, "abc"), headFrame(1, impl.FlagPrio|impl.FlagHead, "1234"), impl.GatherOrder},
		{impl.Gather{End: true}, headFrame(1, impl.FlagPad, "\x09"), impl.GatherOrder},
		{impl.Gather{Stream: -1}, headFrame(1, impl.FlagPad, "\x09"), impl.GatherOrder},
		{impl.Gather{}, headFrame(0, impl.FlagPad, "\x09"), impl.GatherOrder},
		{impl.Gather{}, headFrame(1<<31, impl.FlagPad, ""), impl.GatherOrder},
		{impl.Gather{}, headFrame(1, 256|impl.FlagPad, "\x09"), impl.GatherOrder},
		{impl.Gather{}, headFrame(1, impl.FlagPad, "\xff"+long), impl.GatherOrder},
		// Too much, and the order.
		{begun(1, false, full), moreFrame(3, 0, "a"), impl.GatherOrder},
		{begun(1, false, full), headFrame(1, 0, "a"), impl.GatherOrder},
		{begun(1, false, full), headFrame(1, impl.FlagPad, "\x09"), impl.GatherOrder},
		{begun(1, false, full), moreFrame(1, 0, long), impl.GatherOrder},
		{begun(1, false, full), moreFrame(0, 0, "a"), impl.GatherOrder},
		{begun(1, false, full), moreFrame(1, 256, "a"), impl.GatherOrder},
		{begun(1, false, full+"f"), moreFrame(1, 0, ""), impl.GatherOrder},
		{begun(1, false, full+"f"), moreFrame(1, impl.FlagHead, "a"), impl.GatherOrder},
		{begun(0, false, full), moreFrame(1, 0, "a"), impl.GatherOrder},
		{begun(-1, false, full), moreFrame(1, 0, "a"), impl.GatherOrder},
		{impl.Gather{}, moreFrame(1, 0, long), impl.GatherOrder},
		{impl.Gather{}, moreFrame(1, impl.FlagPad, "\x09"), impl.GatherOrder},
		// What is too much is so with each flag of FrMore.
		{begun(1, false, full), moreFrame(1, impl.FlagPad, "\x09"), impl.GatherBig},
		{begun(1, true, full), moreFrame(1, 255, "a"), impl.GatherBig},
	} {
		checkNoFeed(t, x.g, x.f, x.code)
	}
}

// partsOf is how a block must be parted: the bytes of each frame.
func partsOf(block string, most int) []string {
	l := []string{}
	for len(block) > most {
		l = append(l, block[:most])
		block = block[most:]
	}
	return append(l, block)
}

func checkPart(t *testing.T, stream int, end bool, block string, most int, taken int) {
	t.Helper()
	want := []impl.Frame{}
	for _, piece := range partsOf(block, taken) {
		want = append(want, moreFrame(stream, 0, piece))
	}
	want[0].Kind = impl.FrHeaders
	if end {
		want[0].Flags = impl.FlagEnd
	}
	want[len(want)-1].Flags += impl.FlagHead
	got := impl.Part(stream, end, []byte(block), most)
	if !slices.EqualFunc(got, want, sameFrame) {
		t.Errorf("Part of stream %d, end %v, %d bytes by %d: %d frames, not the %d", stream, end, len(block), most, len(got), len(want))
	}
	for i, f := range got {
		if impl.FrameCode(f) != impl.FrameGood {
			t.Errorf("Part of stream %d, %d bytes by %d: frame %d has the code %d", stream, len(block), most, i, impl.FrameCode(f))
		}
	}
}

func TestPartOfKnownBlocks(t *testing.T) {
	const head, end = impl.FlagHead, impl.FlagEnd
	for _, x := range []struct {
		end   bool
		block string
		most  int
		want  []impl.Frame
	}{
		{false, "", 3, []impl.Frame{headFrame(5, head, "")}},
		{true, "", 3, []impl.Frame{headFrame(5, head|end, "")}},
		{false, "a", 3, []impl.Frame{headFrame(5, head, "a")}},
		{true, "ab", 3, []impl.Frame{headFrame(5, head|end, "ab")}},
		{false, "abc", 3, []impl.Frame{headFrame(5, head, "abc")}},
		{true, "abc", 3, []impl.Frame{headFrame(5, head|end, "abc")}},
		{false, "abcd", 3, []impl.Frame{headFrame(5, 0, "abc"), moreFrame(5, head, "d")}},
		{true, "abcd", 3, []impl.Frame{headFrame(5, end, "abc"), moreFrame(5, head, "d")}},
		{true, "abcde", 3, []impl.Frame{headFrame(5, end, "abc"), moreFrame(5, head, "de")}},
		{true, "abcdef", 3, []impl.Frame{headFrame(5, end, "abc"), moreFrame(5, head, "def")}},
		{false, "abcdefg", 3, []impl.Frame{headFrame(5, 0, "abc"), moreFrame(5, 0, "def"), moreFrame(5, head, "g")}},
		{true, "abc", 1, []impl.Frame{headFrame(5, end, "a"), moreFrame(5, 0, "b"), moreFrame(5, head, "c")}},
	} {
		if got := impl.Part(5, x.end, []byte(x.block), x.most); !slices.EqualFunc(got, x.want, sameFrame) {
			t.Errorf("Part of end %v, %q by %d: %v, not %v", x.end, x.block, x.most, got, x.want)
		}
	}
	if got := impl.Part(5, false, nil, 3); !slices.EqualFunc(got, []impl.Frame{headFrame(5, head, "")}, sameFrame) {
		t.Errorf("Part of nil: %v", got)
	}
}

// mostEdges are numbers of bytes of a frame, and which of them is taken.
var mostEdges = []struct{ n, taken int }{
	{math.MinInt, 1}, {-1000, 1}, {-1, 1}, {0, 1}, {1, 1}, {2, 2}, {7, 7}, {255, 255}, {256, 256}, {999, 999}, {1000, 1000},
	{1001, 1000}, {2000, 1000}, {3000, 1000}, {1 << 32, 1000}, {1<<32 + 1, 1000}, {math.MaxInt - 1, 1000}, {math.MaxInt, 1000},
}

func TestPartAtTheEdges(t *testing.T) {
	text := strings.Repeat("0123456789abc", 600)
	for _, edge := range mostEdges {
		for _, round := range []int{0, 1, 2, 3, 4} {
			for _, off := range []int{-1, 0, 1} {
				if length := round*edge.taken + off; length >= 0 {
					checkPart(t, 3, round%2 == 0, text[:length], edge.n, edge.taken)
					checkPart(t, topStream, round%2 == 1, text[:length], edge.n, edge.taken)
				}
			}
		}
		// A block that nobody would gather is parted like any other.
		for _, length := range []int{2999, 3000, 3001, 7000} {
			checkPart(t, 1, true, text[:length], edge.n, edge.taken)
		}
	}
}

func TestPartOfStreams(t *testing.T) {
	for _, stream := range triedStreams {
		for _, end := range []bool{false, true} {
			for _, block := range []string{"", "abc", "abcdefg", strings.Repeat("b", 3001)} {
				for _, most := range []int{-1, 0, 1, 3, 1000, 1001} {
					if stream.ok && stream.n != 0 {
						checkPart(t, stream.n, end, block, most, min(max(most, 1), 1000))
					} else if got := impl.Part(stream.n, end, []byte(block), most); len(got) != 0 {
						t.Errorf("Part of stream %d, %d bytes by %d: %d frames, not nothing", stream.n, len(block), most, len(got))
					}
				}
			}
		}
	}
}

// gatherAll feeds frames one by one, and asks that the last one, and it alone, makes the block whole.
func gatherAll(t *testing.T, title string, l []impl.Frame, stream int, end bool, block []byte) {
	t.Helper()
	g, came := impl.Gather{}, []byte{}
	for i, f := range l {
		next, b, code := impl.Feed(g, f)
		if i == len(l)-1 {
			checkFeed(t, g, f, impl.Gather{}, string(block), impl.GatherDone)
			told := g
			if i == 0 {
				told = impl.Gather{Stream: f.Stream, End: f.Flags&impl.FlagEnd != 0}
			}
			if told.Stream != stream || told.End != end {
				t.Errorf("%s: stream %d, end %v are told", title, told.Stream, told.End)
			}
			return
		}
		came = append(came, f.Body...)
		if code != impl.GatherGood || len(b) != 0 || !sameGather(next, impl.Gather{Stream: stream, End: end, Buf: came}) || !impl.GatherOk(next) {
			t.Errorf("%s: frame %d: (%s), %d bytes, code %d", title, i, gatherTitle(next), len(b), code)
		}
		g = next
	}
	t.Errorf("%s: no frame", title)
}

// Promise 8: what was parted is gathered again.
func TestWhatWasPartedIsGatheredAgain(t *testing.T) {
	d := drawer(8)
	for round := range 400 {
		lengths := []int{0, 1, 2, 999, 1000, 1001, 2000, 2999, 3000, d.draw(20), d.draw(3001), d.draw(3001)}
		mosts := []int{-1, 0, 1, 2, 3, 500, 999, 1000, 1001, 1 + d.draw(20), 1 + d.draw(1000), 1 + d.draw(1000)}
		streams := []int{1, 2, 3, topStream, 1 + d.draw(1<<24)}
		block, most := d.bytes(lengths[d.draw(len(lengths))]), mosts[d.draw(len(mosts))]
		stream, end := streams[d.draw(len(streams))], d.draw(2) == 0
		title := fmt.Sprintf("round %d: stream %d, end %v, %d bytes by %d", round, stream, end, len(block), most)
		l := impl.Part(stream, end, block, most)
		gatherAll(t, title, l, stream, end, block)
		// Sent as bytes, it is gathered, too.
		sent := []byte{}
		for _, f := range l {
			sent = append(sent, impl.PutFrame(f)...)
		}
		back, place, code := impl.ReadFrames(sent)
		if len(back) != len(l) || place != len(sent) || code != impl.FrameMore {
			t.Errorf("%s: %d frames, place %d, code %d", title, len(back), place, code)
		}
		gatherAll(t, title+", sent", back, stream, end, block)
	}
}

// A block of header fields, in parts of each size, is the same fields.
func TestFieldsInPieces(t *testing.T) {
	l := docFields()
	block, behind := impl.PutFields(impl.Table{Max: 4096}, l)
	for most := 1; most <= len(block)+1; most++ {
		g, done := impl.Gather{}, []byte{}
		for _, f := range impl.Part(1, true, block, most) {
			g, done, _ = impl.Feed(g, f)
		}
		checkBlock(t, fmt.Sprint("parts of ", most), impl.Table{Max: 4096}, 4096, string(done), l, behind)
	}
}

// A block that is too long is gathered up to where it is too long, and no further.
func TestPartsOfTooLongABlock(t *testing.T) {
	d := drawer(88)
	for _, length := range []int{3001, 3002, 4000, 6000} {
		for _, most := range []int{1, 7, 100, 999, 1000} {
			block := d.bytes(length)
			g, code := impl.Gather{}, impl.GatherGood
			fed := 0
			for _, f := range impl.Part(1, false, block, most) {
				if g, _, code = impl.Feed(g, f); code != impl.GatherGood {
					break
				}
				fed += len(f.Body)
			}
			if code != impl.GatherBig || fed != 3000/most*most || !sameGather(g, impl.Gather{Stream: 1, Buf: block[:fed]}) {
				t.Errorf("%d bytes by %d: code %d behind %d, (%s)", length, most, code, fed, gatherTitle(g))
			}
		}
	}
}

// What is refused changes nothing: between the frames of a block, refused ones leave it as it was.
func TestWhatIsRefusedChangesNothing(t *testing.T) {
	d := drawer(888)
	for round := range 200 {
		block, most, end := d.bytes(d.draw(3001)), 1+d.draw(1000), d.draw(2) == 0
		l := impl.Part(7, end, block, most)
		g, done := impl.Gather{}, []byte{}
		for i, f := range l {
			wrong := []impl.Frame{{Kind: -1}, moreFrame(9, impl.FlagHead, "abc"), moreFrame(7, 256, "abc"), moreFrame(7, 0, strings.Repeat("a", 1001))}
			if i == 0 {
				wrong = append(wrong, moreFrame(7, 0, "abc"), headFrame(7, impl.FlagPad, "\x05abc"), headFrame(7, impl.FlagPrio, "abc"))
			} else {
				wrong = append(wrong, headFrame(7, 0, "abc"), headFrame(9, impl.FlagPad, ""), impl.Frame{Stream: 7}, goodOfKind(impl.FrPing, 0, 0), d.frame())
				wrong[len(wrong)-1].Kind = impl.FrData
			}
			for _, w := range wrong {
				next, b, code := impl.Feed(g, w)
				if code < impl.GatherOrder || len(b) != 0 || !sameGather(next, g) {
					t.Errorf("round %d, frame %d: (%s) is answered with (%s), %d bytes, code %d", round, i, frameTitle(w), gatherTitle(next), len(b), code)
				}
				g = next
			}
			g, done, _ = impl.Feed(g, f)
		}
		if !bytes.Equal(done, block) || !sameGather(g, impl.Gather{}) {
			t.Errorf("round %d: %d bytes by %d: %d bytes are gathered", round, len(block), most, len(done))
		}
	}
}

// Blocks one behind the other, of several streams, with other frames between them.
func TestBlocksOneBehindTheOther(t *testing.T) {
	d := drawer(8888)
	g, done := impl.Gather{}, []byte{}
	for round := range 300 {
		stream, block := 1+d.draw(5), d.bytes(d.draw(300))
		for _, f := range impl.Part(stream, d.draw(2) == 0, block, 1+d.draw(100)) {
			g, done, _ = impl.Feed(g, f)
		}
		if !bytes.Equal(done, block) || !sameGather(g, impl.Gather{}) {
			t.Fatalf("round %d: %d bytes, (%s)", round, len(done), gatherTitle(g))
		}
		for range d.draw(3) {
			f := goodOfKind([]int{0, 2, 3, 4, 5, 6, 7, 8, 10, 255}[d.draw(10)], d.draw(256), stream)
			checkFeed(t, g, f, impl.Gather{}, "", impl.GatherGood)
		}
	}
}

// checkFeedMemory asks: nothing is written, nothing is shared, and the spare room tells nothing.
func checkFeedMemory(t *testing.T, g impl.Gather, f impl.Frame, spare int) {
	t.Helper()
	title := fmt.Sprintf("(%s) and (%s) with %d spare", gatherTitle(g), frameTitle(f), spare)
	plain, plainBlock, plainCode := impl.Feed(g, f)
	buf, allBuf := roomy(string(g.Buf), spare)
	body, allBody := roomy(string(f.Body), spare)
	g.Buf, f.Body = buf, body
	before := string(allBuf) + string(allBody)
	one, oneBlock, code := impl.Feed(g, f)
	two, twoBlock, _ := impl.Feed(g, f)
	same := func(how string) {
		t.Helper()
		if !sameGather(one, plain) || !bytes.Equal(oneBlock, plainBlock) || code != plainCode {
			t.Errorf("%s: the answer is another one %s", title, how)
		}
	}
	same("with spare room")
	turnAll(two.Buf)
	turnAll(twoBlock)
	same("when that of another call is written into")
	if string(allBuf)+string(allBody) != before {
		t.Errorf("%s: an argument is written into", title)
	}
	turnAll(allBuf)
	turnAll(allBody)
	same("when the arguments are written into")
	turnAll(one.Buf)
	if !bytes.Equal(oneBlock, plainBlock) {
		t.Errorf("%s: the block shares memory with the Gather", title)
	}
}

func TestFeedLeavesItsArgumentsAlone(t *testing.T) {
	gathers := []impl.Gather{{}, begun(3, false, ""), begun(3, true, "abc"), begun(5, false, "abc"), begun(3, false, strings.Repeat("f", 3000)), {Stream: -1, Buf: []byte("abc")}, {End: true, Buf: []byte("abc")}, begun(3, true, strings.Repeat("f", 3001))}
	frames := []impl.Frame{{Kind: -1, Body: []byte("abc")}, {Kind: impl.FrData, Stream: 3, Body: []byte("data")}, goodOfKind(impl.FrPing, 0, 0)}
	for _, flags := range []int{0, impl.FlagHead, impl.FlagPad, impl.FlagPad | impl.FlagHead, bothFlags, bothFlags | impl.FlagHead | impl.FlagEnd} {
		for _, body := range []string{"", "\x09", "\x02abcde", "\x0212345abcde", strings.Repeat("\x07", 1000)} {
			frames = append(frames, headFrame(3, flags, body), moreFrame(3, flags, body))
		}
	}
	for _, g := range gathers {
		for _, f := range frames {
			for _, spare := range []int{0, 1, 40, 2000} {
				checkFeedMemory(t, g, f, spare)
			}
		}
		for _, spare := range []int{0, 1, 40} {
			buf, all := roomy(string(g.Buf), spare)
			before := string(all)
			impl.GatherOk(impl.Gather{Stream: g.Stream, End: g.End, Buf: buf})
			if string(all) != before {
				t.Errorf("GatherOk writes into (%s)", gatherTitle(g))
			}
		}
	}
}

// Two frames that go on from one Gather do not meet in the room behind its bytes.
func TestGathersGoOnApart(t *testing.T) {
	for _, length := range []int{0, 1, 5, 100} {
		g, _, _ := impl.Feed(impl.Gather{}, headFrame(3, 0, strings.Repeat("h", length)))
		g, _, _ = impl.Feed(g, moreFrame(3, 0, "m"))
		one, _, _ := impl.Feed(g, moreFrame(3, 0, "one"))
		two, _, _ := impl.Feed(g, moreFrame(3, 0, "two"))
		_, block, _ := impl.Feed(g, moreFrame(3, impl.FlagHead, "end"))
		ahead := strings.Repeat("h", length) + "m"
		if string(one.Buf) != ahead+"one" || string(two.Buf) != ahead+"two" || string(block) != ahead+"end" || string(g.Buf) != ahead {
			t.Errorf("%d bytes: %q, %q, %q behind %q", length, one.Buf, two.Buf, block, g.Buf)
		}
	}
}

func TestPartLeavesTheBlockAlone(t *testing.T) {
	for _, length := range []int{0, 1, 3, 4, 10, 3001} {
		for _, most := range []int{0, 1, 3, 1000, 1001} {
			for _, spare := range []int{0, 1, 40} {
				for _, stream := range []int{0, 1} {
					title := fmt.Sprintf("Part of stream %d, %d bytes with %d spare by %d", stream, length, spare, most)
					// What is told of an answer is all of its bytes, but its memory is asked for one Body at a time.
					checkBytesMemory(t, title, strings.Repeat("b", length), spare, func(b []byte) []byte {
						out := []byte{}
						for _, f := range impl.Part(stream, true, b, most) {
							out = fmt.Append(out, frameTitle(f), string(f.Body))
						}
						return out
					})
				}
			}
		}
	}
}

// No Body shares memory with the block, nor with another Body, not even in the room behind it.
func TestBodiesOfPartsShareNoMemory(t *testing.T) {
	block := strings.Repeat("0123456789", 3)
	for _, most := range []int{1, 3, 7, 10, 29, 30, 31, 1000} {
		want := partsOf(block, most)
		for but := range want {
			b, all := roomy(block, 40)
			l, other := impl.Part(1, true, b, most), impl.Part(1, true, b, most)
			if len(l) != len(want) || len(other) != len(want) {
				t.Fatalf("%d frames, not %d", len(l), len(want))
			}
			turnAll(l[but].Body)
			_ = append(l[but].Body, "behind it, far behind it, farther than any part"...)
			if string(b) != block || string(all[len(b):]) != strings.Repeat(string([]byte{spareByte}), 40) {
				t.Errorf("by %d: the block changes with frame %d", most, but)
			}
			turnAll(all)
			l[but] = impl.Frame{}
			for i, piece := range want {
				if i != but && string(l[i].Body) != piece {
					t.Errorf("by %d: frame %d changes with frame %d, or with the block: %q", most, i, but, l[i].Body)
				}
				if string(other[i].Body) != piece || other[i].Stream != 1 {
					t.Errorf("by %d: frame %d of another call changes: %q", most, i, other[i].Body)
				}
			}
		}
	}
}

// No call keeps anything: what is refused leaves nothing behind.
func TestBlocksAreGatheredAlikeAgain(t *testing.T) {
	for range 3 {
		checkNoFeed(t, impl.Gather{}, headFrame(1, impl.FlagPad, "\x09"), impl.GatherPad)
		checkNoFeed(t, begun(1, false, strings.Repeat("f", 3000)), moreFrame(1, 0, "a"), impl.GatherBig)
		checkNoFeed(t, begun(1, false, "abc"), moreFrame(3, 0, "a"), impl.GatherOrder)
		checkFeed(t, begun(1, false, "abc"), moreFrame(1, impl.FlagHead, "d"), impl.Gather{}, "abcd", impl.GatherDone)
		checkFeed(t, impl.Gather{}, headFrame(1, 0, "abc"), begun(1, false, "abc"), "", impl.GatherGood)
		checkPart(t, 1, true, "abcdefg", 3, 3)
	}
}
