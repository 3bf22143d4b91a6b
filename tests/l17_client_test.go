package tests

import (
	"fmt"
	"math"
	"slices"
	"strings"
	"testing"

	"loop.example/g00199/impl"
)

const topFile = 400

// fileLengths are around what the chapter names: nothing, pieces of 24 bytes, and the longest.
var fileLengths = []int{0, 1, 2, 23, 24, 25, 47, 48, 49, 72, 100, 256, 384, 399, 400}

func clientOf(id string, file string, step int, off int) impl.Client {
	return impl.Client{Id: id, File: []byte(file), Step: step, Off: off}
}

func sameClient(a impl.Client, b impl.Client) bool {
	return a.Id == b.Id && string(a.File) == string(b.File) && a.Step == b.Step && a.Off == b.Off
}

func clientTitle(c impl.Client) string {
	return fmt.Sprintf("%.12q with %d bytes, step %d, off %d", c.Id, len(c.File), c.Step, c.Off)
}

func docClientOk(c impl.Client) bool {
	id := len(c.Id) >= 1 && len(c.Id) <= 8 && strings.Trim(c.Id, "abcdefghijklmnopqrstuvwxyz0123456789") == ""
	return id && len(c.File) <= 400 && c.Step >= 1 && c.Step <= 6 && c.Off >= 0 && c.Off <= len(c.File)
}

// docNext is, by the chapter's words, what a client asks for next.
func docNext(c impl.Client) (impl.Req, string, bool) {
	if !docClientOk(c) || c.Step >= 5 {
		return impl.Req{}, "", false
	}
	file := string(c.File)
	switch c.Step {
	case 1:
		return makeReq(c.Id, len(file)), "", true
	case 2:
		return askReq(c.Id), "", true
	case 4:
		return doneReq(c.Id, sumOf(file)), "", true
	}
	left := file[c.Off:]
	if len(left) > 24 {
		left = left[:24]
	}
	return sendReq(c.Id, c.Off), left, true
}

// docTurns are the chapter's words on each step and status; else it is ClFail.
var docTurns = map[int]map[int]string{
	1: {201: "how far", 409: "ask", 507: "stays"},
	2: {200: "how far", 404: "make"},
	3: {204: "how far", 409: "how far", 404: "make", 507: "stays"},
	4: {200: "done", 409: "ask", 404: "make", 507: "stays"},
}

// docHeard is, by the chapter's words, a client behind an answer.
func docHeard(c impl.Client, r impl.Resp) impl.Client {
	right := r.Status >= 100 && r.Status <= 599 && r.Off >= -1 && r.Off <= topNumber
	if !docClientOk(c) || !right || c.Step >= 5 {
		return c
	}
	switch docTurns[c.Step][r.Status] {
	case "stays":
	case "make":
		c.Step = 1
	case "ask":
		c.Step = 2
	case "done":
		c.Step = 5
	case "how far":
		switch {
		case r.Off < 0 || r.Off > len(c.File):
			c.Step = 6
		case r.Off == len(c.File):
			c.Step, c.Off = 4, r.Off
		default:
			c.Step, c.Off = 3, r.Off
		}
	default:
		c.Step = 6
	}
	return c
}

func docCut(c impl.Client) impl.Client {
	if docClientOk(c) && c.Step < 5 {
		c.Step = 2
	}
	return c
}

func checkClientOk(t *testing.T, c impl.Client, want bool) {
	t.Helper()
	if got := impl.ClientOk(c); got != want {
		t.Errorf("ClientOk of (%s) is %v", clientTitle(c), got)
	}
	if got := docClientOk(c); got != want {
		t.Errorf("docClientOk of (%s) is %v", clientTitle(c), got)
	}
}

// checkNext asks for this request with this data; it must be ReqOk.
func checkNext(t *testing.T, c impl.Client, want impl.Req, data string) {
	t.Helper()
	r, got, ok := impl.NextReq(c)
	if !ok || r != want || string(got) != data {
		t.Errorf("NextReq of (%s): %+v, %d bytes, %v, not %+v, %d bytes", clientTitle(c), r, len(got), ok, want, len(data))
	}
	if !impl.ReqOk(r) {
		t.Errorf("NextReq of (%s): %+v is not ReqOk", clientTitle(c), r)
	}
}

func checkNoNext(t *testing.T, c impl.Client) {
	t.Helper()
	if r, data, ok := impl.NextReq(c); ok || r != (impl.Req{}) || len(data) != 0 {
		t.Errorf("NextReq of (%s): %+v, %d bytes, %v", clientTitle(c), r, len(data), ok)
	}
}

// checkHeard asks for the step and the place behind an answer, and for all that the chapter's words give.
func checkHeard(t *testing.T, c impl.Client, r impl.Resp, step int, off int) impl.Client {
	t.Helper()
	want := c
	want.Step, want.Off = step, off
	if doc := docHeard(c, r); !sameClient(doc, want) {
		t.Errorf("(%s) hears %+v: the chapter's words give (%s), not (%s)", clientTitle(c), r, clientTitle(doc), clientTitle(want))
	}
	got := impl.HearResp(c, r)
	if !sameClient(got, want) {
		t.Errorf("(%s) hears %+v: (%s), not (%s)", clientTitle(c), r, clientTitle(got), clientTitle(want))
	}
	if impl.ClientOk(got) != impl.ClientOk(c) {
		t.Errorf("(%s) hears %+v: ClientOk is %v", clientTitle(c), r, impl.ClientOk(got))
	}
	return got
}

func checkHearsNothing(t *testing.T, c impl.Client, r impl.Resp) {
	t.Helper()
	checkHeard(t, c, r, c.Step, c.Off)
}

func checkCut(t *testing.T, c impl.Client, step int) impl.Client {
	t.Helper()
	want := c
	want.Step = step
	got := impl.CutOff(c)
	if !sameClient(got, want) || !sameClient(docCut(c), want) {
		t.Errorf("CutOff of (%s): (%s), not (%s)", clientTitle(c), clientTitle(got), clientTitle(want))
	}
	return got
}

// goodOffs are places of a file of so many bytes.
func goodOffs(size int) []int {
	var l []int
	for _, off := range []int{0, 1, 23, 24, 25, size - 49, size - 48, size - 25, size - 24, size - 23, size - 1, size} {
		if off >= 0 && off <= size && !slices.Contains(l, off) {
			l = append(l, off)
		}
	}
	return l
}

// goodClients have each step with each of the files and places.
func goodClients() []impl.Client {
	var l []impl.Client
	ids := []string{"a", "up1", "zzzzzzzz", "0", "9"}
	for i, size := range fileLengths {
		for _, off := range goodOffs(size) {
			for step := 1; step <= 6; step++ {
				l = append(l, clientOf(ids[(i+step)%len(ids)], longSector(size), step, off))
			}
		}
	}
	return l
}

// wrongOffs are no places of a file of so many bytes.
func wrongOffs(size int) []int {
	return slices.Concat([]int{-1, -2, -size, size + 1, size + 2, 401, 256 + size + 1, 1<<32 + size}, greatNumbers)
}

// wrongClients have one thing changed in what is right.
func wrongClients() []impl.Client {
	var l []impl.Client
	for step := 1; step <= 6; step++ {
		for _, id := range wrongIds {
			l = append(l, clientOf(id, "file", step, 2), clientOf(id, "", step, 0))
		}
		for _, size := range []int{401, 402, 512, 656, 1000, 1<<16 + 5} {
			l = append(l, clientOf("a", longSector(size), step, 0), clientOf("a", longSector(size), step, 400), clientOf("a", longSector(size), step, size))
		}
		for _, size := range []int{0, 1, 24, 399, 400} {
			for _, off := range wrongOffs(size) {
				if off < 0 || off > size {
					l = append(l, clientOf("a", longSector(size), step, off))
				}
			}
		}
	}
	for _, step := range slices.Concat([]int{0, -1, -6, 7, 8, 256, 257, 261, 1<<16 + 1, 1<<32 + 2}, greatNumbers) {
		for _, size := range []int{0, 1, 30, 400} {
			l = append(l, clientOf("a", longSector(size), step, 0), clientOf("a", longSector(size), step, size))
		}
	}
	return append(l, impl.Client{}, impl.Client{File: []byte("file")}, impl.Client{Id: "a"}, impl.Client{Step: 1}, impl.Client{Id: "a", Step: 1, Off: 1})
}

func TestConstantsOfClients(t *testing.T) {
	steps := []int{impl.ClMake, impl.ClAsk, impl.ClSend, impl.ClSum, impl.ClDone, impl.ClFail}
	if !slices.Equal(steps, []int{1, 2, 3, 4, 5, 6}) {
		t.Errorf("steps are %v", steps)
	}
}

func TestClientNew(t *testing.T) {
	for _, id := range []string{"a", "z", "0", "9", "up1", "abcdefgh", "01234567"} {
		for _, size := range fileLengths {
			file := longSector(size)
			got := impl.ClientNew(id, []byte(file))
			if !sameClient(got, clientOf(id, file, impl.ClMake, 0)) {
				t.Errorf("ClientNew of %q and %d bytes: (%s)", id, size, clientTitle(got))
			}
			checkClientOk(t, got, true)
			checkNext(t, got, makeReq(id, size), "")
		}
	}
	if got := impl.ClientNew("a", nil); !sameClient(got, clientOf("a", "", impl.ClMake, 0)) {
		t.Errorf("ClientNew of no file: (%s)", clientTitle(got))
	}
}

func TestClientNewOfWhatMayNotBe(t *testing.T) {
	checkNew := func(id string, size int) {
		t.Helper()
		got := impl.ClientNew(id, []byte(longSector(size)))
		if !sameClient(got, impl.Client{}) {
			t.Errorf("ClientNew of %.12q and %d bytes: (%s)", id, size, clientTitle(got))
		}
		checkClientOk(t, got, false)
		checkNoNext(t, got)
	}
	for _, id := range wrongIds {
		for _, size := range []int{0, 1, 399, 400, 401} {
			checkNew(id, size)
		}
	}
	for _, size := range []int{401, 402, 425, 500, 512, 656, 1000, 1<<16 + 1, 1 << 20} {
		checkNew("a", size)
		checkNew("zzzzzzzz", size)
	}
}

func TestClientOk(t *testing.T) {
	for _, c := range goodClients() {
		checkClientOk(t, c, true)
	}
	l := wrongClients()
	if len(l) < 700 {
		t.Errorf("%d wrong clients", len(l))
	}
	for _, c := range l {
		checkClientOk(t, c, false)
	}
	// Whether a place fits the step, no word asks.
	for step := 1; step <= 6; step++ {
		checkClientOk(t, clientOf("a", "file", step, 4), true)
		checkClientOk(t, clientOf("a", "", step, 0), true)
	}
}

func TestClientOkByEachByteOfAnId(t *testing.T) {
	for i := range 256 {
		c := string([]byte{byte(i)})
		good := strings.Contains("abcdefghijklmnopqrstuvwxyz0123456789", c)
		for _, id := range []string{c, "a" + c, c + "0", "abc" + c + "efg", "abcdefg" + c} {
			checkClientOk(t, clientOf(id, "file", impl.ClAsk, 1), good)
			if got := impl.ClientNew(id, []byte("file")); impl.ClientOk(got) != good || (got.Id == id) != good {
				t.Errorf("ClientNew of %q: (%s)", id, clientTitle(got))
			}
		}
	}
}

// What each function gives of one that is ClientOk is ClientOk.
func TestClientOkOfWhatIsGiven(t *testing.T) {
	for _, c := range goodClients() {
		checkClientOk(t, impl.CutOff(c), true)
		for _, status := range []int{100, 200, 201, 204, 400, 404, 409, 422, 507, 599} {
			for _, off := range []int{-1, 0, len(c.File) - 1, len(c.File), len(c.File) + 1, topNumber} {
				checkClientOk(t, impl.HearResp(c, telling(status, off)), true)
			}
		}
	}
}

func TestNextReqOfEachStep(t *testing.T) {
	for _, c := range goodClients() {
		want, data, ok := docNext(c)
		if !ok {
			checkNoNext(t, c)
			continue
		}
		checkNext(t, c, want, data)
	}
	file := text24 + text24 + "123456"
	checkNext(t, clientOf("up1", file, impl.ClMake, 7), makeReq("up1", 54), "")
	checkNext(t, clientOf("up1", file, impl.ClAsk, 7), askReq("up1"), "")
	checkNext(t, clientOf("up1", file, impl.ClSend, 7), sendReq("up1", 7), file[7:31])
	checkNext(t, clientOf("up1", file, impl.ClSum, 7), doneReq("up1", sumOf(file)), "")
	checkNoNext(t, clientOf("up1", file, impl.ClDone, 54))
	checkNoNext(t, clientOf("up1", file, impl.ClFail, 7))
	for _, c := range wrongClients() {
		checkNoNext(t, c)
	}
}

// With each number of bytes left, from each place.
func TestNextReqOfPieces(t *testing.T) {
	for _, size := range []int{0, 1, 23, 24, 25, 48, 49, 240, 399, 400} {
		file := longSector(size)
		for off := range size + 1 {
			data := file[off:min(off+impl.ChunkLen, size)]
			checkNext(t, clientOf("a", file, impl.ClSend, off), sendReq("a", off), data)
			if len(data) != min(24, size-off) {
				t.Errorf("%d bytes from %d on: a piece of %d", size, off, len(data))
			}
		}
	}
}

func TestNextReqOfSums(t *testing.T) {
	for file, sum := range map[string]int{"": 0, "123456789": 3808858755, "hello": 2591144780, "\x00": 1383945041, strings.Repeat("x", 60): sumOf(strings.Repeat("x", 60)), longSector(400): sumOf(longSector(400))} {
		if sum != sumOf(file) {
			t.Errorf("the sum of %.12q is %d, not %d", file, sumOf(file), sum)
		}
		// The place tells nothing of the sum: it is that of all of the file.
		for _, off := range goodOffs(len(file)) {
			checkNext(t, clientOf("a", file, impl.ClSum, off), doneReq("a", sum), "")
		}
	}
}

// heardOffs are places that an answer may tell a client, and ones that it may not.
func heardOffs(c impl.Client) []int {
	size := len(c.File)
	return []int{-2, -1, 0, 1, c.Off - 1, c.Off, c.Off + 1, size / 2, size - 1, size, size + 1, size + 2, 400, 401, 1<<16 + size, topNumber}
}

// Each step with each status that an answer may have, and around these.
func TestHearRespOfEachStatus(t *testing.T) {
	for i, c := range goodClients() {
		if i%7 != 0 {
			continue
		}
		for status := 90; status <= 610; status++ {
			for _, off := range heardOffs(c) {
				doc := docHeard(c, telling(status, off))
				checkHeard(t, c, telling(status, off), doc.Step, doc.Off)
			}
		}
	}
}

// A heardPlace is what an answer tells, with the step and the place behind it.
type heardPlace struct{ off, step, behind int }

// checkHowFar asks for these, of a file of 30 bytes, told to be at 9 before.
func checkHowFar(t *testing.T, c impl.Client, status int) {
	t.Helper()
	for _, x := range []heardPlace{
		{0, impl.ClSend, 0}, {1, impl.ClSend, 1}, {8, impl.ClSend, 8}, {9, impl.ClSend, 9}, {10, impl.ClSend, 10}, {29, impl.ClSend, 29}, {30, impl.ClSum, 30},
		{31, impl.ClFail, 9}, {32, impl.ClFail, 9}, {400, impl.ClFail, 9}, {topNumber, impl.ClFail, 9}, {-1, impl.ClFail, 9}, {-2, c.Step, 9}, {topNumber + 1, c.Step, 9},
	} {
		checkHeard(t, c, telling(status, x.off), x.step, x.behind)
	}
}

// checkHoweverFar asks for the step by the status, and else for ClFail, whatever place is told, and whether one is.
func checkHoweverFar(t *testing.T, c impl.Client, steps map[int]int, fails ...int) {
	t.Helper()
	for _, status := range fails {
		steps[status] = impl.ClFail
	}
	for _, off := range heardOffs(c) {
		for status, step := range steps {
			if off >= -1 {
				checkHeard(t, c, telling(status, off), step, c.Off)
			}
		}
	}
}

func TestHearRespWhereItMakes(t *testing.T) {
	c := clientOf("a", longSector(30), impl.ClMake, 9)
	checkHowFar(t, c, 201)
	checkHoweverFar(t, c, map[int]int{409: impl.ClAsk, 507: impl.ClMake}, 100, 200, 202, 204, 400, 404, 422, 500, 599)
}

func TestHearRespWhereItAsks(t *testing.T) {
	c := clientOf("a", longSector(30), impl.ClAsk, 9)
	checkHowFar(t, c, 200)
	checkHoweverFar(t, c, map[int]int{404: impl.ClMake}, 100, 199, 201, 204, 400, 403, 405, 409, 422, 507, 599)
}

func TestHearRespWhereItSends(t *testing.T) {
	c := clientOf("a", longSector(30), impl.ClSend, 9)
	checkHowFar(t, c, 204)
	checkHowFar(t, c, 409)
	checkHoweverFar(t, c, map[int]int{404: impl.ClMake, 507: impl.ClSend}, 100, 200, 201, 203, 205, 400, 408, 410, 422, 500, 506, 508, 599)
}

// How far it is told to be is all the same where it is the sum that was sent.
func TestHearRespWhereItSums(t *testing.T) {
	for _, at := range []int{0, 9, 30} {
		c := clientOf("a", longSector(30), impl.ClSum, at)
		checkHoweverFar(t, c, map[int]int{200: impl.ClDone, 409: impl.ClAsk, 404: impl.ClMake, 507: impl.ClSum}, 100, 201, 204, 400, 422, 500, 599)
	}
}

// Of a file without bytes, the first place is its end.
func TestHearRespOfAnEmptyFile(t *testing.T) {
	for step, status := range map[int]int{impl.ClMake: 201, impl.ClAsk: 200, impl.ClSend: 204} {
		c := clientOf("a", "", step, 0)
		checkHeard(t, c, telling(status, 0), impl.ClSum, 0)
		checkHeard(t, c, telling(status, 1), impl.ClFail, 0)
		checkHeard(t, c, untold(status), impl.ClFail, 0)
	}
	checkHeard(t, clientOf("a", "", impl.ClSend, 0), telling(409, 0), impl.ClSum, 0)
	c := checkHeard(t, clientOf("a", "", impl.ClSum, 0), untold(200), impl.ClDone, 0)
	checkNoNext(t, c)
}

func TestHearRespOfWrongAnswers(t *testing.T) {
	wrong := slices.Clone(wrongResps)
	for _, status := range []int{200, 201, 204, 404, 409, 507, 400} {
		for _, off := range []int{-2, -3, -30, topNumber + 1, 1<<32 + 3, math.MinInt, math.MaxInt} {
			wrong = append(wrong, telling(status, off))
		}
	}
	for _, status := range []int{-1, 0, 4, 99, 600, 1<<8 + 1<<16 + 200, 1<<32 + 201, -200} {
		wrong = append(wrong, telling(status, 3), untold(status))
	}
	for _, c := range goodClients() {
		for _, r := range wrong {
			checkHearsNothing(t, c, r)
		}
	}
}

func TestWhoIsAtAnEndHearsNothing(t *testing.T) {
	for _, size := range []int{0, 30, 400} {
		for _, step := range []int{impl.ClDone, impl.ClFail} {
			for _, off := range []int{0, size / 2, size} {
				c := clientOf("a", longSector(size), step, off)
				checkNoNext(t, c)
				checkCut(t, c, step)
				for status := 100; status <= 599; status++ {
					checkHearsNothing(t, c, telling(status, 0))
					checkHearsNothing(t, c, telling(status, size))
					checkHearsNothing(t, c, untold(status))
				}
			}
		}
	}
}

func TestWrongClientsStayAsTheyAre(t *testing.T) {
	for _, c := range wrongClients() {
		checkNoNext(t, c)
		checkCut(t, c, c.Step)
		for _, r := range slices.Concat(wrongResps[:4], []impl.Resp{telling(200, 0), telling(201, 0), telling(204, 4), telling(409, 0), untold(404), untold(507), untold(400), telling(200, len(c.File))}) {
			checkHearsNothing(t, c, r)
		}
	}
}

func TestCutOff(t *testing.T) {
	for _, c := range goodClients() {
		step := c.Step
		if step != impl.ClDone && step != impl.ClFail {
			step = impl.ClAsk
		}
		got := checkCut(t, c, step)
		checkCut(t, got, step)
		if step == impl.ClAsk {
			checkNext(t, got, askReq(c.Id), "")
		}
	}
}

// checkGoesOn asks: who was told to be at off sends from there on, or the sum, when that is the end.
func checkGoesOn(t *testing.T, c impl.Client, off int) {
	t.Helper()
	file := string(c.File)
	if off == len(file) {
		checkNext(t, c, doneReq(c.Id, sumOf(file)), "")
		return
	}
	checkNext(t, c, sendReq(c.Id, off), file[off:min(off+24, len(file))])
}

// Promise 17: from wherever it was, and wherever it is told to be, it goes on from there.
func TestAClientGoesOnFromWhereItIsToldToBe(t *testing.T) {
	tells := map[int][]int{impl.ClMake: {201}, impl.ClAsk: {200}, impl.ClSend: {204, 409}}
	for _, size := range []int{0, 1, 24, 25, 60, 400} {
		for off := range size + 1 {
			for _, was := range goodOffs(size) {
				for step := impl.ClMake; step <= impl.ClSum; step++ {
					c := clientOf("up1", longSector(size), step, was)
					for _, status := range tells[step] {
						checkGoesOn(t, impl.HearResp(c, telling(status, off)), off)
					}
					cut := impl.CutOff(c)
					checkNext(t, cut, askReq("up1"), "")
					checkGoesOn(t, impl.HearResp(cut, telling(200, off)), off)
				}
			}
		}
	}
}

// Promise 17: what was told once, and is told to be lost, is sent again.
func TestWhatIsToldToBeLostIsSentAgain(t *testing.T) {
	file := longSector(100)
	c := impl.ClientNew("a", []byte(file))
	next := func(r impl.Resp, step int, off int) {
		t.Helper()
		c = checkHeard(t, c, r, step, off)
	}
	next(telling(201, 0), impl.ClSend, 0)
	checkNext(t, c, sendReq("a", 0), file[:24])
	next(telling(204, 24), impl.ClSend, 24)
	next(telling(204, 48), impl.ClSend, 48)
	checkNext(t, c, sendReq("a", 48), file[48:72])
	c = checkCut(t, c, impl.ClAsk)
	next(telling(200, 24), impl.ClSend, 24)
	checkNext(t, c, sendReq("a", 24), file[24:48])
	next(telling(409, 5), impl.ClSend, 5)
	checkNext(t, c, sendReq("a", 5), file[5:29])
	next(untold(507), impl.ClSend, 5)
	checkNext(t, c, sendReq("a", 5), file[5:29])
	next(telling(204, 29), impl.ClSend, 29)
	next(untold(404), impl.ClMake, 29)
	checkNext(t, c, makeReq("a", 100), "")
	next(untold(507), impl.ClMake, 29)
	next(telling(409, 53), impl.ClAsk, 29)
	checkNext(t, c, askReq("a"), "")
	next(untold(404), impl.ClMake, 29)
	next(telling(201, 0), impl.ClSend, 0)
	checkNext(t, c, sendReq("a", 0), file[:24])
	next(telling(204, 100), impl.ClSum, 100)
	checkNext(t, c, doneReq("a", sumOf(file)), "")
	next(telling(409, 72), impl.ClAsk, 100)
	next(telling(200, 72), impl.ClSend, 72)
	checkNext(t, c, sendReq("a", 72), file[72:96])
	next(telling(204, 96), impl.ClSend, 96)
	checkNext(t, c, sendReq("a", 96), file[96:])
	next(telling(204, 100), impl.ClSum, 100)
	next(untold(507), impl.ClSum, 100)
	next(untold(404), impl.ClMake, 100)
	next(telling(201, 0), impl.ClSend, 0)
	next(telling(204, 100), impl.ClSum, 100)
	next(untold(200), impl.ClDone, 100)
	checkNoNext(t, c)
}

// served lets a server do what a client asks for, makes that sure, and gives out the answer.
func served(s impl.Server, c impl.Client) (impl.Server, impl.Resp) {
	r, data, _ := impl.NextReq(c)
	s, _ = impl.Serve(s, 0, r, data)
	s, l := impl.SyncAll(s)
	if len(l) == 0 {
		return s, impl.Resp{}
	}
	return s, l[len(l)-1].R
}

// checkArrived asks for the whole file, done, in the store.
func checkArrived(t *testing.T, title string, s impl.Server, c impl.Client) {
	t.Helper()
	u, ok := impl.UpAt(s.St, c.Id)
	if c.Step != impl.ClDone || !ok || !u.Done || string(u.Data) != string(c.File) || u.Want != len(c.File) {
		t.Errorf("%s: (%s), with %d bytes there, done %v", title, clientTitle(c), len(u.Data), u.Done)
	}
}

// Where nothing breaks off, each byte is sent once, in pieces, and it takes a request for each, one to make and one for the sum.
func TestAClientWhereNothingBreaksOff(t *testing.T) {
	for _, size := range fileLengths {
		s, c := impl.ServerNew(40), impl.ClientNew("a", []byte(longSector(size)))
		sent, count := "", 0
		for ; c.Step != impl.ClDone && c.Step != impl.ClFail && count < 100; count++ {
			r, data, _ := impl.NextReq(c)
			if r.Op == impl.OpSend {
				sent += string(data)
			}
			resp := impl.Resp{}
			s, resp = served(s, c)
			c = impl.HearResp(c, resp)
		}
		title := fmt.Sprintf("%d bytes", size)
		checkArrived(t, title, s, c)
		if sent != longSector(size) || count != 2+(size+23)/24 {
			t.Errorf("%s: %d requests, %d bytes sent", title, count, len(sent))
		}
	}
}

// broken lets a crash come: of what was not sure, some sectors are kept.
func broken(d *drawer, s impl.Server) impl.Server {
	kept := make([]bool, len(s.St.Disk.Now))
	for i := range kept {
		kept[i] = d.draw(2) == 0
	}
	s, _ = impl.CrashServer(s, kept)
	return s
}

// Promise 17, drawn: with answers lost and crashes between, a client never fails, and once nothing is cut its file arrives.
func TestAClientAmongCrashesAndCuts(t *testing.T) {
	d := drawer(1717)
	asked, arrived := map[int]int{}, 0
	for round := range 300 {
		s, c := impl.ServerNew(60), impl.ClientNew(d.id(), d.bytes(drawn(&d, 0, 1, 24, d.draw(200), 400)))
		title := fmt.Sprintf("round %d: (%s)", round, clientTitle(c))
		for range d.draw(30) {
			r, data, ok := impl.NextReq(c)
			if !ok {
				break
			}
			asked[r.Op]++
			if back, code := impl.ReqOf(impl.FieldsOf(r)); back != r || code != impl.ReqGood {
				t.Errorf("%s: %+v comes back as %+v", title, r, back)
			}
			s, _ = impl.Serve(s, 0, r, data)
			if d.draw(4) == 0 {
				s, c = broken(&d, s), checkCut(t, c, impl.ClAsk)
				continue
			}
			next, l := impl.SyncAll(s)
			s = next
			if d.draw(5) == 0 {
				c = checkCut(t, c, impl.ClAsk)
				continue
			}
			doc := docHeard(c, l[0].R)
			c = checkHeard(t, c, l[0].R, doc.Step, doc.Off)
			if c.Step == impl.ClFail {
				t.Errorf("%s: it fails at %+v, behind %+v", title, l[0].R, r)
			}
		}
		for count := 0; c.Step != impl.ClDone && count < 50; count++ {
			resp := impl.Resp{}
			s, resp = served(s, c)
			c = impl.HearResp(c, resp)
			if c.Step == impl.ClFail || resp.Status == 507 {
				break
			}
		}
		// Pieces that came again and again may have filled the disk.
		if s.St.Next < 60 {
			checkArrived(t, title, s, c)
			arrived++
		}
	}
	if arrived < 250 {
		t.Errorf("%d files arrived", arrived)
	}
	for op := impl.OpMake; op <= impl.OpDone; op++ {
		if asked[op] < 50 {
			t.Errorf("the Op %d was asked for %d times", op, asked[op])
		}
	}
}

// Without room on the disk it stays where it is, and fails never.
func TestAClientWithoutRoom(t *testing.T) {
	for sectors := range 20 {
		s, c := impl.ServerNew(sectors), impl.ClientNew("a", []byte(longSector(400)))
		for range 25 {
			resp := impl.Resp{}
			s, resp = served(s, c)
			c = impl.HearResp(c, resp)
		}
		want := clientOf("a", longSector(400), impl.ClSend, 24*max(sectors-1, 0))
		switch {
		case sectors == 0:
			want.Step = impl.ClMake
		case sectors == 18:
			want.Step, want.Off = impl.ClSum, 400
		case sectors == 19:
			want.Step, want.Off = impl.ClDone, 400
		}
		if !sameClient(c, want) {
			t.Errorf("%d sectors: (%s), not (%s)", sectors, clientTitle(c), clientTitle(want))
		}
	}
}

// client draws one that is right more often than not.
func (d *drawer) client() impl.Client {
	size := drawn(d, 0, 1, 24, d.draw(401), d.draw(401), 400, 401)
	c := impl.Client{Id: d.id(), File: d.bytes(size), Step: 1 + d.draw(6), Off: d.draw(size + 1)}
	switch d.draw(12) {
	case 0:
		c.Id = drawn(d, wrongIds...)
	case 1:
		c.Step = drawn(d, 0, 7, d.word())
	case 2:
		c.Off = drawn(d, -1, size+1, d.word(), math.MinInt)
	}
	return c
}

// Drawn clients hear drawn answers, as the chapter's words tell.
func TestClientsByTheChapter(t *testing.T) {
	d := drawer(17)
	statuses := []int{200, 201, 204, 400, 404, 409, 422, 507}
	for round := range 20000 {
		c := d.client()
		checkClientOk(t, c, docClientOk(c))
		if want, data, ok := docNext(c); ok {
			checkNext(t, c, want, data)
		} else {
			checkNoNext(t, c)
		}
		checkCut(t, c, docCut(c).Step)
		r := d.resp()
		if round%4 != 0 {
			r = telling(drawn(&d, statuses...), drawn(&d, -2, -1, c.Off, d.draw(402), len(c.File), len(c.File)+1))
		}
		doc := docHeard(c, r)
		checkHeard(t, c, r, doc.Step, doc.Off)
	}
}

// A roomyClient is a client with spare room behind its file, and all of the memory.
type roomyClient struct {
	client impl.Client
	file   []byte
}

func roomyClientOf(c impl.Client, spare int) roomyClient {
	x := roomyClient{client: c}
	x.client.File, x.file = roomy(string(c.File), spare)
	return x
}

func (x roomyClient) sameAs(y roomyClient) bool {
	return sameClient(x.client, y.client) && slices.Equal(x.file, y.file)
}

func (x roomyClient) turn() {
	turnAll(x.file)
}

// A clientAnswer is what a call answers: a client, or a request with its data.
type clientAnswer struct {
	client impl.Client
	r      impl.Req
	data   []byte
	ok     bool
}

func (s clientAnswer) same(o clientAnswer) bool {
	return sameClient(s.client, o.client) && s.r == o.r && string(s.data) == string(o.data) && s.ok == o.ok
}

func (s clientAnswer) clone() clientAnswer {
	s.client.File, s.data = slices.Clone(s.client.File), slices.Clone(s.data)
	return s
}

func (s clientAnswer) turn() {
	turnAll(s.client.File)
	turnAll(s.data)
}

func (s clientAnswer) grow() {
	_ = append(s.client.File, strings.Repeat("more", 30)...)
	_ = append(s.data, strings.Repeat("more", 30)...)
}

// clientCalls are the calls that hand out lists, with each way of hearing.
func clientCalls() map[string]func(impl.Client) clientAnswer {
	calls := map[string]func(impl.Client) clientAnswer{
		"ClientNew": func(c impl.Client) clientAnswer { return clientAnswer{client: impl.ClientNew(c.Id, c.File)} },
		"CutOff":    func(c impl.Client) clientAnswer { return clientAnswer{client: impl.CutOff(c)} },
		"NextReq": func(c impl.Client) clientAnswer {
			r, data, ok := impl.NextReq(c)
			return clientAnswer{r: r, data: data, ok: ok}
		},
	}
	for _, r := range []impl.Resp{telling(200, 0), telling(201, 0), telling(204, 1), telling(204, 400), untold(204), telling(409, 0), untold(404), untold(507), untold(400), {}} {
		calls[fmt.Sprintf("HearResp %+v", r)] = func(c impl.Client) clientAnswer { return clientAnswer{client: impl.HearResp(c, r)} }
	}
	return calls
}

// memoryClients are some that are right, and some that are not.
func memoryClients() []impl.Client {
	l := goodClients()
	for i, c := range wrongClients() {
		if i%11 == 0 {
			l = append(l, c)
		}
	}
	return l
}

func TestMemoryOfClients(t *testing.T) {
	for _, c := range memoryClients() {
		for name, call := range clientCalls() {
			for _, spare := range []int{0, 1, 30, 500} {
				title := fmt.Sprintf("%s of (%s) with %d spare", name, clientTitle(c), spare)
				argument := func() roomyClient { return roomyClientOf(c, spare) }
				checkMemory(t, title, argument, func(x roomyClient) clientAnswer { return call(x.client) }, call(roomyClientOf(c, 0).client).clone())
			}
		}
	}
}

func TestClientOkLeavesTheClientAlone(t *testing.T) {
	for _, c := range memoryClients() {
		for _, spare := range []int{0, 1, 30, 500} {
			x, kept := roomyClientOf(c, spare), roomyClientOf(c, spare)
			if impl.ClientOk(x.client) != docClientOk(c) || !x.sameAs(kept) {
				t.Errorf("ClientOk of (%s) with %d spare", clientTitle(c), spare)
			}
		}
	}
}

// No call keeps anything: what is done to one answer is not seen in the next.
func TestClientsAnswerAlikeAgain(t *testing.T) {
	for _, c := range memoryClients() {
		for title, call := range clientCalls() {
			one, two := call(c), call(c)
			one.turn()
			checkHearsNothing(t, c, impl.Resp{})
			if three := call(c); !two.same(three) {
				t.Errorf("%s of (%s) hangs on the call ahead", title, clientTitle(c))
			}
		}
	}
}
