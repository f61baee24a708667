package run_test

import (
	"fmt"
	"math/rand"
	"slices"
	"strings"
	"testing"

	"herald/api"
	"herald/run"
	"herald/script"
)

func oneOf[T any](r *rand.Rand, all ...T) T { return all[r.Intn(len(all))] }

var somePaths = []string{"/0", "/1", "/2", "/3"}

func randomSet(r *rand.Rand) api.Set {
	return api.Set{
		Table:   oneOf(r, int64(0), 100, 4096, 65536),
		Push:    oneOf(r, int64(0), 1, 1, 1, 1),
		Streams: oneOf(r, int64(0), 2, 5, top, top, top, top, top),
		Window:  oneOf(r, int64(0), 1, 100, 3000, 65535, 65535, 65535, top),
		Frame:   oneOf(r, int64(16384), 65536),
		List:    oneOf(r, int64(1024), top, top),
	}
}

func randomBody(r *rand.Rand) string {
	body := strings.Repeat("b", oneOf(r, 0, 1, 7, 40, 900))
	if r.Intn(4) == 0 {
		body += string([]byte{byte(r.Intn(256)), '"', byte(r.Intn(256))})
	}
	return body
}

func randomPage(r *rand.Rand, authority, path string) api.Page {
	p := api.Page{Authority: authority, Path: path, Status: oneOf(r, 200, 200, 200, 404, 599), Choices: []api.Choice{{Body: randomBody(r)}}}
	if r.Intn(4) == 0 {
		p.Vary, p.Choices = "accept", []api.Choice{{Value: "1", Body: randomBody(r)}, {Value: "2", Body: randomBody(r)}, {Body: "none"}}
	}
	return p
}

func randomWorld(r *rand.Rand) api.World {
	w := api.World{
		Server:  randomSet(r),
		Client:  randomSet(r),
		Conf:    api.Conf{Entries: oneOf(r, int64(0), 1, 3, 64, 64, 64), Bytes: oneOf(r, int64(0), 100, 1000, 1<<60, 1<<60), Life: oneOf(r, int64(0), 2, 10, 1<<60), Pending: oneOf(r, int64(0), 1, 4, 64, 64)},
		Origins: oneOf(r, []string{"https://x"}, []string{"https://x"}, []string{"https://x", "https://y"}, []string{"https://x", "https://y"}, []string{"https://y"}, nil),
	}
	for _, authority := range []string{"x", "y"} {
		for _, path := range somePaths {
			if r.Intn(4) > 0 {
				w.Pages = append(w.Pages, randomPage(r, authority, path))
			}
			rule := api.Rule{Of: api.Target{Authority: authority, Path: path}}
			for _, other := range somePaths {
				if r.Intn(3) == 0 {
					rule.Push = append(rule.Push, api.Target{Authority: oneOf(r, authority, authority, "y"), Path: other})
				}
			}
			w.Rules = append(w.Rules, rule)
		}
	}
	return w
}

func randomRequest(r *rand.Rand) api.Request {
	q := api.Request{Method: oneOf(r, "GET", "GET", "GET", "GET", "GET", "GET", "HEAD", "POST"), Scheme: oneOf(r, "https", "https", "https", "https", "https", "http"), Authority: oneOf(r, "x", "x", "x", "y"), Path: oneOf(r, slices.Concat(somePaths, somePaths, []string{"/none", "wrong"})...)}
	if r.Intn(4) == 0 {
		q.Fields = append(q.Fields, api.Field{Name: oneOf(r, "accept", "accept", "accept", "Accept"), Value: oneOf(r, "1", "2", "3", "")})
	}
	if r.Intn(8) == 0 {
		q.Fields = append(q.Fields, api.Field{Name: "cookie", Value: strings.Repeat("c", oneOf(r, 5, 1100)), Never: r.Intn(2) == 0})
	}
	if q.Method == "POST" {
		q.Body = randomBody(r)
	}
	return q
}

// randomBytes are frames, or nearly, or anything.
func randomBytes(r *rand.Rand) string {
	var b strings.Builder
	for range r.Intn(4) {
		size := oneOf(r, 0, 0, 4, 4, 5, 6, 8, 12)
		b.Write([]byte{0, 0, byte(size), byte(r.Intn(11)), byte(oneOf(r, 0, 1, 4, 5, 8, 32)), 0, 0, 0, byte(r.Intn(6))})
		for range size {
			b.WriteByte(byte(oneOf(r, 0, 0, 1, 2, 3, 0x82, 0x84, 0x87, 0x88, r.Intn(256))))
		}
	}
	if r.Intn(3) == 0 {
		return b.String()[:r.Intn(b.Len()+1)]
	}
	return b.String()
}

// maker makes commands.
type maker struct {
	r      *rand.Rand
	now    int64
	asked  int64
	forges bool // bytes may be forged
}

func (k *maker) move() api.Move {
	r := k.r
	give := func() int64 { return oneOf(r, -1, -1, -1, -1, r.Int63n(40), r.Int63n(2000)) }
	switch n := r.Intn(60); {
	case n < 14:
		k.asked++
		return api.Move{Kind: moveAsk, Request: randomRequest(r)}
	case n < 16:
		return api.Move{Kind: moveCancel, N: r.Int63n(k.asked + 2)}
	case n < 18:
		k.now += oneOf(r, int64(-1), 0, 1, 2, 11)
		return api.Move{Kind: moveTick, N: k.now}
	case n < 21:
		return api.Move{Kind: movePut, Page: randomPage(r, oneOf(r, "x", "y"), oneOf(r, append(somePaths, "", "/more")...))}
	case n < 23:
		return api.Move{Kind: moveSet, Set: oneOf(r, randomSet(r), randomSet(r), api.Set{})}
	case n < 26 && k.forges:
		return api.Move{Kind: moveForge, N: int64(r.Intn(3)), Bytes: randomBytes(r)}
	case n < 33:
		return api.Move{Kind: moveClient, N: r.Int63n(6)}
	case n < 45:
		return api.Move{Kind: moveServer, N: r.Int63n(6)}
	case n < 52:
		return api.Move{Kind: moveToServer, N: give()}
	default:
		return api.Move{Kind: moveToClient, N: give()}
	}
}

func (k *maker) command() script.Command {
	switch n := k.r.Intn(30); {
	case n < 16:
		return script.Command{Kind: 2, Move: k.move()}
	case n < 20:
		return script.Command{Kind: 3, N: oneOf(k.r, int64(-1), 0, 1, 1, 2, 2, 5, 60, 60, longest)}
	case n < 28:
		return script.Command{Kind: 4 + k.r.Intn(6)}
	default:
		return script.Command{Kind: 10, Server: k.r.Intn(2) == 0}
	}
}

// visit asks for a page, and for what may have been pushed with it.
func (k *maker) visit() []script.Command {
	var l []script.Command
	for _, i := range k.r.Perm(len(somePaths)) {
		k.asked++
		l = append(l, script.Command{Kind: 2, Move: api.Move{Kind: moveAsk, Request: api.Request{Method: "GET", Scheme: "https", Authority: "x", Path: somePaths[i]}}})
		if len(l) == 1 {
			l = append(l, script.Command{Kind: 3, N: 60})
		}
	}
	return l
}

func (k *maker) commands() []script.Command {
	var l []script.Command
	for range k.r.Intn(80) {
		if k.r.Intn(30) == 0 {
			l = append(l, k.visit()...)
		} else {
			l = append(l, k.command())
		}
	}
	return l
}

// respelled says the same in other words, with lines between that say nothing.
func respelled(r *rand.Rand, text string) string {
	var b strings.Builder
	for line := range strings.Lines(text) {
		for range r.Intn(2) * r.Intn(3) {
			b.WriteString(oneOf(r, "\n", "#\n", "# end\n", "#\xff\n"))
		}
		for _, x := range [][2]string{{`"x"`, `"\x78"`}, {`"/`, `"\x2f`}, {`GET"`, `GE\x54"`}, {`"b`, `"\x62`}} {
			if r.Intn(4) == 0 {
				line = strings.Replace(line, x[0], x[1], 1)
			}
		}
		b.WriteString(line)
	}
	if r.Intn(3) == 0 {
		return strings.TrimSuffix(b.String(), "\n")
	}
	return b.String()
}

// count counts what stands in a told line, but for its numbers and texts.
func count(tried map[string]int, told string) {
	for line := range strings.Lines(told) {
		words := strings.Fields(line)
		switch words[0] {
		case "answer":
			tried["answer "+words[2]]++
		case "ok":
			tried[strings.Join(slices.DeleteFunc(words, func(s string) bool { return strings.Trim(s, "0123456789") == "" }), " ")]++
		case "no":
			tried[words[0]+" "+words[1]]++
		default:
			tried[words[0]]++
		}
	}
}

// TestRandomScripts is all promises.
func TestRandomScripts(t *testing.T) {
	r := rand.New(rand.NewSource(271))
	tried := map[string]int{}
	for i := range 500 {
		k := &maker{r: r, forges: i%2 == 0}
		l := []script.Command{{Kind: 1, World: randomWorld(r)}}
		l = append(l, k.commands()...)
		text, e := script.Print(l)
		if e != 0 {
			t.Fatalf("script tells nothing of %d commands: %d", len(l), e)
		}
		told, ok := hold(t, respelled(r, text))
		if !ok {
			t.Fatalf("P27.1: %s is refused", shown(text))
		}
		count(tried, told)
	}
	t.Log(tried)
	for _, what := range []string{"answer cached", "answer direct", "answer failed", "serve", "push", "sent", "got", "ok", "ok yes", "ok no", "ok server", "ok client", "no 1", "no 5", "no 130", "no 131", "no 170"} {
		if tried[what] < 10 {
			t.Errorf("%s: %d times, too few to tell", what, tried[what])
		}
	}
}

// TestRandomMoves is Tell.
func TestRandomMoves(t *testing.T) {
	r := rand.New(rand.NewSource(272))
	taken := 0
	for range 700 {
		k := &maker{r: r, forges: true}
		var moves []api.Move
		for range r.Intn(60) {
			moves = append(moves, k.move())
		}
		w := randomWorld(r)
		switch r.Intn(8) {
		case 0:
			w.Client.Frame = oneOf(r, int64(0), 16383, 65537)
		case 1:
			moves = append(moves, api.Move{Kind: oneOf(r, 0, 11)})
		}
		if _, ok := holdTell(t, w, moves); ok {
			taken++
		}
	}
	if taken < 400 || taken > 650 {
		t.Errorf("of the random moves %d were told: too many or too few to tell", taken)
	}
}

// bent is a text with one line left out, doubled, or changed about with another.
func bent(r *rand.Rand, text string) string {
	l := strings.Split(text, "\n")
	i, k := r.Intn(len(l)), r.Intn(len(l))
	switch r.Intn(4) {
	case 0:
		l = slices.Delete(l, i, i+1)
	case 1:
		l = slices.Insert(l, i, l[k])
	case 2:
		l[i], l[k] = l[k], l[i]
	default:
		l = slices.Insert(l, i, oneOf(r, "end", "world", "rounds 7", "answers", "set 1 2", `origin "https://z"`, "x"))
	}
	return strings.Join(l, "\n")
}

// TestRandomTexts: bent ones, once or several times.
func TestRandomTexts(t *testing.T) {
	r := rand.New(rand.NewSource(273))
	taken := 0
	for range 2000 {
		text := lined(behind(story()[r.Intn(len(story())):]...)...)
		for range 1 + r.Intn(3) {
			text = bent(r, text)
		}
		if _, ok := hold(t, text); ok {
			taken++
		}
	}
	if taken < 300 || taken > 1700 {
		t.Errorf("of the random texts %d were taken: too many or too few to tell", taken)
	}
}

// TestStillWithin is T5, as a script tells it: behind as many rounds as it says all is
// answered, and nothing waits.
func TestStillWithin(t *testing.T) {
	for _, window := range []int{1, 2, 7, 100, 65535} {
		const requests, most = 5, 300
		w := worldBut(clientLine, fmt.Sprintf("client 4096 1 2147483647 %d 16384 2147483647", window), pageA, `page "x" "/a" 200 "" "" "`+strings.Repeat("a", most)+`"`)
		rounds := 40 + 50*requests + 2*9*requests*most/window
		told, e := run.Play(lined(append(append(w, many(requests, getA)...), fmt.Sprint("rounds ", rounds), "still", "answers")...))
		if e != 0 || !strings.Contains(told, "\nok yes\nok 5\nanswer ") || strings.Contains(told, "failed") {
			t.Errorf("T5: by a window of %d: %s, %d", window, shown(told), e)
		}
	}
}

// FuzzPlay tells any texts, alone and behind a world.
func FuzzPlay(f *testing.F) {
	for _, text := range scripts() {
		f.Add(text)
	}
	f.Add(lined(story()...))
	f.Add(getA + "\nrounds 9\n" + getB + "\nanswers\ncache\ntrace client")
	f.Add(getA + "\nclient 0\n" + `forge 0 "\x00\x00\x00\x05\x00\x00\x00\x00\x01"` + "\ntoclient -1\ndead")
	f.Fuzz(func(t *testing.T, text string) {
		hold(t, text)
		hold(t, lined(world()...)+text)
		hold(t, lined(met(getA, "client 0", "toserver -1")...)+text)
	})
}

// FuzzTell makes moves of any numbers and texts.
func FuzzTell(f *testing.F) {
	f.Add(1, int64(0), "/a", "", 4, int64(0))
	f.Add(8, int64(200), "/b", "new", 3, int64(1))
	f.Add(10, int64(0), "\x00\x00\x04\x03\x00\x00\x00\x00\x01\x00\x00\x00\x08", "", 6, int64(-1))
	f.Add(2, int64(1), "", "", 7, int64(5))
	f.Add(11, int64(1), "\n", "\"", 9, int64(-5))
	f.Fuzz(func(t *testing.T, first int, n int64, a, b string, second int, m int64) {
		of := func(kind int, n int64) api.Move {
			return api.Move{
				Kind: kind, N: n, Bytes: a, Set: api.Set{Table: n, Push: m, Streams: top, Window: n, Frame: 16384, List: top},
				Request: api.Request{Method: "GET", Scheme: "https", Authority: "x", Path: a, Body: b},
				Page:    api.Page{Authority: "x", Path: a, Status: int(n), Choices: []api.Choice{{Body: b}}},
			}
		}
		w := exampleWorld(t)
		holdTell(t, w, []api.Move{of(first, n), of(second, m), {Kind: moveClient}, {Kind: moveToServer, N: -1}, {Kind: moveServer}, {Kind: moveToClient, N: -1}, of(first, m), of(second, n)})
	})
}
