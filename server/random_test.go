package server_test

import (
	"fmt"
	"math/rand"
	"slices"
	"strings"
	"testing"

	"herald/api"
	"herald/lists"
	"herald/pack"
)

// script is a server under random calls, and a client that is mostly right.
type script struct {
	*both
	r     *rand.Rand
	set   api.Set
	enc   *pack.Encoder
	part  map[int64]int // requests that have come in part: how many bytes are to come; below 0: any
	unack int           // SETTINGS that were heard, and not acknowledged
	tried map[string]int
}

func oneOf[T any](r *rand.Rand, l ...T) T { return l[r.Intn(len(l))] }

// somePath is one of few, so that requests, rules and puts meet.
func somePath(r *rand.Rand) string { return fmt.Sprint("/", r.Intn(9)) }

func randomPage(r *rand.Rand) api.Page {
	body := long(oneOf(r, 0, 1, 5, 20, 300, 17000, 65536))
	if r.Intn(3) == 0 {
		body = long(r.Intn(40))
	}
	p := page(somePath(r), body)
	switch r.Intn(6) {
	case 0:
		p = wide(p.Path, body)
	case 1:
		p = varied(p.Path, "accept", "x", body, "y", "for y", "", "for none")
	case 2:
		p.Status = oneOf(r, 201, 404, 599)
	}
	if r.Intn(12) == 0 {
		p.Authority = "other"
	}
	return p
}

func randomWorld(r *rand.Rand) ([]api.Page, []api.Rule) {
	var pages []api.Page
	for range r.Intn(8) {
		p := randomPage(r)
		if !slices.ContainsFunc(pages, func(x api.Page) bool { return x.Authority == p.Authority && x.Path == p.Path }) {
			pages = append(pages, p)
		}
	}
	var rules []api.Rule
	for path := range r.Intn(7) {
		one := api.Rule{Of: target(fmt.Sprint("/", path))}
		for range r.Intn(7) {
			t := target(somePath(r))
			if r.Intn(12) == 0 {
				t.Authority = "other"
			}
			if !slices.Contains(one.Push, t) {
				one.Push = append(one.Push, t)
			}
		}
		rules = append(rules, one)
	}
	return pages, rules
}

func randomSet(r *rand.Rand) api.Set {
	set := standard()
	set.Table = oneOf(r, int64(0), 100, 4096, 65536)
	set.Push = r.Int63n(2)
	set.Streams = oneOf(r, int64(1), 3, 10, top, top)
	set.Window = oneOf(r, int64(0), 10, 100, 65535, 65535, top)
	set.Frame = oneOf(r, int64(16384), 20000, 65536)
	set.List = oneOf(r, int64(1024), top)
	return set
}

func newScript(t *testing.T, r *rand.Rand) *script {
	t.Helper()
	pages, rules := randomWorld(r)
	set := randomSet(r)
	s := &script{both: newBoth(t, set, pages, rules), r: r, set: set, enc: pack.NewEncoder(), part: map[int64]int{}, tried: map[string]int{}}
	s.comes(api.Preface + s.theirSettings())
	return s
}

// comes lets bytes come, whole or in two pieces.
func (s *script) comes(text string) {
	s.t.Helper()
	at := s.r.Intn(2*len(text) + 1)
	if at < len(text) {
		s.recv(text[:at])
		text = text[at:]
	}
	s.recv(text)
}

func (s *script) theirSettings() string {
	var l []api.Param
	for range s.r.Intn(4) {
		l = append(l, oneOf(s.r, param(api.SetTable, oneOf(s.r, int64(0), 60, 5000)), param(api.SetPush, oneOf(s.r, int64(0), 1, 1)), param(api.SetStreams, oneOf(s.r, int64(0), 1, 2, 100)),
			param(api.SetWindow, oneOf(s.r, int64(0), 1, 3, 60, 65535, 200000)), param(api.SetFrame, oneOf(s.r, int64(16384), 20000, 16777215)), param(api.SetList, oneOf(s.r, int64(70), 92, 168, 170, 190, 65536, 65536))))
	}
	return bytes(settingsFrame(l...))
}

// headers are those of a list, whole or in pieces.
func (s *script) headers(id int64, l []api.Field, end bool) string {
	block, _ := s.enc.Encode(l)
	head := api.Frame{Type: api.FrameHeaders, Flags: endFlag(end), Stream: id, Data: block}
	if s.r.Intn(3) > 0 {
		head.Flags |= api.EndHeaders
		return bytes(head)
	}
	at := s.r.Intn(len(block) + 1)
	head.Data = block[:at]
	return bytes(head, api.Frame{Type: api.FrameContinuation, Flags: api.EndHeaders, Stream: id, Data: block[at:]})
}

// asks sends a new request, mostly a right one.
func (s *script) asks() {
	s.t.Helper()
	s.last += oneOf(s.r, int64(2), 2, 2, 4)
	l := request(oneOf(s.r, "GET", "GET", "GET", "GET", "HEAD", "POST"), somePath(s.r))
	if s.r.Intn(4) == 0 {
		l = lists.Joined(l, api.Field{Name: "accept", Value: oneOf(s.r, "x", "y", "z")})
	}
	size := -1
	if s.r.Intn(3) == 0 {
		size = oneOf(s.r, 0, 0, 3, 40, 20000, 65536, 70000)
		l = lists.Joined(l, length(fmt.Sprint(size)))
	}
	end := s.r.Intn(3) > 0
	if end && size > 0 && s.r.Intn(4) > 0 {
		end = false
	}
	if s.r.Intn(12) == 0 {
		l = oneOf(s.r, wrongHeads()...)
	}
	if !end {
		s.part[s.last] = size
	}
	s.note("%s on %d, end %v", lists.Shown(l), s.last, end)
	s.comes(s.headers(s.last, l, end))
}

// goesOn sends more of a request that has come in part.
func (s *script) goesOn() {
	s.t.Helper()
	var ids []int64
	for id := range s.part {
		ids = append(ids, id)
	}
	if len(ids) == 0 {
		return
	}
	slices.Sort(ids)
	id := oneOf(s.r, ids...)
	left := s.part[id]
	n := oneOf(s.r, 0, 1, 3, 300, 9000, 16384, 16384, 16384)
	if left >= 0 && s.r.Intn(10) > 0 {
		n = min(n, left)
	}
	end := s.r.Intn(6) == 0
	if left >= 0 && s.r.Intn(10) > 0 {
		end = n == left
	}
	if left >= 0 {
		s.part[id] = max(left-n, 0)
	}
	if s.r.Intn(25) == 0 {
		s.note("a second head on %d", id)
		s.comes(s.headers(id, request("GET", "/1"), end))
	} else {
		s.comes(bytes(dataFrame(id, long(n), end)))
	}
	if end {
		delete(s.part, id)
	}
}

// stream is mostly one that lives.
func (s *script) stream() int64 {
	var live []int64
	for _, line := range s.s.Log() {
		if s.m.c.State(line.Stream) != closed {
			live = append(live, line.Stream)
		}
	}
	if len(live) == 0 || s.r.Intn(20) == 0 {
		return max(1, s.last)
	}
	return oneOf(s.r, live...)
}

// frame sends something else.
func (s *script) frame() {
	s.t.Helper()
	id := s.stream()
	switch n := s.r.Intn(30); {
	case n < 8 && s.m.c.State(id) != 0:
		s.comes(bytes(windowFrame(id, oneOf(s.r, int64(1), 2, 30, 1000, 100000))))
	case n < 13:
		s.comes(bytes(windowFrame(0, oneOf(s.r, int64(1), 2, 1000, 100000))))
	case n < 17:
		s.comes(s.theirSettings())
	case n < 20 && s.m.c.State(id) != 0:
		s.comes(bytes(resetFrame(id, s.r.Int63n(14))))
	case n < 24 && s.unack > 0:
		s.unack--
		s.comes(bytes(ackFrame()))
		s.enc.SetMax(min(s.m.c.Ours().Table, 4096))
	case n < 26:
		s.comes(bytes(pingFrame("12345678")))
	case n < 27 && s.r.Intn(10) == 0:
		s.comes(bytes(goAwayFrame(s.r.Int63n(9), s.r.Int63n(14))))
	case n < 28 && s.m.c.State(id) != 0:
		s.comes(oneOf(s.r, bytes(windowFrame(id, 0)), raw(2, 0, uint32(id), "123")))
	case n < 29 && s.m.c.State(id) == halfRemote:
		s.comes(oneOf(s.r, bytes(dataFrame(id, "late", false)), s.headers(id, request("GET", "/1"), true)))
	case n < 30 && s.r.Intn(12) == 0:
		s.comes(oneOf(s.r, deaths()...).text)
	}
}

// call is one of the server's own.
func (s *script) call() {
	s.t.Helper()
	switch s.r.Intn(6) {
	case 0:
		set := randomSet(s.r)
		if s.r.Intn(4) > 0 {
			set.Streams = s.set.Streams
		}
		if s.r.Intn(9) == 0 {
			set.List = 7
		}
		s.tried[fmt.Sprint("settings ", int(s.settings(set)))]++
	default:
		p := randomPage(s.r)
		if s.r.Intn(12) == 0 {
			p.Status = 204
		}
		_, e := s.put(p)
		s.tried[fmt.Sprint("put ", int(e))]++
	}
}

func (s *script) steps() {
	s.t.Helper()
	for range 1 + s.r.Intn(3) {
		pick := s.r.Intn(7) - 3
		if s.r.Intn(30) == 0 {
			pick = int(s.r.Uint64())
		}
		for _, e := range s.step(pick) {
			if e.Kind == api.EventSettings {
				s.unack++
			}
			s.tried[fmt.Sprint("event ", e.Kind, " ", min(e.Code, 12))]++
		}
	}
}

func (s *script) move() {
	s.t.Helper()
	switch n := s.r.Intn(20); {
	case n < 3:
		s.asks()
	case n < 6:
		s.goesOn()
	case n < 9:
		s.frame()
	case n < 10:
		s.call()
	default:
		s.steps()
	}
}

// ends lets all that has room go, and looks at everything.
func (s *script) ends() {
	s.t.Helper()
	s.whole()
	if _, dead := s.s.Dead(); !dead {
		s.finishes()
	}
	s.step(0)
	s.wantIdle()
	s.whole()
	for why, n := range s.m.passed {
		s.tried[why] += n
	}
}

// finishes makes room for all, and wants all to go: each Step one unit.
func (s *script) finishes() {
	s.t.Helper()
	s.recv(bytes(settingsFrame(param(api.SetStreams, 1), param(api.SetWindow, 1<<30), param(api.SetFrame, 65536)), windowFrame(0, 1<<30)))
	for _, line := range s.s.Log() {
		if s.m.c.State(line.Stream) != closed && s.m.c.Window(line.Stream) < 1<<20 {
			s.recv(bytes(windowFrame(line.Stream, 1<<20)))
		}
	}
	for n := 0; len(s.s.Ready()) > 0; n++ {
		s.step(s.r.Intn(9))
		if n > 5000 {
			s.t.Fatalf("P22.5: %s: it doesn't come to an end", s.history())
		}
	}
}

// TestRandomScripts: requests, steps, puts, windows and all else, against the model.
func TestRandomScripts(t *testing.T) {
	r := rand.New(rand.NewSource(221))
	tried := map[string]int{}
	for range 900 {
		s := newScript(t, r)
		for range 150 {
			s.move()
			if _, dead := s.s.Dead(); dead && r.Intn(5) == 0 {
				break
			}
		}
		s.ends()
		for what, n := range s.tried {
			tried[what] += n
		}
	}
	for _, what := range []string{
		"put 0", "put 170", "settings 0", "settings 1", "off", "away", "missing", "long promise", "long head",
		"event 1 0", "event 2 0", "event 3 0", "event 4 1", "event 4 2", "event 4 3", "event 4 5", "event 4 6", "event 4 7", "event 4 11", "event 5 0", "event 6 0", "event 7 1",
	} {
		if tried[what] < 12 {
			t.Errorf("%s %d times: too few to tell", what, tried[what])
		}
	}
}

// TestServersApart: two in turns, each by its own model, and one that stands still.
func TestServersApart(t *testing.T) {
	r := rand.New(rand.NewSource(222))
	for range 60 {
		all := []*script{newScript(t, r), newScript(t, r), newScript(t, r)}
		for range 200 {
			all[r.Intn(2)].move()
		}
		for _, s := range all {
			s.ends()
		}
	}
}

// TestOneWorldTwice: two servers of the same pages and rules, in unlike turns: what
// happens to one is nothing to the other.
func TestOneWorldTwice(t *testing.T) {
	pages, rules := abc(), abcRules()
	one, two := begunWith(t, pages, rules), begunWith(t, pages, rules)
	one.ask("GET", "/a")
	one.mustPut(page("/c", "other"))
	two.look()
	two.ask("GET", "/c")
	two.wantStep(0, answered(1, "200", 2, false))
	one.wantStep(0, pushed(1, 2, "/b"))
	one.recv(raw(0, 0, 0, ""))
	two.wantStep(0, dataEvent(1, "CC", true))
	two.wantIdle()
	one.whole()
	two.whole()
}

// mutated is a text with some of it changed, left out, laid in, or said twice.
func mutated(r *rand.Rand, text string) string {
	for range 1 + r.Intn(3) {
		at := r.Intn(len(text))
		to := min(len(text), at+1+r.Intn(12))
		switch r.Intn(5) {
		case 0:
			text = text[:at] + string([]byte{text[at] ^ 1<<r.Intn(8)}) + text[at+1:]
		case 1:
			text = text[:at] + string([]byte{byte(r.Intn(256))}) + text[at+1:]
		case 2:
			text = text[:at] + text[to:]
		case 3:
			text = text[:to] + text[at:]
		default:
			text = text[:at] + raw(byte(r.Intn(11)), byte(r.Intn(64)), uint32(r.Intn(8)), long(r.Intn(9))) + text[at:]
		}
		if text == "" {
			return "\x00"
		}
	}
	return text
}

// holdBytes lets any bytes come, and some steps behind them.
func holdBytes(b *both, came string) {
	b.t.Helper()
	b.note("%x", came)
	b.recv(came)
	for pick := range 8 {
		b.step(pick)
	}
	b.ask("GET", "/a")
	for pick := range 4 {
		b.step(pick)
	}
	b.whole()
}

// TestAnyBytes: right texts that were tampered with.
func TestAnyBytes(t *testing.T) {
	r := rand.New(rand.NewSource(223))
	texts := clientTexts()[:4]
	lived := 0
	for range 2500 {
		b := newBoth(t, standard(), abc(), abcRules())
		b.last = 99
		holdBytes(b, mutated(r, oneOf(r, texts...)))
		if _, dead := b.s.Dead(); !dead {
			lived++
		}
	}
	if lived < 250 || lived > 2250 {
		t.Errorf("%d of 2500 servers lived: too few, or too many", lived)
	}
}

// TestRandomBytes: bytes without any sense, to servers that stand and to new ones.
func TestRandomBytes(t *testing.T) {
	r := rand.New(rand.NewSource(224))
	for i := range 1500 {
		b := newBoth(t, standard(), abc(), abcRules())
		if i%2 == 0 {
			b = story(t)
		}
		b.last = 99
		var came []byte
		for range r.Intn(60) {
			came = append(came, byte(r.Intn(256))>>r.Intn(9))
		}
		holdBytes(b, string(came))
	}
}

// FuzzBytes: any bytes, whole against the model, and in two pieces against the whole.
func FuzzBytes(f *testing.F) {
	for _, text := range clientTexts() {
		f.Add(strings.TrimPrefix(text, api.Preface), 20, 3)
	}
	f.Fuzz(func(t *testing.T, came string, at, pick int) {
		if len(came) > 4000 {
			return // the model is slow
		}
		b := story(t)
		b.last = 99
		b.step(0)
		b.recv(came)
		b.step(pick)
		holdBytes(b, "")
		cut := story(t)
		cut.last = 99
		cut.step(0)
		at = min(max(at, 0), len(came))
		cut.recv(came[:at])
		cut.recv(came[at:])
		cut.step(pick)
		holdBytes(cut, "")
		if len(b.s.Trace()) != len(cut.s.Trace()) || !slices.Equal(b.s.Log(), cut.s.Log()) {
			t.Fatalf("P22.1: cut at %d it is another: %v, want %v", at, cut.s.Log(), b.s.Log())
		}
	})
}

// FuzzCalls: two bytes a call, which one and with what.
func FuzzCalls(f *testing.F) {
	f.Add("\x00\x01\x10\x03\x21\x05\x30\x07\x45\x09\x02\x02\x01\x01\x03\x00")
	f.Add("\x01\x01\x00\x00\x00\x00\x06\x08\x00\x01\x04\x33\x05\x11\x07\x01\x02\x00\x00\x00\x03\x02")
	f.Fuzz(func(t *testing.T, calls string) {
		b := story(t)
		for i := 0; i+1 < min(len(calls), 160); i += 2 {
			what, with := calls[i], calls[i+1]
			id := int64(with & 15)
			switch what & 7 {
			case 0:
				b.step(int(int8(with)))
			case 1:
				b.ask(oneAt(with, "GET", "GET", "HEAD", "POST"), oneAt(with>>2, "/p", "/q", "/r", "/none"))
			case 2:
				b.mustPut(page(oneAt(with, "/p", "/q", "/r", "/new"), long(int(with>>2))))
			case 3:
				b.recv(bytes(windowFrame(id, int64(with>>4)))) // of an idle stream it is the end
			case 4:
				b.recv(bytes(settingsFrame(param(int(with&7), int64(what>>3)*int64(with>>3)))))
			case 5:
				b.recv(bytes(resetFrame(max(id, 1), 8)))
			case 6:
				end := b.begin("POST", "/p", length(fmt.Sprint(with>>5)))
				b.comes(end, long(int(with&7)), long(int(what>>6)))
			default:
				b.recv(bytes(oneAt(with, goAwayFrame(0, 0), pingFrame("12345678"), dataFrame(1, "x", false), headersFrame(1, nil, true))))
			}
		}
		b.step(0)
		b.whole()
	})
}

func oneAt[T any](i byte, l ...T) T { return l[int(i)%len(l)] }
