package script_test

import (
	"fmt"
	"math/rand"
	"reflect"
	"slices"
	"strings"
	"sync"
	"testing"
	"unsafe"

	"herald/api"
	"herald/lists"
	"herald/script"
)

// roomy is the list with room behind it, and something in that.
func roomy[T any](l []T, spare T) []T { return slices.Concat(l, []T{spare, spare})[:len(l)] }

// roomyCommands are commands all of whose lists have room behind them.
func roomyCommands(l []script.Command) []script.Command {
	target := api.Target{Authority: "spare", Path: "/spare"}
	choice := api.Choice{Value: "spare", Body: "spare"}
	l = tidy(l)
	for i := range l {
		w, m := &l[i].World, &l[i].Move
		for k := range w.Pages {
			w.Pages[k].Choices = roomy(w.Pages[k].Choices, choice)
		}
		for k := range w.Rules {
			w.Rules[k].Push = roomy(w.Rules[k].Push, target)
		}
		w.Pages, w.Rules, w.Origins = roomy(w.Pages, api.Page{Authority: "spare"}), roomy(w.Rules, api.Rule{Of: target}), roomy(w.Origins, "spare")
		m.Request.Fields, m.Page.Choices = roomy(m.Request.Fields, api.Field{Name: "spare"}), roomy(m.Page.Choices, choice)
	}
	return roomy(l, script.Command{Kind: still})
}

func whole[T any](l []T) []T { return slices.Clone(l[:cap(l)]) }

// unfolded is commands with all the room that the lists in them have, in lists of its
// own.
func unfolded(l []script.Command) []script.Command {
	l = whole(l)
	for i := range l {
		w, m := &l[i].World, &l[i].Move
		w.Pages, w.Rules, w.Origins = whole(w.Pages), whole(w.Rules), whole(w.Origins)
		for k := range w.Pages {
			w.Pages[k].Choices = whole(w.Pages[k].Choices)
		}
		for k := range w.Rules {
			w.Rules[k].Push = whole(w.Rules[k].Push)
		}
		m.Request.Fields, m.Page.Choices = whole(m.Request.Fields), whole(m.Page.Choices)
	}
	return l
}

// someCommands are right ones, too long ones and such as there are not, with
// something in all lists.
func someCommands() [][]script.Command {
	r := rand.New(rand.NewSource(268))
	var all [][]script.Command
	for kind := range 12 {
		all = append(all, []script.Command{filled(kind, kind)}, []script.Command{filled(move, kind), filled(world, kind), {Kind: log}})
	}
	long := filled(move, moveAsk)
	long.Move.Request.Fields = append(long.Move.Request.Fields, api.Field{Name: longText(mostLine)})
	all = append(all, []script.Command{long}, []script.Command{{Kind: log}, long, {Kind: 11}}, nil)
	for range 30 {
		all = append(all, randomCommands(r))
	}
	return all
}

// TestCommandsStay: Print changes neither the commands nor what stands behind them,
// nor the lists in them and what stands behind those.
func TestCommandsStay(t *testing.T) {
	for _, l := range someCommands() {
		l = roomyCommands(l)
		before := unfolded(l)
		holdTwice(t, l)
		if !reflect.DeepEqual(unfolded(l), before) {
			t.Fatalf("R3: Print(%s) changes what was handed in", brief(l))
		}
	}
}

func holdTwice(t *testing.T, l []script.Command) {
	t.Helper()
	first, e := script.Print(l)
	second, again := script.Print(l)
	if first != second || e != again {
		t.Fatalf("R4: Print(%s) = %s, %d, and then %s, %d", brief(l), shown(first), e, shown(second), again)
	}
}

// TestParamsStay: Frame changes nothing.
func TestParamsStay(t *testing.T) {
	l, unchanged := lists.Watched([]api.Param{{ID: 1, Value: 2}, {}, {ID: 3, Value: 4}}, api.Param{ID: 5, Value: 6}, api.Param{})
	f := api.Frame{Type: 4, Data: "data", Params: l}
	for range 2 {
		wantFrame(t, `4 0 0 data "data" param 1 2 param 0 0 param 3 4`, f)
	}
	if !unchanged() {
		t.Error("R3: Frame changes the params, or what is behind them")
	}
}

// stretch is a piece of memory, and what stands in it, so that nothing else comes to
// stand there.
type stretch struct {
	begin, end uintptr
	what       string
	held       any
}

type stretches []stretch

func (s *stretches) text(what, text string) {
	if text != "" {
		begin := uintptr(unsafe.Pointer(unsafe.StringData(text)))
		*s = append(*s, stretch{begin, begin + uintptr(len(text)), what + " " + shown(text), text})
	}
}

func stretchOf[T any](s *stretches, what string, l []T) {
	if cap(l) > 0 {
		begin := uintptr(unsafe.Pointer(unsafe.SliceData(l)))
		var one T
		*s = append(*s, stretch{begin, begin + uintptr(cap(l))*unsafe.Sizeof(one), what, l})
	}
}

func (s *stretches) page(what string, p api.Page) {
	s.text(what, p.Authority)
	s.text(what, p.Path)
	s.text(what, p.Vary)
	stretchOf(s, what+" choices", p.Choices)
	for _, c := range p.Choices {
		s.text(what, c.Value)
		s.text(what, c.Body)
	}
}

func (s *stretches) commands(what string, l []script.Command) {
	stretchOf(s, what+" commands", l)
	for _, c := range l {
		w, m := c.World, c.Move
		stretchOf(s, what+" pages", w.Pages)
		stretchOf(s, what+" rules", w.Rules)
		stretchOf(s, what+" origins", w.Origins)
		stretchOf(s, what+" fields", m.Request.Fields)
		for _, p := range append(slices.Clone(w.Pages), m.Page) {
			s.page(what, p)
		}
		for _, r := range w.Rules {
			stretchOf(s, what+" push", r.Push)
			for _, x := range append(slices.Clone(r.Push), r.Of) {
				s.text(what, x.Authority)
				s.text(what, x.Path)
			}
		}
		for _, f := range m.Request.Fields {
			s.text(what, f.Name)
			s.text(what, f.Value)
		}
		for _, text := range append(slices.Clone(w.Origins), m.Bytes, m.Request.Method, m.Request.Scheme, m.Request.Authority, m.Request.Path, m.Request.Body) {
			s.text(what, text)
		}
	}
}

// shared tells of two stretches that have a byte in common.
func (s stretches) shared() string {
	slices.SortFunc(s, func(a, b stretch) int {
		if a.begin < b.begin {
			return -1
		}
		return 1
	})
	for i := 1; i < len(s); i++ {
		if s[i].begin < s[i-1].end {
			return fmt.Sprint(s[i-1].what, " and ", s[i].what)
		}
	}
	return ""
}

// manyTexts are right ones with several of all lists.
func manyTexts() []string {
	r := rand.New(rand.NewSource(269))
	var all []string
	for _, l := range talks() {
		all = append(all, lined(l...))
	}
	for range 60 {
		text, _ := modelPrint(append(randomCommands(r), randomCommands(r)...), anyQuote(r))
		all = append(all, text)
	}
	return all
}

// TestAnswersAreNew: no two lists and no two texts of what Parse tells share any
// memory, nor do two answers, nor an answer and the text, nor what Print tells of it.
func TestAnswersAreNew(t *testing.T) {
	for _, text := range manyTexts() {
		var s stretches
		s.text("the text", text)
		a, _ := script.Parse(text)
		b, _ := script.Parse(text)
		s.commands("first", a)
		s.commands("second", b)
		for _, l := range [][]script.Command{a, b} {
			told, _ := script.Print(l)
			s.text("printed", told)
		}
		if what := s.shared(); what != "" {
			t.Fatalf("R3: Parse(%s): shared: %s", shown(text), what)
		}
	}
	for _, text := range []string{"", "a", "ab", "a longer one without an escape", "\"", "\x00"} {
		var s stretches
		s.text("text", text)
		s.text("first", script.Quote(text))
		s.text("second", script.Quote(text))
		s.text("first frame", script.Frame(api.Frame{Data: text}))
		s.text("second frame", script.Frame(api.Frame{Data: text}))
		if what := s.shared(); what != "" {
			t.Errorf("R3: Quote(%s), Frame of it: shared: %s", shown(text), what)
		}
	}
}

// TestAnswersWrittenOver: what is told isn't changed by a change of what was told
// before, nor of the text.
func TestAnswersWrittenOver(t *testing.T) {
	for _, text := range manyTexts() {
		want, wantError := modelParse(text)
		b := []byte(text + "#")
		a, _ := script.Parse(unsafe.String(&b[0], len(text)))
		lists.Scribble(b, '#')
		if !same(a, want) {
			t.Fatalf("R3: with the text written over Parse(%s) = %s", shown(text), brief(a))
		}
		for _, c := range a {
			for _, p := range c.World.Pages {
				lists.Scribble(p.Choices, api.Choice{Value: "over"})
			}
			for _, r := range c.World.Rules {
				lists.Scribble(r.Push, api.Target{Path: "over"})
			}
			lists.Scribble(c.World.Pages, api.Page{Path: "over"})
			lists.Scribble(c.World.Rules, api.Rule{Of: api.Target{Path: "over"}})
			lists.Scribble(c.World.Origins, "over")
			lists.Scribble(c.Move.Request.Fields, api.Field{Name: "over"})
			lists.Scribble(c.Move.Page.Choices, api.Choice{Value: "over"})
		}
		lists.Scribble(a, script.Command{Kind: dead})
		if again, e := script.Parse(text); e != wantError || !same(again, want) {
			t.Fatalf("R3: with an answer written over Parse(%s) = %s, %d", shown(text), brief(again), e)
		}
	}
}

// TestNothingIsKept: what Print, Quote and Frame told stays, whatever becomes of what
// was handed in.
func TestNothingIsKept(t *testing.T) {
	lent := []byte("lent \"text\"")
	text := unsafe.String(&lent[0], len(lent))
	params := []api.Param{{ID: 1, Value: 2}}
	w := exampleWorld()
	w.Origins[0] = text
	l := []script.Command{forged(1, text), worldOf(w)}
	printed, e := script.Print(l)
	quoted, framed := script.Quote(text), script.Frame(api.Frame{Data: text, Params: params})
	want := strings.Clone(printed)
	lists.Scribble(lent, '#')
	lists.Scribble(params, api.Param{ID: 9})
	lists.Scribble(w.Pages, api.Page{Path: "over"})
	lists.Scribble(w.Origins, "over")
	lists.Scribble(l, script.Command{Kind: log})
	if e != 0 || printed != want || !strings.HasPrefix(printed, `forge 1 "lent \"text\""`) || !strings.Contains(printed, `origin "lent \"text\""`) {
		t.Errorf("R3: printed is %s, %d", shown(printed), e)
	}
	if quoted != `"lent \"text\""` || framed != `0 0 0 data "lent \"text\"" param 1 2` {
		t.Errorf("R3: %s, %s", quoted, framed)
	}
	wantPrint(t, "log\nlog\n", l...)
}

// TestCallsBeside: any calls, in any order, many at the same time, tell what each
// tells alone.
func TestCallsBeside(t *testing.T) {
	texts := append(manyTexts(), "no", "server -0", strings.Repeat("\n", mostLines+1))
	var joined sync.WaitGroup
	for i := range 8 {
		joined.Go(func() {
			r := rand.New(rand.NewSource(int64(i)))
			for range 100 {
				text := oneOf(r, texts...)
				want, wantError := modelParse(text)
				l, e := script.Parse(text)
				if e != wantError || !same(l, want) {
					t.Errorf("R4: beside others Parse(%s) = %s, %d", shown(text), brief(l), e)
				}
				if got, _ := script.Print(l); got != mustPrint(l) {
					t.Errorf("R4: beside others Print tells %s", shown(got))
				}
			}
		})
	}
	joined.Wait()
}

func mustPrint(l []script.Command) string {
	text, _ := modelPrint(l, modelQuote)
	return text
}
