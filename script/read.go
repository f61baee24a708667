package script

import "herald/api"

// reader is what is still to be read. Where something isn't as it must be, nothing
// is left, so that all that is behind finds its end.
type reader struct {
	left    []word
	isWrong bool
}

// commandsOf is the commands that words make; false: they make none.
func commandsOf(words []word) ([]Command, bool) {
	r := &reader{left: words}
	var l []Command
	for len(r.left) > 0 {
		l = append(l, r.command())
	}
	return l, !r.isWrong
}

func (r *reader) fail() { r.left, r.isWrong = nil, true }

// next is the text of the next word, which must be of that kind.
func (r *reader) next(kind int) string {
	if len(r.left) == 0 || r.left[0].kind != kind {
		r.fail()
		return ""
	}
	text := r.left[0].text
	r.left = r.left[1:]
	return text
}

func (r *reader) text() string { return r.next(quoted) }

func (r *reader) endLine() { r.next(ending) }

func (r *reader) isLineOver() bool { return len(r.left) == 0 || r.left[0].kind == ending }

func (r *reader) number() int64 {
	n, ok := numberOf(r.next(bare))
	if !ok {
		r.fail()
	}
	return n
}

// skip passes over a name, if it stands there.
func (r *reader) skip(name string) bool {
	if len(r.left) == 0 || r.left[0] != (word{bare, name}) {
		return false
	}
	r.left = r.left[1:]
	return true
}

func (r *reader) name(name string) {
	if !r.skip(name) {
		r.fail()
	}
}

func (r *reader) command() Command {
	name := r.next(bare)
	c := Command{Kind: kindOf(name)}
	switch c.Kind {
	case World:
		r.endLine()
		c.World = r.world()
	case Rounds:
		c.N = r.number()
	case Trace:
		if c.Server = r.skip(serverName); !c.Server {
			r.name(clientName)
		}
	case 0:
		c.Kind, c.Move = Move, r.move(name)
	}
	r.endLine()
	return c
}

func (r *reader) move(name string) api.Move {
	m := api.Move{Kind: moveOf(name)}
	switch m.Kind {
	case api.MoveAsk:
		m.Request = r.request()
	case api.MovePut:
		m.Page = r.page()
	case api.MoveSet:
		m.Set = r.set()
	case api.MoveForge:
		m.N, m.Bytes = r.number(), r.text()
	case 0:
		r.fail()
	default:
		m.N = r.number()
	}
	return m
}

// world reads what is behind its first line, but for the end of its last.
func (r *reader) world() api.World {
	var w api.World
	r.name(serverName)
	w.Server = r.set()
	r.endLine()
	r.name(clientName)
	w.Client = r.set()
	r.endLine()
	r.name(confName)
	w.Conf = r.conf()
	r.endLine()
	for r.skip(pageName) {
		w.Pages = append(w.Pages, r.page())
		r.endLine()
	}
	for r.skip(ruleName) {
		w.Rules = append(w.Rules, r.rule())
		r.endLine()
	}
	for r.skip(originName) {
		w.Origins = append(w.Origins, r.text())
		r.endLine()
	}
	r.name(endName)
	return w
}

// The fields of what is read stand in the order in which they are asked for.

func (r *reader) set() api.Set {
	return api.Set{
		Table: r.number(), Push: r.number(), Streams: r.number(),
		Window: r.number(), Frame: r.number(), List: r.number(),
	}
}

func (r *reader) conf() api.Conf {
	return api.Conf{Entries: r.number(), Bytes: r.number(), Life: r.number(), Pending: r.number()}
}

func (r *reader) request() api.Request {
	q := api.Request{Method: r.text(), Scheme: r.text(), Authority: r.text(), Path: r.text(), Body: r.text()}
	for !r.isLineOver() {
		q.Fields = append(q.Fields, api.Field{Never: r.skip(neverName), Name: r.text(), Value: r.text()})
	}
	return q
}

func (r *reader) page() api.Page {
	p := api.Page{Authority: r.text(), Path: r.text(), Status: int(r.number()), Vary: r.text()}
	for !r.isLineOver() {
		p.Choices = append(p.Choices, api.Choice{Value: r.text(), Body: r.text()})
	}
	return p
}

func (r *reader) rule() api.Rule {
	rule := api.Rule{Of: r.target()}
	for !r.isLineOver() {
		rule.Push = append(rule.Push, r.target())
	}
	return rule
}

func (r *reader) target() api.Target { return api.Target{Authority: r.text(), Path: r.text()} }
