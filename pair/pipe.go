package pair

// all is how many bytes a pipe gives where it gives all that it has.
const all = -1

// pipe is bytes on their way from one end to the other.
type pipe struct {
	bytes []byte
	given int // so many of the first of them; they aren't in the pipe any more
}

// put lays a text behind what is there.
func (p *pipe) put(text string) { p.bytes = append(p.bytes, text...) }

// take takes off the first n bytes; all, if n is below 0 or above what is there.
func (p *pipe) take(n int64) string {
	rest := p.bytes[p.given:]
	if n < 0 || n > int64(len(rest)) {
		n = int64(len(rest))
	}
	p.given += int(n)
	// What was given isn't kept for long, nor moved for every byte.
	if p.given >= len(p.bytes)-p.given {
		p.bytes, p.given = append([]byte(nil), p.bytes[p.given:]...), 0
	}
	return string(rest[:n])
}

// fill puts a text in the place of what is there.
func (p *pipe) fill(text string) { p.bytes, p.given = []byte(text), 0 }

func (p *pipe) text() string { return string(p.bytes[p.given:]) }

func (p *pipe) isEmpty() bool { return p.given == len(p.bytes) }
